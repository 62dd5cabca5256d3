/- Slice expressions over bytes, of every stage. -/
import Derived.Test.YtlnppbnbjeakhaaDoorLMem
import Derived.Test.YtlnppbnbjeakhaaDoorPLandGet
import Derived.Test.YtlnppbnbjeakhaaDoorUNoNev
namespace Go.Proofs.YtlnppbnbjeakhaaDoor
open Go.RowKit

theorem elemBs : Tryd.prog.underlying 24 = some (.slice (Tryd.prog.elem 24)) := by kernel_rfl
theorem sizeU8 (w : World) : (sizeOf (Tryd.prog.elem 24)).run Tryd.prog w = .ok 1 w := by kernel_rfl
theorem slice_h (A : Option Addr) (n c q : Nat) (w : World) (h : q ≤ c) : (Instr.sliceAt 24 (.slice A n c) none (some (.int .i64 q)) none).run Tryd.prog w = .ok (.slice (cutAt A c 0) q c) w := by
  rw [run_sliceAt_slice w 24 _ _ _ _ elemBs, run_slice_h w 24 A n c elemBs .i64 q (by omega) (by omega), sizeU8]
  simp [sliced, cutAt, Result.andThen]
theorem slice_l (A : Option Addr) (n c q r : Nat) (w : World) (h : q ≤ n) (hr : n - q = r) : (Instr.sliceAt 24 (.slice A n c) (some (.int .i64 q)) none none).run Tryd.prog w = .ok (.slice (cutAt A c q) r (c - q)) w := by
  subst hr
  rw [run_sliceAt_slice w 24 _ _ _ _ elemBs, run_slice_l w 24 A n c elemBs .i64 q (by omega) (by omega), sizeU8]
  simp [sliced, cutAt, Result.andThen]
theorem At.take {w : World} {B c q : Nat} {A : Option Addr} {l : List Nat} (h : At .u8 w B A l) (hc : l.length ≤ c) : At .u8 w B (cutAt A c 0) (l.take q) :=
  h.cut (q := 0) hc (fun i hi => by
    have hi' : i < q ∧ i < l.length := by simp at hi; omega
    exact ⟨by omega, by rw [Nat.zero_add, List.getElem?_take, if_pos hi'.1]⟩)
theorem slice_lh (A : Option Addr) (n c q h r : Nat) (w : World) (h1 : q ≤ h) (h2 : h ≤ c) (hr : h - q = r) : (Instr.sliceAt 24 (.slice A n c) (some (.int .i64 q)) (some (.int .i64 h)) none).run Tryd.prog w = .ok (.slice (cutAt A c q) r (c - q)) w := by
  subst hr
  rw [run_sliceAt_slice w 24 _ _ _ _ elemBs, run_slice_lh w 24 A n c elemBs .i64 .i64 q h (by omega) (by omega) (by omega), sizeU8]
  simp [sliced, cutAt, Result.andThen]
theorem At.drop {w : World} {B c q : Nat} {A : Option Addr} {l : List Nat} (h : At .u8 w B A l) (hc : l.length ≤ c) : At .u8 w B (cutAt A c q) (l.drop q) :=
  h.cut (q := q) hc (fun i hi => by
    have hi' : i < l.length - q := by simpa using hi
    exact ⟨by omega, by rw [List.getElem?_drop]⟩)
theorem At.mid {w : World} {B c q k : Nat} {A : Option Addr} {l : List Nat} (h : At .u8 w B A l) (hc : l.length ≤ c) : At .u8 w B (cutAt A c q) ((l.drop q).take k) :=
  h.cut (q := q) hc (fun i hi => by
    have hi' : i < k ∧ i < l.length - q := by simp at hi; omega
    exact ⟨by omega, by rw [List.getElem?_take, if_pos hi'.1, List.getElem?_drop]⟩)
end Go.Proofs.YtlnppbnbjeakhaaDoor
/- The landed number: what it reads, and the rest behind it. -/
namespace Go.Proofs.YtlnppbnbjeakhaaDoor
open Go.RowKit

/-- The slice at A', capacity c', is what is left of the slice of n bytes at A behind j bytes. -/
structure Cut (A : Option Addr) (c : Nat) (A' : Option Addr) (c' j n : Nat) : Prop where
  at' : ∀ (W : World) (l : List Nat), l.length = n → At .u8 W W.heap.size A l → At .u8 W W.heap.size A' (l.drop j)
  cap : n - j ≤ c'
  nil : (A = none → c = 0) → A' = none → c' = 0
theorem Cut.one (A : Option Addr) {c j n : Nat} (hn : n ≤ c) : Cut A c (cutAt A c j) (c - j) j n :=
  ⟨fun _ l hl h => h.drop (by omega), by omega, fun h => cutAt_none h⟩
theorem Cut.trans {A A1 A2 : Option Addr} {c c1 c2 i j n : Nat} (h : Cut A c A1 c1 j n) (k : Cut A1 c1 A2 c2 i (n - j)) : Cut A c A2 c2 (j + i) n := by
  refine ⟨fun W l hl ha => ?_, by have := k.cap; omega, fun hA => k.nil (h.nil hA)⟩
  have := k.at' W (l.drop j) (by rw [List.length_drop, hl]) (h.at' W l hl ha)
  rwa [List.drop_drop] at this
theorem rd_none : ∀ (f : Nat) (l : List Nat) (j n v u e : Nat), Pn.rd f l j n = (v, u, e) → e ≠ 0 → u = 0
  | 0, _, _, _, _, _, _, h, _ => by rw [Pn.rd] at h; simp at h; omega
  | f + 1, [], _, _, _, _, _, h, _ => by rw [Pn.rd] at h; simp at h; omega
  | f + 1, x :: r, j, n, v, u, e, h, he => by
    rw [Pn.rd] at h
    split at h
    · simp at h; omega
    · split at h
      · simp at h; omega
      · exact rd_none f r _ _ v u e h he
/-- What is read is never more than what is there. -/
theorem get_le (l : List Nat) (b v u e : Nat) (hb1 : 1 ≤ b) (hb8 : b ≤ 8) (h : Pn.getI l (b : Int) = (v, u, e)) : u ≤ l.length := by
  by_cases he : e = 0
  · subst he
    exact (get_used l b v u hb1 hb8 h).2.1
  · rw [Pn.getI, if_neg (by omega), Int.toNat_natCast] at h
    rcases l with _ | ⟨x, r⟩
    · simp [Pn.getN] at h
      omega
    · rw [Pn.getN] at h
      split at h
      · simp at h; omega
      · have := rd_none 5 r 0 _ v u e h he
        omega
def NrPost (w : World) (A : Option Addr) (n c : Nat) (R : Nat × Nat × Nat) (e : Ending) (w' : World) : Prop :=
  ∃ A' c', e = .returned (.tuple #[.int .i64 ((R.1 : Nat) : Int), .slice A' (n - R.2.1) c', .bool (decide (R.2.2 = 0))]) ∧ Cut A c A' c' R.2.1 n ∧ Below w.heap.size w w'
set_option maxRecDepth 100000 in
set_option maxHeartbeats 4000000 in
theorem unum_f (A : Option Addr) (l : List Nat) (n c B : Nat) (w : World) (hR : Rdy w) (hA : At .u8 w w.heap.size A l) (hb : ∀ x ∈ l, x < 256) (hl : l.length = n) (hA0 : A = none → c = 0) (hnc : n ≤ c) (hn : n ≤ 100000) (hB1 : 1 ≤ B) (hB8 : B ≤ 8) :
    Calls Tryd.prog 38 #[.slice A n c, .int .i64 (B : Int)] w (NrPost w A n c (Pn.getI l (B : Int))) := by
  have HG := pget_f A l n c (B : Int) w hR hA hb hl hA0 hnc hn (by unfold Rng; omega)
  obtain ⟨R, hRe⟩ : ∃ R, R = Pn.getI l (B : Int) := ⟨_, rfl⟩
  rw [← hRe] at HG ⊢
  obtain ⟨v, u, e⟩ := R
  have hu : u ≤ n := by have := get_le l B v u e hB1 hB8 hRe.symm; omega
  obtain ⟨r, hr⟩ : ∃ r, r = n - u := ⟨_, rfl⟩
  obtain ⟨A2, hA2⟩ : ∃ A2, A2 = cutAt A c u := ⟨_, rfl⟩
  have hsl := fun (W : World) => slice_l A n c u r W hu hr.symm
  rw [← hA2] at hsl
  have HCUT : Hid ((if c = u then A else Option.map (fun x => x.add u) A) = A2) := Lib.hid (by rw [hA2]; rfl)
  have HC : Hid (Cut A c A2 (c - u) u n) := Lib.hid (by rw [hA2]; exact Cut.one A hnc)
  have HRN := Lib.hid hr
  obtain ⟨z, hz⟩ : ∃ z, z = decide (e = 0) := ⟨_, rfl⟩
  have qe : ((e : Int) == 0) = z := by
    rw [hz]
    by_cases h : e = 0
    · subst h; rfl
    · rw [decide_eq_false h]; simp; omega
  have HZ := Lib.hid hz
  have ec : (c : Int) - (u : Int) = ((c - u : Nat) : Int) := by omega
  have en : (n : Int) - (u : Int) = (r : Int) := by omega
  replace HG := Lib.hid HG
  clear hA hb hl hA0 hr hA2 hRe hz hR
  go_enter Tryd.func38, Tryd.ntmps38
  go_wp2_with fail
  with_reducible refine (HG.out).mono ?_
  rintro e1 w1 ⟨rfl, hb1⟩
  simp only []
  have hbd := hb1.drew
  have hs1 := hsl w1.drew
  have hcut := HCUT.out
  clear HG hsl
  go_wp2
  go_region
  go_wp2
  go_ret3
  refine ⟨A2, c - u, ?_, HC.out, hbd⟩
  show _ = Ending.returned (.tuple #[.int .i64 (v : Int), .slice A2 (n - u) (c - u), .bool (decide (e = 0))])
  rw [← HZ.out, ← HRN.out]
  rfl
end Go.Proofs.YtlnppbnbjeakhaaDoor
