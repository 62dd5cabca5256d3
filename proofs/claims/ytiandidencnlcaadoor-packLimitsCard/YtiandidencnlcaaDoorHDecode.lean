/- The landed number: what it reads, and the rest behind it. -/
import Derived.Test.YtiandidencnlcaaDoorLCut
import Derived.Test.YtiandidencnlcaaDoorQMath
import Derived.Test.YtiandidencnlcaaDoorHAux
import Derived.Test.YtiandidencnlcaaDoorPGetD
import Derived.Laws.Externs
import Derived.Lib.Bytealg
import Derived.WalkMore
import Derived.ScopeJumps
import Derived.Deep.RegionHeld3
import Derived.Test.YtiandidencnlcaaDoorLStr
namespace Go.Proofs.YtiandidencnlcaaDoor
open Go.RowKit

/-- The slice at A', capacity c', is what is left of the slice of n bytes at A behind j bytes. -/
structure Cut (A : Option Addr) (c : Nat) (A' : Option Addr) (c' j n : Nat) : Prop where
  at' : ∀ (W : World) (l : List Nat), l.length = n → At .u8 W W.heap.size A l → At .u8 W W.heap.size A' (l.drop j)
  cap : n - j ≤ c'
  nil : (A = none → c = 0) → A' = none → c' = 0
theorem Cut.one (A : Option Addr) {c j n : Nat} (hn : n ≤ c) : Cut A c (cutAt A c j) (c - j) j n :=
  ⟨fun _ l hl h => h.drop (by omega), by omega, fun h => cutAt_none h⟩
theorem Cut.trans {A A1 A2 : Option Addr} {c c1 c2 i j n : Nat} (h : Cut A c A1 c1 j n) (k : Cut A1 c1 A2 c2 i (n - j)) : Cut A c A2 c2 (j + i) n := by
  refine ⟨fun W l hl ha => ?_, by have := k.cap; omega, fun hA => k.nil (h.nil hA)⟩
  have := k.at' W (l.drop j) (by rw [List.length_drop, hl]) (h.at' W l hl ha)
  rwa [List.drop_drop] at this
theorem rd_none : ∀ (f : Nat) (l : List Nat) (j n v u e : Nat), Pn.rd f l j n = (v, u, e) → e ≠ 0 → u = 0
  | 0, _, _, _, _, _, _, h, _ => by rw [Pn.rd] at h; simp at h; omega
  | f + 1, [], _, _, _, _, _, h, _ => by rw [Pn.rd] at h; simp at h; omega
  | f + 1, x :: r, j, n, v, u, e, h, he => by
    rw [Pn.rd] at h
    split at h
    · simp at h; omega
    · split at h
      · simp at h; omega
      · exact rd_none f r _ _ v u e h he
/-- What is read is never more than what is there. -/
theorem get_le (l : List Nat) (b v u e : Nat) (hb1 : 1 ≤ b) (hb8 : b ≤ 8) (h : Pn.getI l (b : Int) = (v, u, e)) : u ≤ l.length := by
  by_cases he : e = 0
  · subst he
    exact (get_used l b v u hb1 hb8 h).2.1
  · rw [Pn.getI, if_neg (by omega), Int.toNat_natCast] at h
    rcases l with _ | ⟨x, r⟩
    · simp [Pn.getN] at h
      omega
    · rw [Pn.getN] at h
      split at h
      · simp at h; omega
      · have := rd_none 5 r 0 _ v u e h he
        omega
def NrPost (w : World) (A : Option Addr) (n c : Nat) (R : Nat × Nat × Nat) (e : Ending) (w' : World) : Prop :=
  ∃ A' c', e = .returned (.tuple #[.int .i64 ((R.1 : Nat) : Int), .slice A' (n - R.2.1) c', .bool (decide (R.2.2 = 0))]) ∧ Cut A c A' c' R.2.1 n ∧ Below w.heap.size w w'
set_option maxRecDepth 100000 in
set_option maxHeartbeats 4000000 in
theorem unum_f (A : Option Addr) (l : List Nat) (n c B : Nat) (w : World) (hR : Rdy w) (hA : At .u8 w w.heap.size A l) (hb : ∀ x ∈ l, x < 256) (hl : l.length = n) (hA0 : A = none → c = 0) (hnc : n ≤ c) (hn : n ≤ 100000) (hB1 : 1 ≤ B) (hB8 : B ≤ 8) :
    Calls Tryd.prog 59 #[.slice A n c, .int .i64 (B : Int)] w (NrPost w A n c (Pn.getI l (B : Int))) := by
  have HG := pget_f A l n c (B : Int) w hR hA hb hl hA0 hnc hn (by unfold Rng; omega)
  obtain ⟨R, hRe⟩ : ∃ R, R = Pn.getI l (B : Int) := ⟨_, rfl⟩
  rw [← hRe] at HG ⊢
  obtain ⟨v, u, e⟩ := R
  have hu : u ≤ n := by have := get_le l B v u e hB1 hB8 hRe.symm; omega
  obtain ⟨r, hr⟩ : ∃ r, r = n - u := ⟨_, rfl⟩
  obtain ⟨A2, hA2⟩ : ∃ A2, A2 = cutAt A c u := ⟨_, rfl⟩
  have hsl := fun (W : World) => slice_l A n c u r W hu hr.symm
  rw [← hA2] at hsl
  have HCUT : Hid ((if c = u then A else Option.map (fun x => x.add u) A) = A2) := Lib.hid (by rw [hA2]; rfl)
  have HC : Hid (Cut A c A2 (c - u) u n) := Lib.hid (by rw [hA2]; exact Cut.one A hnc)
  have HRN := Lib.hid hr
  obtain ⟨z, hz⟩ : ∃ z, z = decide (e = 0) := ⟨_, rfl⟩
  have qe : ((e : Int) == 0) = z := by
    rw [hz]
    by_cases h : e = 0
    · subst h; rfl
    · rw [decide_eq_false h]; simp; omega
  have HZ := Lib.hid hz
  have ec : (c : Int) - (u : Int) = ((c - u : Nat) : Int) := by omega
  have en : (n : Int) - (u : Int) = (r : Int) := by omega
  replace HG := Lib.hid HG
  clear hA hb hl hA0 hr hA2 hRe hz hR
  go_enter Tryd.func59, Tryd.ntmps59
  go_wp2_with fail
  with_reducible refine (HG.out).mono ?_
  rintro e1 w1 ⟨rfl, hb1⟩
  simp only []
  have hbd := hb1.drew
  have hs1 := hsl w1.drew
  have hcut := HCUT.out
  clear HG hsl
  go_wp2
  go_region
  go_wp2
  go_ret3
  refine ⟨A2, c - u, ?_, HC.out, hbd⟩
  show _ = Ending.returned (.tuple #[.int .i64 (v : Int), .slice A2 (n - u) (c - u), .bool (decide (e = 0))])
  rw [← HZ.out, ← HRN.out]
  rfl
end Go.Proofs.YtiandidencnlcaaDoor
/- What Decode hands back. -/
namespace Go.Proofs.YtiandidencnlcaaDoor
open Go.RowKit Hf

/-- What Decode hands back: bytes in new memory, and what went wrong. -/
def DecPost (w : World) (s : List Nat × Nat) (e : Ending) (w' : World) : Prop := ∃ A c, e = .returned (.tuple #[.slice A s.1.length c, .int .i64 ((s.2 : Nat) : Int)]) ∧ At .u8 w' w'.heap.size A s.1 ∧ (A = none → c = 0) ∧ Below w.heap.size w w'
def DcO (w : World) (b : List Nat) (most : Int) (v x l i : Value) (wr : World) : Prop :=
  ∃ (k W L : Nat) (o : List Nat), k ≤ 8 * b.length ∧ i = .int .i64 (k : Int) ∧ x = .int .u32 (W : Int) ∧ W < 4294967296 ∧ l = .int .i64 (L : Int) ∧ L ≤ k ∧ o.length ≤ k ∧ run most ((unp b).drop k) W L o = dec b most ∧ Row w.heap.size w o v wr
def toI : Option Nat → Int
  | none => -1
  | some i => i
def DcI (W L : Nat) (f i : Value) : Prop := ∃ k : Nat, k ≤ 257 ∧ i = .int .i64 (k : Int) ∧ f = .int .i64 (toI (fnd W L k))
theorem fnd_low (W L : Nat) (h : L < 5) : ∀ n, n ≤ 257 → fnd W L n = none
  | 0, _ => rfl
  | n + 1, hn => by
    have := (tab_lim ⟨n, by omega⟩).2.1
    simp only at this
    rw [fnd, if_neg (by omega), fnd_low W L h n (by omega)]
end Go.Proofs.YtiandidencnlcaaDoor
/- Contracts of the landed bitAt and Decode (labels and jumps among them). -/
namespace Go.Proofs.YtiandidencnlcaaDoor
open Go.RowKit Hf

theorem and1 (n : Nat) (hn : n < 1073741824) : bits BinOp.and IntKind.i64 (n : Int) 1 = ((n % 2 : Nat) : Int) := by
  show IntKind.i64.wrap ((BitVec.ofInt 64 (n : Int) &&& BitVec.ofInt 64 ((1 : Nat) : Int)).toNat : Int) = _
  rw [BitVec.toNat_and, ofInt_u64 n (by omega), ofInt_u64 1 (by omega), Nat.and_one_is_mod]
  exact IntWalk.i64_in _ (by omega)
set_option maxRecDepth 100000 in
theorem bit_any (A : Option Addr) (b : List Nat) (n c k : Nat) (w : World) (hA : At .u8 w w.heap.size A b) (hb : ∀ x ∈ b, x < 256) (hl : b.length = n) (hn : n ≤ 20000) (hk : k < 8 * n) :
    Calls Tryd.prog 84 #[.slice A n c, .int .i64 (k : Int)] w fun e w' => e = .returned (.int .i64 (((unp b).getD k 0 : Nat) : Int)) ∧ w' = w := by
  obtain ⟨q, hq⟩ : ∃ q, q = k / 8 := ⟨_, rfl⟩
  obtain ⟨r8, hr8⟩ : ∃ r, r = k % 8 := ⟨_, rfl⟩
  have hqb : q < b.length := by omega
  obtain ⟨ab, ao, rfl, hab, hc⟩ := hA.pos (by omega)
  obtain ⟨y, hy⟩ : ∃ y, y = b[q] := ⟨_, rfl⟩
  have hy256 : y < 256 := by rw [hy]; exact hb _ (List.getElem_mem _)
  have cy : w.cell? ⟨ab, ao + q, none⟩ = some (.int .u8 (y : Int)) := by rw [hy]; exact hc q hqb
  obtain ⟨s8, hs8⟩ : ∃ s, s = 7 - r8 := ⟨_, rfl⟩
  obtain ⟨Y, hY⟩ : ∃ Y, Y = y / 2 ^ s8 := ⟨_, rfl⟩
  obtain ⟨z, hz⟩ : ∃ z, z = Y % 2 := ⟨_, rfl⟩
  have hku : k < (unp b).length := by rw [unp_len]; omega
  have HBIT : Hid ((unp b).getD k 0 = z) := Lib.hid (by
    rw [List.getD, List.getElem?_eq_getElem hku]
    simp only [unp, List.getElem_map, List.getElem_range, Option.getD_some]
    rw [← hq, ← hr8, ← hs8, List.getD, List.getElem?_eq_getElem hqb, hz, hY, hy]
    rfl)
  have eq8 : (k : Int) / 8 = (q : Int) := by omega
  have er8 : (k : Int) % 8 = (r8 : Int) := by omega
  have es8 : (7 : Int) - (r8 : Int) = (s8 : Int) := by omega
  have hs7 : s8 ≤ 7 := by omega
  have ei : IntKind.i64.wrap (s8 : Int) = (s8 : Int) := IntWalk.i64_in _ (by omega)
  have su : IntKind.u64.wrap (s8 : Int) = (s8 : Int) := u64w _ (by omega) (by omega)
  have em : min s8 8 = s8 := Nat.min_eq_left (by omega)
  have eY : (y : Int) / 2 ^ s8 = (Y : Int) := by rw [hY, show ((2 : Int) ^ s8) = ((2 ^ s8 : Nat) : Int) by simp, ← Int.natCast_ediv]
  have hY256 : Y < 256 := by rw [hY]; exact Nat.lt_of_le_of_lt (Nat.div_le_self _ _) hy256
  have eYi : IntKind.i64.wrap (Y : Int) = (Y : Int) := IntWalk.i64_in _ (by omega)
  have ez : bits BinOp.and IntKind.i64 (Y : Int) 1 = (z : Int) := by rw [and1 Y (by omega), hz]
  have qi : (q : Int) < (n : Int) := by omega
  rw [HBIT.out]
  clear hq hr8 hy hs8 hz hY hku hqb hc hA hb hl HBIT
  go_enter Tryd.func84, Tryd.ntmps84
  go_wp2
  go_ret
  exact ⟨rfl, rfl⟩
end Go.Proofs.YtiandidencnlcaaDoor
