/- Lists of calls that came in (limits, fields). Stage 9. -/
import Derived.Test.YtiandidencnlcaaDoorLPost
import Derived.ChangeSame
import Derived.Test.YtiandidencnlcaaDoorDGetL
namespace Go.Proofs.YtiandidencnlcaaDoor
open Go.ChangeShapes Go.WideShapes Go.ChangeAt Go.RowKit Go.Deep

/-- The ints l lie at A, below block B. -/
def AtI (w : World) (B : Nat) (A : Option Addr) (l : List Int) : Prop :=
  l ≠ [] → ∃ b o, A = some ⟨b, o, none⟩ ∧ b < B ∧ ∀ i (h : i < l.length), w.cell? ⟨b, o + i, none⟩ = some (.int .i64 l[i])
theorem AtI.up {w w' : World} {A : Option Addr} {l : List Int} (h : AtI w w.heap.size A l) (hb : Below w.heap.size w w') : AtI w' w'.heap.size A l := fun hne => by
  obtain ⟨b, o, e, hB, hc⟩ := h hne
  exact ⟨b, o, e, Nat.lt_of_lt_of_le hB hb.size, fun i hi => (hb.cell (p := ⟨b, o + i, none⟩) hB).trans (hc i hi)⟩
theorem AtI.pos {w : World} {B : Nat} {A : Option Addr} {l : List Int} (h : AtI w B A l) (hl : 0 < l.length) : ∃ b o, A = some ⟨b, o, none⟩ ∧ b < B ∧ ∀ i (h : i < l.length), w.cell? ⟨b, o + i, none⟩ = some (.int .i64 l[i]) := h (List.length_pos_iff.1 hl)
theorem openedI {H : Type} {enc : TypeId × Value → H} {W : World} {a : Option Addr} {len cap : Nat} {d : DataW H} {p : List MemPlace}
    (h : DataW.Trod enc Tryd.prog W 0 (fun _ => true) true 29 (.slice a len cap) d p) : ∃ l : List Int, l.length = len ∧ len ≤ cap ∧ (a = none → cap = 0) ∧ (∀ x ∈ l, (Lit.int .i64 x).wf = true) ∧ AtI W W.heap.size a l := by
  obtain ⟨fuel, hf⟩ := h
  rcases open_ints Tryd.underlying29 Tryd.underlying3 (by kernel_rfl) hf with ⟨hcs, _⟩ | ⟨x, l, c, zs, hcs, _, hl, hm, hz, _, hcell, hwz⟩
  · simp [Value.cells] at hcs
    obtain ⟨rfl, rfl, rfl⟩ := hcs
    exact ⟨[], rfl, Nat.le_refl _, fun _ => rfl, fun x hx => by simp at hx, fun h => absurd rfl h⟩
  · simp [Value.cells] at hcs
    obtain ⟨rfl, rfl, rfl⟩ := hcs
    have hzl : zs.length = cap := by simpa using hz
    refine ⟨zs.take len, by simp; omega, hl, (fun h => by cases h), fun y hy => hwz y (List.mem_of_mem_take hy), fun hne => ?_⟩
    have hpos : 0 < len := by
      rcases Nat.eq_zero_or_pos len with h0 | h0
      · subst h0; simp at hne
      · exact h0
    obtain ⟨b, off, rfl, hc⟩ := ints_at hcell (by omega)
    refine ⟨b, off, rfl, ?_, fun i hi => ?_⟩
    · have h0 := hc 0 (by omega)
      rcases Nat.lt_or_ge b W.heap.size with hlt | hge
      · exact hlt
      · simp [World.cell?, Array.getElem?_eq_none hge] at h0
    · have hi' : i < len := by simp at hi; omega
      rw [hc i (by omega)]
      simp only [List.getElem_take, List.getD, List.getElem?_eq_getElem (show i < zs.length by omega), Option.getD_some]
/-- A call: limits, and fields, where they lie. -/
structure Opp where
  lad : Option Addr
  lims : List Int
  lcap : Nat
  fad : Option Addr
  flds : List Fld
  fcap : Nat
/-- It is well laid, below block B. -/
structure Opp.ok (s : Opp) (w : World) (B : Nat) : Prop where
  ints : AtI w B s.lad s.lims
  lnil : s.lad = none → s.lcap = 0
  lroom : s.lims.length ≤ s.lcap
  wf : ∀ x ∈ s.lims, (Lit.int .i64 x).wf = true
  fs : AtF w B s.fad s.flds
  fnil : s.fad = none → s.fcap = 0
  froom : s.flds.length ≤ s.fcap
  fit : ∀ f ∈ s.flds, f.name.size ≤ maxLen ∧ f.value.size ≤ maxLen
theorem Opp.ok.up {s : Opp} {w w' : World} (h : s.ok w w.heap.size) (hb : Below w.heap.size w w') : s.ok w' w'.heap.size := ⟨h.ints.up hb, h.lnil, h.lroom, h.wf, h.fs.up hb, h.fnil, h.froom, h.fit⟩
/-- The calls l lie at A, below block B, two cells each. -/
def AtP (w : World) (B : Nat) (A : Option Addr) (l : List Opp) : Prop :=
  l ≠ [] → ∃ b o, A = some ⟨b, o, none⟩ ∧ b < B ∧ ∀ i (h : i < l.length), w.cell? ⟨b, o + i * 2, none⟩ = some (.slice l[i].lad l[i].lims.length l[i].lcap) ∧ w.cell? ⟨b, o + i * 2 + 1, none⟩ = some (.slice l[i].fad l[i].flds.length l[i].fcap) ∧ l[i].ok w B
theorem AtP.pos {w : World} {B : Nat} {A : Option Addr} {l : List Opp} (h : AtP w B A l) (hl : 0 < l.length) : ∃ b o, A = some ⟨b, o, none⟩ ∧ b < B ∧ ∀ i (h : i < l.length), w.cell? ⟨b, o + i * 2, none⟩ = some (.slice l[i].lad l[i].lims.length l[i].lcap) ∧ w.cell? ⟨b, o + i * 2 + 1, none⟩ = some (.slice l[i].fad l[i].flds.length l[i].fcap) ∧ l[i].ok w B := h (List.length_pos_iff.1 hl)
theorem cellsOp9 : Tryd.prog.cellsOf 32 = 2 := by kernel_rfl
theorem cellsIs : Tryd.prog.cellsOf 29 = 1 := by kernel_rfl
theorem cellsFs : Tryd.prog.cellsOf 30 = 1 := by kernel_rfl
/-- A slice's one cell, out of its reading. -/
theorem slice_cell {H : Type} {enc : TypeId × Value → H} {W : World} {base n t e : Nat} {sp : Nat → Bool} {held : Bool} {c : Value} {x : DataW H × List MemPlace} (ht : Tryd.prog.underlying t = some (.slice e))
    (h : DataW.trod enc Tryd.prog W base sp held n t [c] = some x) : ∃ a l r, c = .slice a l r := by
  rcases open_slice ht h with ⟨e, _⟩ | ⟨ad2, l2, c2, _, _, _, _, e, _⟩
  · injection e with e
    exact ⟨none, 0, 0, e⟩
  · injection e with e
    exact ⟨some ad2, l2, c2, e⟩
/-- A list of calls that came in. -/
theorem openedP {H : Type} {enc : TypeId × Value → H} {W : World} {a : Option Addr} {len cap : Nat} {d : DataW H} {p : List MemPlace}
    (h : DataW.Trod enc Tryd.prog W 0 (fun _ => true) true 22 (.slice a len cap) d p) :
    ∃ l : List Opp, l.length = len ∧ len ≤ cap ∧ (a = none → cap = 0) ∧ AtP W W.heap.size a l := by
  obtain ⟨fuel, hf⟩ := h
  rcases open_slice Tryd.underlying22 hf with ⟨hcs, _⟩ | ⟨ad, len', cap', m, n, D, Pl, hcs, _, hl, hm, hmm, _, hi⟩
  · simp [Value.cells] at hcs
    obtain ⟨rfl, rfl, rfl⟩ := hcs
    exact ⟨[], rfl, Nat.le_refl _, fun _ => rfl, fun h => absurd rfl h⟩
  · simp [Value.cells] at hcs
    obtain ⟨rfl, rfl, rfl⟩ := hcs
    rw [cellsOp9] at hi
    simp only [if_true] at hmm
    subst hmm
    have hF : ∀ i, i < m → ∃ s : Opp, s.ok W W.heap.size ∧ W.cell? ((ad.add (i * 2)).add 0) = some (.slice s.lad s.lims.length s.lcap) ∧ W.cell? ((ad.add (i * 2)).add 1) = some (.slice s.fad s.flds.length s.fcap) := by
      intro i him
      obtain ⟨cs', hc, ht⟩ := hi i him
      obtain ⟨_, hlen, hat⟩ := World.cells?_some hc
      obtain ⟨y0, y1, k, _, hl2, h0, h1⟩ := trod_struct2 Tryd.underlying32 ht
      rw [cellsOp9] at hl2
      simp only [cellsIs, cellsFs] at h0 h1
      match cs', hl2 with
      | [c0, c1], _ =>
        simp only [List.drop_zero, List.take_succ_cons, List.take_zero, List.drop_succ_cons] at h0 h1
        obtain ⟨a0, l0, r0, rfl⟩ := slice_cell Tryd.underlying29 h0
        obtain ⟨a1, l1, r1, rfl⟩ := slice_cell Tryd.underlying30 h1
        have hT0 : DataW.Trod enc Tryd.prog W 0 (fun _ => true) true 29 (.slice a0 l0 r0) y0.1 y0.2 := ⟨_, h0⟩
        have hT1 : DataW.Trod enc Tryd.prog W 0 (fun _ => true) true 30 (.slice a1 l1 r1) y1.1 y1.2 := ⟨_, h1⟩
        obtain ⟨zs, rfl, i1, i2, i3, i4⟩ := openedI hT0
        obtain ⟨fs, rfl, f1, f2, f3, f4⟩ := openedF hT1
        exact ⟨⟨a0, zs, r0, a1, fs, r1⟩, ⟨i4, i2, i1, i3, f4, f2, f1, f3⟩, by simpa using hat 0 (by omega), by simpa using hat 1 (by omega)⟩
    have hC : ∃ F : Nat → Opp, ∀ i, i < m → (F i).ok W W.heap.size ∧ W.cell? ((ad.add (i * 2)).add 0) = some (.slice (F i).lad (F i).lims.length (F i).lcap) ∧ W.cell? ((ad.add (i * 2)).add 1) = some (.slice (F i).fad (F i).flds.length (F i).fcap) := by
      refine ⟨fun i => if h : i < m then Classical.choose (hF i h) else ⟨none, [], 0, none, [], 0⟩, fun i h => ?_⟩
      simp only [dif_pos h]
      exact Classical.choose_spec (hF i h)
    obtain ⟨F, hFs⟩ := hC
    refine ⟨(List.range len).map F, by simp, hl, (fun h => by cases h), fun hne => ?_⟩
    have hpos : 0 < len := by
      rcases Nat.eq_zero_or_pos len with h0 | h0
      · subst h0; simp at hne
      · exact h0
    obtain ⟨b, o, spot⟩ := ad
    have hspot : spot = none := by simpa [Addr.add] using World.cell?_spot (hFs 0 (by omega)).2.1
    subst hspot
    refine ⟨b, o, rfl, ?_, fun i hi1 => ?_⟩
    · have h0 := (hFs 0 (by omega)).2.1
      have := World.block_lt_of_cell? W _ h0
      simpa [Addr.add] using this
    · have hi2 : i < len := by simpa using hi1
      obtain ⟨h1, h2, h3⟩ := hFs i (by omega)
      simp only [Go.WideShapes.add_plain] at h2 h3
      simp only [List.getElem_map, List.getElem_range]
      exact ⟨by simpa using h2, by simpa using h3, h1⟩
end Go.Proofs.YtiandidencnlcaaDoor
/- Contract of the statements' Few. -/
namespace Go.Proofs.YtiandidencnlcaaDoor
open Go.RowKit

def cnt1 (f : Fld) : Nat := min f.name.size 40001 + min f.value.size 40001
def cnt : List Fld → Nat
  | [] => 0
  | f :: r => cnt1 f + cnt r
theorem cnt_app (a b : List Fld) : cnt (a ++ b) = cnt a + cnt b := by
  induction a with
  | nil => simp [cnt]
  | cons x r ih => rw [List.cons_append, cnt, cnt, ih]; omega
theorem cnt_next (l : List Fld) (k : Nat) (h : k < l.length) : cnt (l.take (k + 1)) = cnt (l.take k) + cnt1 l[k] := by
  rw [List.take_succ_eq_append_getElem h, cnt_app]
  simp [cnt]
theorem cnt_le : ∀ l : List Fld, cnt l ≤ 80002 * l.length
  | [] => by simp [cnt]
  | f :: r => by
    have := cnt_le r
    have h1 : cnt1 f ≤ 80002 := by unfold cnt1; omega
    rw [cnt, List.length_cons]
    omega
def few (l : List Fld) : Bool := decide (l.length ≤ 200) && decide (cnt (l.take 200) ≤ 40000)
theorem cnt_tot : ∀ l : List Fld, cnt l ≤ 40000 → tot l = cnt l + 32 * l.length
  | [], _ => rfl
  | f :: r, h => by
    rw [cnt] at h
    have := cnt_tot r (by omega)
    rw [tot, cnt, this, List.length_cons]
    unfold cnt1 at h ⊢
    unfold fsize
    omega
theorem few_tot {l : List Fld} (h : few l = true) : l.length ≤ 200 ∧ tot l ≤ 46400 := by
  rw [few, Bool.and_eq_true, decide_eq_true_eq, decide_eq_true_eq] at h
  rw [List.take_of_length_le h.1] at h
  have := cnt_tot l h.2
  omega
/-- A field that a string may bear. -/
def Fld.fit (f : Fld) : Prop := f.name.size ≤ 9223372036854775807 ∧ f.value.size ≤ 9223372036854775807
theorem Fld.ok.fit {f : Fld} (h : f.ok) : f.fit := ⟨Nat.le_trans h.1 (by decide), Nat.le_trans h.2 (by decide)⟩
def FwR (w : World) (l : List Fld) (s i : Value) (wr : World) : Prop := ∃ k : Nat, k ≤ l.length ∧ k ≤ 200 ∧ i = .int .i64 (k : Int) ∧ s = .int .i64 ((cnt (l.take k) : Nat) : Int) ∧ Below w.heap.size w wr
set_option maxRecDepth 100000 in
set_option maxHeartbeats 4000000 in
theorem few_any (A : Option Addr) (l : List Fld) (n c : Nat) (w : World) (hA : AtF w w.heap.size A l) (hl : l.length = n) (hok : ∀ f ∈ l, f.fit) : Calls Tryd.prog 30 #[.slice A n c] w (BoolPost w (few l)) := by
  have HA := Lib.hid hA
  have HL := Lib.hid hl
  have HO := Lib.hid hok
  clear hA hl hok
  go_enter Tryd.func30, Tryd.ntmps30
  go_wp2
  go_loopw [3, 4] (fun s i wr => FwR w l s i wr) (fun _ i _ => n - (intOf i).toNat)
  case atStart => exact ⟨0, Nat.zero_le _, by omega, rfl, rfl, Below.refl _ _⟩
  case round =>
    obtain ⟨k, hk, hk2, rfl, rfl, hbw⟩ := hrel
    by_cases hlt : k < n
    · have ki : decide ((k : Int) < (n : Int)) = true := decide_eq_true (by omega)
      by_cases h200 : k < 200
      · have ki2 : decide ((k : Int) < 200) = true := decide_eq_true (by omega)
        have hkl : k < l.length := by have := HL.out; omega
        obtain ⟨b, o, rfl, hb, hc⟩ := HA.out.pos (by omega)
        obtain ⟨f, hf⟩ : ∃ f, f = l[k] := ⟨_, rfl⟩
        obtain ⟨c0, c1, c2⟩ := hc k hkl
        rw [← hf] at c0 c1 c2
        have d0 : wr.cell? ⟨b, o + k * 3, none⟩ = some (.string f.name) := (hbw.cell (p := ⟨b, o + k * 3, none⟩) hb).trans c0
        have d1 : wr.cell? ⟨b, o + k * 3 + 1, none⟩ = some (.string f.value) := (hbw.cell (p := ⟨b, o + k * 3 + 1, none⟩) hb).trans c1
        have HNX : Hid (cnt (l.take (k + 1)) = cnt (l.take k) + cnt1 f) := Lib.hid (by rw [cnt_next l k hkl, hf])
        have hok : f.name.size ≤ 9223372036854775807 ∧ f.value.size ≤ 9223372036854775807 := HO.out f (by rw [hf]; exact List.getElem_mem _)
        have hle := cnt_le (l.take k)
        have hlk : (l.take k).length ≤ k := List.length_take_le _ _
        obtain ⟨f1, f2, f3⟩ := f
        obtain ⟨m1, hm1⟩ : ∃ m, m = min f1.size 40001 := ⟨_, rfl⟩
        obtain ⟨m2, hm2⟩ : ∃ m, m = min f2.size 40001 := ⟨_, rfl⟩
        have HNX2 : Hid (cnt (l.take (k + 1)) = cnt (l.take k) + (m1 + m2)) := Lib.hid (by rw [HNX.out, cnt1, hm1, hm2])
        have em1 : (if (40001 : Int) < (f1.size : Int) then (40001 : Int) else (f1.size : Int)) = (m1 : Int) := by rw [hm1]; split <;> omega
        have em2 : (if (40001 : Int) < (f2.size : Int) then (40001 : Int) else (f2.size : Int)) = (m2 : Int) := by rw [hm2]; split <;> omega
        have bm : m1 ≤ 40001 ∧ m2 ≤ 40001 := by omega
        have hbw2 := below_drewN hbw 1
        generalize cnt (l.take k) = s at hle HNX2
        have hs : s ≤ 20000000 := by omega
        have kx : (k : Int) < (n : Int) := by omega
        simp only [] at d0 d1
        clear hc hkl hf c0 c1 c2 HNX hm1 hm2
        go_wp2
        go_region
        go_wp2
        go_roundw
        case rel => exact ⟨k + 1, by have := HL.out; omega, by omega, by go_num, by rw [HNX2.out]; go_num, hbw2⟩
        case measure => simp [intOf]; omega
      · obtain rfl : k = 200 := by omega
        have kx : (200 : Int) < (n : Int) := by omega
        have hn2 : ¬ (n : Int) ≤ 200 := by omega
        have HF : Hid (few l = false) := Lib.hid (by rw [few, decide_eq_false (by have := HL.out; omega)]; rfl)
        go_wp2
        go_ret
        rw [HF.out]
        exact ⟨rfl, hbw⟩
    · obtain rfl : k = n := by have := HL.out; omega
      have e : l.take k = l := List.take_of_length_le (by have := HL.out; omega)
      rw [e]
      have HF : Hid (few l = decide (cnt l ≤ 40000)) := Lib.hid (by
        have h := HL.out
        rw [few, decide_eq_true (by omega), Bool.true_and, List.take_of_length_le (by omega)])
      have hc := cnt_le l
      have hl := HL.out
      have hk2' : (k : Int) ≤ 200 := by omega
      generalize cnt l = s at hc HF
      have hs : s ≤ 20000000 := by omega
      by_cases h4 : s ≤ 40000
      · have h4' : (s : Int) ≤ 40000 := by omega
        clear hl hc e
        go_wp2
        go_ret
        rw [HF.out, decide_eq_true h4]
        exact ⟨rfl, hbw⟩
      · have h4' : ¬ (s : Int) ≤ 40000 := by omega
        clear hl hc e
        go_wp2
        go_ret
        rw [HF.out, decide_eq_false h4]
        exact ⟨rfl, hbw⟩
end Go.Proofs.YtiandidencnlcaaDoor
