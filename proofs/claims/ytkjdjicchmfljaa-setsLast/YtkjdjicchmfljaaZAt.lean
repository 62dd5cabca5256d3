/- Settings in memory; a list of them that comes in (chapter 13's own text of what stage 11's have). -/
import Derived.Test.YtkjdjicchmfljaaLRow
import Derived.Deep.Slices
import Derived.Lib.SmallJoins
import Derived.Lib.Hide
import Derived.WalkKit
namespace Go.Proofs.Ytkjdjicchmfljaa
open Go.ChangeShapes Go.WideShapes Go.ChangeAt Go.RowKit Go.Deep Go.Joins

theorem cellsIntF : Try.prog.cellsOf 3 = 1 := by kernel_rfl
/-- The settings l lie at A, below block B, two cells each. -/
def AtS (w : World) (B : Nat) (A : Option Addr) (l : List (Int × Int)) : Prop :=
  l ≠ [] → ∃ b o, A = some ⟨b, o, none⟩ ∧ b < B ∧ ∀ i (h : i < l.length), w.cell? ⟨b, o + i * 2, none⟩ = some (.int .i64 l[i].1) ∧ w.cell? ⟨b, o + i * 2 + 1, none⟩ = some (.int .i64 l[i].2)
theorem AtS.up {w w' : World} {A : Option Addr} {l : List (Int × Int)} (h : AtS w w.heap.size A l) (hb : Below w.heap.size w w') : AtS w' w'.heap.size A l := fun hne => by
  obtain ⟨b, o, e, hB, hc⟩ := h hne
  exact ⟨b, o, e, Nat.lt_of_lt_of_le hB hb.size, fun i hi => ⟨(hb.cell (p := ⟨b, o + i * 2, none⟩) hB).trans (hc i hi).1, (hb.cell (p := ⟨b, o + i * 2 + 1, none⟩) hB).trans (hc i hi).2⟩⟩
theorem atS_nil (w : World) (B : Nat) (A : Option Addr) : AtS w B A [] := fun h => absurd rfl h
theorem AtS.pos {w : World} {B : Nat} {A : Option Addr} {l : List (Int × Int)} (h : AtS w B A l) (hl : 0 < l.length) : ∃ b o, A = some ⟨b, o, none⟩ ∧ b < B ∧ ∀ i (h : i < l.length), w.cell? ⟨b, o + i * 2, none⟩ = some (.int .i64 l[i].1) ∧ w.cell? ⟨b, o + i * 2 + 1, none⟩ = some (.int .i64 l[i].2) := h (List.length_pos_iff.1 hl)
theorem cellsPSet : Try.prog.cellsOf 33 = 2 := by kernel_rfl
/-- A list of settings that came in. -/
theorem openedS {H : Type} {enc : TypeId × Value → H} {W : World} {a : Option Addr} {len cap : Nat} {d : DataW H} {p : List MemPlace}
    (h : DataW.Trod enc Try.prog W 0 (fun _ => true) true 24 (.slice a len cap) d p) :
    ∃ l : List (Int × Int), l.length = len ∧ len ≤ cap ∧ (a = none → cap = 0) ∧ AtS W W.heap.size a l := by
  obtain ⟨fuel, hf⟩ := h
  rcases open_slice Try.underlying24 hf with ⟨hcs, _⟩ | ⟨ad, len', cap', m, n, D, Pl, hcs, _, hl, hm, hmm, _, hi⟩
  · simp [Value.cells] at hcs
    obtain ⟨rfl, rfl, rfl⟩ := hcs
    exact ⟨[], rfl, Nat.le_refl _, fun _ => rfl, fun h => absurd rfl h⟩
  · simp [Value.cells] at hcs
    obtain ⟨rfl, rfl, rfl⟩ := hcs
    rw [cellsPSet] at hi
    simp only [if_true] at hmm
    subst hmm
    have hF : ∀ i, i < m → ∃ s : Int × Int, W.cell? ((ad.add (i * 2)).add 0) = some (.int .i64 s.1) ∧ W.cell? ((ad.add (i * 2)).add 1) = some (.int .i64 s.2) := by
      intro i him
      obtain ⟨cs', hc, ht⟩ := hi i him
      obtain ⟨_, hlen, hat⟩ := World.cells?_some hc
      obtain ⟨y0, y1, k, _, hl2, h0, h1⟩ := trod_struct2 Try.underlying33 ht
      rw [cellsPSet] at hl2
      simp only [cellsIntF] at h0 h1
      match cs', hl2 with
      | [c0, c1], _ =>
        simp only [List.drop_zero, List.take_succ_cons, List.take_zero, List.drop_succ_cons] at h0 h1
        obtain ⟨n0, e0, _, w0⟩ := DataW.trod_int Try.underlying3 h0
        obtain ⟨n1, e1, _, w1⟩ := DataW.trod_int Try.underlying3 h1
        simp at e0 e1
        subst e0 e1
        exact ⟨(n0, n1), by simpa using hat 0 (by omega), by simpa using hat 1 (by omega)⟩
    have hC : ∃ F : Nat → Int × Int, ∀ i, i < m → W.cell? ((ad.add (i * 2)).add 0) = some (.int .i64 (F i).1) ∧ W.cell? ((ad.add (i * 2)).add 1) = some (.int .i64 (F i).2) := by
      refine ⟨fun i => if h : i < m then Classical.choose (hF i h) else (0, 0), fun i h => ?_⟩
      simp only [dif_pos h]
      exact Classical.choose_spec (hF i h)
    obtain ⟨F, hFs⟩ := hC
    refine ⟨(List.range len).map F, by simp, hl, (fun h => by cases h), fun hne => ?_⟩
    have hpos : 0 < len := by
      rcases Nat.eq_zero_or_pos len with h0 | h0
      · subst h0; simp at hne
      · exact h0
    obtain ⟨b, o, spot⟩ := ad
    have hspot : spot = none := by simpa [Addr.add] using World.cell?_spot (hFs 0 (by omega)).1
    subst hspot
    refine ⟨b, o, rfl, ?_, fun i hi1 => ?_⟩
    · have h0 := (hFs 0 (by omega)).1
      have := World.block_lt_of_cell? W _ h0
      simpa [Addr.add] using this
    · have hi2 : i < len := by simpa using hi1
      obtain ⟨h2, h3⟩ := hFs i (by omega)
      simp only [Go.WideShapes.add_plain] at h2 h3
      simp only [List.getElem_map, List.getElem_range]
      exact ⟨by simpa using h2, by simpa using h3⟩
end Go.Proofs.Ytkjdjicchmfljaa
