/- Lists of ints that came in. Stage 12. -/
import Derived.Test.YtkncolgdjnhcoaaLRow
import Derived.ChangeSlices
import Derived.ChangeSame
import Derived.Deep.Slices
namespace Go.Proofs.Ytkncolgdjnhcoaa
open Go.ChangeShapes Go.WideShapes Go.ChangeAt Go.RowKit Go.Deep

/-- The ints l lie at A, below block B. -/
def AtI (w : World) (B : Nat) (A : Option Addr) (l : List Int) : Prop :=
  l ≠ [] → ∃ b o, A = some ⟨b, o, none⟩ ∧ b < B ∧ ∀ i (h : i < l.length), w.cell? ⟨b, o + i, none⟩ = some (.int .i64 l[i])
theorem AtI.up {w w' : World} {A : Option Addr} {l : List Int} (h : AtI w w.heap.size A l) (hb : Below w.heap.size w w') : AtI w' w'.heap.size A l := fun hne => by
  obtain ⟨b, o, e, hB, hc⟩ := h hne
  exact ⟨b, o, e, Nat.lt_of_lt_of_le hB hb.size, fun i hi => (hb.cell (p := ⟨b, o + i, none⟩) hB).trans (hc i hi)⟩
theorem AtI.pos {w : World} {B : Nat} {A : Option Addr} {l : List Int} (h : AtI w B A l) (hl : 0 < l.length) : ∃ b o, A = some ⟨b, o, none⟩ ∧ b < B ∧ ∀ i (h : i < l.length), w.cell? ⟨b, o + i, none⟩ = some (.int .i64 l[i]) := h (List.length_pos_iff.1 hl)
theorem openedI {H : Type} {enc : TypeId × Value → H} {W : World} {a : Option Addr} {len cap : Nat} {d : DataW H} {p : List MemPlace}
    (h : DataW.Trod enc Try.prog W 0 (fun _ => true) true 30 (.slice a len cap) d p) : ∃ l : List Int, l.length = len ∧ len ≤ cap ∧ (a = none → cap = 0) ∧ (∀ x ∈ l, (Lit.int .i64 x).wf = true) ∧ AtI W W.heap.size a l := by
  obtain ⟨fuel, hf⟩ := h
  rcases open_ints Try.underlying30 Try.underlying3 (by kernel_rfl) hf with ⟨hcs, _⟩ | ⟨x, l, c, zs, hcs, _, hl, hm, hz, _, hcell, hwz⟩
  · simp [Value.cells] at hcs
    obtain ⟨rfl, rfl, rfl⟩ := hcs
    exact ⟨[], rfl, Nat.le_refl _, fun _ => rfl, fun x hx => by simp at hx, fun h => absurd rfl h⟩
  · simp [Value.cells] at hcs
    obtain ⟨rfl, rfl, rfl⟩ := hcs
    have hzl : zs.length = cap := by simpa using hz
    refine ⟨zs.take len, by simp; omega, hl, (fun h => by cases h), fun y hy => hwz y (List.mem_of_mem_take hy), fun hne => ?_⟩
    have hpos : 0 < len := by
      rcases Nat.eq_zero_or_pos len with h0 | h0
      · subst h0; simp at hne
      · exact h0
    obtain ⟨b, off, rfl, hc⟩ := ints_at hcell (by omega)
    refine ⟨b, off, rfl, ?_, fun i hi => ?_⟩
    · have h0 := hc 0 (by omega)
      rcases Nat.lt_or_ge b W.heap.size with hlt | hge
      · exact hlt
      · simp [World.cell?, Array.getElem?_eq_none hge] at h0
    · have hi' : i < len := by simp at hi; omega
      rw [hc i (by omega)]
      simp only [List.getElem_take, List.getD, List.getElem?_eq_getElem (show i < zs.length by omega), Option.getD_some]
end Go.Proofs.Ytkncolgdjnhcoaa
