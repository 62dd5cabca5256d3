/- From what a row says of an argument that is a slice of bytes to the words of the contracts. -/
import Derived.Test.YtelbldhnlmggiaaLMem
import Derived.Test.YtelbldhnlmggiaaLRow
namespace Go.Proofs.Ytelbldhnlmggiaa
open Go.ChangeShapes Go.WideShapes Go.ChangeAt Go.RowKit

/-- A slice of bytes that came in: its bytes l. -/
theorem opened {H : Type} {enc : TypeId × Value → H} {W : World} {a : Option Addr} {len cap : Nat} {d : DataW H} {p : List MemPlace}
    (h : DataW.Trod enc Try.prog W 0 (fun _ => true) true 25 (.slice a len cap) d p) : ∃ l : List Nat, l.length = len ∧ len ≤ cap ∧ (a = none → cap = 0) ∧ (∀ x ∈ l, x < 256) ∧ At .u8 W W.heap.size a l := by
  obtain ⟨fuel, hf⟩ := h
  rcases open_ints Try.underlying25 Try.underlying5 (by kernel_rfl) hf with ⟨hcs, _⟩ | ⟨x, l, c, zs, hcs, _, hl, hm, hz, _, hcell, hwz⟩
  · simp [Value.cells] at hcs
    obtain ⟨rfl, rfl, rfl⟩ := hcs
    exact ⟨[], rfl, Nat.le_refl _, fun _ => rfl, fun x hx => by simp at hx, at_nil _ _ _ _⟩
  · simp [Value.cells] at hcs
    obtain ⟨rfl, rfl, rfl⟩ := hcs
    have hzl : zs.length = cap := by simpa using hz
    refine ⟨(zs.take len).map fun n => n.toNat, by simp; omega, hl, (fun h => by cases h), fun y hy => ?_, fun hne => ?_⟩
    · simp only [List.mem_map] at hy
      obtain ⟨z, hz1, rfl⟩ := hy
      have hb := bounds_u8 (hwz z (List.mem_of_mem_take hz1))
      omega
    have hpos : 0 < len := by
      rcases Nat.eq_zero_or_pos len with h0 | h0
      · subst h0; simp at hne
      · exact h0
    obtain ⟨b, off, rfl, hc⟩ := ints_at hcell (by omega)
    refine ⟨b, off, rfl, ?_, fun i hi => ?_⟩
    · have h0 := hc 0 (by omega)
      rcases Nat.lt_or_ge b W.heap.size with hlt | hge
      · exact hlt
      · simp [World.cell?, Array.getElem?_eq_none hge] at h0
    · have hi' : i < len := by simp at hi; omega
      rw [hc i (by omega)]
      have hb := bounds_u8 (hwz (zs[i]'(by omega)) (List.getElem_mem _))
      simp only [List.getElem_map, List.getElem_take, List.getD, List.getElem?_eq_getElem (show i < zs.length by omega), Option.getD_some]
      congr 2
      omega
end Go.Proofs.Ytelbldhnlmggiaa
