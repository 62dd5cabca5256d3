/- Storing what a frame says and what is wrong: two blocks. -/
import Derived.Test.YtelbldhnlmggiaaPtThree
import Derived.Test.YtelbldhnlmggiaaLObj
namespace Go.Proofs.Ytelbldhnlmggiaa
open Go.RowKit Fr

theorem heapP9 {w : World} {g : Nat} {a0 a1 a2 a3 a4 a5 a6 a7 a8 : Value} (h : w.heap[g]? = some (.cells #[a0, a1, a2, a3, a4, a5, a6, a7, a8] 28 (0, 0))) (x0 x1 x2 x3 x4 x5 x6 x7 x8 : Value) : (((((((((w.setCell ⟨g, 0, none⟩ x0).setCell ⟨g, 1, none⟩ x1).setCell ⟨g, 2, none⟩ x2).setCell ⟨g, 3, none⟩ x3).setCell ⟨g, 4, none⟩ x4).setCell ⟨g, 5, none⟩ x5).setCell ⟨g, 6, none⟩ x6).setCell ⟨g, 7, none⟩ x7).setCell ⟨g, 8, none⟩ x8).heap[g]? = some (.cells #[x0, x1, x2, x3, x4, x5, x6, x7, x8] 28 (0, 0)) := by
  have h0 : (w.setCell ⟨g, 0, none⟩ x0).heap[g]? = some (.cells #[x0, a1, a2, a3, a4, a5, a6, a7, a8] 28 (0, 0)) := by
    have := heap_setCell_same _ g 0 _ 28 x0 h
    simpa using this
  have h1 : ((w.setCell ⟨g, 0, none⟩ x0).setCell ⟨g, 1, none⟩ x1).heap[g]? = some (.cells #[x0, x1, a2, a3, a4, a5, a6, a7, a8] 28 (0, 0)) := by
    have := heap_setCell_same _ g 1 _ 28 x1 h0
    simpa using this
  have h2 : (((w.setCell ⟨g, 0, none⟩ x0).setCell ⟨g, 1, none⟩ x1).setCell ⟨g, 2, none⟩ x2).heap[g]? = some (.cells #[x0, x1, x2, a3, a4, a5, a6, a7, a8] 28 (0, 0)) := by
    have := heap_setCell_same _ g 2 _ 28 x2 h1
    simpa using this
  have h3 : ((((w.setCell ⟨g, 0, none⟩ x0).setCell ⟨g, 1, none⟩ x1).setCell ⟨g, 2, none⟩ x2).setCell ⟨g, 3, none⟩ x3).heap[g]? = some (.cells #[x0, x1, x2, x3, a4, a5, a6, a7, a8] 28 (0, 0)) := by
    have := heap_setCell_same _ g 3 _ 28 x3 h2
    simpa using this
  have h4 : (((((w.setCell ⟨g, 0, none⟩ x0).setCell ⟨g, 1, none⟩ x1).setCell ⟨g, 2, none⟩ x2).setCell ⟨g, 3, none⟩ x3).setCell ⟨g, 4, none⟩ x4).heap[g]? = some (.cells #[x0, x1, x2, x3, x4, a5, a6, a7, a8] 28 (0, 0)) := by
    have := heap_setCell_same _ g 4 _ 28 x4 h3
    simpa using this
  have h5 : ((((((w.setCell ⟨g, 0, none⟩ x0).setCell ⟨g, 1, none⟩ x1).setCell ⟨g, 2, none⟩ x2).setCell ⟨g, 3, none⟩ x3).setCell ⟨g, 4, none⟩ x4).setCell ⟨g, 5, none⟩ x5).heap[g]? = some (.cells #[x0, x1, x2, x3, x4, x5, a6, a7, a8] 28 (0, 0)) := by
    have := heap_setCell_same _ g 5 _ 28 x5 h4
    simpa using this
  have h6 : (((((((w.setCell ⟨g, 0, none⟩ x0).setCell ⟨g, 1, none⟩ x1).setCell ⟨g, 2, none⟩ x2).setCell ⟨g, 3, none⟩ x3).setCell ⟨g, 4, none⟩ x4).setCell ⟨g, 5, none⟩ x5).setCell ⟨g, 6, none⟩ x6).heap[g]? = some (.cells #[x0, x1, x2, x3, x4, x5, x6, a7, a8] 28 (0, 0)) := by
    have := heap_setCell_same _ g 6 _ 28 x6 h5
    simpa using this
  have h7 : ((((((((w.setCell ⟨g, 0, none⟩ x0).setCell ⟨g, 1, none⟩ x1).setCell ⟨g, 2, none⟩ x2).setCell ⟨g, 3, none⟩ x3).setCell ⟨g, 4, none⟩ x4).setCell ⟨g, 5, none⟩ x5).setCell ⟨g, 6, none⟩ x6).setCell ⟨g, 7, none⟩ x7).heap[g]? = some (.cells #[x0, x1, x2, x3, x4, x5, x6, x7, a8] 28 (0, 0)) := by
    have := heap_setCell_same _ g 7 _ 28 x7 h6
    simpa using this
  have h8 : (((((((((w.setCell ⟨g, 0, none⟩ x0).setCell ⟨g, 1, none⟩ x1).setCell ⟨g, 2, none⟩ x2).setCell ⟨g, 3, none⟩ x3).setCell ⟨g, 4, none⟩ x4).setCell ⟨g, 5, none⟩ x5).setCell ⟨g, 6, none⟩ x6).setCell ⟨g, 7, none⟩ x7).setCell ⟨g, 8, none⟩ x8).heap[g]? = some (.cells #[x0, x1, x2, x3, x4, x5, x6, x7, x8] 28 (0, 0)) := by
    have := heap_setCell_same _ g 8 _ 28 x8 h7
    simpa using this
  exact h8
theorem keepsP9 (w : World) (g : Nat) (x0 x1 x2 x3 x4 x5 x6 x7 x8 : Value) : Keeps (fun k => k = g) w (((((((((w.setCell ⟨g, 0, none⟩ x0).setCell ⟨g, 1, none⟩ x1).setCell ⟨g, 2, none⟩ x2).setCell ⟨g, 3, none⟩ x3).setCell ⟨g, 4, none⟩ x4).setCell ⟨g, 5, none⟩ x5).setCell ⟨g, 6, none⟩ x6).setCell ⟨g, 7, none⟩ x7).setCell ⟨g, 8, none⟩ x8) :=
  (((((((((Keeps.refl (fun k => k = g) w).setCell (S := fun k => k = g) (p := ⟨g, 0, none⟩) rfl x0).setCell (S := fun k => k = g) (p := ⟨g, 1, none⟩) rfl x1).setCell (S := fun k => k = g) (p := ⟨g, 2, none⟩) rfl x2).setCell (S := fun k => k = g) (p := ⟨g, 3, none⟩) rfl x3).setCell (S := fun k => k = g) (p := ⟨g, 4, none⟩) rfl x4).setCell (S := fun k => k = g) (p := ⟨g, 5, none⟩) rfl x5).setCell (S := fun k => k = g) (p := ⟨g, 6, none⟩) rfl x6).setCell (S := fun k => k = g) (p := ⟨g, 7, none⟩) rfl x7).setCell (S := fun k => k = g) (p := ⟨g, 8, none⟩) rfl x8
theorem heapP3 {w : World} {g : Nat} {a0 a1 a2 : Value} (h : w.heap[g]? = some (.cells #[a0, a1, a2] 30 (0, 0))) (x0 x1 x2 : Value) : (((w.setCell ⟨g, 0, none⟩ x0).setCell ⟨g, 1, none⟩ x1).setCell ⟨g, 2, none⟩ x2).heap[g]? = some (.cells #[x0, x1, x2] 30 (0, 0)) := by
  have h0 : (w.setCell ⟨g, 0, none⟩ x0).heap[g]? = some (.cells #[x0, a1, a2] 30 (0, 0)) := by
    have := heap_setCell_same _ g 0 _ 30 x0 h
    simpa using this
  have h1 : ((w.setCell ⟨g, 0, none⟩ x0).setCell ⟨g, 1, none⟩ x1).heap[g]? = some (.cells #[x0, x1, a2] 30 (0, 0)) := by
    have := heap_setCell_same _ g 1 _ 30 x1 h0
    simpa using this
  have h2 : (((w.setCell ⟨g, 0, none⟩ x0).setCell ⟨g, 1, none⟩ x1).setCell ⟨g, 2, none⟩ x2).heap[g]? = some (.cells #[x0, x1, x2] 30 (0, 0)) := by
    have := heap_setCell_same _ g 2 _ 30 x2 h1
    simpa using this
  exact h2
theorem keepsP3 (w : World) (g : Nat) (x0 x1 x2 : Value) : Keeps (fun k => k = g) w (((w.setCell ⟨g, 0, none⟩ x0).setCell ⟨g, 1, none⟩ x1).setCell ⟨g, 2, none⟩ x2) :=
  (((Keeps.refl (fun k => k = g) w).setCell (S := fun k => k = g) (p := ⟨g, 0, none⟩) rfl x0).setCell (S := fun k => k = g) (p := ⟨g, 1, none⟩) rfl x1).setCell (S := fun k => k = g) (p := ⟨g, 2, none⟩) rfl x2
end Go.Proofs.Ytelbldhnlmggiaa
