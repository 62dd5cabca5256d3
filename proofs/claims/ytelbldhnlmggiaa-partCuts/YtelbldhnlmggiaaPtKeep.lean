/- What Read hands back, kept in two new blocks. -/
import Derived.Test.YtelbldhnlmggiaaPtMem
namespace Go.Proofs.Ytelbldhnlmggiaa
open Go.RowKit Fr

theorem lt_of_heapK {w : World} {k : Nat} {o : Obj} (h : w.heap[k]? = some o) : k < w.heap.size := by
  rcases Nat.lt_or_ge k w.heap.size with hlt | hge
  · exact hlt
  · rw [Array.getElem?_eq_none hge] at h; cases h
def kept (W : World) (x0 x1 x2 x3 x4 x5 x6 x7 x8 y0 y1 y2 : Value) : World := (W.alloc (.cells #[x0, x1, x2, x3, x4, x5, x6, x7, x8] 28)).alloc (.cells #[y0, y1, y2] 30)
theorem kept_spec (W : World) (x0 x1 x2 x3 x4 x5 x6 x7 x8 y0 y1 y2 : Value) : (kept W x0 x1 x2 x3 x4 x5 x6 x7 x8 y0 y1 y2).heap[W.heap.size]? = some (.cells #[x0, x1, x2, x3, x4, x5, x6, x7, x8] 28 (0, 0)) ∧ (kept W x0 x1 x2 x3 x4 x5 x6 x7 x8 y0 y1 y2).heap[W.heap.size + 1]? = some (.cells #[y0, y1, y2] 30 (0, 0)) ∧ Below W.heap.size W (kept W x0 x1 x2 x3 x4 x5 x6 x7 x8 y0 y1 y2) ∧ (kept W x0 x1 x2 x3 x4 x5 x6 x7 x8 y0 y1 y2).heap.size = W.heap.size + 1 + 1 := by
  obtain ⟨w1, h1⟩ : ∃ w1, w1 = W.alloc (.cells #[x0, x1, x2, x3, x4, x5, x6, x7, x8] 28) := ⟨_, rfl⟩
  have s1 : w1.heap.size = W.heap.size + 1 := by rw [h1]; simp
  have q1 : w1.heap[W.heap.size]? = some (.cells #[x0, x1, x2, x3, x4, x5, x6, x7, x8] 28 (0, 0)) := by rw [h1]; exact heap_alloc_new W _
  have b1 : Below W.heap.size W w1 := by rw [h1]; exact (Below.refl _ _).alloc (Nat.le_refl _) _
  have b2 : Below w1.heap.size w1 (w1.alloc (.cells #[y0, y1, y2] 30)) := (Below.refl _ _).alloc (Nat.le_refl _) _
  unfold kept
  rw [← h1]
  exact ⟨(b2.block W.heap.size (by omega)).trans q1, by rw [← s1]; exact heap_alloc_new w1 _, b1.trans (b2.mono (by omega)), by simp [s1]⟩
end Go.Proofs.Ytelbldhnlmggiaa
