/- A literal list of fields lies in new memory. -/
import Derived.Test.YtlnppbnbjeakhaaDoorLRowF
namespace Go.Proofs.YtlnppbnbjeakhaaDoor
open Go.RowKit

theorem atF_lit (w : World) (l : List Fld) : AtF (w.alloc (.cells (cF l).toArray 44)) (w.alloc (.cells (cF l).toArray 44)).heap.size (some ⟨w.heap.size, 0, none⟩) l := fun _ => by
  have hn : (w.alloc (.cells (cF l).toArray 44)).heap[w.heap.size]? = some (.cells (cF l).toArray 44 (0, 0)) := heap_alloc_new w _
  refine ⟨w.heap.size, 0, rfl, by simp, fun i hi => ?_⟩
  obtain ⟨d0, d1, d2⟩ := cF_at l i hi
  simp only [Nat.zero_add]
  exact ⟨(cell_of_row _ _ _ _ 44 _ hn).trans (by simpa using d0), (cell_of_row _ _ _ _ 44 _ hn).trans (by simpa using d1), (cell_of_row _ _ _ _ 44 _ hn).trans (by simpa using d2)⟩
end Go.Proofs.YtlnppbnbjeakhaaDoor
