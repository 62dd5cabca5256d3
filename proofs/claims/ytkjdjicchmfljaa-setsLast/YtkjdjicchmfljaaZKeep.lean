/- What Apply hands back, kept in blocks of the walk's own. -/
import Derived.Test.YtkjdjicchmfljaaZPost
namespace Go.Proofs.Ytkjdjicchmfljaa
open Go.RowKit Zs

/-- Settings s and a fault f, kept in blocks g and g + 1. -/
def KZ (W : World) (g : Nat) (s : St) (f : Flt) : Prop := W.heap[g]? = some (.cells #[.int .i64 s.table, .int .i64 s.push, .int .i64 s.streams, .int .i64 s.window, .int .i64 s.frame, .int .i64 s.list] 23 (0, 0)) ∧ W.heap[g + 1]? = some (.cells #[.bool f.bad, .bool f.conn, .int .i64 (f.code : Int)] 27 (0, 0))
def keptZ (w : World) (s : St) (f : Flt) : World := (w.alloc (.cells #[.int .i64 s.table, .int .i64 s.push, .int .i64 s.streams, .int .i64 s.window, .int .i64 s.frame, .int .i64 s.list] 23)).alloc (.cells #[.bool f.bad, .bool f.conn, .int .i64 (f.code : Int)] 27)
theorem kz_of (w : World) (s : St) (f : Flt) : KZ (keptZ w s f) w.heap.size s f ∧ Below w.heap.size w (keptZ w s f) := by
  obtain ⟨w1, h1⟩ : ∃ x, x = w.alloc (.cells #[.int .i64 s.table, .int .i64 s.push, .int .i64 s.streams, .int .i64 s.window, .int .i64 s.frame, .int .i64 s.list] 23) := ⟨_, rfl⟩
  have s1 : w1.heap.size = w.heap.size + 1 := by rw [h1]; simp
  have q1 : w1.heap[w.heap.size]? = some (.cells #[.int .i64 s.table, .int .i64 s.push, .int .i64 s.streams, .int .i64 s.window, .int .i64 s.frame, .int .i64 s.list] 23 (0, 0)) := by rw [h1]; exact heap_alloc_new w _
  have b1 : Below w.heap.size w w1 := by rw [h1]; exact (Below.refl _ _).alloc (Nat.le_refl _) _
  have b2 : Below w1.heap.size w1 (w1.alloc (.cells #[.bool f.bad, .bool f.conn, .int .i64 (f.code : Int)] 27)) := (Below.refl _ _).alloc (Nat.le_refl _) _
  unfold keptZ
  rw [← h1]
  exact ⟨⟨(b2.block _ (by omega)).trans q1, by rw [← s1]; exact heap_alloc_new w1 _⟩, b1.trans (b2.mono (by omega))⟩
theorem KZ.up {W W' : World} {g : Nat} {s : St} {f : Flt} (h : KZ W g s f) (hb : Below W.heap.size W W') : KZ W' g s f := ⟨(hb.block _ (lt_of_heapZ h.1)).trans h.1, (hb.block _ (lt_of_heapZ h.2)).trans h.2⟩
theorem KZ.up' {W W' : World} {g : Nat} {s : St} {f : Flt} (h : KZ W g s f) (hb : Below W.heap.size W W') : KZ W' g s f := h.up hb
theorem KZ.sets {W : World} {g : Nat} {s : St} {f : Flt} (h : KZ W g s f) : W.cell? ⟨g, 0, none⟩ = some (.int .i64 s.table) ∧ W.cell? ⟨g, 1, none⟩ = some (.int .i64 s.push) ∧ W.cell? ⟨g, 2, none⟩ = some (.int .i64 s.streams) ∧ W.cell? ⟨g, 3, none⟩ = some (.int .i64 s.window) ∧ W.cell? ⟨g, 4, none⟩ = some (.int .i64 s.frame) ∧ W.cell? ⟨g, 5, none⟩ = some (.int .i64 s.list) :=
  ⟨cell_of_row _ g 0 _ 23 _ h.1, cell_of_row _ g 1 _ 23 _ h.1, cell_of_row _ g 2 _ 23 _ h.1, cell_of_row _ g 3 _ 23 _ h.1, cell_of_row _ g 4 _ 23 _ h.1, cell_of_row _ g 5 _ 23 _ h.1⟩
theorem KZ.flt {W : World} {g : Nat} {s : St} {f : Flt} (h : KZ W g s f) : W.cell? ⟨g + 1, 0, none⟩ = some (.bool f.bad) ∧ W.cell? ⟨g + 1, 1, none⟩ = some (.bool f.conn) ∧ W.cell? ⟨g + 1, 2, none⟩ = some (.int .i64 (f.code : Int)) :=
  ⟨cell_of_row _ (g + 1) 0 _ 27 _ h.2, cell_of_row _ (g + 1) 1 _ 27 _ h.2, cell_of_row _ (g + 1) 2 _ 27 _ h.2⟩
end Go.Proofs.Ytkjdjicchmfljaa
