/- The three blocks of a walk over the document's Read: the frame, what it says, what is wrong. -/
import Derived.Test.YtelbldhnlmggiaaPtMem
import Derived.Test.YtelbldhnlmggiaaFVal
import Derived.Test.YtelbldhnlmggiaaLHelp
import Derived.Test.YtelbldhnlmggiaaLCut
import Derived.Deep.RegionHeld3
import Derived.Deep.DeepCutAuto
namespace Go.Proofs.Ytelbldhnlmggiaa
open Go.RowKit Fr

theorem lt_of_heapP {w : World} {k : Nat} {o : Obj} (h : w.heap[k]? = some o) : k < w.heap.size := by
  rcases Nat.lt_or_ge k w.heap.size with hlt | hge
  · exact hlt
  · rw [Array.getElem?_eq_none hge] at h; cases h
def w3of (w : World) (f : Frm) (A : Option Addr) (n c : Nat) : World := ((w.alloc (.cells #[.int .i64 f.kind, .int .i64 f.flags, .int .i64 f.stream, .slice A n c] 34)).alloc (.cells #[.slice none 0 0, .int .i64 0, .int .i64 0, .int .i64 0, .int .i64 0, .slice none 0 0, .bool false, .bool false, .bool false] 28)).alloc (.cells #[.bool false, .bool false, .int .i64 0] 30)
/-- What a walk over them reads. -/
def Three (W : World) (g : Nat) (f : Frm) (A : Option Addr) (n c : Nat) : Prop :=
  W.heap[g]? = some (.cells #[.int .i64 f.kind, .int .i64 f.flags, .int .i64 f.stream, .slice A n c] 34 (0, 0)) ∧ W.heap[g + 1]? = some (.cells #[.slice none 0 0, .int .i64 0, .int .i64 0, .int .i64 0, .int .i64 0, .slice none 0 0, .bool false, .bool false, .bool false] 28 (0, 0)) ∧ W.heap[g + 1 + 1]? = some (.cells #[.bool false, .bool false, .int .i64 0] 30 (0, 0))
theorem three_of (w : World) (f : Frm) (A : Option Addr) (n c : Nat) : Three (w3of w f A n c) w.heap.size f A n c ∧ Below w.heap.size w (w3of w f A n c) ∧ (w3of w f A n c).heap.size = w.heap.size + 1 + 1 + 1 := by
  obtain ⟨w1, h1⟩ : ∃ w1, w1 = w.alloc (.cells #[.int .i64 f.kind, .int .i64 f.flags, .int .i64 f.stream, .slice A n c] 34) := ⟨_, rfl⟩
  obtain ⟨w2, h2⟩ : ∃ w2, w2 = w1.alloc (.cells #[.slice none 0 0, .int .i64 0, .int .i64 0, .int .i64 0, .int .i64 0, .slice none 0 0, .bool false, .bool false, .bool false] 28) := ⟨_, rfl⟩
  obtain ⟨w3, h3⟩ : ∃ w3, w3 = w2.alloc (.cells #[.bool false, .bool false, .int .i64 0] 30) := ⟨_, rfl⟩
  have e3 : w3of w f A n c = w3 := by rw [h3, h2, h1]; rfl
  have s1 : w1.heap.size = w.heap.size + 1 := by rw [h1]; simp
  have s2 : w2.heap.size = w.heap.size + 1 + 1 := by rw [h2]; simp [s1]
  have s3 : w3.heap.size = w.heap.size + 1 + 1 + 1 := by rw [h3]; simp [s2]
  have q1 : w1.heap[w.heap.size]? = some (.cells #[.int .i64 f.kind, .int .i64 f.flags, .int .i64 f.stream, .slice A n c] 34 (0, 0)) := by rw [h1]; exact heap_alloc_new w _
  have q2 : w2.heap[w.heap.size + 1]? = some (.cells #[.slice none 0 0, .int .i64 0, .int .i64 0, .int .i64 0, .int .i64 0, .slice none 0 0, .bool false, .bool false, .bool false] 28 (0, 0)) := by rw [h2, ← s1]; exact heap_alloc_new w1 _
  have q3 : w3.heap[w.heap.size + 1 + 1]? = some (.cells #[.bool false, .bool false, .int .i64 0] 30 (0, 0)) := by rw [h3, ← s2]; exact heap_alloc_new w2 _
  have b1 : Below w.heap.size w w1 := by rw [h1]; exact (Below.refl _ _).alloc (Nat.le_refl _) _
  have b2 : Below w1.heap.size w1 w2 := by rw [h2]; exact (Below.refl _ _).alloc (Nat.le_refl _) _
  have b3 : Below w2.heap.size w2 w3 := by rw [h3]; exact (Below.refl _ _).alloc (Nat.le_refl _) _
  rw [e3]
  exact ⟨⟨(b3.block _ (by omega)).trans ((b2.block _ (by omega)).trans q1), (b3.block _ (by omega)).trans q2, q3⟩, (b1.trans (b2.mono (by omega))).trans (b3.mono (by omega)), s3⟩
theorem Three.up {W W' : World} {g : Nat} {f : Frm} {A : Option Addr} {n c : Nat} (h : Three W g f A n c) (hb : Below W.heap.size W W') : Three W' g f A n c :=
  ⟨(hb.block g (lt_of_heapP h.1)).trans h.1, (hb.block (g + 1) (lt_of_heapP h.2.1)).trans h.2.1, (hb.block (g + 1 + 1) (lt_of_heapP h.2.2)).trans h.2.2⟩
theorem three_frm {W : World} {g : Nat} {f : Frm} {A : Option Addr} {n c : Nat} (h : Three W g f A n c) : W.cell? ⟨g, 0, none⟩ = some (.int .i64 f.kind) ∧ W.cell? ⟨g, 1, none⟩ = some (.int .i64 f.flags) ∧ W.cell? ⟨g, 2, none⟩ = some (.int .i64 f.stream) ∧ W.cell? ⟨g, 3, none⟩ = some (.slice A n c) :=
  ⟨cell_of_row _ g 0 _ 34 _ h.1, cell_of_row _ g 1 _ 34 _ h.1, cell_of_row _ g 2 _ 34 _ h.1, cell_of_row _ g 3 _ 34 _ h.1⟩


theorem three_prt {W : World} {g : Nat} {f : Frm} {A : Option Addr} {n c : Nat} (h : Three W g f A n c) : W.cell? ⟨g + 1, 0, none⟩ = some (.slice none 0 0) ∧ W.cell? ⟨g + 1, 1, none⟩ = some (.int .i64 0) ∧ W.cell? ⟨g + 1, 2, none⟩ = some (.int .i64 0) ∧ W.cell? ⟨g + 1, 3, none⟩ = some (.int .i64 0) ∧ W.cell? ⟨g + 1, 4, none⟩ = some (.int .i64 0) ∧ W.cell? ⟨g + 1, 5, none⟩ = some (.slice none 0 0) ∧ W.cell? ⟨g + 1, 6, none⟩ = some (.bool false) ∧ W.cell? ⟨g + 1, 7, none⟩ = some (.bool false) ∧ W.cell? ⟨g + 1, 8, none⟩ = some (.bool false) :=
  ⟨cell_of_row _ _ 0 _ 28 _ h.2.1, cell_of_row _ _ 1 _ 28 _ h.2.1, cell_of_row _ _ 2 _ 28 _ h.2.1, cell_of_row _ _ 3 _ 28 _ h.2.1, cell_of_row _ _ 4 _ 28 _ h.2.1, cell_of_row _ _ 5 _ 28 _ h.2.1, cell_of_row _ _ 6 _ 28 _ h.2.1, cell_of_row _ _ 7 _ 28 _ h.2.1, cell_of_row _ _ 8 _ 28 _ h.2.1⟩
theorem three_flt {W : World} {g : Nat} {f : Frm} {A : Option Addr} {n c : Nat} (h : Three W g f A n c) : W.cell? ⟨g + 1 + 1, 0, none⟩ = some (.bool false) ∧ W.cell? ⟨g + 1 + 1, 1, none⟩ = some (.bool false) ∧ W.cell? ⟨g + 1 + 1, 2, none⟩ = some (.int .i64 0) :=
  ⟨cell_of_row _ _ 0 _ 30 _ h.2.2, cell_of_row _ _ 1 _ 30 _ h.2.2, cell_of_row _ _ 2 _ 30 _ h.2.2⟩
theorem three_froz {W : World} {g : Nat} {f : Frm} {A : Option Addr} {n c : Nat} (h : Three W g f A n c) : W.frozen? ⟨g + 1, 0, none⟩ = false ∧ W.frozen? ⟨g + 1, 1, none⟩ = false ∧ W.frozen? ⟨g + 1, 2, none⟩ = false ∧ W.frozen? ⟨g + 1, 3, none⟩ = false ∧ W.frozen? ⟨g + 1, 4, none⟩ = false ∧ W.frozen? ⟨g + 1, 5, none⟩ = false ∧ W.frozen? ⟨g + 1, 6, none⟩ = false ∧ W.frozen? ⟨g + 1, 7, none⟩ = false ∧ W.frozen? ⟨g + 1, 8, none⟩ = false ∧ W.frozen? ⟨g + 1 + 1, 0, none⟩ = false ∧ W.frozen? ⟨g + 1 + 1, 1, none⟩ = false ∧ W.frozen? ⟨g + 1 + 1, 2, none⟩ = false :=
  ⟨frozen_of_row W (g + 1) 0 _ 28 h.2.1, frozen_of_row W (g + 1) 1 _ 28 h.2.1, frozen_of_row W (g + 1) 2 _ 28 h.2.1, frozen_of_row W (g + 1) 3 _ 28 h.2.1, frozen_of_row W (g + 1) 4 _ 28 h.2.1, frozen_of_row W (g + 1) 5 _ 28 h.2.1, frozen_of_row W (g + 1) 6 _ 28 h.2.1, frozen_of_row W (g + 1) 7 _ 28 h.2.1, frozen_of_row W (g + 1) 8 _ 28 h.2.1, frozen_of_row W (g + 1 + 1) 0 _ 30 h.2.2, frozen_of_row W (g + 1 + 1) 1 _ 30 h.2.2, frozen_of_row W (g + 1 + 1) 2 _ 30 h.2.2⟩
end Go.Proofs.Ytelbldhnlmggiaa
