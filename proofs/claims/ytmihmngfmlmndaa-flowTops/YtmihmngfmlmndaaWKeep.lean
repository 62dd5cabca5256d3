/- A fault kept in a block of the walk's own. -/
import Derived.Test.YtmihmngfmlmndaaWPost
namespace Go.Proofs.Ytmihmngfmlmndaa
open Go.RowKit Fl Fw

/-- A fault kept in a block of the walk's own. -/
def KF (W : World) (g : Nat) (x y : Bool) (n : Int) : Prop := W.heap[g]? = some (.cells #[.bool x, .bool y, .int .i64 n] 30 (0, 0))
theorem kf_lt {W : World} {g : Nat} {x y : Bool} {n : Int} (h : KF W g x y n) : g < W.heap.size := by
  rcases Nat.lt_or_ge g W.heap.size with hlt | hge
  · exact hlt
  · unfold KF at h; rw [Array.getElem?_eq_none hge] at h; cases h
theorem KF.up {W W' : World} {g : Nat} {x y : Bool} {n : Int} (h : KF W g x y n) (hb : Below W.heap.size W W') : KF W' g x y n := (hb.block g (kf_lt h)).trans h
theorem kf_of (w : World) (x y : Bool) (n : Int) : KF (w.alloc (.cells #[.bool x, .bool y, .int .i64 n] 30)) w.heap.size x y n ∧ Below w.heap.size w (w.alloc (.cells #[.bool x, .bool y, .int .i64 n] 30)) := ⟨heap_alloc_new w _, (Below.refl _ _).alloc (Nat.le_refl _) _⟩
theorem KF.cells {W : World} {g : Nat} {x y : Bool} {n : Int} (h : KF W g x y n) : W.cell? ⟨g, 0, none⟩ = some (.bool x) ∧ W.cell? ⟨g, 1, none⟩ = some (.bool y) ∧ W.cell? ⟨g, 2, none⟩ = some (.int .i64 n) :=
  ⟨cell_of_row _ g 0 _ 30 _ h, cell_of_row _ g 1 _ 30 _ h, cell_of_row _ g 2 _ 30 _ h⟩
end Go.Proofs.Ytmihmngfmlmndaa
