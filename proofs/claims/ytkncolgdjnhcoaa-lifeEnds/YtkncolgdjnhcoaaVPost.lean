/- What the functions of chapter 14 hand back. -/
import Derived.Test.YtkncolgdjnhcoaaRows
import Derived.Test.YtkncolgdjnhcoaaVPlain
import Derived.Below
import Derived.WalkKit
import Derived.Lib.Hide
namespace Go.Proofs.Ytkncolgdjnhcoaa
open Go.RowKit Lf

def RPost (w : World) (r : Rv) (e : Ending) (w' : World) : Prop := e = .returned (.tuple #[.int .i64 r.st, .agg #[.bool r.bad, .bool r.conn, .int .i64 r.code]]) ∧ Below w.heap.size w w'
def SdPost (w : World) (r : Int × Bool) (e : Ending) (w' : World) : Prop := e = .returned (.tuple #[.int .i64 r.1, .bool r.2]) ∧ Below w.heap.size w w'
def YesV (w : World) (e : Ending) (w' : World) : Prop := e = .returned (.bool true) ∧ Below w.heap.size w w'
/-- A fault kept in a block of the walk's own. -/
def KF (W : World) (g : Nat) (x y : Bool) (n : Int) : Prop := W.heap[g]? = some (.cells #[.bool x, .bool y, .int .i64 n] 24 (0, 0))
theorem kf_lt {W : World} {g : Nat} {x y : Bool} {n : Int} (h : KF W g x y n) : g < W.heap.size := by
  rcases Nat.lt_or_ge g W.heap.size with hlt | hge
  · exact hlt
  · unfold KF at h; rw [Array.getElem?_eq_none hge] at h; cases h
theorem KF.up {W W' : World} {g : Nat} {x y : Bool} {n : Int} (h : KF W g x y n) (hb : Below W.heap.size W W') : KF W' g x y n := (hb.block g (kf_lt h)).trans h
theorem kf_of (w : World) (x y : Bool) (n : Int) : KF (w.alloc (.cells #[.bool x, .bool y, .int .i64 n] 24)) w.heap.size x y n ∧ Below w.heap.size w (w.alloc (.cells #[.bool x, .bool y, .int .i64 n] 24)) := ⟨heap_alloc_new w _, (Below.refl _ _).alloc (Nat.le_refl _) _⟩
theorem KF.cells {W : World} {g : Nat} {x y : Bool} {n : Int} (h : KF W g x y n) : W.cell? ⟨g, 0, none⟩ = some (.bool x) ∧ W.cell? ⟨g, 1, none⟩ = some (.bool y) ∧ W.cell? ⟨g, 2, none⟩ = some (.int .i64 n) :=
  ⟨cell_of_row _ g 0 _ 24 _ h, cell_of_row _ g 1 _ 24 _ h, cell_of_row _ g 2 _ 24 _ h⟩
theorem KF.loose {W : World} {g : Nat} {x y : Bool} {n : Int} (h : KF W g x y n) : W.frozen? ⟨g, 0, none⟩ = false ∧ W.frozen? ⟨g, 1, none⟩ = false ∧ W.frozen? ⟨g, 2, none⟩ = false :=
  ⟨frozen_of_row _ g 0 _ 24 h, frozen_of_row _ g 1 _ 24 h, frozen_of_row _ g 2 _ 24 h⟩
def stF (W : World) (g : Nat) (x y : Bool) (n : Int) : World := ((W.setCell ⟨g, 0, none⟩ (.bool x)).setCell ⟨g, 1, none⟩ (.bool y)).setCell ⟨g, 2, none⟩ (.int .i64 n)
theorem stF_below {w W : World} {g : Nat} (hg : g = w.heap.size) (hb : Below w.heap.size w W) (x y : Bool) (n : Int) : Below w.heap.size w (stF W g x y n) :=
  ((hb.setCell (p := ⟨g, 0, none⟩) (show w.heap.size ≤ g by omega) _).setCell (p := ⟨g, 1, none⟩) (show w.heap.size ≤ g by omega) _).setCell (p := ⟨g, 2, none⟩) (show w.heap.size ≤ g by omega) _
theorem bne {x y : Int} (h : ¬ x = y) : (x == y) = false := beq_eq_false_iff_ne.mpr h
theorem nbt {x y : Int} (h : ¬ x = y) : (x != y) = true := bne_iff_ne.mpr h
end Go.Proofs.Ytkncolgdjnhcoaa
