/- What the functions of chapter 12 hand back. -/
import Derived.Test.YtmihmngfmlmndaaRows
import Derived.Test.YtmihmngfmlmndaaLFloat
import Derived.Test.YtmihmngfmlmndaaWPlain
import Derived.Below
import Derived.WalkKit
import Derived.Lib.Hide
namespace Go.Proofs.Ytmihmngfmlmndaa
open Go.RowKit Fl Fw

/-- The words a, b stand for windows k, l that may be. -/
structure Zw (a b : Nat) (k l : Int) : Prop where
  a' : Whole a k
  b' : Whole b l
  ka : in_ k
  lb : in_ l
def ZPost (w : World) (k l : Int) (e : Ending) (w' : World) : Prop := ∃ a b, e = .returned (.complex .f64 a b) ∧ Whole a k ∧ Whole b l ∧ Below w.heap.size w w'
def IPost (w : World) (k : Int) (e : Ending) (w' : World) : Prop := e = .returned (.int .i64 k) ∧ Below w.heap.size w w'
def ZEPost (w : World) (r : Int × Int × Nat) (e : Ending) (w' : World) : Prop := ∃ a b, e = .returned (.tuple #[.complex .f64 a b, .int .i64 (r.2.2 : Int)]) ∧ Whole a r.1 ∧ Whole b r.2.1 ∧ Below w.heap.size w w'
def ZFPost (w : World) (r : Int × Int × Flt) (e : Ending) (w' : World) : Prop := ∃ a b, e = .returned (.tuple #[.complex .f64 a b, .agg #[.bool r.2.2.bad, .bool r.2.2.conn, .int .i64 (r.2.2.code : Int)]]) ∧ Whole a r.1 ∧ Whole b r.2.1 ∧ Below w.heap.size w w'
def YesW (w : World) (e : Ending) (w' : World) : Prop := e = .returned (.bool true) ∧ Below w.heap.size w w'
/-- Two words that stand for whole numbers, as a walk compares them. -/
theorem feq {x y : Nat} {k l : Int} (h : Whole x k) (h' : Whole y l) (e : k = l) : (FloatKind.f64.format.order x y == some Ordering.eq) = true := by
  have : FloatKind.f64.format.order x y = some (compare k l) := order_whole h h'
  rw [this, compare_eq]
  exact decide_eq_true e
theorem fne {x y : Nat} {k l : Int} (h : Whole x k) (h' : Whole y l) (e : k ≠ l) : (FloatKind.f64.format.order x y == some Ordering.eq) = false := by
  have : FloatKind.f64.format.order x y = some (compare k l) := order_whole h h'
  rw [this, compare_eq]
  exact decide_eq_false e
end Go.Proofs.Ytmihmngfmlmndaa
