/- From a row's arguments to the walks of chapter 14. -/
import Derived.Test.YtkncolgdjnhcoaaLRow
namespace Go.Proofs.Ytkncolgdjnhcoaa
open Go.RowKit Go.ChangeShapes

theorem i64_wf {x : Int} (h : (Lit.int .i64 x).wf = true) : -9223372036854775808 ≤ x ∧ x ≤ 9223372036854775807 := by
  have := bounds_i64 h
  omega
end Go.Proofs.Ytkncolgdjnhcoaa
