/- The document's Recv and Send, said outright. -/
import Derived.Test.YtkncolgdjnhcoaaVRef
namespace Go.Proofs.Ytkncolgdjnhcoaa
open Go.RowKit Lf

theorem rvrecv_is {s k : Int} {e : Bool} {a : Int} {b c : Bool} {n : Int} (h : recv s k e = ⟨a, b, c, n⟩) (W : World) : Calls Try.prog 9 #[.int .i64 s, .int .i64 k, .bool e] W fun e w' => e = .returned (.tuple #[.int .i64 a, .agg #[.bool b, .bool c, .int .i64 n]]) ∧ Below W.heap.size W w' := by
  have := rvrecv_f s k e W
  rw [h] at this
  exact this
theorem rvsend_is {s k : Int} {e : Bool} {a : Int} {b : Bool} (h : send s k e = (a, b)) (W : World) : Calls Try.prog 11 #[.int .i64 s, .int .i64 k, .bool e] W fun e w' => e = .returned (.tuple #[.int .i64 a, .bool b]) ∧ Below W.heap.size W w' := by
  have := rvsend_f s k e W
  rw [h] at this
  exact this
end Go.Proofs.Ytkncolgdjnhcoaa
