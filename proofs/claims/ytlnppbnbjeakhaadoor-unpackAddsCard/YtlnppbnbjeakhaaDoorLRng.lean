/- An int that came in lies in its range. -/
import Derived.Test.YtlnppbnbjeakhaaDoorLTab
import Derived.OpenShut
namespace Go.Proofs.YtlnppbnbjeakhaaDoor
open Go.RowKit
theorem rng_of {i : Int} (h : (Lit.int .i64 i).wf = true) : Rng i := by
  have := bounds_i64 h
  unfold Rng
  omega
end Go.Proofs.YtlnppbnbjeakhaaDoor
