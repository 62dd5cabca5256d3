/- What a call that answers one number, or one bool, hands back. -/
import Derived.Test.YtelbldhnlmggiaaRows
import Derived.Below
namespace Go.Proofs.Ytelbldhnlmggiaa
open Go.RowKit

def NumPost (w : World) (n : Nat) (e : Ending) (w' : World) : Prop := e = .returned (.int .i64 (n : Int)) ∧ Below w.heap.size w w'
def BoolPost (w : World) (v : Bool) (e : Ending) (w' : World) : Prop := e = .returned (.bool v) ∧ Below w.heap.size w w'
end Go.Proofs.Ytelbldhnlmggiaa
