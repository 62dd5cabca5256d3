/- What a call that makes a frame hands back. -/
import Derived.Test.YtelbldhnlmggiaaPtBackM
import Derived.Test.YtelbldhnlmggiaaPtMem
namespace Go.Proofs.Ytelbldhnlmggiaa
open Go.RowKit Fr

def FrPost (w : World) (f : Frm) (e : Ending) (w' : World) : Prop :=
  ∃ A c, e = .returned (frm f A c) ∧ At .u8 w' w'.heap.size A f.body ∧ (A = none → c = 0) ∧ f.body.length ≤ c ∧ Below w.heap.size w w'
def YesP (w : World) (e : Ending) (w' : World) : Prop := e = .returned (.bool true) ∧ Below w.heap.size w w'
end Go.Proofs.Ytelbldhnlmggiaa
