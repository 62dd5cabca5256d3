/- What the program's tables want of the world: here they want nothing (a stage whose code reads a table of the package has a text of this name of its own). -/
import Derived.Test.YtjohchedckmadaaRows
import Derived.Below
namespace Go.Proofs.Ytjohchedckmadaa
open Go.RowKit

def Rdy (_ : World) : Prop := True
theorem Rdy.below {w w' : World} (_ : Rdy w) (_ : Below w.heap.size w w') : Rdy w' := trivial
/-- An int. -/
def Rng (b : Int) : Prop := -9223372036854775808 ≤ b ∧ b ≤ 9223372036854775807
end Go.Proofs.Ytjohchedckmadaa
