/- The i-th field of a list, from 1 on; what a call that answers a field and a bool hands back. -/
import Derived.Test.YtjohchedckmadaaLFld
namespace Go.Proofs.Ytjohchedckmadaa
open Go.RowKit
/-- The i-th, from 1 on. -/
def getL (l : List Fld) (i : Int) : Fld × Bool := if 1 ≤ i ∧ i ≤ (l.length : Int) then (l.getD (i.toNat - 1) ⟨⟨#[]⟩, ⟨#[]⟩, false⟩, true) else (⟨⟨#[]⟩, ⟨#[]⟩, false⟩, false)
def FPost (w : World) (s : Fld × Bool) (e : Ending) (w' : World) : Prop := e = .returned (.tuple #[.agg #[.string s.1.name, .string s.1.value, .bool s.1.never], .bool s.2]) ∧ Below w.heap.size w w'
end Go.Proofs.Ytjohchedckmadaa
