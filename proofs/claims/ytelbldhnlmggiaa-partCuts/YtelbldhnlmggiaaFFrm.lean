/- A frame as a value. -/
import Derived.Test.YtelbldhnlmggiaaPtPlain
import Derived.Test.YtelbldhnlmggiaaRows
namespace Go.Proofs.Ytelbldhnlmggiaa
open Go Fr

/-- A frame as a value, its body at A, capacity c. -/
def frm (f : Frm) (A : Option Addr) (c : Nat) : Value := .agg #[.int .i64 f.kind, .int .i64 f.flags, .int .i64 f.stream, .slice A f.body.length c]
end Go.Proofs.Ytelbldhnlmggiaa
