/-
  No cell of these rows narrows 'for every input' (looked for: loops, veiled, ifaces, maps, wideKeys, modest, calm, conditions, laid).
  DERIVED. THE GIVEN ROWS OF THIS SEAT. 4 by the template 'for every input the law returns true; each argument reads behind the call as it read before'; 0 by the template 'total and deterministic' (their statements: YtkncolgdjnhcoaaTotals.lean).
  GIVEN WITH THE SEED: the statements are not yours to turn. If you find one false, say at which input.
  Laid BY PROGRAM, IN A SANDBOX (cutbox-rows.mjs): the forced cells as the released guide's own fill.sh prints them over the translation e063c3633cc3330b… (all of the seat's roots in one cut). By AI agents, Wed Nov 11 2026. No macro, syntax, notation, axiom, sorry.
-/
import Derived.Test.YtkncolgdjnhcoaaChecked
import GoSem.Claim
import GoSem.ClaimJoined
import GoSem.ClaimMapViews
import Derived.JoinedTies
import Derived.KernelRfl
namespace Go.Proofs.Ytkncolgdjnhcoaa
/- THE CELL 'sum', in the pinned program and in every row, IS THE sha256 OF THE DUMP (.gsa) THAT YtkncolgdjnhcoaaProg.lean LOADS. Nothing in Lean hashes anything: it is a label: what it is worth is what the hold of that sum in a sandbox is worth. -/
noncomputable def Try.pinned : Pinned := { name := "ytkncolgdjnhcoaa", sum := "e063c3633cc3330bb490e68fe612457fd2a8888529cdce20b964dd438ba7bb50", checked := Try.checked }
namespace Rows
def none {H : Type} : Left H := { results := [], args := [] }

/-- 'wlvlaw14.LifeTells': WHATEVER THE INPUT: true; the input reads as it did. -/
def lifeTellsSpec : ChangeSpec := { name := "lifeTells", fn := fun _ => fun
  | [d1, d2, d3] => { results := [.lit (.bool true)], args := [d1, d2, d3] }
  | _ => none }
def lifeTellsRow : OpenClaim := { program := "ytkncolgdjnhcoaa", sum := "e063c3633cc3330bb490e68fe612457fd2a8888529cdce20b964dd438ba7bb50", func := "wayleave/wlvlaw14.LifeTells", spec := "lifeTells", apart := false }
def LifeTellsSaid : Prop := lifeTellsRow.holds Try.pinned (OpenSpec.ofChange lifeTellsSpec)

/-- ITS FALSE NEIGHBOUR: 'it returns false'. Refute it at one input. -/
def lifeTellsWrong : ChangeSpec := { name := "lifeTells", fn := fun _ => fun
  | [d1, d2, d3] => { results := [.lit (.bool false)], args := [d1, d2, d3] }
  | _ => none }
def LifeTellsWrongFalsely : Prop := lifeTellsRow.holds Try.pinned (OpenSpec.ofChange lifeTellsWrong)

/-- 'wlvlaw14.LifeEnds': WHATEVER THE INPUT: true; the input reads as it did. -/
def lifeEndsSpec : ChangeSpec := { name := "lifeEnds", fn := fun _ => fun
  | [d] => { results := [.lit (.bool true)], args := [d] }
  | _ => none }
def lifeEndsRow : OpenClaim := { program := "ytkncolgdjnhcoaa", sum := "e063c3633cc3330bb490e68fe612457fd2a8888529cdce20b964dd438ba7bb50", func := "wayleave/wlvlaw14.LifeEnds", spec := "lifeEnds", apart := false }
def LifeEndsSaid : Prop := lifeEndsRow.holds Try.pinned (OpenSpec.ofChange lifeEndsSpec)

/-- ITS FALSE NEIGHBOUR: 'it returns false'. Refute it at one input. -/
def lifeEndsWrong : ChangeSpec := { name := "lifeEnds", fn := fun _ => fun
  | [d] => { results := [.lit (.bool false)], args := [d] }
  | _ => none }
def LifeEndsWrongFalsely : Prop := lifeEndsRow.holds Try.pinned (OpenSpec.ofChange lifeEndsWrong)

/-- 'wlvlaw14.LifePairs': WHATEVER THE INPUT: true; the input reads as it did. -/
def lifePairsSpec : ChangeSpec := { name := "lifePairs", fn := fun _ => fun
  | [d1, d2, d3] => { results := [.lit (.bool true)], args := [d1, d2, d3] }
  | _ => none }
def lifePairsRow : OpenClaim := { program := "ytkncolgdjnhcoaa", sum := "e063c3633cc3330bb490e68fe612457fd2a8888529cdce20b964dd438ba7bb50", func := "wayleave/wlvlaw14.LifePairs", spec := "lifePairs", apart := false }
def LifePairsSaid : Prop := lifePairsRow.holds Try.pinned (OpenSpec.ofChange lifePairsSpec)

/-- ITS FALSE NEIGHBOUR: 'it returns false'. Refute it at one input. -/
def lifePairsWrong : ChangeSpec := { name := "lifePairs", fn := fun _ => fun
  | [d1, d2, d3] => { results := [.lit (.bool false)], args := [d1, d2, d3] }
  | _ => none }
def LifePairsWrongFalsely : Prop := lifePairsRow.holds Try.pinned (OpenSpec.ofChange lifePairsWrong)

/-- 'wlvlaw14.LifeIdle': WHATEVER THE INPUT: true; the input reads as it did. -/
def lifeIdleSpec : ChangeSpec := { name := "lifeIdle", fn := fun _ => fun
  | [d1, d2] => { results := [.lit (.bool true)], args := [d1, d2] }
  | _ => none }
def lifeIdleRow : OpenClaim := { program := "ytkncolgdjnhcoaa", sum := "e063c3633cc3330bb490e68fe612457fd2a8888529cdce20b964dd438ba7bb50", func := "wayleave/wlvlaw14.LifeIdle", spec := "lifeIdle", apart := false }
def LifeIdleSaid : Prop := lifeIdleRow.holds Try.pinned (OpenSpec.ofChange lifeIdleSpec)

/-- ITS FALSE NEIGHBOUR: 'it returns false'. Refute it at one input. -/
def lifeIdleWrong : ChangeSpec := { name := "lifeIdle", fn := fun _ => fun
  | [d1, d2] => { results := [.lit (.bool false)], args := [d1, d2] }
  | _ => none }
def LifeIdleWrongFalsely : Prop := lifeIdleRow.holds Try.pinned (OpenSpec.ofChange lifeIdleWrong)

/- THE SECOND FORM. 'bulk': how many values and letters a reading holds, each counted each time it is reached (what is shared counts as often as it is met; a slice's spare places count too). A statement '..UptoSaid' is the law's where the arguments, and the package variables that the reading takes, are together of bulk at most 1048576: NARROWER than '..Said'. Prove '..Said' where nothing that the law and all that it calls make is longer than what came in: it says more and counts as full. Else prove '..UptoSaid'. A law counts once. -/
mutual
def uptoBulk {H : Type} : DataW H → Nat
  | .lit (.string bytes) => bytes.length + 1
  | .lit _ => 1
  | .nil => 1
  | .ptr d => uptoBulk d + 1
  | .slice elems spare => uptoBulkAll elems + uptoBulkAll spare + 1
  | .agg parts => uptoBulkAll parts + 1
  | .iface _ d => uptoBulk d + 1
  | .map entries => uptoBulkEntries entries + 1
  | .held _ => 1
def uptoBulkAll {H : Type} : List (DataW H) → Nat
  | [] => 0
  | d :: r => uptoBulk d + uptoBulkAll r
def uptoBulkEntries {H : Type} : List (Lit × DataW H) → Nat
  | [] => 0
  | x :: r => uptoBulkEntry x + uptoBulkEntries r
def uptoBulkEntry {H : Type} : Lit × DataW H → Nat
  | (.string bytes, d) => bytes.length + uptoBulk d + 1
  | (_, d) => uptoBulk d + 1
 end
def uptoSmall : (H : Type) → List (DataW H) → Bool := fun _ ds => decide (uptoBulkAll ds ≤ 1048576)
def OpenSpec.upto (s : _root_.Go.ChangeSpec) : _root_.Go.OpenSpec := { _root_.Go.OpenSpec.ofChange s with cond := some uptoSmall }

/-- 'wlvlaw14.LifeTells', WHERE WHAT IT READS IS OF BULK AT MOST 1048576: true; the input reads as it did. -/
def lifeTellsUptoRow : OpenClaim := { program := "ytkncolgdjnhcoaa", sum := "e063c3633cc3330bb490e68fe612457fd2a8888529cdce20b964dd438ba7bb50", func := "wayleave/wlvlaw14.LifeTells", spec := "lifeTells", apart := false, narrowed := true }
def LifeTellsUptoSaid : Prop := lifeTellsUptoRow.holds Try.pinned (OpenSpec.upto lifeTellsSpec)

/-- 'wlvlaw14.LifeEnds', WHERE WHAT IT READS IS OF BULK AT MOST 1048576: true; the input reads as it did. -/
def lifeEndsUptoRow : OpenClaim := { program := "ytkncolgdjnhcoaa", sum := "e063c3633cc3330bb490e68fe612457fd2a8888529cdce20b964dd438ba7bb50", func := "wayleave/wlvlaw14.LifeEnds", spec := "lifeEnds", apart := false, narrowed := true }
def LifeEndsUptoSaid : Prop := lifeEndsUptoRow.holds Try.pinned (OpenSpec.upto lifeEndsSpec)

/-- 'wlvlaw14.LifePairs', WHERE WHAT IT READS IS OF BULK AT MOST 1048576: true; the input reads as it did. -/
def lifePairsUptoRow : OpenClaim := { program := "ytkncolgdjnhcoaa", sum := "e063c3633cc3330bb490e68fe612457fd2a8888529cdce20b964dd438ba7bb50", func := "wayleave/wlvlaw14.LifePairs", spec := "lifePairs", apart := false, narrowed := true }
def LifePairsUptoSaid : Prop := lifePairsUptoRow.holds Try.pinned (OpenSpec.upto lifePairsSpec)

/-- 'wlvlaw14.LifeIdle', WHERE WHAT IT READS IS OF BULK AT MOST 1048576: true; the input reads as it did. -/
def lifeIdleUptoRow : OpenClaim := { program := "ytkncolgdjnhcoaa", sum := "e063c3633cc3330bb490e68fe612457fd2a8888529cdce20b964dd438ba7bb50", func := "wayleave/wlvlaw14.LifeIdle", spec := "lifeIdle", apart := false, narrowed := true }
def LifeIdleUptoSaid : Prop := lifeIdleUptoRow.holds Try.pinned (OpenSpec.upto lifeIdleSpec)

end Rows
end Go.Proofs.Ytkncolgdjnhcoaa
