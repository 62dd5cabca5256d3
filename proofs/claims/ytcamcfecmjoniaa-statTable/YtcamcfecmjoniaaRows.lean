/-
  No cell of these rows narrows 'for every input' (looked for: loops, veiled, ifaces, maps, wideKeys, modest, calm, conditions, laid).
  DERIVED. THE GIVEN ROWS OF THIS SEAT. 4 by the template 'for every input the law returns true; each argument reads behind the call as it read before'; 0 by the template 'total and deterministic' (their statements: YtcamcfecmjoniaaTotals.lean).
  GIVEN WITH THE SEED: the statements are not yours to turn. If you find one false, say at which input.
  Laid BY PROGRAM, IN A SANDBOX (cutbox-rows.mjs): the forced cells as the released guide's own fill.sh prints them over the translation 77ded9c89b8604d2… (all of the seat's roots in one cut). By AI agents, Wed Nov 11 2026. No macro, syntax, notation, axiom, sorry.
-/
import Derived.Test.YtcamcfecmjoniaaChecked
import GoSem.Claim
import GoSem.ClaimJoined
import GoSem.ClaimMapViews
import Derived.JoinedTies
import Derived.KernelRfl
namespace Go.Proofs.Ytcamcfecmjoniaa
/- THE CELL 'sum', in the pinned program and in every row, IS THE sha256 OF THE DUMP (.gsa) THAT YtcamcfecmjoniaaProg.lean LOADS. Nothing in Lean hashes anything: it is a label: what it is worth is what the hold of that sum in a sandbox is worth. -/
noncomputable def Try.pinned : Pinned := { name := "ytcamcfecmjoniaa", sum := "77ded9c89b8604d2e3f9da898c3c8f1a3e2e117fc3f5b60faa8be269626518d9", checked := Try.checked }
namespace Rows
def none {H : Type} : Left H := { results := [], args := [] }

/-- 'wlvlaw6.StatTells': WHATEVER THE INPUT: true; the input reads as it did. -/
def statTellsSpec : ChangeSpec := { name := "statTells", fn := fun _ => fun
  | [d1, d2, d3] => { results := [.lit (.bool true)], args := [d1, d2, d3] }
  | _ => none }
def statTellsRow : OpenClaim := { program := "ytcamcfecmjoniaa", sum := "77ded9c89b8604d2e3f9da898c3c8f1a3e2e117fc3f5b60faa8be269626518d9", func := "wayleave/wlvlaw6.StatTells", spec := "statTells", unfollowed := true, recurses := true, apart := false }
def StatTellsSaid : Prop := statTellsRow.holds Try.pinned (OpenSpec.ofChange statTellsSpec)

/-- ITS FALSE NEIGHBOUR: 'it returns false'. Refute it at one input. -/
def statTellsWrong : ChangeSpec := { name := "statTells", fn := fun _ => fun
  | [d1, d2, d3] => { results := [.lit (.bool false)], args := [d1, d2, d3] }
  | _ => none }
def StatTellsWrongFalsely : Prop := statTellsRow.holds Try.pinned (OpenSpec.ofChange statTellsWrong)

/-- 'wlvlaw6.StatFinds': WHATEVER THE INPUT: true; the input reads as it did. -/
def statFindsSpec : ChangeSpec := { name := "statFinds", fn := fun _ => fun
  | [d1, d2] => { results := [.lit (.bool true)], args := [d1, d2] }
  | _ => none }
def statFindsRow : OpenClaim := { program := "ytcamcfecmjoniaa", sum := "77ded9c89b8604d2e3f9da898c3c8f1a3e2e117fc3f5b60faa8be269626518d9", func := "wayleave/wlvlaw6.StatFinds", spec := "statFinds", apart := false }
def StatFindsSaid : Prop := statFindsRow.holds Try.pinned (OpenSpec.ofChange statFindsSpec)

/-- ITS FALSE NEIGHBOUR: 'it returns false'. Refute it at one input. -/
def statFindsWrong : ChangeSpec := { name := "statFinds", fn := fun _ => fun
  | [d1, d2] => { results := [.lit (.bool false)], args := [d1, d2] }
  | _ => none }
def StatFindsWrongFalsely : Prop := statFindsRow.holds Try.pinned (OpenSpec.ofChange statFindsWrong)

/-- 'wlvlaw6.StatSizes': WHATEVER THE INPUT: true; the input reads as it did. -/
def statSizesSpec : ChangeSpec := { name := "statSizes", fn := fun _ => fun
  | [d1, d2] => { results := [.lit (.bool true)], args := [d1, d2] }
  | _ => none }
def statSizesRow : OpenClaim := { program := "ytcamcfecmjoniaa", sum := "77ded9c89b8604d2e3f9da898c3c8f1a3e2e117fc3f5b60faa8be269626518d9", func := "wayleave/wlvlaw6.StatSizes", spec := "statSizes", unfollowed := true, recurses := true, apart := false }
def StatSizesSaid : Prop := statSizesRow.holds Try.pinned (OpenSpec.ofChange statSizesSpec)

/-- ITS FALSE NEIGHBOUR: 'it returns false'. Refute it at one input. -/
def statSizesWrong : ChangeSpec := { name := "statSizes", fn := fun _ => fun
  | [d1, d2] => { results := [.lit (.bool false)], args := [d1, d2] }
  | _ => none }
def StatSizesWrongFalsely : Prop := statSizesRow.holds Try.pinned (OpenSpec.ofChange statSizesWrong)

/-- 'wlvlaw6.StatTable': WHATEVER THE INPUT: true; the input reads as it did. -/
def statTableSpec : ChangeSpec := { name := "statTable", fn := fun _ => fun
  | [d] => { results := [.lit (.bool true)], args := [d] }
  | _ => none }
def statTableRow : OpenClaim := { program := "ytcamcfecmjoniaa", sum := "77ded9c89b8604d2e3f9da898c3c8f1a3e2e117fc3f5b60faa8be269626518d9", func := "wayleave/wlvlaw6.StatTable", spec := "statTable", apart := false }
def StatTableSaid : Prop := statTableRow.holds Try.pinned (OpenSpec.ofChange statTableSpec)

/-- ITS FALSE NEIGHBOUR: 'it returns false'. Refute it at one input. -/
def statTableWrong : ChangeSpec := { name := "statTable", fn := fun _ => fun
  | [d] => { results := [.lit (.bool false)], args := [d] }
  | _ => none }
def StatTableWrongFalsely : Prop := statTableRow.holds Try.pinned (OpenSpec.ofChange statTableWrong)

/- THE SECOND FORM. 'bulk': how many values and letters a reading holds, each counted each time it is reached (what is shared counts as often as it is met; a slice's spare places count too). A statement '..UptoSaid' is the law's where the arguments, and the package variables that the reading takes, are together of bulk at most 1048576: NARROWER than '..Said'. Prove '..Said' where nothing that the law and all that it calls make is longer than what came in: it says more and counts as full. Else prove '..UptoSaid'. A law counts once. -/
mutual
def uptoBulk {H : Type} : DataW H → Nat
  | .lit (.string bytes) => bytes.length + 1
  | .lit _ => 1
  | .nil => 1
  | .ptr d => uptoBulk d + 1
  | .slice elems spare => uptoBulkAll elems + uptoBulkAll spare + 1
  | .agg parts => uptoBulkAll parts + 1
  | .iface _ d => uptoBulk d + 1
  | .map entries => uptoBulkEntries entries + 1
  | .held _ => 1
def uptoBulkAll {H : Type} : List (DataW H) → Nat
  | [] => 0
  | d :: r => uptoBulk d + uptoBulkAll r
def uptoBulkEntries {H : Type} : List (Lit × DataW H) → Nat
  | [] => 0
  | x :: r => uptoBulkEntry x + uptoBulkEntries r
def uptoBulkEntry {H : Type} : Lit × DataW H → Nat
  | (.string bytes, d) => bytes.length + uptoBulk d + 1
  | (_, d) => uptoBulk d + 1
 end
def uptoSmall : (H : Type) → List (DataW H) → Bool := fun _ ds => decide (uptoBulkAll ds ≤ 1048576)
def OpenSpec.upto (s : _root_.Go.ChangeSpec) : _root_.Go.OpenSpec := { _root_.Go.OpenSpec.ofChange s with cond := some uptoSmall }

/-- 'wlvlaw6.StatTells', WHERE WHAT IT READS IS OF BULK AT MOST 1048576: true; the input reads as it did. -/
def statTellsUptoRow : OpenClaim := { program := "ytcamcfecmjoniaa", sum := "77ded9c89b8604d2e3f9da898c3c8f1a3e2e117fc3f5b60faa8be269626518d9", func := "wayleave/wlvlaw6.StatTells", spec := "statTells", unfollowed := true, recurses := true, apart := false, narrowed := true }
def StatTellsUptoSaid : Prop := statTellsUptoRow.holds Try.pinned (OpenSpec.upto statTellsSpec)

/-- 'wlvlaw6.StatFinds', WHERE WHAT IT READS IS OF BULK AT MOST 1048576: true; the input reads as it did. -/
def statFindsUptoRow : OpenClaim := { program := "ytcamcfecmjoniaa", sum := "77ded9c89b8604d2e3f9da898c3c8f1a3e2e117fc3f5b60faa8be269626518d9", func := "wayleave/wlvlaw6.StatFinds", spec := "statFinds", apart := false, narrowed := true }
def StatFindsUptoSaid : Prop := statFindsUptoRow.holds Try.pinned (OpenSpec.upto statFindsSpec)

/-- 'wlvlaw6.StatSizes', WHERE WHAT IT READS IS OF BULK AT MOST 1048576: true; the input reads as it did. -/
def statSizesUptoRow : OpenClaim := { program := "ytcamcfecmjoniaa", sum := "77ded9c89b8604d2e3f9da898c3c8f1a3e2e117fc3f5b60faa8be269626518d9", func := "wayleave/wlvlaw6.StatSizes", spec := "statSizes", unfollowed := true, recurses := true, apart := false, narrowed := true }
def StatSizesUptoSaid : Prop := statSizesUptoRow.holds Try.pinned (OpenSpec.upto statSizesSpec)

/-- 'wlvlaw6.StatTable', WHERE WHAT IT READS IS OF BULK AT MOST 1048576: true; the input reads as it did. -/
def statTableUptoRow : OpenClaim := { program := "ytcamcfecmjoniaa", sum := "77ded9c89b8604d2e3f9da898c3c8f1a3e2e117fc3f5b60faa8be269626518d9", func := "wayleave/wlvlaw6.StatTable", spec := "statTable", apart := false, narrowed := true }
def StatTableUptoSaid : Prop := statTableUptoRow.holds Try.pinned (OpenSpec.upto statTableSpec)

end Rows
end Go.Proofs.Ytcamcfecmjoniaa
