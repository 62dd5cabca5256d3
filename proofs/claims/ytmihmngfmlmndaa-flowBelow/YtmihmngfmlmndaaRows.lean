/-
  No cell of these rows narrows 'for every input' (looked for: loops, veiled, ifaces, maps, wideKeys, modest, calm, conditions, laid).
  DERIVED. THE GIVEN ROWS OF THIS SEAT. 4 by the template 'for every input the law returns true; each argument reads behind the call as it read before'; 0 by the template 'total and deterministic' (their statements: YtmihmngfmlmndaaTotals.lean).
  GIVEN WITH THE SEED: the statements are not yours to turn. If you find one false, say at which input.
  Laid BY PROGRAM, IN A SANDBOX (cutbox-rows.mjs): the forced cells as the released guide's own fill.sh prints them over the translation c445eb51d3dee005… (all of the seat's roots in one cut). By AI agents, Wed Nov 11 2026. No macro, syntax, notation, axiom, sorry.
-/
import Derived.Test.YtmihmngfmlmndaaChecked
import GoSem.Claim
import GoSem.ClaimJoined
import GoSem.ClaimMapViews
import Derived.JoinedTies
import Derived.KernelRfl
namespace Go.Proofs.Ytmihmngfmlmndaa
/- THE CELL 'sum', in the pinned program and in every row, IS THE sha256 OF THE DUMP (.gsa) THAT YtmihmngfmlmndaaProg.lean LOADS. Nothing in Lean hashes anything: it is a label: what it is worth is what the hold of that sum in a sandbox is worth. -/
noncomputable def Try.pinned : Pinned := { name := "ytmihmngfmlmndaa", sum := "c445eb51d3dee005d7ddafc2da45f6e5018d580bba5feb4b98ddb760cacc801d", checked := Try.checked }
namespace Rows
def none {H : Type} : Left H := { results := [], args := [] }

/-- 'wlvlaw12.FlowBack': WHATEVER THE INPUT: true; the input reads as it did. -/
def flowBackSpec : ChangeSpec := { name := "flowBack", fn := fun _ => fun
  | [d1, d2, d3, d4] => { results := [.lit (.bool true)], args := [d1, d2, d3, d4] }
  | _ => none }
def flowBackRow : OpenClaim := { program := "ytmihmngfmlmndaa", sum := "c445eb51d3dee005d7ddafc2da45f6e5018d580bba5feb4b98ddb760cacc801d", func := "wayleave/wlvlaw12.FlowBack", spec := "flowBack", inPlace := ["math.archTrunc", "math.Float64bits", "math.Float64frombits"], apart := false }
def FlowBackSaid : Prop := flowBackRow.holds Try.pinned (OpenSpec.ofChange flowBackSpec)

/-- ITS FALSE NEIGHBOUR: 'it returns false'. Refute it at one input. -/
def flowBackWrong : ChangeSpec := { name := "flowBack", fn := fun _ => fun
  | [d1, d2, d3, d4] => { results := [.lit (.bool false)], args := [d1, d2, d3, d4] }
  | _ => none }
def FlowBackWrongFalsely : Prop := flowBackRow.holds Try.pinned (OpenSpec.ofChange flowBackWrong)

/-- 'wlvlaw12.FlowMany': WHATEVER THE INPUT: true; the input reads as it did. -/
def flowManySpec : ChangeSpec := { name := "flowMany", fn := fun _ => fun
  | [d1, d2, d3] => { results := [.lit (.bool true)], args := [d1, d2, d3] }
  | _ => none }
def flowManyRow : OpenClaim := { program := "ytmihmngfmlmndaa", sum := "c445eb51d3dee005d7ddafc2da45f6e5018d580bba5feb4b98ddb760cacc801d", func := "wayleave/wlvlaw12.FlowMany", spec := "flowMany", inPlace := ["math.archTrunc", "math.Float64bits", "math.Float64frombits"], apart := false }
def FlowManySaid : Prop := flowManyRow.holds Try.pinned (OpenSpec.ofChange flowManySpec)

/-- ITS FALSE NEIGHBOUR: 'it returns false'. Refute it at one input. -/
def flowManyWrong : ChangeSpec := { name := "flowMany", fn := fun _ => fun
  | [d1, d2, d3] => { results := [.lit (.bool false)], args := [d1, d2, d3] }
  | _ => none }
def FlowManyWrongFalsely : Prop := flowManyRow.holds Try.pinned (OpenSpec.ofChange flowManyWrong)

/-- 'wlvlaw12.FlowTops': WHATEVER THE INPUT: true; the input reads as it did. -/
def flowTopsSpec : ChangeSpec := { name := "flowTops", fn := fun _ => fun
  | [d1, d2, d3, d4] => { results := [.lit (.bool true)], args := [d1, d2, d3, d4] }
  | _ => none }
def flowTopsRow : OpenClaim := { program := "ytmihmngfmlmndaa", sum := "c445eb51d3dee005d7ddafc2da45f6e5018d580bba5feb4b98ddb760cacc801d", func := "wayleave/wlvlaw12.FlowTops", spec := "flowTops", inPlace := ["math.archTrunc", "math.Float64bits", "math.Float64frombits"], apart := false }
def FlowTopsSaid : Prop := flowTopsRow.holds Try.pinned (OpenSpec.ofChange flowTopsSpec)

/-- ITS FALSE NEIGHBOUR: 'it returns false'. Refute it at one input. -/
def flowTopsWrong : ChangeSpec := { name := "flowTops", fn := fun _ => fun
  | [d1, d2, d3, d4] => { results := [.lit (.bool false)], args := [d1, d2, d3, d4] }
  | _ => none }
def FlowTopsWrongFalsely : Prop := flowTopsRow.holds Try.pinned (OpenSpec.ofChange flowTopsWrong)

/-- 'wlvlaw12.FlowBelow': WHATEVER THE INPUT: true; the input reads as it did. -/
def flowBelowSpec : ChangeSpec := { name := "flowBelow", fn := fun _ => fun
  | [d1, d2, d3] => { results := [.lit (.bool true)], args := [d1, d2, d3] }
  | _ => none }
def flowBelowRow : OpenClaim := { program := "ytmihmngfmlmndaa", sum := "c445eb51d3dee005d7ddafc2da45f6e5018d580bba5feb4b98ddb760cacc801d", func := "wayleave/wlvlaw12.FlowBelow", spec := "flowBelow", inPlace := ["math.archTrunc", "math.Float64bits", "math.Float64frombits"], apart := false }
def FlowBelowSaid : Prop := flowBelowRow.holds Try.pinned (OpenSpec.ofChange flowBelowSpec)

/-- ITS FALSE NEIGHBOUR: 'it returns false'. Refute it at one input. -/
def flowBelowWrong : ChangeSpec := { name := "flowBelow", fn := fun _ => fun
  | [d1, d2, d3] => { results := [.lit (.bool false)], args := [d1, d2, d3] }
  | _ => none }
def FlowBelowWrongFalsely : Prop := flowBelowRow.holds Try.pinned (OpenSpec.ofChange flowBelowWrong)

/- THE SECOND FORM. 'bulk': how many values and letters a reading holds, each counted each time it is reached (what is shared counts as often as it is met; a slice's spare places count too). A statement '..UptoSaid' is the law's where the arguments, and the package variables that the reading takes, are together of bulk at most 1048576: NARROWER than '..Said'. Prove '..Said' where nothing that the law and all that it calls make is longer than what came in: it says more and counts as full. Else prove '..UptoSaid'. A law counts once. -/
mutual
def uptoBulk {H : Type} : DataW H → Nat
  | .lit (.string bytes) => bytes.length + 1
  | .lit _ => 1
  | .nil => 1
  | .ptr d => uptoBulk d + 1
  | .slice elems spare => uptoBulkAll elems + uptoBulkAll spare + 1
  | .agg parts => uptoBulkAll parts + 1
  | .iface _ d => uptoBulk d + 1
  | .map entries => uptoBulkEntries entries + 1
  | .held _ => 1
def uptoBulkAll {H : Type} : List (DataW H) → Nat
  | [] => 0
  | d :: r => uptoBulk d + uptoBulkAll r
def uptoBulkEntries {H : Type} : List (Lit × DataW H) → Nat
  | [] => 0
  | x :: r => uptoBulkEntry x + uptoBulkEntries r
def uptoBulkEntry {H : Type} : Lit × DataW H → Nat
  | (.string bytes, d) => bytes.length + uptoBulk d + 1
  | (_, d) => uptoBulk d + 1
 end
def uptoSmall : (H : Type) → List (DataW H) → Bool := fun _ ds => decide (uptoBulkAll ds ≤ 1048576)
def OpenSpec.upto (s : _root_.Go.ChangeSpec) : _root_.Go.OpenSpec := { _root_.Go.OpenSpec.ofChange s with cond := some uptoSmall }

/-- 'wlvlaw12.FlowBack', WHERE WHAT IT READS IS OF BULK AT MOST 1048576: true; the input reads as it did. -/
def flowBackUptoRow : OpenClaim := { program := "ytmihmngfmlmndaa", sum := "c445eb51d3dee005d7ddafc2da45f6e5018d580bba5feb4b98ddb760cacc801d", func := "wayleave/wlvlaw12.FlowBack", spec := "flowBack", inPlace := ["math.archTrunc", "math.Float64bits", "math.Float64frombits"], apart := false, narrowed := true }
def FlowBackUptoSaid : Prop := flowBackUptoRow.holds Try.pinned (OpenSpec.upto flowBackSpec)

/-- 'wlvlaw12.FlowMany', WHERE WHAT IT READS IS OF BULK AT MOST 1048576: true; the input reads as it did. -/
def flowManyUptoRow : OpenClaim := { program := "ytmihmngfmlmndaa", sum := "c445eb51d3dee005d7ddafc2da45f6e5018d580bba5feb4b98ddb760cacc801d", func := "wayleave/wlvlaw12.FlowMany", spec := "flowMany", inPlace := ["math.archTrunc", "math.Float64bits", "math.Float64frombits"], apart := false, narrowed := true }
def FlowManyUptoSaid : Prop := flowManyUptoRow.holds Try.pinned (OpenSpec.upto flowManySpec)

/-- 'wlvlaw12.FlowTops', WHERE WHAT IT READS IS OF BULK AT MOST 1048576: true; the input reads as it did. -/
def flowTopsUptoRow : OpenClaim := { program := "ytmihmngfmlmndaa", sum := "c445eb51d3dee005d7ddafc2da45f6e5018d580bba5feb4b98ddb760cacc801d", func := "wayleave/wlvlaw12.FlowTops", spec := "flowTops", inPlace := ["math.archTrunc", "math.Float64bits", "math.Float64frombits"], apart := false, narrowed := true }
def FlowTopsUptoSaid : Prop := flowTopsUptoRow.holds Try.pinned (OpenSpec.upto flowTopsSpec)

/-- 'wlvlaw12.FlowBelow', WHERE WHAT IT READS IS OF BULK AT MOST 1048576: true; the input reads as it did. -/
def flowBelowUptoRow : OpenClaim := { program := "ytmihmngfmlmndaa", sum := "c445eb51d3dee005d7ddafc2da45f6e5018d580bba5feb4b98ddb760cacc801d", func := "wayleave/wlvlaw12.FlowBelow", spec := "flowBelow", inPlace := ["math.archTrunc", "math.Float64bits", "math.Float64frombits"], apart := false, narrowed := true }
def FlowBelowUptoSaid : Prop := flowBelowUptoRow.holds Try.pinned (OpenSpec.upto flowBelowSpec)

end Rows
end Go.Proofs.Ytmihmngfmlmndaa
