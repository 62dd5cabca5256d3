/-
  No cell of these rows narrows 'for every input' (looked for: loops, veiled, ifaces, maps, wideKeys, modest, calm, conditions, laid).
  DERIVED. THE GIVEN ROWS OF THIS SEAT. 4 by the template 'for every input the law returns true; each argument reads behind the call as it read before'; 0 by the template 'total and deterministic' (their statements: YtidajbmbadgnmaaTotals.lean).
  GIVEN WITH THE SEED: the statements are not yours to turn. If you find one false, say at which input.
  Laid BY PROGRAM, IN A SANDBOX (cutbox-rows.mjs): the forced cells as the released guide's own fill.sh prints them over the translation 0d7b3bb4e2616154… (all of the seat's roots in one cut). By AI agents, Wed Nov 11 2026. No macro, syntax, notation, axiom, sorry.
-/
import Derived.Test.YtidajbmbadgnmaaChecked
import GoSem.Claim
import GoSem.ClaimJoined
import GoSem.ClaimMapViews
import Derived.JoinedTies
import Derived.KernelRfl
namespace Go.Proofs.Ytidajbmbadgnmaa
/- THE CELL 'sum', in the pinned program and in every row, IS THE sha256 OF THE DUMP (.gsa) THAT YtidajbmbadgnmaaProg.lean LOADS. Nothing in Lean hashes anything: it is a label: what it is worth is what the hold of that sum in a sandbox is worth. -/
noncomputable def Try.pinned : Pinned := { name := "ytidajbmbadgnmaa", sum := "0d7b3bb4e26161541ba654d641d28be16dfa624fa682d0ab066fd6fbb16f564c", checked := Try.checked }
namespace Rows
def none {H : Type} : Left H := { results := [], args := [] }

/-- 'wlvlaw2.B64Tells': WHATEVER THE INPUT: true; the input reads as it did. -/
def b64TellsSpec : ChangeSpec := { name := "b64Tells", fn := fun _ => fun
  | [d1, d2] => { results := [.lit (.bool true)], args := [d1, d2] }
  | _ => none }
def b64TellsRow : OpenClaim := { program := "ytidajbmbadgnmaa", sum := "0d7b3bb4e26161541ba654d641d28be16dfa624fa682d0ab066fd6fbb16f564c", func := "wayleave/wlvlaw2.B64Tells", spec := "b64Tells", inPlace := ["internal/bytealg.IndexByteString"], apart := false }
def B64TellsSaid : Prop := b64TellsRow.holds Try.pinned (OpenSpec.ofChange b64TellsSpec)

/-- ITS FALSE NEIGHBOUR: 'it returns false'. Refute it at one input. -/
def b64TellsWrong : ChangeSpec := { name := "b64Tells", fn := fun _ => fun
  | [d1, d2] => { results := [.lit (.bool false)], args := [d1, d2] }
  | _ => none }
def B64TellsWrongFalsely : Prop := b64TellsRow.holds Try.pinned (OpenSpec.ofChange b64TellsWrong)

/-- 'wlvlaw2.B64Back': WHATEVER THE INPUT: true; the input reads as it did. -/
def b64BackSpec : ChangeSpec := { name := "b64Back", fn := fun _ => fun
  | [d1, d2] => { results := [.lit (.bool true)], args := [d1, d2] }
  | _ => none }
def b64BackRow : OpenClaim := { program := "ytidajbmbadgnmaa", sum := "0d7b3bb4e26161541ba654d641d28be16dfa624fa682d0ab066fd6fbb16f564c", func := "wayleave/wlvlaw2.B64Back", spec := "b64Back", inPlace := ["internal/bytealg.IndexByteString"], apart := false }
def B64BackSaid : Prop := b64BackRow.holds Try.pinned (OpenSpec.ofChange b64BackSpec)

/-- ITS FALSE NEIGHBOUR: 'it returns false'. Refute it at one input. -/
def b64BackWrong : ChangeSpec := { name := "b64Back", fn := fun _ => fun
  | [d1, d2] => { results := [.lit (.bool false)], args := [d1, d2] }
  | _ => none }
def B64BackWrongFalsely : Prop := b64BackRow.holds Try.pinned (OpenSpec.ofChange b64BackWrong)

/-- 'wlvlaw2.B64Joins': WHATEVER THE INPUT: true; the input reads as it did. -/
def b64JoinsSpec : ChangeSpec := { name := "b64Joins", fn := fun _ => fun
  | [d1, d2] => { results := [.lit (.bool true)], args := [d1, d2] }
  | _ => none }
def b64JoinsRow : OpenClaim := { program := "ytidajbmbadgnmaa", sum := "0d7b3bb4e26161541ba654d641d28be16dfa624fa682d0ab066fd6fbb16f564c", func := "wayleave/wlvlaw2.B64Joins", spec := "b64Joins", inPlace := ["internal/bytealg.IndexByteString"], apart := false }
def B64JoinsSaid : Prop := b64JoinsRow.holds Try.pinned (OpenSpec.ofChange b64JoinsSpec)

/-- ITS FALSE NEIGHBOUR: 'it returns false'. Refute it at one input. -/
def b64JoinsWrong : ChangeSpec := { name := "b64Joins", fn := fun _ => fun
  | [d1, d2] => { results := [.lit (.bool false)], args := [d1, d2] }
  | _ => none }
def B64JoinsWrongFalsely : Prop := b64JoinsRow.holds Try.pinned (OpenSpec.ofChange b64JoinsWrong)

/-- 'wlvlaw2.B64Signs': WHATEVER THE INPUT: true; the input reads as it did. -/
def b64SignsSpec : ChangeSpec := { name := "b64Signs", fn := fun _ => fun
  | [d1, d2, d3] => { results := [.lit (.bool true)], args := [d1, d2, d3] }
  | _ => none }
def b64SignsRow : OpenClaim := { program := "ytidajbmbadgnmaa", sum := "0d7b3bb4e26161541ba654d641d28be16dfa624fa682d0ab066fd6fbb16f564c", func := "wayleave/wlvlaw2.B64Signs", spec := "b64Signs", inPlace := ["internal/bytealg.IndexByteString"], apart := false }
def B64SignsSaid : Prop := b64SignsRow.holds Try.pinned (OpenSpec.ofChange b64SignsSpec)

/-- ITS FALSE NEIGHBOUR: 'it returns false'. Refute it at one input. -/
def b64SignsWrong : ChangeSpec := { name := "b64Signs", fn := fun _ => fun
  | [d1, d2, d3] => { results := [.lit (.bool false)], args := [d1, d2, d3] }
  | _ => none }
def B64SignsWrongFalsely : Prop := b64SignsRow.holds Try.pinned (OpenSpec.ofChange b64SignsWrong)

/- THE SECOND FORM. 'bulk': how many values and letters a reading holds, each counted each time it is reached (what is shared counts as often as it is met; a slice's spare places count too). A statement '..UptoSaid' is the law's where the arguments, and the package variables that the reading takes, are together of bulk at most 1048576: NARROWER than '..Said'. Prove '..Said' where nothing that the law and all that it calls make is longer than what came in: it says more and counts as full. Else prove '..UptoSaid'. A law counts once. -/
mutual
def uptoBulk {H : Type} : DataW H → Nat
  | .lit (.string bytes) => bytes.length + 1
  | .lit _ => 1
  | .nil => 1
  | .ptr d => uptoBulk d + 1
  | .slice elems spare => uptoBulkAll elems + uptoBulkAll spare + 1
  | .agg parts => uptoBulkAll parts + 1
  | .iface _ d => uptoBulk d + 1
  | .map entries => uptoBulkEntries entries + 1
  | .held _ => 1
def uptoBulkAll {H : Type} : List (DataW H) → Nat
  | [] => 0
  | d :: r => uptoBulk d + uptoBulkAll r
def uptoBulkEntries {H : Type} : List (Lit × DataW H) → Nat
  | [] => 0
  | x :: r => uptoBulkEntry x + uptoBulkEntries r
def uptoBulkEntry {H : Type} : Lit × DataW H → Nat
  | (.string bytes, d) => bytes.length + uptoBulk d + 1
  | (_, d) => uptoBulk d + 1
 end
def uptoSmall : (H : Type) → List (DataW H) → Bool := fun _ ds => decide (uptoBulkAll ds ≤ 1048576)
def OpenSpec.upto (s : _root_.Go.ChangeSpec) : _root_.Go.OpenSpec := { _root_.Go.OpenSpec.ofChange s with cond := some uptoSmall }

/-- 'wlvlaw2.B64Tells', WHERE WHAT IT READS IS OF BULK AT MOST 1048576: true; the input reads as it did. -/
def b64TellsUptoRow : OpenClaim := { program := "ytidajbmbadgnmaa", sum := "0d7b3bb4e26161541ba654d641d28be16dfa624fa682d0ab066fd6fbb16f564c", func := "wayleave/wlvlaw2.B64Tells", spec := "b64Tells", inPlace := ["internal/bytealg.IndexByteString"], apart := false, narrowed := true }
def B64TellsUptoSaid : Prop := b64TellsUptoRow.holds Try.pinned (OpenSpec.upto b64TellsSpec)

/-- 'wlvlaw2.B64Back', WHERE WHAT IT READS IS OF BULK AT MOST 1048576: true; the input reads as it did. -/
def b64BackUptoRow : OpenClaim := { program := "ytidajbmbadgnmaa", sum := "0d7b3bb4e26161541ba654d641d28be16dfa624fa682d0ab066fd6fbb16f564c", func := "wayleave/wlvlaw2.B64Back", spec := "b64Back", inPlace := ["internal/bytealg.IndexByteString"], apart := false, narrowed := true }
def B64BackUptoSaid : Prop := b64BackUptoRow.holds Try.pinned (OpenSpec.upto b64BackSpec)

/-- 'wlvlaw2.B64Joins', WHERE WHAT IT READS IS OF BULK AT MOST 1048576: true; the input reads as it did. -/
def b64JoinsUptoRow : OpenClaim := { program := "ytidajbmbadgnmaa", sum := "0d7b3bb4e26161541ba654d641d28be16dfa624fa682d0ab066fd6fbb16f564c", func := "wayleave/wlvlaw2.B64Joins", spec := "b64Joins", inPlace := ["internal/bytealg.IndexByteString"], apart := false, narrowed := true }
def B64JoinsUptoSaid : Prop := b64JoinsUptoRow.holds Try.pinned (OpenSpec.upto b64JoinsSpec)

/-- 'wlvlaw2.B64Signs', WHERE WHAT IT READS IS OF BULK AT MOST 1048576: true; the input reads as it did. -/
def b64SignsUptoRow : OpenClaim := { program := "ytidajbmbadgnmaa", sum := "0d7b3bb4e26161541ba654d641d28be16dfa624fa682d0ab066fd6fbb16f564c", func := "wayleave/wlvlaw2.B64Signs", spec := "b64Signs", inPlace := ["internal/bytealg.IndexByteString"], apart := false, narrowed := true }
def B64SignsUptoSaid : Prop := b64SignsUptoRow.holds Try.pinned (OpenSpec.upto b64SignsSpec)

end Rows
end Go.Proofs.Ytidajbmbadgnmaa
