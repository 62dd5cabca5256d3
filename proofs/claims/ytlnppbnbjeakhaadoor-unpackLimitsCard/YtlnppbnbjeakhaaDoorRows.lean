/-
  NARROWER THAN 'FOR EVERY INPUT', by the rows' own cells (each row's printed sentence says how): UnpackPlays: laid · UnpackTable: laid · UnpackStatic: laid · UnpackAdds: laid · UnpackLimits: laid.
  DERIVED. THE GIVEN ROWS OF THIS SEAT. 5 by the template 'for every input the law returns true; each argument reads behind the call as it read before'; 0 by the template 'total and deterministic' (their statements: YtlnppbnbjeakhaaDoorTotals.lean).
  GIVEN WITH THE SEED: the statements are not yours to turn. If you find one false, say at which input.
  Laid BY PROGRAM, IN A SANDBOX (cutbox-rows.mjs): the forced cells as the released guide's own fill.sh prints them over the translation a19436d1f0163a05… (all of the seat's roots in one cut). By AI agents, Wed Nov 11 2026. No macro, syntax, notation, axiom, sorry.
-/
import Derived.Test.YtlnppbnbjeakhaaDoorChecked
import GoSem.Claim
import GoSem.ClaimJoined
import GoSem.ClaimMapViews
import Derived.JoinedTies
import Derived.KernelRfl
namespace Go.Proofs.YtlnppbnbjeakhaaDoor
/- THE CELL 'sum', in the pinned program and in every row, IS THE sha256 OF THE DUMP (.gsa) THAT YtlnppbnbjeakhaaDoorProg.lean LOADS. Nothing in Lean hashes anything: it is a label: what it is worth is what the hold of that sum in a sandbox is worth. -/
noncomputable def Tryd.pinned : Pinned := { name := "ytlnppbnbjeakhaadoor", sum := "a19436d1f0163a05c65425968019288fa8e16f71625d8f05ff698ad8bdadf61e", checked := Tryd.checked }
namespace Rows
def none {H : Type} : Left H := { results := [], args := [] }

/- WHAT THE LISTED PACKAGE-LEVEL VARIABLES READ AS WHEN THE CALL BEGINS. Each datum BY PROGRAM (the guide's laid-datum.mjs) off the statement by which the dump's own 'gosem.cut.vars' lays the variable. In a bare row this is a premise. The card (YtlnppbnbjeakhaaDoorCards.lean) ties it to the program's text. -/
def laid_wayleave_huff_counts {H : Type} : DataW H := .agg [.lit (.int .i64 0), .lit (.int .i64 0), .lit (.int .i64 0), .lit (.int .i64 0), .lit (.int .i64 0), .lit (.int .i64 10), .lit (.int .i64 26), .lit (.int .i64 32), .lit (.int .i64 6), .lit (.int .i64 0), .lit (.int .i64 5), .lit (.int .i64 3), .lit (.int .i64 2), .lit (.int .i64 6), .lit (.int .i64 2), .lit (.int .i64 3), .lit (.int .i64 0), .lit (.int .i64 0), .lit (.int .i64 0), .lit (.int .i64 3), .lit (.int .i64 8), .lit (.int .i64 13), .lit (.int .i64 26), .lit (.int .i64 29), .lit (.int .i64 12), .lit (.int .i64 4), .lit (.int .i64 15), .lit (.int .i64 19), .lit (.int .i64 29), .lit (.int .i64 0), .lit (.int .i64 3)]

/-- 'wlvlaw8.UnpackPlays': WHATEVER THE INPUT: true; the input reads as it did. -/
def unpackPlaysSpec : ChangeSpec := { name := "unpackPlays", fn := fun _ => fun
  | [d1, d2] => { results := [.lit (.bool true)], args := [d1, d2] }
  | _ => none }
def unpackPlaysRow : OpenClaim := { program := "ytlnppbnbjeakhaadoor", sum := "a19436d1f0163a05c65425968019288fa8e16f71625d8f05ff698ad8bdadf61e", func := "wayleave/wlvlaw8.UnpackPlays", spec := "unpackPlays", named := ["wayleave/huff.counts"], apart := false, laid := [("wayleave/huff.counts", laid_wayleave_huff_counts)] }
def UnpackPlaysSaid : Prop := unpackPlaysRow.holds Tryd.pinned (OpenSpec.ofChange unpackPlaysSpec)

/-- ITS FALSE NEIGHBOUR: 'it returns false'. Refute it at one input. -/
def unpackPlaysWrong : ChangeSpec := { name := "unpackPlays", fn := fun _ => fun
  | [d1, d2] => { results := [.lit (.bool false)], args := [d1, d2] }
  | _ => none }
def UnpackPlaysWrongFalsely : Prop := unpackPlaysRow.holds Tryd.pinned (OpenSpec.ofChange unpackPlaysWrong)

/-- 'wlvlaw8.UnpackTable': WHATEVER THE INPUT: true; the input reads as it did. -/
def unpackTableSpec : ChangeSpec := { name := "unpackTable", fn := fun _ => fun
  | [d1, d2] => { results := [.lit (.bool true)], args := [d1, d2] }
  | _ => none }
def unpackTableRow : OpenClaim := { program := "ytlnppbnbjeakhaadoor", sum := "a19436d1f0163a05c65425968019288fa8e16f71625d8f05ff698ad8bdadf61e", func := "wayleave/wlvlaw8.UnpackTable", spec := "unpackTable", named := ["wayleave/huff.counts"], apart := false, laid := [("wayleave/huff.counts", laid_wayleave_huff_counts)] }
def UnpackTableSaid : Prop := unpackTableRow.holds Tryd.pinned (OpenSpec.ofChange unpackTableSpec)

/-- ITS FALSE NEIGHBOUR: 'it returns false'. Refute it at one input. -/
def unpackTableWrong : ChangeSpec := { name := "unpackTable", fn := fun _ => fun
  | [d1, d2] => { results := [.lit (.bool false)], args := [d1, d2] }
  | _ => none }
def UnpackTableWrongFalsely : Prop := unpackTableRow.holds Tryd.pinned (OpenSpec.ofChange unpackTableWrong)

/-- 'wlvlaw8.UnpackStatic': WHATEVER THE INPUT: true; the input reads as it did. -/
def unpackStaticSpec : ChangeSpec := { name := "unpackStatic", fn := fun _ => fun
  | [d] => { results := [.lit (.bool true)], args := [d] }
  | _ => none }
def unpackStaticRow : OpenClaim := { program := "ytlnppbnbjeakhaadoor", sum := "a19436d1f0163a05c65425968019288fa8e16f71625d8f05ff698ad8bdadf61e", func := "wayleave/wlvlaw8.UnpackStatic", spec := "unpackStatic", named := ["wayleave/huff.counts"], apart := false, laid := [("wayleave/huff.counts", laid_wayleave_huff_counts)] }
def UnpackStaticSaid : Prop := unpackStaticRow.holds Tryd.pinned (OpenSpec.ofChange unpackStaticSpec)

/-- ITS FALSE NEIGHBOUR: 'it returns false'. Refute it at one input. -/
def unpackStaticWrong : ChangeSpec := { name := "unpackStatic", fn := fun _ => fun
  | [d] => { results := [.lit (.bool false)], args := [d] }
  | _ => none }
def UnpackStaticWrongFalsely : Prop := unpackStaticRow.holds Tryd.pinned (OpenSpec.ofChange unpackStaticWrong)

/-- 'wlvlaw8.UnpackAdds': WHATEVER THE INPUT: true; the input reads as it did. -/
def unpackAddsSpec : ChangeSpec := { name := "unpackAdds", fn := fun _ => fun
  | [d1, d2] => { results := [.lit (.bool true)], args := [d1, d2] }
  | _ => none }
def unpackAddsRow : OpenClaim := { program := "ytlnppbnbjeakhaadoor", sum := "a19436d1f0163a05c65425968019288fa8e16f71625d8f05ff698ad8bdadf61e", func := "wayleave/wlvlaw8.UnpackAdds", spec := "unpackAdds", unfollowed := true, recurses := true, named := ["wayleave/huff.counts"], apart := false, laid := [("wayleave/huff.counts", laid_wayleave_huff_counts)] }
def UnpackAddsSaid : Prop := unpackAddsRow.holds Tryd.pinned (OpenSpec.ofChange unpackAddsSpec)

/-- ITS FALSE NEIGHBOUR: 'it returns false'. Refute it at one input. -/
def unpackAddsWrong : ChangeSpec := { name := "unpackAdds", fn := fun _ => fun
  | [d1, d2] => { results := [.lit (.bool false)], args := [d1, d2] }
  | _ => none }
def UnpackAddsWrongFalsely : Prop := unpackAddsRow.holds Tryd.pinned (OpenSpec.ofChange unpackAddsWrong)

/-- 'wlvlaw8.UnpackLimits': WHATEVER THE INPUT: true; the input reads as it did. -/
def unpackLimitsSpec : ChangeSpec := { name := "unpackLimits", fn := fun _ => fun
  | [d] => { results := [.lit (.bool true)], args := [d] }
  | _ => none }
def unpackLimitsRow : OpenClaim := { program := "ytlnppbnbjeakhaadoor", sum := "a19436d1f0163a05c65425968019288fa8e16f71625d8f05ff698ad8bdadf61e", func := "wayleave/wlvlaw8.UnpackLimits", spec := "unpackLimits", named := ["wayleave/huff.counts"], apart := false, laid := [("wayleave/huff.counts", laid_wayleave_huff_counts)] }
def UnpackLimitsSaid : Prop := unpackLimitsRow.holds Tryd.pinned (OpenSpec.ofChange unpackLimitsSpec)

/-- ITS FALSE NEIGHBOUR: 'it returns false'. Refute it at one input. -/
def unpackLimitsWrong : ChangeSpec := { name := "unpackLimits", fn := fun _ => fun
  | [d] => { results := [.lit (.bool false)], args := [d] }
  | _ => none }
def UnpackLimitsWrongFalsely : Prop := unpackLimitsRow.holds Tryd.pinned (OpenSpec.ofChange unpackLimitsWrong)

/- THE SECOND FORM. 'bulk': how many values and letters a reading holds, each counted each time it is reached (what is shared counts as often as it is met; a slice's spare places count too). A statement '..UptoSaid' is the law's where the arguments, and the package variables that the reading takes, are together of bulk at most 1048576: NARROWER than '..Said'. Prove '..Said' where nothing that the law and all that it calls make is longer than what came in: it says more and counts as full. Else prove '..UptoSaid'. A law counts once. -/
mutual
def uptoBulk {H : Type} : DataW H → Nat
  | .lit (.string bytes) => bytes.length + 1
  | .lit _ => 1
  | .nil => 1
  | .ptr d => uptoBulk d + 1
  | .slice elems spare => uptoBulkAll elems + uptoBulkAll spare + 1
  | .agg parts => uptoBulkAll parts + 1
  | .iface _ d => uptoBulk d + 1
  | .map entries => uptoBulkEntries entries + 1
  | .held _ => 1
def uptoBulkAll {H : Type} : List (DataW H) → Nat
  | [] => 0
  | d :: r => uptoBulk d + uptoBulkAll r
def uptoBulkEntries {H : Type} : List (Lit × DataW H) → Nat
  | [] => 0
  | x :: r => uptoBulkEntry x + uptoBulkEntries r
def uptoBulkEntry {H : Type} : Lit × DataW H → Nat
  | (.string bytes, d) => bytes.length + uptoBulk d + 1
  | (_, d) => uptoBulk d + 1
 end
def uptoSmall : (H : Type) → List (DataW H) → Bool := fun _ ds => decide (uptoBulkAll ds ≤ 1048576)
def OpenSpec.upto (s : _root_.Go.ChangeSpec) : _root_.Go.OpenSpec := { _root_.Go.OpenSpec.ofChange s with cond := some uptoSmall }

/-- 'wlvlaw8.UnpackPlays', WHERE WHAT IT READS IS OF BULK AT MOST 1048576: true; the input reads as it did. -/
def unpackPlaysUptoRow : OpenClaim := { program := "ytlnppbnbjeakhaadoor", sum := "a19436d1f0163a05c65425968019288fa8e16f71625d8f05ff698ad8bdadf61e", func := "wayleave/wlvlaw8.UnpackPlays", spec := "unpackPlays", named := ["wayleave/huff.counts"], apart := false, laid := [("wayleave/huff.counts", laid_wayleave_huff_counts)], narrowed := true }
def UnpackPlaysUptoSaid : Prop := unpackPlaysUptoRow.holds Tryd.pinned (OpenSpec.upto unpackPlaysSpec)

/-- 'wlvlaw8.UnpackTable', WHERE WHAT IT READS IS OF BULK AT MOST 1048576: true; the input reads as it did. -/
def unpackTableUptoRow : OpenClaim := { program := "ytlnppbnbjeakhaadoor", sum := "a19436d1f0163a05c65425968019288fa8e16f71625d8f05ff698ad8bdadf61e", func := "wayleave/wlvlaw8.UnpackTable", spec := "unpackTable", named := ["wayleave/huff.counts"], apart := false, laid := [("wayleave/huff.counts", laid_wayleave_huff_counts)], narrowed := true }
def UnpackTableUptoSaid : Prop := unpackTableUptoRow.holds Tryd.pinned (OpenSpec.upto unpackTableSpec)

/-- 'wlvlaw8.UnpackStatic', WHERE WHAT IT READS IS OF BULK AT MOST 1048576: true; the input reads as it did. -/
def unpackStaticUptoRow : OpenClaim := { program := "ytlnppbnbjeakhaadoor", sum := "a19436d1f0163a05c65425968019288fa8e16f71625d8f05ff698ad8bdadf61e", func := "wayleave/wlvlaw8.UnpackStatic", spec := "unpackStatic", named := ["wayleave/huff.counts"], apart := false, laid := [("wayleave/huff.counts", laid_wayleave_huff_counts)], narrowed := true }
def UnpackStaticUptoSaid : Prop := unpackStaticUptoRow.holds Tryd.pinned (OpenSpec.upto unpackStaticSpec)

/-- 'wlvlaw8.UnpackAdds', WHERE WHAT IT READS IS OF BULK AT MOST 1048576: true; the input reads as it did. -/
def unpackAddsUptoRow : OpenClaim := { program := "ytlnppbnbjeakhaadoor", sum := "a19436d1f0163a05c65425968019288fa8e16f71625d8f05ff698ad8bdadf61e", func := "wayleave/wlvlaw8.UnpackAdds", spec := "unpackAdds", unfollowed := true, recurses := true, named := ["wayleave/huff.counts"], apart := false, laid := [("wayleave/huff.counts", laid_wayleave_huff_counts)], narrowed := true }
def UnpackAddsUptoSaid : Prop := unpackAddsUptoRow.holds Tryd.pinned (OpenSpec.upto unpackAddsSpec)

/-- 'wlvlaw8.UnpackLimits', WHERE WHAT IT READS IS OF BULK AT MOST 1048576: true; the input reads as it did. -/
def unpackLimitsUptoRow : OpenClaim := { program := "ytlnppbnbjeakhaadoor", sum := "a19436d1f0163a05c65425968019288fa8e16f71625d8f05ff698ad8bdadf61e", func := "wayleave/wlvlaw8.UnpackLimits", spec := "unpackLimits", named := ["wayleave/huff.counts"], apart := false, laid := [("wayleave/huff.counts", laid_wayleave_huff_counts)], narrowed := true }
def UnpackLimitsUptoSaid : Prop := unpackLimitsUptoRow.holds Tryd.pinned (OpenSpec.upto unpackLimitsSpec)

end Rows
end Go.Proofs.YtlnppbnbjeakhaaDoor
