/-
  NARROWER THAN 'FOR EVERY INPUT', by the rows' own cells (each row's printed sentence says how): HuffTells: laid · HuffBack: laid · HuffJoins: laid · HuffEnds: laid · HuffLong: laid.
  DERIVED. THE GIVEN ROWS OF THIS SEAT. 5 by the template 'for every input the law returns true; each argument reads behind the call as it read before'; 0 by the template 'total and deterministic' (their statements: YtpoffmnaoohkpaaDoorTotals.lean).
  GIVEN WITH THE SEED: the statements are not yours to turn. If you find one false, say at which input.
  Laid BY PROGRAM, IN A SANDBOX (cutbox-rows.mjs): the forced cells as the released guide's own fill.sh prints them over the translation 4bb4b60004a5d575… (all of the seat's roots in one cut). By AI agents, Wed Nov 11 2026. No macro, syntax, notation, axiom, sorry.
-/
import Derived.Test.YtpoffmnaoohkpaaDoorChecked
import GoSem.Claim
import GoSem.ClaimJoined
import GoSem.ClaimMapViews
import Derived.JoinedTies
import Derived.KernelRfl
namespace Go.Proofs.YtpoffmnaoohkpaaDoor
/- THE CELL 'sum', in the pinned program and in every row, IS THE sha256 OF THE DUMP (.gsa) THAT YtpoffmnaoohkpaaDoorProg.lean LOADS. Nothing in Lean hashes anything: it is a label: what it is worth is what the hold of that sum in a sandbox is worth. -/
noncomputable def Tryd.pinned : Pinned := { name := "ytpoffmnaoohkpaadoor", sum := "4bb4b60004a5d57552c8886b81b30f31cb5a5a4e597308b50e80caa05dd72629", checked := Tryd.checked }
namespace Rows
def none {H : Type} : Left H := { results := [], args := [] }

/- WHAT THE LISTED PACKAGE-LEVEL VARIABLES READ AS WHEN THE CALL BEGINS. Each datum BY PROGRAM (the guide's laid-datum.mjs) off the statement by which the dump's own 'gosem.cut.vars' lays the variable. In a bare row this is a premise. The card (YtpoffmnaoohkpaaDoorCards.lean) ties it to the program's text. -/
def laid_wayleave_huff_counts {H : Type} : DataW H := .agg [.lit (.int .i64 0), .lit (.int .i64 0), .lit (.int .i64 0), .lit (.int .i64 0), .lit (.int .i64 0), .lit (.int .i64 10), .lit (.int .i64 26), .lit (.int .i64 32), .lit (.int .i64 6), .lit (.int .i64 0), .lit (.int .i64 5), .lit (.int .i64 3), .lit (.int .i64 2), .lit (.int .i64 6), .lit (.int .i64 2), .lit (.int .i64 3), .lit (.int .i64 0), .lit (.int .i64 0), .lit (.int .i64 0), .lit (.int .i64 3), .lit (.int .i64 8), .lit (.int .i64 13), .lit (.int .i64 26), .lit (.int .i64 29), .lit (.int .i64 12), .lit (.int .i64 4), .lit (.int .i64 15), .lit (.int .i64 19), .lit (.int .i64 29), .lit (.int .i64 0), .lit (.int .i64 3)]

/-- 'wlvlaw4.HuffTells': WHATEVER THE INPUT: true; the input reads as it did. -/
def huffTellsSpec : ChangeSpec := { name := "huffTells", fn := fun _ => fun
  | [d1, d2] => { results := [.lit (.bool true)], args := [d1, d2] }
  | _ => none }
def huffTellsRow : OpenClaim := { program := "ytpoffmnaoohkpaadoor", sum := "4bb4b60004a5d57552c8886b81b30f31cb5a5a4e597308b50e80caa05dd72629", func := "wayleave/wlvlaw4.HuffTells", spec := "huffTells", inPlace := ["internal/bytealg.IndexByteString"], named := ["wayleave/huff.counts"], apart := false, laid := [("wayleave/huff.counts", laid_wayleave_huff_counts)] }
def HuffTellsSaid : Prop := huffTellsRow.holds Tryd.pinned (OpenSpec.ofChange huffTellsSpec)

/-- ITS FALSE NEIGHBOUR: 'it returns false'. Refute it at one input. -/
def huffTellsWrong : ChangeSpec := { name := "huffTells", fn := fun _ => fun
  | [d1, d2] => { results := [.lit (.bool false)], args := [d1, d2] }
  | _ => none }
def HuffTellsWrongFalsely : Prop := huffTellsRow.holds Tryd.pinned (OpenSpec.ofChange huffTellsWrong)

/-- 'wlvlaw4.HuffBack': WHATEVER THE INPUT: true; the input reads as it did. -/
def huffBackSpec : ChangeSpec := { name := "huffBack", fn := fun _ => fun
  | [d1, d2, d3] => { results := [.lit (.bool true)], args := [d1, d2, d3] }
  | _ => none }
def huffBackRow : OpenClaim := { program := "ytpoffmnaoohkpaadoor", sum := "4bb4b60004a5d57552c8886b81b30f31cb5a5a4e597308b50e80caa05dd72629", func := "wayleave/wlvlaw4.HuffBack", spec := "huffBack", inPlace := ["internal/bytealg.IndexByteString"], named := ["wayleave/huff.counts"], apart := false, laid := [("wayleave/huff.counts", laid_wayleave_huff_counts)] }
def HuffBackSaid : Prop := huffBackRow.holds Tryd.pinned (OpenSpec.ofChange huffBackSpec)

/-- ITS FALSE NEIGHBOUR: 'it returns false'. Refute it at one input. -/
def huffBackWrong : ChangeSpec := { name := "huffBack", fn := fun _ => fun
  | [d1, d2, d3] => { results := [.lit (.bool false)], args := [d1, d2, d3] }
  | _ => none }
def HuffBackWrongFalsely : Prop := huffBackRow.holds Tryd.pinned (OpenSpec.ofChange huffBackWrong)

/-- 'wlvlaw4.HuffJoins': WHATEVER THE INPUT: true; the input reads as it did. -/
def huffJoinsSpec : ChangeSpec := { name := "huffJoins", fn := fun _ => fun
  | [d1, d2, d3] => { results := [.lit (.bool true)], args := [d1, d2, d3] }
  | _ => none }
def huffJoinsRow : OpenClaim := { program := "ytpoffmnaoohkpaadoor", sum := "4bb4b60004a5d57552c8886b81b30f31cb5a5a4e597308b50e80caa05dd72629", func := "wayleave/wlvlaw4.HuffJoins", spec := "huffJoins", inPlace := ["internal/bytealg.IndexByteString"], named := ["wayleave/huff.counts"], apart := false, laid := [("wayleave/huff.counts", laid_wayleave_huff_counts)] }
def HuffJoinsSaid : Prop := huffJoinsRow.holds Tryd.pinned (OpenSpec.ofChange huffJoinsSpec)

/-- ITS FALSE NEIGHBOUR: 'it returns false'. Refute it at one input. -/
def huffJoinsWrong : ChangeSpec := { name := "huffJoins", fn := fun _ => fun
  | [d1, d2, d3] => { results := [.lit (.bool false)], args := [d1, d2, d3] }
  | _ => none }
def HuffJoinsWrongFalsely : Prop := huffJoinsRow.holds Tryd.pinned (OpenSpec.ofChange huffJoinsWrong)

/-- 'wlvlaw4.HuffEnds': WHATEVER THE INPUT: true; the input reads as it did. -/
def huffEndsSpec : ChangeSpec := { name := "huffEnds", fn := fun _ => fun
  | [d] => { results := [.lit (.bool true)], args := [d] }
  | _ => none }
def huffEndsRow : OpenClaim := { program := "ytpoffmnaoohkpaadoor", sum := "4bb4b60004a5d57552c8886b81b30f31cb5a5a4e597308b50e80caa05dd72629", func := "wayleave/wlvlaw4.HuffEnds", spec := "huffEnds", inPlace := ["internal/bytealg.IndexByteString"], named := ["wayleave/huff.counts"], apart := false, laid := [("wayleave/huff.counts", laid_wayleave_huff_counts)] }
def HuffEndsSaid : Prop := huffEndsRow.holds Tryd.pinned (OpenSpec.ofChange huffEndsSpec)

/-- ITS FALSE NEIGHBOUR: 'it returns false'. Refute it at one input. -/
def huffEndsWrong : ChangeSpec := { name := "huffEnds", fn := fun _ => fun
  | [d] => { results := [.lit (.bool false)], args := [d] }
  | _ => none }
def HuffEndsWrongFalsely : Prop := huffEndsRow.holds Tryd.pinned (OpenSpec.ofChange huffEndsWrong)

/-- 'wlvlaw4.HuffLong': WHATEVER THE INPUT: true; the input reads as it did. -/
def huffLongSpec : ChangeSpec := { name := "huffLong", fn := fun _ => fun
  | [d1, d2] => { results := [.lit (.bool true)], args := [d1, d2] }
  | _ => none }
def huffLongRow : OpenClaim := { program := "ytpoffmnaoohkpaadoor", sum := "4bb4b60004a5d57552c8886b81b30f31cb5a5a4e597308b50e80caa05dd72629", func := "wayleave/wlvlaw4.HuffLong", spec := "huffLong", inPlace := ["internal/bytealg.IndexByteString"], named := ["wayleave/huff.counts"], apart := false, laid := [("wayleave/huff.counts", laid_wayleave_huff_counts)] }
def HuffLongSaid : Prop := huffLongRow.holds Tryd.pinned (OpenSpec.ofChange huffLongSpec)

/-- ITS FALSE NEIGHBOUR: 'it returns false'. Refute it at one input. -/
def huffLongWrong : ChangeSpec := { name := "huffLong", fn := fun _ => fun
  | [d1, d2] => { results := [.lit (.bool false)], args := [d1, d2] }
  | _ => none }
def HuffLongWrongFalsely : Prop := huffLongRow.holds Tryd.pinned (OpenSpec.ofChange huffLongWrong)

/- THE SECOND FORM. 'bulk': how many values and letters a reading holds, each counted each time it is reached (what is shared counts as often as it is met; a slice's spare places count too). A statement '..UptoSaid' is the law's where the arguments, and the package variables that the reading takes, are together of bulk at most 1048576: NARROWER than '..Said'. Prove '..Said' where nothing that the law and all that it calls make is longer than what came in: it says more and counts as full. Else prove '..UptoSaid'. A law counts once. -/
mutual
def uptoBulk {H : Type} : DataW H → Nat
  | .lit (.string bytes) => bytes.length + 1
  | .lit _ => 1
  | .nil => 1
  | .ptr d => uptoBulk d + 1
  | .slice elems spare => uptoBulkAll elems + uptoBulkAll spare + 1
  | .agg parts => uptoBulkAll parts + 1
  | .iface _ d => uptoBulk d + 1
  | .map entries => uptoBulkEntries entries + 1
  | .held _ => 1
def uptoBulkAll {H : Type} : List (DataW H) → Nat
  | [] => 0
  | d :: r => uptoBulk d + uptoBulkAll r
def uptoBulkEntries {H : Type} : List (Lit × DataW H) → Nat
  | [] => 0
  | x :: r => uptoBulkEntry x + uptoBulkEntries r
def uptoBulkEntry {H : Type} : Lit × DataW H → Nat
  | (.string bytes, d) => bytes.length + uptoBulk d + 1
  | (_, d) => uptoBulk d + 1
 end
def uptoSmall : (H : Type) → List (DataW H) → Bool := fun _ ds => decide (uptoBulkAll ds ≤ 1048576)
def OpenSpec.upto (s : _root_.Go.ChangeSpec) : _root_.Go.OpenSpec := { _root_.Go.OpenSpec.ofChange s with cond := some uptoSmall }

/-- 'wlvlaw4.HuffTells', WHERE WHAT IT READS IS OF BULK AT MOST 1048576: true; the input reads as it did. -/
def huffTellsUptoRow : OpenClaim := { program := "ytpoffmnaoohkpaadoor", sum := "4bb4b60004a5d57552c8886b81b30f31cb5a5a4e597308b50e80caa05dd72629", func := "wayleave/wlvlaw4.HuffTells", spec := "huffTells", inPlace := ["internal/bytealg.IndexByteString"], named := ["wayleave/huff.counts"], apart := false, laid := [("wayleave/huff.counts", laid_wayleave_huff_counts)], narrowed := true }
def HuffTellsUptoSaid : Prop := huffTellsUptoRow.holds Tryd.pinned (OpenSpec.upto huffTellsSpec)

/-- 'wlvlaw4.HuffBack', WHERE WHAT IT READS IS OF BULK AT MOST 1048576: true; the input reads as it did. -/
def huffBackUptoRow : OpenClaim := { program := "ytpoffmnaoohkpaadoor", sum := "4bb4b60004a5d57552c8886b81b30f31cb5a5a4e597308b50e80caa05dd72629", func := "wayleave/wlvlaw4.HuffBack", spec := "huffBack", inPlace := ["internal/bytealg.IndexByteString"], named := ["wayleave/huff.counts"], apart := false, laid := [("wayleave/huff.counts", laid_wayleave_huff_counts)], narrowed := true }
def HuffBackUptoSaid : Prop := huffBackUptoRow.holds Tryd.pinned (OpenSpec.upto huffBackSpec)

/-- 'wlvlaw4.HuffJoins', WHERE WHAT IT READS IS OF BULK AT MOST 1048576: true; the input reads as it did. -/
def huffJoinsUptoRow : OpenClaim := { program := "ytpoffmnaoohkpaadoor", sum := "4bb4b60004a5d57552c8886b81b30f31cb5a5a4e597308b50e80caa05dd72629", func := "wayleave/wlvlaw4.HuffJoins", spec := "huffJoins", inPlace := ["internal/bytealg.IndexByteString"], named := ["wayleave/huff.counts"], apart := false, laid := [("wayleave/huff.counts", laid_wayleave_huff_counts)], narrowed := true }
def HuffJoinsUptoSaid : Prop := huffJoinsUptoRow.holds Tryd.pinned (OpenSpec.upto huffJoinsSpec)

/-- 'wlvlaw4.HuffEnds', WHERE WHAT IT READS IS OF BULK AT MOST 1048576: true; the input reads as it did. -/
def huffEndsUptoRow : OpenClaim := { program := "ytpoffmnaoohkpaadoor", sum := "4bb4b60004a5d57552c8886b81b30f31cb5a5a4e597308b50e80caa05dd72629", func := "wayleave/wlvlaw4.HuffEnds", spec := "huffEnds", inPlace := ["internal/bytealg.IndexByteString"], named := ["wayleave/huff.counts"], apart := false, laid := [("wayleave/huff.counts", laid_wayleave_huff_counts)], narrowed := true }
def HuffEndsUptoSaid : Prop := huffEndsUptoRow.holds Tryd.pinned (OpenSpec.upto huffEndsSpec)

/-- 'wlvlaw4.HuffLong', WHERE WHAT IT READS IS OF BULK AT MOST 1048576: true; the input reads as it did. -/
def huffLongUptoRow : OpenClaim := { program := "ytpoffmnaoohkpaadoor", sum := "4bb4b60004a5d57552c8886b81b30f31cb5a5a4e597308b50e80caa05dd72629", func := "wayleave/wlvlaw4.HuffLong", spec := "huffLong", inPlace := ["internal/bytealg.IndexByteString"], named := ["wayleave/huff.counts"], apart := false, laid := [("wayleave/huff.counts", laid_wayleave_huff_counts)], narrowed := true }
def HuffLongUptoSaid : Prop := huffLongUptoRow.holds Tryd.pinned (OpenSpec.upto huffLongSpec)

end Rows
end Go.Proofs.YtpoffmnaoohkpaaDoor
