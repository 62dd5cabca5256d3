/- What huff's table wants of the world (in the place of LRdy, where the code reaches huff). -/
import Derived.Test.YtlnppbnbjeakhaaDoorHLand
import Derived.Test.YtlnppbnbjeakhaaDoorLMem
import Derived.Below
import Derived.Test.YtlnppbnbjeakhaaDoorRows
import Derived.ProofKit
import Derived.OpenShut
import Derived.ShutString
import Derived.ChangeOld
import Derived.LaidMore
import Derived.Stop.Joined
import Derived.Lib.LaidTab
namespace Go.Proofs.YtlnppbnbjeakhaaDoor
open Go.RowKit Hf

/-- The table of counts lies in block 0. -/
def Rdy (w : World) : Prop := ∀ i (h : i < cnt.length), w.cell? ⟨0, i, none⟩ = some (.int .i64 (cnt[i] : Int))
theorem Rdy.pos {w : World} (h : Rdy w) : 0 < w.heap.size := World.block_lt_of_cell? w ⟨0, 0, none⟩ (h 0 (by rw [cnt_len]; omega))
theorem Rdy.below {w w' : World} (h : Rdy w) (hb : Below w.heap.size w w') : Rdy w' := fun i hi => (hb.cell (p := ⟨0, i, none⟩) h.pos).trans (h i hi)
theorem Rdy.low {w w' : World} {B : Nat} (h : Rdy w) (hb : Below B w w') (hB : 0 < B) : Rdy w' := fun i hi => (hb.cell (p := ⟨0, i, none⟩) hB).trans (h i hi)
theorem Rdy.ct {w : World} (h : Rdy w) (i : Nat) (hi : i < 31) : w.cell? ⟨0, i, none⟩ = some (.int .i64 ((Hf.ct i : Nat) : Int)) := by
  have hl : i < cnt.length := by rw [cnt_len]; exact hi
  rw [h i hl, Hf.ct, List.getD, List.getElem?_eq_getElem hl]
  rfl
abbrev byB : ByteArray := ⟨#[48, 49, 50, 97, 99, 101, 105, 111, 115, 116, 32, 37, 45, 46, 47, 51, 52, 53, 54, 55, 56, 57, 61, 65, 95, 98, 100, 102, 103, 104, 108, 109, 110, 112, 114, 117, 58, 66, 67, 68, 69, 70, 71, 72, 73, 74, 75, 76, 77, 78, 79, 80, 81, 82, 83, 84, 85, 86, 87, 89, 106, 107, 113, 118, 119, 120, 121, 122, 38, 42, 44, 59, 88, 90, 33, 34, 40, 41, 63, 39, 43, 124, 35, 62, 0, 36, 64, 91, 93, 126, 94, 125, 60, 96, 123, 92, 195, 208, 128, 130, 131, 162, 184, 194, 224, 226, 153, 161, 167, 172, 176, 177, 179, 209, 216, 217, 227, 229, 230, 129, 132, 133, 134, 136, 146, 154, 156, 160, 163, 164, 169, 170, 173, 178, 181, 185, 186, 187, 189, 190, 196, 198, 228, 232, 233, 1, 135, 137, 138, 139, 140, 141, 143, 147, 149, 150, 151, 152, 155, 157, 158, 165, 166, 168, 174, 175, 180, 182, 183, 188, 191, 197, 231, 239, 9, 142, 144, 145, 148, 159, 171, 206, 215, 225, 236, 237, 199, 207, 234, 235, 192, 193, 200, 201, 202, 205, 210, 213, 218, 219, 238, 240, 242, 243, 255, 203, 204, 211, 212, 214, 221, 222, 223, 241, 244, 245, 246, 247, 248, 250, 251, 252, 253, 254, 2, 3, 4, 5, 6, 7, 8, 11, 12, 14, 15, 16, 17, 18, 19, 20, 21, 23, 24, 25, 26, 27, 28, 29, 30, 31, 127, 220, 249, 10, 13, 22]⟩
/-- An int. -/
def Rng (b : Int) : Prop := -9223372036854775808 ≤ b ∧ b ≤ 9223372036854775807
end Go.Proofs.YtlnppbnbjeakhaaDoor
/- What the step from a walk to a row asks of the program, of every stage. -/
namespace Go.Proofs.YtlnppbnbjeakhaaDoor
open Go.ChangeShapes Go.WideShapes Go.ChangeAt Go.RowKit

theorem own : ownKnob Tryd.prog.godebug = none := by kernel_rfl
theorem laidOut : laidOutB Tryd.prog = true := by kernel_rfl
end Go.Proofs.YtlnppbnbjeakhaaDoor
/- From what a card says of the listed variable to the words of the contracts. -/
namespace Go.Proofs.YtlnppbnbjeakhaaDoor
open Go.ChangeShapes Go.WideShapes Go.ChangeAt Go.RowKit Hf

abbrev laid1 : List (String × DataW Unit) := Rows.unpackPlaysRow.laid
/-- The listed variable's name. -/
def cName : String := (laid1.map (·.1)).headD ""
theorem gCounts : Tryd.prog.globalNamed cName = some 0 := by kernel_rfl
theorem tCounts : (Tryd.prog.globals[0]?).map (·.type) = some 94 := by kernel_rfl
def cnts : List Int := cnt.map fun (x : Nat) => (x : Int)
theorem laid_is : (Rows.laid_wayleave_huff_counts : DataW Unit) = Lib.tabData .i64 cnts := by kernel_rfl
theorem cellsInt : Tryd.prog.cellsOf 3 = 1 := by kernel_rfl
theorem cellsArr : Tryd.prog.cellsOf 94 = 31 := by kernel_rfl
/-- What the condition on the listed variable gives the walks. -/
theorem tab_of_laid {W : World} (h : laidMetH Tryd.prog laid1 W) : Rdy W := by
  rw [MakeChecks.laidMetH_plain _ _ _ (by kernel_rfl)] at h
  have h' : laidMet Tryd.prog ((cName, Lib.tabData .i64 cnts) :: []) W := by
    rw [← laid_is]
    exact h
  have ht := Lib.tabIs_of_head gCounts tCounts Tryd.underlying94 Tryd.underlying3 cellsInt cellsArr h'
  intro i hi
  rw [ht.cell gCounts i (by simpa [cnts] using hi)]
  simp [cnts, List.getD, hi]
/-- The heap that the variables' own text leaves meets the condition. -/
theorem door_met (os : Os) (args : Array Value) : laidMetH Tryd.prog laid1 ((World.doorLaid Tryd.prog 14 os).forCall (fun _ _ => 0) ⟨#[], args, []⟩).memory :=
  laidMetH_of_parts3 (fuel := 8) (laidMet_of_run' 8 (by kernel_rfl) (by kernel_rfl)) (by kernel_rfl) (by kernel_rfl)
end Go.Proofs.YtlnppbnbjeakhaaDoor
