/- From what a card says of the listed variable to the words of the contracts. -/
import Derived.Test.YtpoffmnaoohkpaaDoorHFace
import Derived.Test.YtpoffmnaoohkpaaDoorLIn
import Derived.LaidMore
import Derived.Stop.Joined
import Derived.Lib.LaidTab
namespace Go.Proofs.YtpoffmnaoohkpaaDoor
open Go.ChangeShapes Go.WideShapes Go.ChangeAt Go.RowKit Hf

abbrev laid1 : List (String × DataW Unit) := Rows.huffTellsRow.laid
/-- The listed variable's name. -/
def cName : String := (laid1.map (·.1)).headD ""
theorem gCounts : Tryd.prog.globalNamed cName = some 0 := by kernel_rfl
theorem tCounts : (Tryd.prog.globals[0]?).map (·.type) = some 45 := by kernel_rfl
def cnts : List Int := cnt.map fun (x : Nat) => (x : Int)
theorem laid_is : (Rows.laid_wayleave_huff_counts : DataW Unit) = Lib.tabData .i64 cnts := by kernel_rfl
theorem cellsInt : Tryd.prog.cellsOf 3 = 1 := by kernel_rfl
theorem cellsArr : Tryd.prog.cellsOf 45 = 31 := by kernel_rfl
/-- What the condition on the listed variable gives the walks. -/
theorem tab_of_laid {W : World} (h : laidMetH Tryd.prog laid1 W) : Rdy W := by
  rw [MakeChecks.laidMetH_plain _ _ _ (by kernel_rfl)] at h
  have h' : laidMet Tryd.prog ((cName, Lib.tabData .i64 cnts) :: []) W := by
    rw [← laid_is]
    exact h
  have ht := Lib.tabIs_of_head gCounts tCounts Tryd.underlying45 Tryd.underlying3 cellsInt cellsArr h'
  intro i hi
  rw [ht.cell gCounts i (by simpa [cnts] using hi)]
  simp [cnts, List.getD, hi]
/-- The heap that the variables' own text leaves meets the condition. -/
theorem door_met (os : Os) (args : Array Value) : laidMetH Tryd.prog laid1 ((World.doorLaid Tryd.prog 14 os).forCall (fun _ _ => 0) ⟨#[], args, []⟩).memory :=
  laidMetH_of_parts3 (fuel := 8) (laidMet_of_run' 8 (by kernel_rfl) (by kernel_rfl)) (by kernel_rfl) (by kernel_rfl)
end Go.Proofs.YtpoffmnaoohkpaaDoor
