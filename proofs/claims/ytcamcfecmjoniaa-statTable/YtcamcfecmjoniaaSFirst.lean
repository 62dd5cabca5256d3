/- Contract of the statements' first. -/
import Derived.Test.YtcamcfecmjoniaaSFace
import Derived.Test.YtcamcfecmjoniaaSFew
namespace Go.Proofs.Ytcamcfecmjoniaa
open Go.RowKit St

def Yes (w : World) (e : Ending) (w' : World) : Prop := e = .returned (.bool true) ∧ Below w.heap.size w w'
theorem stg_two : stg 2 = (⟨⟨#[58, 109, 101, 116, 104, 111, 100]⟩, ⟨#[71, 69, 84]⟩, false⟩, true) := by rw [stg, if_pos (by omega)]; rfl
theorem stg_62 : stg 62 = (⟨⟨#[]⟩, ⟨#[]⟩, false⟩, false) := by rw [stg, if_neg (by omega)]
set_option maxRecDepth 100000 in
set_option maxHeartbeats 2000000 in
theorem first_any (w : World) (hR : Rdy w) : Calls Try.prog 7 #[] w (Yes w) := by
  have HR := Lib.hid hR
  clear hR
  go_enter Try.func7, Try.ntmps7
  go_wp2_with fail
  with_reducible refine (sget_f 2 w HR.out (by unfold Rng; omega)).mono ?_
  rw [stg_two]
  rintro e w1 ⟨rfl, hb1⟩
  simp only []
  obtain ⟨g1, hg1⟩ : ∃ g, g = w1.heap.size := ⟨_, rfl⟩
  obtain ⟨wa, hwa⟩ : ∃ wa, wa = w1.alloc (.cells #[.string ⟨#[58, 109, 101, 116, 104, 111, 100]⟩, .string ⟨#[71, 69, 84]⟩, .bool false] 26) := ⟨_, rfl⟩
  have hh : wa.heap[g1]? = some (.cells #[.string ⟨#[58, 109, 101, 116, 104, 111, 100]⟩, .string ⟨#[71, 69, 84]⟩, .bool false] 26) := by rw [hwa, hg1]; exact heap_alloc_new w1 _
  have hlt : g1 < wa.heap.size := by rw [hwa, hg1]; simp
  have hba : Below w.heap.size w wa := by rw [hwa]; exact hb1.alloc hb1.size _
  have HC := Lib.hid (sget_f 62 wa (HR.out.below hba) (by unfold Rng; omega))
  rw [stg_62, hwa] at HC
  go_wp2_with fail
  with_reducible refine (HC.out).mono ?_
  rw [← hwa]
  rintro e w2 ⟨rfl, hb2⟩
  simp only []
  have hb3 := hba.trans (hb2.mono hba.size)
  have hb4 := hb3.alloc hb3.size (.cells #[.string ⟨#[]⟩, .string ⟨#[]⟩, .bool false] 26)
  have hb5 : Below wa.heap.size wa (w2.alloc (.cells #[.string ⟨#[]⟩, .string ⟨#[]⟩, .bool false] 26)) := hb2.alloc hb2.size _
  have c0 : (w2.alloc (.cells #[.string ⟨#[]⟩, .string ⟨#[]⟩, .bool false] 26)).cell? ⟨g1, 0, none⟩ = some (.string ⟨#[58, 109, 101, 116, 104, 111, 100]⟩) := (hb5.cell (p := ⟨g1, 0, none⟩) hlt).trans (cell_of_row _ g1 0 _ 26 _ hh)
  have c1 : (w2.alloc (.cells #[.string ⟨#[]⟩, .string ⟨#[]⟩, .bool false] 26)).cell? ⟨g1, 1, none⟩ = some (.string ⟨#[71, 69, 84]⟩) := (hb5.cell (p := ⟨g1, 1, none⟩) hlt).trans (cell_of_row _ g1 1 _ 26 _ hh)
  rw [← hg1]
  clear hwa hg1 hh hba HC hb5 hb3 hb2 hb1
  go_wp2_with fail
  go_ret
  exact ⟨rfl, hb4⟩
end Go.Proofs.Ytcamcfecmjoniaa
