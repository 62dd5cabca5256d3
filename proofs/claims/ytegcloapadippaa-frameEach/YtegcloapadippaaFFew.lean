/- first of stage 10; bodies of zeros. -/
import Derived.Test.YtegcloapadippaaFFace
import Derived.Test.YtegcloapadippaaFFewT
import Derived.Laws.MakeOwn
namespace Go.Proofs.Ytegcloapadippaa
open Go.RowKit Fr

def YesF (w : World) (e : Ending) (w' : World) : Prop := e = .returned (.bool true) ∧ Below w.heap.size w w'
/-- So many zeros. -/
theorem zeros_at {w' : World} {B g n c : Nat} (h : w'.ownsRow B 5 1 (.slice (some ⟨g, 0, none⟩) n c) n (madeCells (Value.int .u8 0).cells (n * 1)).toList) : At .u8 w' w'.heap.size (some ⟨g, 0, none⟩) (List.replicate n 0) := by
  have e : cn .u8 (List.replicate n 0) = (madeCells (Value.int .u8 0).cells (n * 1)).toList := by
    rw [show (Value.int .u8 0).cells = #[Value.int .u8 0] from rfl, toList_madeCells_one]
    simp [cn]
  rw [← e] at h
  exact At.of_own h
theorem rep_lt (n : Nat) : ∀ x ∈ List.replicate n 0, x < 256 := fun x hx => by
  rw [List.eq_of_mem_replicate hx]
  omega
theorem put_ping : put ⟨6, 0, 0, List.replicate 8 0⟩ = ([0, 0, 8, 6, 0, 0, 0, 0, 0, 0, 0, 0, 0, 0, 0, 0, 0], 0) := by decide
set_option maxRecDepth 100000 in
set_option maxHeartbeats 4000000 in
theorem first10_any (w : World) : Calls Try.prog 8 #[] w (YesF w) := by
  obtain ⟨i0, hi0, hz0, hz1, hz2⟩ := info_parts infoU8
  go_enter Try.func8, Try.ntmps8
  go_wp2_with (at_make; refine wpList_make_full _ rfl _ _ 25 rfl w.heap.size 5 i0 _ 1 Try.underlying25 hi0 hz0 hz1 _ _ _ _ 8 rfl rfl (by omega) (by omega) (by rw [hz2]; omega) (by unfold maxLen; omega) (Nat.le_refl _) ?_; intro w1 hown1 hg1)
  have hb1 : Below w.heap.size w w1 := (Below.refl _ _).grown hg1 (Nat.le_refl _) (by simp)
  have hat := zeros_at hown1
  have HP := fput_f ⟨⟨6, 0, 0, List.replicate 8 0⟩, some ⟨w.heap.size, 0, none⟩, 8⟩ w1 ⟨hat, rep_lt 8, (fun h => by cases h), by simp, by simp [frmInts]⟩ (by simp)
  simp only [] at HP
  rw [put_ping] at HP
  simp only [frm, List.length_replicate] at HP
  replace HP := Lib.hid HP
  have HB := Lib.hid hb1
  clear hat hb1 hown1 hg1 hi0 hz0 hz1 hz2
  with_reducible refine (HP.out).mono ?_
  rintro e w2 ⟨A2, c2, rfl, hat2, hn2, hc2, _, hb2⟩
  obtain ⟨bk, o, rfl, hbk, hc⟩ := hat2.pos (by simp)
  have y2 := hc 2 (by simp)
  have y3 := hc 3 (by simp)
  simp only [List.getElem_cons_zero, List.getElem_cons_succ, List.length_cons, List.length_nil] at y2 y3 hc2
  have hZ := Lib.hid (HB.out.trans (hb2.mono HB.out.size))
  clear HP hc hb2 hat2
  go_wp2
  go_ret
  exact ⟨rfl, hZ.out⟩
end Go.Proofs.Ytegcloapadippaa
