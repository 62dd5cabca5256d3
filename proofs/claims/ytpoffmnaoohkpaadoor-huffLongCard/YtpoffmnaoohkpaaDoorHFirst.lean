/- Contract of the statements' first. -/
import Derived.Test.YtpoffmnaoohkpaaDoorHFace
namespace Go.Proofs.YtpoffmnaoohkpaaDoor
open Go.RowKit Hf

set_option maxRecDepth 100000 in
theorem enc_a : enc [97] = [31] := by decide +kernel
theorem dec_end (most : Int) : dec [255, 255, 255, 255] most = ([], 2) := by
  rw [dec, show ([255, 255, 255, 255] : List Nat) = List.replicate 4 255 from rfl, unp_ones 4, show List.replicate (8 * 4) 1 = List.replicate 30 1 ++ [1, 1] from rfl, run_end]
set_option maxRecDepth 100000 in
set_option maxHeartbeats 1000000 in
theorem first_any (w : World) (hR : Rdy w) : Calls Tryd.prog 8 #[] w (Yes w) := by
  have kc := fun (w : World) (C : Array Value) (n c : Nat) => Lib.run_convert_bytes_const (P := Tryd.prog) w 22 5 C n c Tryd.underlying22 Tryd.underlying5
  have HR := Lib.hid hR
  clear hR
  go_enter Tryd.func8, Tryd.ntmps8
  go_wp2_with fail
  have hb0 : Below w.heap.size w (w.alloc (.cells #[.int .u8 97] 5 (1, 2))) := (Below.refl _ _).alloc (Nat.le_refl _) _
  have HE := Lib.hid (enc_f (some ⟨w.heap.size, 0, none⟩) [97] 1 1 (w.alloc (.cells #[.int .u8 97] 5 (1, 2))) (HR.out.below hb0) (At.new w [97] 5 (1, 2)) (fun x hx => by simp at hx; omega) rfl (fun h => by cases h) (Nat.le_refl _) (by omega))
  clear kc
  with_reducible refine (HE.out).mono ?_
  rintro e w1 ⟨v1, rfl, hown, hb1⟩
  rw [enc_a] at hown
  obtain ⟨g, c, rfl, hg, hown⟩ := own_form hown (by simp)
  have c1 : w1.cell? ⟨g, 0, none⟩ = some (.int .u8 31) := own_at (l := [31]) hown (by simp)
  have hg1 : g < w1.heap.size := World.block_lt_of_cell? w1 _ c1
  have hbA : Below w.heap.size w w1 := hb0.trans (hb1.mono hb0.size)
  clear hown hg hb1 HE
  have hb2 : Below w1.heap.size w1 (w1.alloc (.cells #[.int .u8 255, .int .u8 255, .int .u8 255, .int .u8 255] 5)) := (Below.refl _ _).alloc (Nat.le_refl _) _
  have HD := Lib.hid (dec_f (some ⟨w1.heap.size, 0, none⟩) [255, 255, 255, 255] 4 4 9 (w1.alloc (.cells #[.int .u8 255, .int .u8 255, .int .u8 255, .int .u8 255] 5)) ((HR.out.below hbA).below hb2) (At.new w1 [255, 255, 255, 255] 5 (0, 0)) (fun x hx => by simp at hx; omega) rfl (fun h => by cases h) (Nat.le_refl _) (by omega))
  go_wp2_with fail
  with_reducible refine (HD.out).mono ?_
  rw [dec_end]
  rintro e w2 ⟨A2, c2, rfl, _, _, hb3⟩
  have hb4 := hb2.trans (hb3.mono hb2.size)
  have cc : w2.cell? ⟨g, 0, none⟩ = some (.int .u8 31) := (hb4.cell (p := ⟨g, 0, none⟩) hg1).trans c1
  have hbB := hbA.trans (hb4.mono hbA.size)
  clear c1 hb2 hb3 hb4 hbA HD
  go_wp2_with fail
  go_ret
  exact ⟨rfl, hbB⟩
end Go.Proofs.YtpoffmnaoohkpaaDoor
