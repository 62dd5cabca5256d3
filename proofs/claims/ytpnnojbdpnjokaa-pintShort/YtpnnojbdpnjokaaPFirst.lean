/- Contract of the statements' first. -/
import Derived.Test.YtpnnojbdpnjokaaPFace
namespace Go.Proofs.Ytpnnojbdpnjokaa
open Go.RowKit Pn

theorem put_first : putI 0 5 1337 = ([31, 154, 10], 0) := by
  rw [putI_in (by omega) (by omega)]
  simp [put, full, hd, grp_high, grp_low]
theorem put0_f (b n : Int) (w : World) (hR : Rdy w) (hb : Rng b) (hn : Rng n) : Calls Try.prog 8 #[.int .u8 0, .int .i64 b, .int .i64 n] w (PutPost w (putI 0 b n)) := put_f 0 b n w hR (by omega) hb hn
set_option maxRecDepth 100000 in
set_option maxHeartbeats 1000000 in
theorem first_any (w : World) (hR : Rdy w) : Calls Try.prog 7 #[] w (Yes w) := by
  have HP := Lib.hid (put0_f 5 1337 w hR (by unfold Rng; omega) (by unfold Rng; omega))
  rw [put_first] at HP
  clear hR
  go_enter Try.func7, Try.ntmps7
  go_wp2_with fail
  with_reducible refine (HP.out).mono ?_
  rintro e w1 ⟨A1, c1, rfl, hat, hc, hnc, hb1⟩
  have hb2 : Below w1.heap.size w1 (w1.alloc (.cells #[.int .u8 31, .int .u8 154, .int .u8 10] 5)) := (Below.refl _ _).alloc (Nat.le_refl _) _
  have HB := Lib.hid (bytes_any A1 (some ⟨w1.heap.size, 0, none⟩) [31, 154, 10] [31, 154, 10] 3 3 c1 3 (w1.alloc (.cells #[.int .u8 31, .int .u8 154, .int .u8 10] 5)) _ _ (hat.up hb2) (At.new w1 [31, 154, 10] 5 (0, 0)) (fun x hx => by simp at hx; omega) (fun x hx => by simp at hx; omega) rfl rfl)
  rw [decide_eq_true (rfl : [31, 154, 10] = [31, 154, 10])] at HB
  have hb3 := hb1.trans (hb2.mono hb1.size)
  clear hat hc hnc HP hb2 hb1
  go_wp2_with fail
  with_reducible refine (HB.out).mono ?_
  rintro e w' ⟨rfl, rfl⟩
  go_wp2_with fail
  go_ret
  exact ⟨rfl, hb3⟩
end Go.Proofs.Ytpnnojbdpnjokaa
