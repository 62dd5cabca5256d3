/- first of stage 12; the faces as the walks call them. -/
import Derived.Test.YtmihmngfmlmndaaWFace
namespace Go.Proofs.Ytmihmngfmlmndaa
open Go.RowKit Fl Fw

theorem whole_10 : Whole 4621819117588971520 10 := by
  have h := whole_fOf 10 (by omega) (by omega)
  rwa [show fOf 10 = 4621819117588971520 by kernel_rfl] at h
theorem whole_4 : Whole 4616189618054758400 4 := by
  have h := whole_fOf 4 (by omega) (by omega)
  rwa [show fOf 4 = 4616189618054758400 by kernel_rfl] at h
theorem in_i64 {k : Int} (h : in_ k) : -9223372036854775808 ≤ k ∧ k ≤ 9223372036854775807 := by
  unfold in_ at h
  omega
/-- Windows of numbers that may be. -/
theorem win_in {s c : Int} (w : World) (hs : in_ s) (hc : in_ c) : Calls Try.prog 8 #[.int .i64 s, .int .i64 c] w fun e w' => ∃ a b, e = .returned (.complex .f64 a b) ∧ Zw a b s c ∧ Below w.heap.size w w' := by
  refine (wwin_f s c w (in_i64 hs) (in_i64 hc)).mono ?_
  rintro e w' ⟨a, b, rfl, h1, h2, h3⟩
  rw [cut_in hs] at h1
  rw [cut_in hc] at h2
  exact ⟨a, b, rfl, ⟨h1, h2, hs, hc⟩, h3⟩
/-- Spend that goes. -/
theorem spd_ok {a b : Nat} {k l n : Int} (h : Zw a b k l) (w : World) (h0 : 0 ≤ n) (h1 : n ≤ may k l) : Calls Try.prog 12 #[.complex .f64 a b, .int .i64 n] w fun e w' => ∃ a b, e = .returned (.tuple #[.complex .f64 a b, .int .i64 0]) ∧ Zw a b (k - n) (l - n) ∧ Below w.heap.size w w' := by
  obtain ⟨_, _, ⟨ka, kb⟩, ⟨la, lb⟩⟩ := id h
  have hm : may k l ≤ 2147483647 := by unfold may; omega
  have hn : n = 0 ∨ n ≤ k ∧ n ≤ l := by unfold may at h1; omega
  refine (wspd_f h n w (by omega)).mono ?_
  rw [spend, if_pos ⟨h0, h1⟩]
  rintro e w' ⟨a, b, rfl, g1, g2, g3⟩
  exact ⟨a, b, rfl, ⟨g1, g2, by unfold in_; omega, by unfold in_; omega⟩, g3⟩
theorem spd_no {a b : Nat} {k l n : Int} (h : Zw a b k l) (w : World) (hi : -9223372036854775808 ≤ n ∧ n ≤ 9223372036854775807) (h0 : ¬ (0 ≤ n ∧ n ≤ may k l)) : Calls Try.prog 12 #[.complex .f64 a b, .int .i64 n] w fun e w' => ∃ a b, e = .returned (.tuple #[.complex .f64 a b, .int .i64 1]) ∧ Whole a 0 ∧ Whole b 0 ∧ Below w.heap.size w w' := by
  refine (wspd_f h n w hi).mono ?_
  rw [spend, if_neg h0]
  rintro e w' ⟨a, b, rfl, g1, g2, g3⟩
  exact ⟨a, b, rfl, g1, g2, g3⟩
/-- Grant that goes. -/
theorem gra_ok {a b : Nat} {k l s c : Int} (h : Zw a b k l) (w : World) (hs : 0 ≤ s) (hc : 0 ≤ c) (h0 : k + s ≤ 2147483647) (h1 : l + c ≤ 2147483647) (h2 : s ≤ 2147483647) (h3 : c ≤ 2147483647) : Calls Try.prog 13 #[.complex .f64 a b, .int .i64 s, .int .i64 c] w fun e w' => ∃ a b, e = .returned (.tuple #[.complex .f64 a b, .agg #[.bool false, .bool false, .int .i64 0]]) ∧ Zw a b (k + s) (l + c) ∧ Below w.heap.size w w' := by
  obtain ⟨_, _, ⟨ka, kb⟩, ⟨la, lb⟩⟩ := id h
  refine (wgra_f h s c w (by omega) (by omega)).mono ?_
  rw [grant, if_neg (by omega), if_neg (by omega), if_neg (by omega)]
  rintro e w' ⟨a, b, rfl, g1, g2, g3⟩
  exact ⟨a, b, rfl, ⟨g1, g2, by unfold in_; omega, by unfold in_; omega⟩, g3⟩
/-- Grant that goes above: the connection's ahead of the stream's. -/
theorem gra_no {a b : Nat} {k l s c : Int} (h : Zw a b k l) (w : World) (hs : 0 ≤ s) (hc : 0 ≤ c) (h2 : s ≤ 2147483647) (h3 : c ≤ 2147483647) (h0 : 2147483647 < k + s ∨ 2147483647 < l + c) : Calls Try.prog 13 #[.complex .f64 a b, .int .i64 s, .int .i64 c] w fun e w' => ∃ a b, e = .returned (.tuple #[.complex .f64 a b, .agg #[.bool true, .bool (decide (2147483647 < l + c)), .int .i64 3]]) ∧ Whole a 0 ∧ Whole b 0 ∧ Below w.heap.size w w' := by
  refine (wgra_f h s c w (by omega) (by omega)).mono ?_
  rw [grant, if_neg (by omega)]
  by_cases hl : 2147483647 < l + c
  · rw [if_pos hl, decide_eq_true hl]
    rintro e w' ⟨a, b, rfl, g1, g2, g3⟩
    exact ⟨a, b, rfl, g1, g2, g3⟩
  · rw [if_neg hl, if_pos (by omega), decide_eq_false hl]
    rintro e w' ⟨a, b, rfl, g1, g2, g3⟩
    exact ⟨a, b, rfl, g1, g2, g3⟩
theorem shi_ok {a b : Nat} {k l n : Int} (h : Zw a b k l) (w : World) (hn : in_ n) (h0 : k + n ≤ 2147483647) : Calls Try.prog 14 #[.complex .f64 a b, .int .i64 n] w fun e w' => ∃ a b, e = .returned (.tuple #[.complex .f64 a b, .agg #[.bool false, .bool false, .int .i64 0]]) ∧ Zw a b (max (k + n) (-2147483647)) l ∧ Below w.heap.size w w' := by
  obtain ⟨_, _, ⟨ka, kb⟩, hl⟩ := id h
  refine (wshi_f h n w (in_i64 hn)).mono ?_
  unfold in_ at hn
  rw [shift, if_neg (by omega), if_neg (by omega)]
  rintro e w' ⟨a, b, rfl, g1, g2, g3⟩
  exact ⟨a, b, rfl, ⟨g1, g2, by unfold in_; omega, hl⟩, g3⟩
theorem shi_no {a b : Nat} {k l n : Int} (h : Zw a b k l) (w : World) (hn : in_ n) (h0 : 2147483647 < k + n) : Calls Try.prog 14 #[.complex .f64 a b, .int .i64 n] w fun e w' => ∃ a b, e = .returned (.tuple #[.complex .f64 a b, .agg #[.bool true, .bool true, .int .i64 3]]) ∧ Whole a 0 ∧ Whole b 0 ∧ Below w.heap.size w w' := by
  refine (wshi_f h n w (in_i64 hn)).mono ?_
  unfold in_ at hn
  rw [shift, if_neg (by omega), if_pos h0]
  rintro e w' ⟨a, b, rfl, g1, g2, g3⟩
  exact ⟨a, b, rfl, g1, g2, g3⟩
set_option maxRecDepth 100000 in
set_option maxHeartbeats 2000000 in
theorem first12_any (w : World) : Calls Try.prog 7 #[] w (YesW w) := by
  have i10 : in_ 10 := by unfold in_; omega
  have i4 : in_ 4 := by unfold in_; omega
  have HWN := Lib.hid (win_in w i10 i4)
  clear i10 i4
  go_enter Try.func7, Try.ntmps7
  go_wp2_with fail
  with_reducible refine (HWN.out).mono ?_
  rintro e w1 ⟨a, b, rfl, hz, hb1⟩
  have HZ := Lib.hid hz
  have HB1 := Lib.hid hb1
  have e1 := feq hz.a' whole_10 rfl
  have e2 := feq hz.b' whole_4 rfl
  have HM := Lib.hid (wmay_f hz w1)
  rw [show may 10 4 = 4 by decide] at HM
  clear hz hb1
  go_wp2_with fail
  with_reducible refine (HM.out).mono ?_
  rintro e w2 ⟨rfl, hb2⟩
  have HB2 := Lib.hid (HB1.out.trans (hb2.mono HB1.out.size))
  have HS := Lib.hid (wstr_f HZ.out w2)
  clear hb2
  go_wp2_with fail
  with_reducible refine (HS.out).mono ?_
  rintro e w3 ⟨rfl, hb3⟩
  have HB3 := Lib.hid (HB2.out.trans (hb3.mono HB2.out.size))
  have HC := Lib.hid (wcon_f HZ.out w3)
  clear hb3
  go_wp2_with fail
  with_reducible refine (HC.out).mono ?_
  rintro e w4 ⟨rfl, hb4⟩
  have HB4 := Lib.hid (HB3.out.trans (hb4.mono HB3.out.size))
  clear hb4
  go_wp2_with fail
  go_ret
  exact ⟨rfl, HB4.out⟩
end Go.Proofs.Ytmihmngfmlmndaa
