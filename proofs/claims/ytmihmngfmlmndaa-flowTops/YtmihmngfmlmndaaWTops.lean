/- The walk of FlowTops. -/
import Derived.Test.YtmihmngfmlmndaaWKeep
import Derived.Test.YtmihmngfmlmndaaWFew
import Derived.Deep.DeepCutAuto
import Derived.BigQuiet
namespace Go.Proofs.Ytmihmngfmlmndaa
open Go.RowKit Fl Fw

namespace flowTops
set_option maxRecDepth 100000 in
set_option maxHeartbeats 4000000 in
theorem walk_out (s c a b : Int) (w : World) (h : s < -2147483647 ∨ 2147483647 < s ∨ c < -2147483647 ∨ 2147483647 < c ∨ a < 0 ∨ 2147483647 < a ∨ b < 0 ∨ 2147483647 < b) : Calls Try.prog 5 #[.int .i64 s, .int .i64 c, .int .i64 a, .int .i64 b] w (YesW w) := by
  have HFST := Lib.hid fun (W : World) => first12_any W
  rcases (show s < -2147483647 ∨ (¬ s < -2147483647 ∧ 2147483647 < s) ∨ (¬ s < -2147483647 ∧ ¬ 2147483647 < s ∧ c < -2147483647) ∨ (¬ s < -2147483647 ∧ ¬ 2147483647 < s ∧ ¬ c < -2147483647 ∧ 2147483647 < c) ∨ (¬ s < -2147483647 ∧ ¬ 2147483647 < s ∧ ¬ c < -2147483647 ∧ ¬ 2147483647 < c ∧ a < 0) ∨ (¬ s < -2147483647 ∧ ¬ 2147483647 < s ∧ ¬ c < -2147483647 ∧ ¬ 2147483647 < c ∧ ¬ a < 0 ∧ 2147483647 < a) ∨ (¬ s < -2147483647 ∧ ¬ 2147483647 < s ∧ ¬ c < -2147483647 ∧ ¬ 2147483647 < c ∧ ¬ a < 0 ∧ ¬ 2147483647 < a ∧ b < 0) ∨ (¬ s < -2147483647 ∧ ¬ 2147483647 < s ∧ ¬ c < -2147483647 ∧ ¬ 2147483647 < c ∧ ¬ a < 0 ∧ ¬ 2147483647 < a ∧ ¬ b < 0 ∧ 2147483647 < b) by omega) with h1 | ⟨h1, h2⟩ | ⟨h1, h2, h3⟩ | ⟨h1, h2, h3, h4⟩ | ⟨h1, h2, h3, h4, h5⟩ | ⟨h1, h2, h3, h4, h5, h6⟩ | ⟨h1, h2, h3, h4, h5, h6, h7⟩ | ⟨h1, h2, h3, h4, h5, h6, h7, h8⟩
  all_goals
    clear h
    go_enter Try.func5, Try.ntmps5
    go_wp2_with fail
    with_reducible refine (HFST.out w).mono ?_
    rintro e w1 ⟨rfl, hb1⟩
    have HB1 := Lib.hid hb1
    have HF2 := Lib.hid (HFST.out w1)
    clear hb1
    go_wp2_with fail
    with_reducible refine (HF2.out).mono ?_
    rintro e w2 ⟨rfl, hb2⟩
    have HB2 := Lib.hid (HB1.out.trans (hb2.mono HB1.out.size))
    clear hb2
    go_wp2_with fail
    go_ret
    exact ⟨rfl, HB2.out⟩
set_option maxRecDepth 100000 in
set_option maxHeartbeats 4000000 in
theorem walk_ok (s c a b : Int) (w : World) (hs : in_ s) (hc : in_ c) (a0 : 0 ≤ a) (a1 : a ≤ 2147483647) (b0 : 0 ≤ b) (b1 : b ≤ 2147483647) (hl : s + a ≤ 2147483647) (hh : c + b ≤ 2147483647) : Calls Try.prog 5 #[.int .i64 s, .int .i64 c, .int .i64 a, .int .i64 b] w (YesW w) := by
  have HFST := Lib.hid fun (W : World) => first12_any W
  have HWIN := Lib.hid fun (W : World) => win_in W hs hc
  have HG0 := Lib.hid fun (x y : Nat) (h : Zw x y s c) (W : World) => gra_ok (s := 0) (c := 0) h W (by omega) (by omega) (by unfold in_ at hs; omega) (by unfold in_ at hc; omega) (by omega) (by omega)
  have HG1 := Lib.hid fun (x y : Nat) (h : Zw x y s c) (W : World) => gra_ok h W a0 b0 hl hh a1 b1
  unfold in_ at hs hc
  have h1 : ¬ s < -2147483647 := by omega
  have h2 : ¬ 2147483647 < s := by omega
  have h3 : ¬ c < -2147483647 := by omega
  have h4 : ¬ 2147483647 < c := by omega
  have h5 : ¬ a < 0 := by omega
  have h6 : ¬ 2147483647 < a := by omega
  have h7 : ¬ b < 0 := by omega
  have h8 : ¬ 2147483647 < b := by omega
  obtain ⟨tb, htb⟩ : ∃ t, t = 2147483647 - b := ⟨_, rfl⟩
  obtain ⟨ta, hta⟩ : ∃ t, t = 2147483647 - a := ⟨_, rfl⟩
  have ob : (2147483647 : Int) - b = tb := htb.symm
  have oa : (2147483647 : Int) - a = ta := hta.symm
  have wb : IntKind.i64.wrap tb = tb := IntWalk.i64_in _ (by omega)
  have wa : IntKind.i64.wrap ta = ta := IntWalk.i64_in _ (by omega)
  have kh : ¬ tb < c := by omega
  have kl : ¬ ta < s := by omega
  obtain ⟨u, hu⟩ : ∃ t, t = s + a := ⟨_, rfl⟩
  obtain ⟨v, hv⟩ : ∃ t, t = c + b := ⟨_, rfl⟩
  have ou : s + a = u := hu.symm
  have ov : c + b = v := hv.symm
  have wu : IntKind.i64.wrap u = u := IntWalk.i64_in _ (by omega)
  have wv : IntKind.i64.wrap v = v := IntWalk.i64_in _ (by omega)
  have HUV : Hid (s + a = u ∧ c + b = v) := Lib.hid ⟨hu.symm, hv.symm⟩
  clear hs hc a0 a1 b0 b1 hl hh htb hta hu hv
  go_enter Try.func5, Try.ntmps5
  go_wp2_with fail
  with_reducible refine (HFST.out w).mono ?_
  rintro e w1 ⟨rfl, hb1⟩
  have HB1 := Lib.hid hb1
  have HC1 := Lib.hid (HWIN.out w1)
  clear hb1
  go_wp2_with fail
  with_reducible refine (HC1.out).mono ?_
  rintro e w2 ⟨z1, z2, rfl, hz, hb2⟩
  have HZ := Lib.hid hz
  have HB2 := Lib.hid (HB1.out.trans (hb2.mono HB1.out.size))
  have HC2 := Lib.hid (HG0.out _ _ hz w2)
  clear hz hb2
  go_wp2_with fail
  with_reducible refine (HC2.out).mono ?_
  rintro e w3 ⟨x1, x2, rfl, hx, hb3⟩
  have HB3 := Lib.hid (HB2.out.trans (hb3.mono HB2.out.size))
  have q1 := feq hx.a' HZ.out.a' (by omega)
  have q2 := feq hx.b' HZ.out.b' (by omega)
  obtain ⟨hk4, hb4⟩ := kf_of w3 false false 0
  obtain ⟨w4, hw4⟩ : ∃ w4, w4 = w3.alloc (.cells #[.bool false, .bool false, .int .i64 0] 30) := ⟨_, rfl⟩
  rw [← hw4] at hk4 hb4
  have HB4 := Lib.hid (HB3.out.trans (hb4.mono HB3.out.size))
  have HK4 := Lib.hid hk4
  have HW4 := Lib.hid hw4
  clear hb3 hb4 hk4 hw4 hx
  go_wp2_with fail
  rw [← HW4.out]
  obtain ⟨g4, hg4⟩ : ∃ g, g = w3.heap.size := ⟨_, rfl⟩
  rw [← hg4] at HK4 ⊢
  clear hg4
  with_reducible refine (HG1.out _ _ HZ.out w4).mono ?_
  rintro e w5 ⟨y1, y2, rfl, hy, hb5⟩
  rw [HUV.out.1, HUV.out.2] at hy
  have HB5 := Lib.hid (HB4.out.trans (hb5.mono HB4.out.size))
  have hk5 := HK4.out.up hb5
  obtain ⟨hk6, hb6⟩ := kf_of w5 false false 0
  have hk5' := hk5.up hb6
  obtain ⟨w6, hw6⟩ : ∃ w6, w6 = w5.alloc (.cells #[.bool false, .bool false, .int .i64 0] 30) := ⟨_, rfl⟩
  rw [← hw6] at hk6 hk5' hb6
  have HB6 := Lib.hid (HB5.out.trans (hb6.mono HB5.out.size))
  have HK6 := Lib.hid hk6
  have HW6 := Lib.hid hw6
  have HZY := Lib.hid hy
  obtain ⟨c0, _, _⟩ := hk5'.cells
  have HF6 := Lib.hid (HFST.out w6)
  have HGS := Lib.hid (fun (W : World) => wstr_f hy W)
  have HGC := Lib.hid (fun (W : World) => wcon_f hy W)
  clear hb5 hb6 hk5 hk5' hk6 hw6 hy
  go_upto_region 8 with fail
  rw [← HW6.out]
  obtain ⟨g6, hg6⟩ : ∃ g, g = w5.heap.size := ⟨_, rfl⟩
  rw [← hg6] at HK6 ⊢
  clear hg6
  obtain ⟨d0, d1, d2⟩ := HK6.out.cells
  go_wp2_with fail
  with_reducible refine (HF6.out).mono ?_
  rintro e w7 ⟨rfl, hb7⟩
  have HB7 := Lib.hid (HB6.out.trans (hb7.mono HB6.out.size))
  obtain ⟨d0', _, _⟩ := (HK6.out.up hb7).cells
  clear hb7 c0 d0 d1 d2 q1 q2
  go_wp2_with fail
  with_reducible refine (HGS.out w7).mono ?_
  rintro e w8 ⟨rfl, hb8⟩
  have HB8 := Lib.hid (HB7.out.trans (hb8.mono HB7.out.size))
  clear hb8
  go_wp2_with fail
  with_reducible refine (HGC.out w8).mono ?_
  rintro e w9 ⟨rfl, hb9⟩
  have HB9 := Lib.hid (HB8.out.trans (hb9.mono HB8.out.size))
  clear hb9
  go_wp2_with fail
  go_ret
  exact ⟨rfl, HB9.out⟩
set_option maxRecDepth 100000 in
set_option maxHeartbeats 4000000 in
theorem walk_high (s c a b : Int) (w : World) (hs : in_ s) (hc : in_ c) (a0 : 0 ≤ a) (a1 : a ≤ 2147483647) (b0 : 0 ≤ b) (b1 : b ≤ 2147483647) (hh : 2147483647 < c + b) : Calls Try.prog 5 #[.int .i64 s, .int .i64 c, .int .i64 a, .int .i64 b] w (YesW w) := by
  have HFST := Lib.hid fun (W : World) => first12_any W
  have HWIN := Lib.hid fun (W : World) => win_in W hs hc
  have HG0 := Lib.hid fun (x y : Nat) (h : Zw x y s c) (W : World) => gra_ok (s := 0) (c := 0) h W (by omega) (by omega) (by unfold in_ at hs; omega) (by unfold in_ at hc; omega) (by omega) (by omega)
  have HG1 := Lib.hid fun (x y : Nat) (h : Zw x y s c) (W : World) => gra_no h W a0 b0 a1 b1 (by omega)
  unfold in_ at hs hc
  have h1 : ¬ s < -2147483647 := by omega
  have h2 : ¬ 2147483647 < s := by omega
  have h3 : ¬ c < -2147483647 := by omega
  have h4 : ¬ 2147483647 < c := by omega
  have h5 : ¬ a < 0 := by omega
  have h6 : ¬ 2147483647 < a := by omega
  have h7 : ¬ b < 0 := by omega
  have h8 : ¬ 2147483647 < b := by omega
  obtain ⟨tb, htb⟩ : ∃ t, t = 2147483647 - b := ⟨_, rfl⟩
  obtain ⟨ta, hta⟩ : ∃ t, t = 2147483647 - a := ⟨_, rfl⟩
  have ob : (2147483647 : Int) - b = tb := htb.symm
  have oa : (2147483647 : Int) - a = ta := hta.symm
  have wb : IntKind.i64.wrap tb = tb := IntWalk.i64_in _ (by omega)
  have wa : IntKind.i64.wrap ta = ta := IntWalk.i64_in _ (by omega)
  have kh : tb < c := by omega
  have HH : Hid (decide (2147483647 < c + b) = true) := Lib.hid (decide_eq_true hh)
  clear hs hc a0 a1 b0 b1 hh htb hta
  go_enter Try.func5, Try.ntmps5
  go_wp2_with fail
  with_reducible refine (HFST.out w).mono ?_
  rintro e w1 ⟨rfl, hb1⟩
  have HB1 := Lib.hid hb1
  have HC1 := Lib.hid (HWIN.out w1)
  clear hb1
  go_wp2_with fail
  with_reducible refine (HC1.out).mono ?_
  rintro e w2 ⟨z1, z2, rfl, hz, hb2⟩
  have HZ := Lib.hid hz
  have HB2 := Lib.hid (HB1.out.trans (hb2.mono HB1.out.size))
  have HC2 := Lib.hid (HG0.out _ _ hz w2)
  clear hz hb2
  go_wp2_with fail
  with_reducible refine (HC2.out).mono ?_
  rintro e w3 ⟨x1, x2, rfl, hx, hb3⟩
  have HB3 := Lib.hid (HB2.out.trans (hb3.mono HB2.out.size))
  have q1 := feq hx.a' HZ.out.a' (by omega)
  have q2 := feq hx.b' HZ.out.b' (by omega)
  obtain ⟨hk4, hb4⟩ := kf_of w3 false false 0
  obtain ⟨w4, hw4⟩ : ∃ w4, w4 = w3.alloc (.cells #[.bool false, .bool false, .int .i64 0] 30) := ⟨_, rfl⟩
  rw [← hw4] at hk4 hb4
  have HB4 := Lib.hid (HB3.out.trans (hb4.mono HB3.out.size))
  have HK4 := Lib.hid hk4
  have HW4 := Lib.hid hw4
  clear hb3 hb4 hk4 hw4 hx
  go_wp2_with fail
  rw [← HW4.out]
  obtain ⟨g4, hg4⟩ : ∃ g, g = w3.heap.size := ⟨_, rfl⟩
  rw [← hg4] at HK4 ⊢
  clear hg4
  with_reducible refine (HG1.out _ _ HZ.out w4).mono ?_
  rw [show decide (2147483647 < c + b) = true from HH.out]
  rintro e w5 ⟨y1, y2, rfl, hy1, hy2, hb5⟩
  have HB5 := Lib.hid (HB4.out.trans (hb5.mono HB4.out.size))
  have hk5 := HK4.out.up hb5
  obtain ⟨hk6, hb6⟩ := kf_of w5 true true 3
  have hk5' := hk5.up hb6
  obtain ⟨w6, hw6⟩ : ∃ w6, w6 = w5.alloc (.cells #[.bool true, .bool true, .int .i64 3] 30) := ⟨_, rfl⟩
  rw [← hw6] at hk6 hk5' hb6
  have HB6 := Lib.hid (HB5.out.trans (hb6.mono HB5.out.size))
  have HK6 := Lib.hid hk6
  have HW6 := Lib.hid hw6
  have q3 := feq hy1 whole_zero rfl
  have q4 := feq hy2 whole_zero rfl
  obtain ⟨c0, _, _⟩ := hk5'.cells
  have HF6 := Lib.hid (HFST.out w6)
  clear hb5 hb6 hk5 hk5' hk6 hw6 hy1 hy2
  go_upto_region 8 with fail
  rw [← HW6.out]
  obtain ⟨g6, hg6⟩ : ∃ g, g = w5.heap.size := ⟨_, rfl⟩
  rw [← hg6] at HK6 ⊢
  clear hg6
  obtain ⟨d0, d1, d2⟩ := HK6.out.cells
  go_wp2_with fail
  with_reducible refine (HF6.out).mono ?_
  rintro e w7 ⟨rfl, hb7⟩
  have HB7 := Lib.hid (HB6.out.trans (hb7.mono HB6.out.size))
  obtain ⟨d0', _, _⟩ := (HK6.out.up hb7).cells
  clear hb7 c0 d0 d1 d2 q1 q2 q3 q4
  go_wp2_with fail
  go_ret
  exact ⟨rfl, HB7.out⟩
set_option maxRecDepth 100000 in
set_option maxHeartbeats 4000000 in
theorem walk_low (s c a b : Int) (w : World) (hs : in_ s) (hc : in_ c) (a0 : 0 ≤ a) (a1 : a ≤ 2147483647) (b0 : 0 ≤ b) (b1 : b ≤ 2147483647) (hl : 2147483647 < s + a) (hh : ¬ 2147483647 < c + b) : Calls Try.prog 5 #[.int .i64 s, .int .i64 c, .int .i64 a, .int .i64 b] w (YesW w) := by
  have HFST := Lib.hid fun (W : World) => first12_any W
  have HWIN := Lib.hid fun (W : World) => win_in W hs hc
  have HG0 := Lib.hid fun (x y : Nat) (h : Zw x y s c) (W : World) => gra_ok (s := 0) (c := 0) h W (by omega) (by omega) (by unfold in_ at hs; omega) (by unfold in_ at hc; omega) (by omega) (by omega)
  have HG1 := Lib.hid fun (x y : Nat) (h : Zw x y s c) (W : World) => gra_no h W a0 b0 a1 b1 (by omega)
  unfold in_ at hs hc
  have h1 : ¬ s < -2147483647 := by omega
  have h2 : ¬ 2147483647 < s := by omega
  have h3 : ¬ c < -2147483647 := by omega
  have h4 : ¬ 2147483647 < c := by omega
  have h5 : ¬ a < 0 := by omega
  have h6 : ¬ 2147483647 < a := by omega
  have h7 : ¬ b < 0 := by omega
  have h8 : ¬ 2147483647 < b := by omega
  obtain ⟨tb, htb⟩ : ∃ t, t = 2147483647 - b := ⟨_, rfl⟩
  obtain ⟨ta, hta⟩ : ∃ t, t = 2147483647 - a := ⟨_, rfl⟩
  have ob : (2147483647 : Int) - b = tb := htb.symm
  have oa : (2147483647 : Int) - a = ta := hta.symm
  have wb : IntKind.i64.wrap tb = tb := IntWalk.i64_in _ (by omega)
  have wa : IntKind.i64.wrap ta = ta := IntWalk.i64_in _ (by omega)
  have kh : ¬ tb < c := by omega
  have kl : ta < s := by omega
  have HH : Hid (decide (2147483647 < c + b) = false) := Lib.hid (decide_eq_false hh)
  clear hs hc a0 a1 b0 b1 hh htb hta hl
  go_enter Try.func5, Try.ntmps5
  go_wp2_with fail
  with_reducible refine (HFST.out w).mono ?_
  rintro e w1 ⟨rfl, hb1⟩
  have HB1 := Lib.hid hb1
  have HC1 := Lib.hid (HWIN.out w1)
  clear hb1
  go_wp2_with fail
  with_reducible refine (HC1.out).mono ?_
  rintro e w2 ⟨z1, z2, rfl, hz, hb2⟩
  have HZ := Lib.hid hz
  have HB2 := Lib.hid (HB1.out.trans (hb2.mono HB1.out.size))
  have HC2 := Lib.hid (HG0.out _ _ hz w2)
  clear hz hb2
  go_wp2_with fail
  with_reducible refine (HC2.out).mono ?_
  rintro e w3 ⟨x1, x2, rfl, hx, hb3⟩
  have HB3 := Lib.hid (HB2.out.trans (hb3.mono HB2.out.size))
  have q1 := feq hx.a' HZ.out.a' (by omega)
  have q2 := feq hx.b' HZ.out.b' (by omega)
  obtain ⟨hk4, hb4⟩ := kf_of w3 false false 0
  obtain ⟨w4, hw4⟩ : ∃ w4, w4 = w3.alloc (.cells #[.bool false, .bool false, .int .i64 0] 30) := ⟨_, rfl⟩
  rw [← hw4] at hk4 hb4
  have HB4 := Lib.hid (HB3.out.trans (hb4.mono HB3.out.size))
  have HK4 := Lib.hid hk4
  have HW4 := Lib.hid hw4
  clear hb3 hb4 hk4 hw4 hx
  go_wp2_with fail
  rw [← HW4.out]
  obtain ⟨g4, hg4⟩ : ∃ g, g = w3.heap.size := ⟨_, rfl⟩
  rw [← hg4] at HK4 ⊢
  clear hg4
  with_reducible refine (HG1.out _ _ HZ.out w4).mono ?_
  rw [show decide (2147483647 < c + b) = false from HH.out]
  rintro e w5 ⟨y1, y2, rfl, hy1, hy2, hb5⟩
  have HB5 := Lib.hid (HB4.out.trans (hb5.mono HB4.out.size))
  have hk5 := HK4.out.up hb5
  obtain ⟨hk6, hb6⟩ := kf_of w5 true false 3
  have hk5' := hk5.up hb6
  obtain ⟨w6, hw6⟩ : ∃ w6, w6 = w5.alloc (.cells #[.bool true, .bool false, .int .i64 3] 30) := ⟨_, rfl⟩
  rw [← hw6] at hk6 hk5' hb6
  have HB6 := Lib.hid (HB5.out.trans (hb6.mono HB5.out.size))
  have HK6 := Lib.hid hk6
  have HW6 := Lib.hid hw6
  have q3 := feq hy1 whole_zero rfl
  have q4 := feq hy2 whole_zero rfl
  obtain ⟨c0, _, _⟩ := hk5'.cells
  have HF6 := Lib.hid (HFST.out w6)
  clear hb5 hb6 hk5 hk5' hk6 hw6 hy1 hy2
  go_upto_region 8 with fail
  rw [← HW6.out]
  obtain ⟨g6, hg6⟩ : ∃ g, g = w5.heap.size := ⟨_, rfl⟩
  rw [← hg6] at HK6 ⊢
  clear hg6
  obtain ⟨d0, d1, d2⟩ := HK6.out.cells
  go_wp2_with fail
  with_reducible refine (HF6.out).mono ?_
  rintro e w7 ⟨rfl, hb7⟩
  have HB7 := Lib.hid (HB6.out.trans (hb7.mono HB6.out.size))
  obtain ⟨d0', _, _⟩ := (HK6.out.up hb7).cells
  clear hb7 c0 d0 d1 d2 q1 q2 q3 q4
  go_wp2_with fail
  go_ret
  exact ⟨rfl, HB7.out⟩
theorem walk_any (s c a b : Int) (w : World) : Calls Try.prog 5 #[.int .i64 s, .int .i64 c, .int .i64 a, .int .i64 b] w (YesW w) := by
  by_cases h : s < -2147483647 ∨ 2147483647 < s ∨ c < -2147483647 ∨ 2147483647 < c ∨ a < 0 ∨ 2147483647 < a ∨ b < 0 ∨ 2147483647 < b
  · exact walk_out s c a b w h
  · have hs : in_ s := by unfold in_; omega
    have hc : in_ c := by unfold in_; omega
    by_cases hh : 2147483647 < c + b
    · exact walk_high s c a b w hs hc (by omega) (by omega) (by omega) (by omega) hh
    · by_cases hl : 2147483647 < s + a
      · exact walk_low s c a b w hs hc (by omega) (by omega) (by omega) (by omega) hl hh
      · exact walk_ok s c a b w hs hc (by omega) (by omega) (by omega) (by omega) (by omega) (by omega)
end flowTops
end Go.Proofs.Ytmihmngfmlmndaa
