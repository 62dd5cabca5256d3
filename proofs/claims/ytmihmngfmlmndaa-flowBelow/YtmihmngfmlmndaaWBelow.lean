/- The walk of FlowBelow. -/
import Derived.Test.YtmihmngfmlmndaaWKeep
import Derived.Test.YtmihmngfmlmndaaWFew
import Derived.Deep.DeepCutAuto
import Derived.BigQuiet
namespace Go.Proofs.Ytmihmngfmlmndaa
open Go.RowKit Fl Fw
namespace flowBelow
set_option maxRecDepth 100000 in
set_option maxHeartbeats 4000000 in
theorem walk_out (s c b : Int) (w : World) (h : s < 0 ∨ 2147483647 < s ∨ c < 1 ∨ 2147483647 < c ∨ b < 1 ∨ 2147483647 < b) : Calls Try.prog 6 #[.int .i64 s, .int .i64 c, .int .i64 b] w (YesW w) := by
  have HFST := Lib.hid fun (W : World) => first12_any W
  rcases (show (s < 0) ∨ (¬ s < 0 ∧ 2147483647 < s) ∨ (¬ s < 0 ∧ ¬ 2147483647 < s ∧ c < 1) ∨ (¬ s < 0 ∧ ¬ 2147483647 < s ∧ ¬ c < 1 ∧ 2147483647 < c) ∨ (¬ s < 0 ∧ ¬ 2147483647 < s ∧ ¬ c < 1 ∧ ¬ 2147483647 < c ∧ b < 1) ∨ (¬ s < 0 ∧ ¬ 2147483647 < s ∧ ¬ c < 1 ∧ ¬ 2147483647 < c ∧ ¬ b < 1 ∧ 2147483647 < b) by omega) with h1 | ⟨h1, h2⟩ | ⟨h1, h2, h3⟩ | ⟨h1, h2, h3, h4⟩ | ⟨h1, h2, h3, h4, h5⟩ | ⟨h1, h2, h3, h4, h5, h6⟩
  all_goals
    clear h
    go_enter Try.func6, Try.ntmps6
    go_wp2_with fail
    with_reducible refine (HFST.out w).mono ?_
    rintro e w1 ⟨rfl, hb1⟩
    have HB1 := Lib.hid hb1
    have HF2 := Lib.hid (HFST.out w1)
    clear hb1
    go_wp2_with fail
    with_reducible refine (HF2.out).mono ?_
    rintro e w2 ⟨rfl, hb2⟩
    have HB2 := Lib.hid (HB1.out.trans (hb2.mono HB1.out.size))
    clear hb2
    go_wp2_with fail
    go_ret
    exact ⟨rfl, HB2.out⟩
set_option maxRecDepth 100000 in
set_option maxHeartbeats 4000000 in
theorem walk_ge (s c b : Int) (w : World) (s0 : 0 ≤ s) (s1 : s ≤ 2147483647) (c0 : 1 ≤ c) (c1 : c ≤ 2147483647) (b0 : 1 ≤ b) (b1 : b ≤ 2147483647) (hsb : b ≤ s) : Calls Try.prog 6 #[.int .i64 s, .int .i64 c, .int .i64 b] w (YesW w) := by
  have HFST := Lib.hid fun (W : World) => first12_any W
  have hs : in_ s := by unfold in_; omega
  have hc : in_ c := by unfold in_; omega
  have hn : in_ (-b) := by unfold in_; omega
  have HWIN := Lib.hid fun (W : World) => win_in W hs hc
  obtain ⟨u, hu⟩ : ∃ zz, zz = s - b := ⟨_, rfl⟩
  obtain ⟨nb, hnb⟩ : ∃ zz, zz = -b := ⟨_, rfl⟩
  have HSH : Hid (∀ x y W, Zw x y s c → Calls Try.prog 14 #[.complex .f64 x y, .int .i64 nb] W fun e w' => ∃ a b, e = .returned (.tuple #[.complex .f64 a b, .agg #[.bool false, .bool false, .int .i64 0]]) ∧ Zw a b u c ∧ Below W.heap.size W w') := Lib.hid (fun x y W h => by
    have := shi_ok h W hn (by omega)
    rwa [show max (s + -b) (-2147483647) = u by omega, ← hnb] at this)
  have h1 : ¬ s < 0 := by omega
  have h2 : ¬ 2147483647 < s := by omega
  have h3 : ¬ c < 1 := by omega
  have h4 : ¬ 2147483647 < c := by omega
  have h5 : ¬ b < 1 := by omega
  have h6 : ¬ 2147483647 < b := by omega
  have ou : s - b = u := hu.symm
  have wu' : IntKind.i64.wrap u = u := IntWalk.i64_in _ (by omega)
  have onb : -b = nb := hnb.symm
  have wnb' : IntKind.i64.wrap nb = nb := IntWalk.i64_in _ (by omega)
  have e1 : (u != u) = false := by simp
  have e2 : (c != c) = false := by simp
  have kg : b ≤ s := hsb
  have um : max (min u c) 0 = min u c := by omega
  have HM : Hid (∀ x y W, Zw x y u c → Calls Try.prog 11 #[.complex .f64 x y] W (IPost W (min u c))) := Lib.hid (fun x y W h => by
    have := wmay_f h W
    rwa [may, um] at this)
  clear s0 s1 c0 c1 b0 b1 hsb hu hnb um hs hc hn
  go_enter Try.func6, Try.ntmps6
  have HB0 := Lib.hid (Below.refl w.heap.size w)
  go_wp2_with fail
  with_reducible refine (HFST.out w).mono ?_
  rintro e w1 ⟨rfl, hb1⟩
  have HB1 := Lib.hid (HB0.out.trans (hb1.mono HB0.out.size))
  clear hb1
  go_wp2_with fail
  with_reducible refine (HWIN.out w1).mono ?_
  rintro e w2 ⟨z1, z2, rfl, hz, hb2⟩
  have HB2 := Lib.hid (HB1.out.trans (hb2.mono HB1.out.size))
  have HZ := Lib.hid hz
  clear hz
  clear hb2
  go_wp2_with fail
  with_reducible refine (HSH.out _ _ w2 HZ.out).mono ?_
  rintro e w3 ⟨x1, x2, rfl, hx, hb3⟩
  have HB3 := Lib.hid (HB2.out.trans (hb3.mono HB2.out.size))
  have HX := Lib.hid hx
  clear hx
  clear hb3
  obtain ⟨hk4, hb4⟩ := kf_of w3 false false 0
  obtain ⟨w4, hw4⟩ : ∃ x, x = w3.alloc (.cells #[.bool false, .bool false, .int .i64 0] 30) := ⟨_, rfl⟩
  rw [← hw4] at hk4 hb4
  have HB4 := Lib.hid (HB3.out.trans (hb4.mono HB3.out.size))
  have HW4 := Lib.hid hw4
  clear hw4 hb4
  go_upto_region 6 with fail
  rw [← HW4.out]
  obtain ⟨g4, hg4⟩ : ∃ g, g = w3.heap.size := ⟨_, rfl⟩
  rw [← hg4] at hk4 ⊢
  have HK4 := Lib.hid hk4
  obtain ⟨d0, d1, d2⟩ := hk4.cells
  clear hg4 hk4
  go_wp2_with fail
  with_reducible refine (wstr_f HX.out w4).mono ?_
  rintro e w5 ⟨rfl, hb5⟩
  have HB5 := Lib.hid (HB4.out.trans (hb5.mono HB4.out.size))
  clear hb5
  go_wp2_with fail
  with_reducible refine (wcon_f HX.out w5).mono ?_
  rintro e w6 ⟨rfl, hb6⟩
  have HB6 := Lib.hid (HB5.out.trans (hb6.mono HB5.out.size))
  clear d0 d1 d2
  clear hb6
  go_wp2_with fail
  with_reducible refine (HFST.out w6).mono ?_
  rintro e w7 ⟨rfl, hb7⟩
  have HB7 := Lib.hid (HB6.out.trans (hb7.mono HB6.out.size))
  clear hb7
  go_wp2_with fail
  with_reducible refine (HM.out _ _ w7 HX.out).mono ?_
  rintro e w8 ⟨rfl, hb8⟩
  have HB8 := Lib.hid (HB7.out.trans (hb8.mono HB7.out.size))
  clear hb8
  go_wp2_with fail
  all_goals
    go_ret
    exact ⟨by simp <;> omega, HB8.out⟩
set_option maxRecDepth 100000 in
set_option maxHeartbeats 4000000 in
theorem walk_lt (s c b : Int) (w : World) (s0 : 0 ≤ s) (s1 : s ≤ 2147483647) (c0 : 1 ≤ c) (c1 : c ≤ 2147483647) (b0 : 1 ≤ b) (b1 : b ≤ 2147483647) (hsb : s < b) : Calls Try.prog 6 #[.int .i64 s, .int .i64 c, .int .i64 b] w (YesW w) := by
  have HFST := Lib.hid fun (W : World) => first12_any W
  have hs : in_ s := by unfold in_; omega
  have hc : in_ c := by unfold in_; omega
  have hn : in_ (-b) := by unfold in_; omega
  have HWIN := Lib.hid fun (W : World) => win_in W hs hc
  obtain ⟨u, hu⟩ : ∃ zz, zz = s - b := ⟨_, rfl⟩
  obtain ⟨nb, hnb⟩ : ∃ zz, zz = -b := ⟨_, rfl⟩
  have HSH : Hid (∀ x y W, Zw x y s c → Calls Try.prog 14 #[.complex .f64 x y, .int .i64 nb] W fun e w' => ∃ a b, e = .returned (.tuple #[.complex .f64 a b, .agg #[.bool false, .bool false, .int .i64 0]]) ∧ Zw a b u c ∧ Below W.heap.size W w') := Lib.hid (fun x y W h => by
    have := shi_ok h W hn (by omega)
    rwa [show max (s + -b) (-2147483647) = u by omega, ← hnb] at this)
  have h1 : ¬ s < 0 := by omega
  have h2 : ¬ 2147483647 < s := by omega
  have h3 : ¬ c < 1 := by omega
  have h4 : ¬ 2147483647 < c := by omega
  have h5 : ¬ b < 1 := by omega
  have h6 : ¬ 2147483647 < b := by omega
  have ou : s - b = u := hu.symm
  have wu' : IntKind.i64.wrap u = u := IntWalk.i64_in _ (by omega)
  have onb : -b = nb := hnb.symm
  have wnb' : IntKind.i64.wrap nb = nb := IntWalk.i64_in _ (by omega)
  have e1 : (u != u) = false := by simp
  have e2 : (c != c) = false := by simp
  obtain ⟨v, hv⟩ : ∃ zz, zz = b - s := ⟨_, rfl⟩
  have ov : b - s = v := hv.symm
  have wv' : IntKind.i64.wrap v = v := IntWalk.i64_in _ (by omega)
  have kg : ¬ b ≤ s := by omega
  have um : may u c = 0 := by unfold may; omega
  have vm : may 0 c = 0 := by unfold may; omega
  have HS1 : Hid (∀ x y W, Zw x y u c → Calls Try.prog 12 #[.complex .f64 x y, .int .i64 1] W fun e w' => ∃ a b, e = .returned (.tuple #[.complex .f64 a b, .int .i64 1]) ∧ Whole a 0 ∧ Whole b 0 ∧ Below W.heap.size W w') := Lib.hid (fun x y W h => spd_no h W (by omega) (by rw [um]; omega))
  have HS0 : Hid (∀ x y W, Zw x y u c → Calls Try.prog 12 #[.complex .f64 x y, .int .i64 0] W fun e w' => ∃ a b, e = .returned (.tuple #[.complex .f64 a b, .int .i64 0]) ∧ Zw a b u c ∧ Below W.heap.size W w') := Lib.hid (fun x y W h => by
    have := spd_ok h W (Int.le_refl 0) (by rw [um]; omega)
    rwa [show u - 0 = u by omega, show c - 0 = c by omega] at this)
  have HGR : Hid (∀ x y W, Zw x y u c → Calls Try.prog 13 #[.complex .f64 x y, .int .i64 v, .int .i64 0] W fun e w' => ∃ a b, e = .returned (.tuple #[.complex .f64 a b, .agg #[.bool false, .bool false, .int .i64 0]]) ∧ Zw a b 0 c ∧ Below W.heap.size W w') := Lib.hid (fun x y W h => by
    have := gra_ok (s := v) (c := 0) h W (by omega) (by omega) (by omega) (by omega) (by omega) (by omega)
    rwa [show u + v = 0 by omega, show c + 0 = c by omega] at this)
  have HM : Hid (∀ x y W, Zw x y u c → Calls Try.prog 11 #[.complex .f64 x y] W (IPost W 0)) := Lib.hid (fun x y W h => by
    have := wmay_f h W
    rwa [um] at this)
  have HM2 : Hid (∀ x y W, Zw x y 0 c → Calls Try.prog 11 #[.complex .f64 x y] W (IPost W 0)) := Lib.hid (fun x y W h => by
    have := wmay_f h W
    rwa [vm] at this)
  clear s0 s1 c0 c1 b0 b1 hsb hu hnb hv um vm hs hc hn
  go_enter Try.func6, Try.ntmps6
  have HB0 := Lib.hid (Below.refl w.heap.size w)
  go_wp2_with fail
  with_reducible refine (HFST.out w).mono ?_
  rintro e w1 ⟨rfl, hb1⟩
  have HB1 := Lib.hid (HB0.out.trans (hb1.mono HB0.out.size))
  clear hb1
  go_wp2_with fail
  with_reducible refine (HWIN.out w1).mono ?_
  rintro e w2 ⟨z1, z2, rfl, hz, hb2⟩
  have HB2 := Lib.hid (HB1.out.trans (hb2.mono HB1.out.size))
  have HZ := Lib.hid hz
  clear hz
  clear hb2
  go_wp2_with fail
  with_reducible refine (HSH.out _ _ w2 HZ.out).mono ?_
  rintro e w3 ⟨x1, x2, rfl, hx, hb3⟩
  have HB3 := Lib.hid (HB2.out.trans (hb3.mono HB2.out.size))
  have HX := Lib.hid hx
  clear hx
  clear hb3
  obtain ⟨hk4, hb4⟩ := kf_of w3 false false 0
  obtain ⟨w4, hw4⟩ : ∃ x, x = w3.alloc (.cells #[.bool false, .bool false, .int .i64 0] 30) := ⟨_, rfl⟩
  rw [← hw4] at hk4 hb4
  have HB4 := Lib.hid (HB3.out.trans (hb4.mono HB3.out.size))
  have HW4 := Lib.hid hw4
  clear hw4 hb4
  go_upto_region 6 with fail
  rw [← HW4.out]
  obtain ⟨g4, hg4⟩ : ∃ g, g = w3.heap.size := ⟨_, rfl⟩
  rw [← hg4] at hk4 ⊢
  have HK4 := Lib.hid hk4
  obtain ⟨d0, d1, d2⟩ := hk4.cells
  clear hg4 hk4
  go_wp2_with fail
  with_reducible refine (wstr_f HX.out w4).mono ?_
  rintro e w5 ⟨rfl, hb5⟩
  have HB5 := Lib.hid (HB4.out.trans (hb5.mono HB4.out.size))
  clear hb5
  go_wp2_with fail
  with_reducible refine (wcon_f HX.out w5).mono ?_
  rintro e w6 ⟨rfl, hb6⟩
  have HB6 := Lib.hid (HB5.out.trans (hb6.mono HB5.out.size))
  clear d0 d1 d2
  clear hb6
  go_wp2_with fail
  with_reducible refine (HS1.out _ _ w6 HX.out).mono ?_
  rintro e w7 ⟨p1, p2, rfl, _, _, hb7⟩
  have HB7 := Lib.hid (HB6.out.trans (hb7.mono HB6.out.size))
  clear hb7
  go_wp2_with fail
  with_reducible refine (HS0.out _ _ w7 HX.out).mono ?_
  rintro e w8 ⟨r1, r2, rfl, hr, hb8⟩
  have HB8 := Lib.hid (HB7.out.trans (hb8.mono HB7.out.size))
  have q1 := feq hr.a' HX.out.a' rfl
  have q2 := feq hr.b' HX.out.b' rfl
  clear hr
  clear hb8
  go_wp2_with fail
  with_reducible refine (HGR.out _ _ w8 HX.out).mono ?_
  rintro e w9 ⟨y1, y2, rfl, hy, hb9⟩
  have HB9 := Lib.hid (HB8.out.trans (hb9.mono HB8.out.size))
  have HY := Lib.hid hy
  clear hy
  clear hb9
  obtain ⟨hk10, hb10⟩ := kf_of w9 false false 0
  obtain ⟨w10, hw10⟩ : ∃ x, x = w9.alloc (.cells #[.bool false, .bool false, .int .i64 0] 30) := ⟨_, rfl⟩
  rw [← hw10] at hk10 hb10
  have HB10 := Lib.hid (HB9.out.trans (hb10.mono HB9.out.size))
  have HW10 := Lib.hid hw10
  clear hw10 hb10
  go_upto_region 13 with fail
  rw [← HW10.out]
  obtain ⟨g10, hg10⟩ : ∃ g, g = w9.heap.size := ⟨_, rfl⟩
  rw [← hg10] at hk10 ⊢
  have HK10 := Lib.hid hk10
  obtain ⟨d0, d1, d2⟩ := hk10.cells
  clear hg10 hk10
  go_wp2_with fail
  with_reducible refine (HFST.out w10).mono ?_
  rintro e w11 ⟨rfl, hb11⟩
  have HB11 := Lib.hid (HB10.out.trans (hb11.mono HB10.out.size))
  have HK11 := Lib.hid (HK10.out.up hb11)
  clear hb11 d0 d1 d2
  go_wp2_with fail
  with_reducible refine (HM.out _ _ w11 HX.out).mono ?_
  rintro e w12 ⟨rfl, hb12⟩
  have HB12 := Lib.hid (HB11.out.trans (hb12.mono HB11.out.size))
  obtain ⟨d0, d1, d2⟩ := (HK11.out.up hb12).cells
  clear hb12
  go_wp2_with fail
  with_reducible refine (wstr_f HY.out w12).mono ?_
  rintro e w13 ⟨rfl, hb13⟩
  have HB13 := Lib.hid (HB12.out.trans (hb13.mono HB12.out.size))
  clear d0 d1 d2
  clear hb13
  go_wp2_with fail
  with_reducible refine (HM2.out _ _ w13 HY.out).mono ?_
  rintro e w14 ⟨rfl, hb14⟩
  have HB14 := Lib.hid (HB13.out.trans (hb14.mono HB13.out.size))
  clear hb14
  go_wp2_with fail
  go_ret
  exact ⟨rfl, HB14.out⟩
theorem walk_any (s c b : Int) (w : World) : Calls Try.prog 6 #[.int .i64 s, .int .i64 c, .int .i64 b] w (YesW w) := by
  by_cases h : s < 0 ∨ 2147483647 < s ∨ c < 1 ∨ 2147483647 < c ∨ b < 1 ∨ 2147483647 < b
  · exact walk_out s c b w h
  · by_cases hsb : b ≤ s
    · exact walk_ge s c b w (by omega) (by omega) (by omega) (by omega) (by omega) (by omega) hsb
    · exact walk_lt s c b w (by omega) (by omega) (by omega) (by omega) (by omega) (by omega) (by omega)
end flowBelow
end Go.Proofs.Ytmihmngfmlmndaa
