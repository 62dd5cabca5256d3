/- The walk of FlowBack. -/
import Derived.Test.YtmihmngfmlmndaaWKeep
import Derived.Test.YtmihmngfmlmndaaWFew
import Derived.Deep.DeepCutAuto
import Derived.BigQuiet
namespace Go.Proofs.Ytmihmngfmlmndaa
open Go.RowKit Fl Fw
namespace flowBack
set_option maxRecDepth 100000 in
set_option maxHeartbeats 4000000 in
theorem walk_out (s c n b : Int) (w : World) (h : s < -2147483647 ∨ 2147483647 < s ∨ c < -2147483647 ∨ 2147483647 < c ∨ b < -2147483647 ∨ 2147483647 < b) : Calls Try.prog 3 #[.int .i64 s, .int .i64 c, .int .i64 n, .int .i64 b] w (YesW w) := by
  have HFST := Lib.hid fun (W : World) => first12_any W
  rcases (show (s < -2147483647) ∨ (¬ s < -2147483647 ∧ 2147483647 < s) ∨ (¬ s < -2147483647 ∧ ¬ 2147483647 < s ∧ c < -2147483647) ∨ (¬ s < -2147483647 ∧ ¬ 2147483647 < s ∧ ¬ c < -2147483647 ∧ 2147483647 < c) ∨ (¬ s < -2147483647 ∧ ¬ 2147483647 < s ∧ ¬ c < -2147483647 ∧ ¬ 2147483647 < c ∧ b < -2147483647) ∨ (¬ s < -2147483647 ∧ ¬ 2147483647 < s ∧ ¬ c < -2147483647 ∧ ¬ 2147483647 < c ∧ ¬ b < -2147483647 ∧ 2147483647 < b) by omega) with h1 | ⟨h1, h2⟩ | ⟨h1, h2, h3⟩ | ⟨h1, h2, h3, h4⟩ | ⟨h1, h2, h3, h4, h5⟩ | ⟨h1, h2, h3, h4, h5, h6⟩
  all_goals
    clear h
    go_enter Try.func3, Try.ntmps3
    go_wp2_with fail
    with_reducible refine (HFST.out w).mono ?_
    rintro e w1 ⟨rfl, hb1⟩
    have HB1 := Lib.hid hb1
    have HF2 := Lib.hid (HFST.out w1)
    clear hb1
    go_wp2_with fail
    with_reducible refine (HF2.out).mono ?_
    rintro e w2 ⟨rfl, hb2⟩
    have HB2 := Lib.hid (HB1.out.trans (hb2.mono HB1.out.size))
    clear hb2
    go_wp2_with fail
    go_ret
    exact ⟨rfl, HB2.out⟩
set_option maxRecDepth 100000 in
set_option maxHeartbeats 4000000 in
theorem walk_ok_ok (s c n b : Int) (w : World) (hn : -9223372036854775808 ≤ n ∧ n ≤ 9223372036854775807) (s0 : -2147483647 ≤ s) (s1 : s ≤ 2147483647) (c0 : -2147483647 ≤ c) (c1 : c ≤ 2147483647) (b0 : -2147483647 ≤ b) (b1 : b ≤ 2147483647) (n0 : 0 ≤ n) (n1 : n ≤ may s c) (hsb : s + b ≤ 2147483647) : Calls Try.prog 3 #[.int .i64 s, .int .i64 c, .int .i64 n, .int .i64 b] w (YesW w) := by
  have HFST := Lib.hid fun (W : World) => first12_any W
  have hs : in_ s := by unfold in_; omega
  have hc : in_ c := by unfold in_; omega
  have hb : in_ b := by unfold in_; omega
  have HWIN := Lib.hid fun (W : World) => win_in W hs hc
  obtain ⟨m1, hm1⟩ : ∃ zz, zz = if c < s then c else s := ⟨_, rfl⟩
  obtain ⟨m, hm⟩ : ∃ zz, zz = if m1 < 0 then 0 else m1 := ⟨_, rfl⟩
  have om1 : (if c < s then c else s) = m1 := hm1.symm
  have om : (if m1 < 0 then 0 else m1) = m := hm.symm
  have em : may s c = m := by
    rw [hm, hm1, may]
    split <;> split <;> omega
  have mb : 0 ≤ m ∧ m ≤ 2147483647 ∧ (m = 0 ∨ m ≤ s ∧ m ≤ c) := by
    rw [← em, may]
    omega
  have HM : Hid (∀ x y W, Zw x y s c → Calls Try.prog 11 #[.complex .f64 x y] W (IPost W m)) := Lib.hid (fun x y W h => by
    have := wmay_f h W
    rwa [em] at this)
  have h1 : ¬ s < -2147483647 := by omega
  have h2 : ¬ 2147483647 < s := by omega
  have h3 : ¬ c < -2147483647 := by omega
  have h4 : ¬ 2147483647 < c := by omega
  have h5 : ¬ b < -2147483647 := by omega
  have h6 : ¬ 2147483647 < b := by omega
  have e1 : (s != s) = false := by simp
  have e2 : (c != c) = false := by simp
  have e3 : (m != m) = false := by simp
  rw [em] at n1
  obtain ⟨p, hp⟩ : ∃ zz, zz = s - n := ⟨_, rfl⟩
  obtain ⟨q, hq⟩ : ∃ zz, zz = c - n := ⟨_, rfl⟩
  have op : s - n = p := hp.symm
  have wp' : IntKind.i64.wrap p = p := IntWalk.i64_in _ (by omega)
  have oq : c - n = q := hq.symm
  have wq' : IntKind.i64.wrap q = q := IntWalk.i64_in _ (by omega)
  have kn : 0 ≤ n := n0
  have kn1 : n ≤ m := n1
  have e4 : (p != p) = false := by simp
  have e5 : (q != q) = false := by simp
  have HSP : Hid (∀ x y W, Zw x y s c → Calls Try.prog 12 #[.complex .f64 x y, .int .i64 n] W fun e w' => ∃ a b, e = .returned (.tuple #[.complex .f64 a b, .int .i64 0]) ∧ Zw a b p q ∧ Below W.heap.size W w') := Lib.hid (fun x y W h => by
    have := spd_ok h W n0 (by rw [em]; exact n1)
    rwa [← hp, ← hq] at this)
  have HGR : Hid (∀ x y W, Zw x y p q → Calls Try.prog 13 #[.complex .f64 x y, .int .i64 n, .int .i64 n] W fun e w' => ∃ a b, e = .returned (.tuple #[.complex .f64 a b, .agg #[.bool false, .bool false, .int .i64 0]]) ∧ Zw a b s c ∧ Below W.heap.size W w') := Lib.hid (fun x y W h => by
    have := gra_ok h W n0 n0 (by omega) (by omega) (by omega) (by omega)
    rwa [show p + n = s by omega, show q + n = c by omega] at this)
  obtain ⟨u, hu⟩ : ∃ zz, zz = s + b := ⟨_, rfl⟩
  have ou : s + b = u := hu.symm
  have wu' : IntKind.i64.wrap u = u := IntWalk.i64_in _ (by omega)
  obtain ⟨v, hv⟩ : ∃ zz, zz = if u < -2147483647 then -2147483647 else u := ⟨_, rfl⟩
  have ov : (if u < -2147483647 then -2147483647 else u) = v := hv.symm
  have ku : u ≤ 2147483647 := by omega
  have e6 : (v == v) = true := by simp
  have e7 : (c == c) = true := by simp
  have HSH : Hid (∀ x y W, Zw x y s c → Calls Try.prog 14 #[.complex .f64 x y, .int .i64 b] W fun e w' => ∃ a b, e = .returned (.tuple #[.complex .f64 a b, .agg #[.bool false, .bool false, .int .i64 0]]) ∧ Zw a b v c ∧ Below W.heap.size W w') := Lib.hid (fun x y W h => by
    have := shi_ok h W hb (by omega)
    rwa [show max (s + b) (-2147483647) = v by rw [hv, ← hu]; split <;> omega] at this)
  clear s0 s1 c0 c1 b0 b1 hsb hs hc hb hm1 hm em mb hn n0 n1 hp hq hu hv 
  go_enter Try.func3, Try.ntmps3
  have HB0 := Lib.hid (Below.refl w.heap.size w)
  go_wp2_with fail
  with_reducible refine (HFST.out w).mono ?_
  rintro e w1 ⟨rfl, hb1⟩
  have HB1 := Lib.hid (HB0.out.trans (hb1.mono HB0.out.size))
  clear hb1
  go_wp2_with fail
  with_reducible refine (HWIN.out w1).mono ?_
  rintro e w2 ⟨z1, z2, rfl, hz, hb2⟩
  have HB2 := Lib.hid (HB1.out.trans (hb2.mono HB1.out.size))
  have HZ := Lib.hid hz
  clear hz
  clear hb2
  go_wp2_with fail
  with_reducible refine (wstr_f HZ.out w2).mono ?_
  rintro e w3 ⟨rfl, hb3⟩
  have HB3 := Lib.hid (HB2.out.trans (hb3.mono HB2.out.size))
  clear hb3
  go_wp2_with fail
  with_reducible refine (wcon_f HZ.out w3).mono ?_
  rintro e w4 ⟨rfl, hb4⟩
  have HB4 := Lib.hid (HB3.out.trans (hb4.mono HB3.out.size))
  clear hb4
  go_wp2_with fail
  with_reducible refine (HM.out _ _ w4 HZ.out).mono ?_
  rintro e w5 ⟨rfl, hb5⟩
  have HB5 := Lib.hid (HB4.out.trans (hb5.mono HB4.out.size))
  clear hb5
  go_wp2_with fail
  with_reducible refine (HSP.out _ _ w5 HZ.out).mono ?_
  rintro e w6 ⟨x1, x2, rfl, hx, hb6⟩
  have HB6 := Lib.hid (HB5.out.trans (hb6.mono HB5.out.size))
  have HX := Lib.hid hx
  clear hx
  clear hb6
  go_wp2_with fail
  with_reducible refine (HM.out _ _ w6 HZ.out).mono ?_
  rintro e w7 ⟨rfl, hb7⟩
  have HB7 := Lib.hid (HB6.out.trans (hb7.mono HB6.out.size))
  clear hb7
  go_wp2_with fail
  with_reducible refine (HGR.out _ _ w7 HX.out).mono ?_
  rintro e w8 ⟨y1, y2, rfl, hy, hb8⟩
  have HB8 := Lib.hid (HB7.out.trans (hb8.mono HB7.out.size))
  have g1 := feq hy.a' HZ.out.a' rfl
  have g2 := feq hy.b' HZ.out.b' rfl
  clear hy
  clear hb8
  obtain ⟨hk9, hb9⟩ := kf_of w8 false false 0
  obtain ⟨w9, hw9⟩ : ∃ x, x = w8.alloc (.cells #[.bool false, .bool false, .int .i64 0] 30) := ⟨_, rfl⟩
  rw [← hw9] at hk9 hb9
  have HB9 := Lib.hid (HB8.out.trans (hb9.mono HB8.out.size))
  have HW9 := Lib.hid hw9
  clear hw9 hb9
  go_upto_region 13 with fail
  rw [← HW9.out]
  obtain ⟨gk, hgk⟩ : ∃ g, g = w8.heap.size := ⟨_, rfl⟩
  rw [← hgk] at hk9 ⊢
  have HK9 := Lib.hid hk9
  obtain ⟨d0, d1, d2⟩ := hk9.cells
  clear hgk hk9
  go_wp2_with fail
  with_reducible refine (wstr_f HX.out w9).mono ?_
  rintro e w10 ⟨rfl, hb10⟩
  have HB10 := Lib.hid (HB9.out.trans (hb10.mono HB9.out.size))
  clear d0 d1 d2 g1 g2
  clear hb10
  go_wp2_with fail
  with_reducible refine (wcon_f HX.out w10).mono ?_
  rintro e w11 ⟨rfl, hb11⟩
  have HB11 := Lib.hid (HB10.out.trans (hb11.mono HB10.out.size))
  clear hb11
  go_wp2_with fail
  with_reducible refine (HSH.out _ _ w11 HZ.out).mono ?_
  rintro e w12 ⟨r1, r2, rfl, hr, hb12⟩
  have HB12 := Lib.hid (HB11.out.trans (hb12.mono HB11.out.size))
  have HR := Lib.hid hr
  clear hr
  clear hb12
  obtain ⟨hk13, hb13⟩ := kf_of w12 false false 0
  obtain ⟨w13, hw13⟩ : ∃ x, x = w12.alloc (.cells #[.bool false, .bool false, .int .i64 0] 30) := ⟨_, rfl⟩
  rw [← hw13] at hk13 hb13
  have HB13 := Lib.hid (HB12.out.trans (hb13.mono HB12.out.size))
  have HW13 := Lib.hid hw13
  clear hw13 hb13
  go_upto_region 16 with fail
  rw [← HW13.out]
  obtain ⟨gs, hgs⟩ : ∃ g, g = w12.heap.size := ⟨_, rfl⟩
  rw [← hgs] at hk13 ⊢
  have HK13 := Lib.hid hk13
  obtain ⟨d0, d1, d2⟩ := hk13.cells
  clear hgs hk13
  go_wp2_with fail
  with_reducible refine (HFST.out w13).mono ?_
  rintro e w14 ⟨rfl, hb14⟩
  have HB14 := Lib.hid (HB13.out.trans (hb14.mono HB13.out.size))
  clear hb14
  go_wp2_with fail
  with_reducible refine (wstr_f HR.out w14).mono ?_
  rintro e w15 ⟨rfl, hb15⟩
  have HB15 := Lib.hid (HB14.out.trans (hb15.mono HB14.out.size))
  clear hb15
  go_wp2_with fail
  with_reducible refine (wcon_f HR.out w15).mono ?_
  rintro e w16 ⟨rfl, hb16⟩
  have HB16 := Lib.hid (HB15.out.trans (hb16.mono HB15.out.size))
  clear hb16
  go_wp2_with fail
  go_ret
  exact ⟨rfl, HB16.out⟩
set_option maxRecDepth 100000 in
set_option maxHeartbeats 4000000 in
theorem walk_ok_no (s c n b : Int) (w : World) (hn : -9223372036854775808 ≤ n ∧ n ≤ 9223372036854775807) (s0 : -2147483647 ≤ s) (s1 : s ≤ 2147483647) (c0 : -2147483647 ≤ c) (c1 : c ≤ 2147483647) (b0 : -2147483647 ≤ b) (b1 : b ≤ 2147483647) (n0 : 0 ≤ n) (n1 : n ≤ may s c) (hsb : 2147483647 < s + b) : Calls Try.prog 3 #[.int .i64 s, .int .i64 c, .int .i64 n, .int .i64 b] w (YesW w) := by
  have HFST := Lib.hid fun (W : World) => first12_any W
  have hs : in_ s := by unfold in_; omega
  have hc : in_ c := by unfold in_; omega
  have hb : in_ b := by unfold in_; omega
  have HWIN := Lib.hid fun (W : World) => win_in W hs hc
  obtain ⟨m1, hm1⟩ : ∃ zz, zz = if c < s then c else s := ⟨_, rfl⟩
  obtain ⟨m, hm⟩ : ∃ zz, zz = if m1 < 0 then 0 else m1 := ⟨_, rfl⟩
  have om1 : (if c < s then c else s) = m1 := hm1.symm
  have om : (if m1 < 0 then 0 else m1) = m := hm.symm
  have em : may s c = m := by
    rw [hm, hm1, may]
    split <;> split <;> omega
  have mb : 0 ≤ m ∧ m ≤ 2147483647 ∧ (m = 0 ∨ m ≤ s ∧ m ≤ c) := by
    rw [← em, may]
    omega
  have HM : Hid (∀ x y W, Zw x y s c → Calls Try.prog 11 #[.complex .f64 x y] W (IPost W m)) := Lib.hid (fun x y W h => by
    have := wmay_f h W
    rwa [em] at this)
  have h1 : ¬ s < -2147483647 := by omega
  have h2 : ¬ 2147483647 < s := by omega
  have h3 : ¬ c < -2147483647 := by omega
  have h4 : ¬ 2147483647 < c := by omega
  have h5 : ¬ b < -2147483647 := by omega
  have h6 : ¬ 2147483647 < b := by omega
  have e1 : (s != s) = false := by simp
  have e2 : (c != c) = false := by simp
  have e3 : (m != m) = false := by simp
  rw [em] at n1
  obtain ⟨p, hp⟩ : ∃ zz, zz = s - n := ⟨_, rfl⟩
  obtain ⟨q, hq⟩ : ∃ zz, zz = c - n := ⟨_, rfl⟩
  have op : s - n = p := hp.symm
  have wp' : IntKind.i64.wrap p = p := IntWalk.i64_in _ (by omega)
  have oq : c - n = q := hq.symm
  have wq' : IntKind.i64.wrap q = q := IntWalk.i64_in _ (by omega)
  have kn : 0 ≤ n := n0
  have kn1 : n ≤ m := n1
  have e4 : (p != p) = false := by simp
  have e5 : (q != q) = false := by simp
  have HSP : Hid (∀ x y W, Zw x y s c → Calls Try.prog 12 #[.complex .f64 x y, .int .i64 n] W fun e w' => ∃ a b, e = .returned (.tuple #[.complex .f64 a b, .int .i64 0]) ∧ Zw a b p q ∧ Below W.heap.size W w') := Lib.hid (fun x y W h => by
    have := spd_ok h W n0 (by rw [em]; exact n1)
    rwa [← hp, ← hq] at this)
  have HGR : Hid (∀ x y W, Zw x y p q → Calls Try.prog 13 #[.complex .f64 x y, .int .i64 n, .int .i64 n] W fun e w' => ∃ a b, e = .returned (.tuple #[.complex .f64 a b, .agg #[.bool false, .bool false, .int .i64 0]]) ∧ Zw a b s c ∧ Below W.heap.size W w') := Lib.hid (fun x y W h => by
    have := gra_ok h W n0 n0 (by omega) (by omega) (by omega) (by omega)
    rwa [show p + n = s by omega, show q + n = c by omega] at this)
  obtain ⟨u, hu⟩ : ∃ zz, zz = s + b := ⟨_, rfl⟩
  have ou : s + b = u := hu.symm
  have wu' : IntKind.i64.wrap u = u := IntWalk.i64_in _ (by omega)
  have ku : 2147483647 < u := by omega
  have HSH : Hid (∀ x y W, Zw x y s c → Calls Try.prog 14 #[.complex .f64 x y, .int .i64 b] W fun e w' => ∃ a b, e = .returned (.tuple #[.complex .f64 a b, .agg #[.bool true, .bool true, .int .i64 3]]) ∧ Whole a 0 ∧ Whole b 0 ∧ Below W.heap.size W w') := Lib.hid (fun x y W h => shi_no h W hb (by omega))
  clear s0 s1 c0 c1 b0 b1 hsb hs hc hb hm1 hm em mb hn n0 n1 hp hq hu 
  go_enter Try.func3, Try.ntmps3
  have HB0 := Lib.hid (Below.refl w.heap.size w)
  go_wp2_with fail
  with_reducible refine (HFST.out w).mono ?_
  rintro e w1 ⟨rfl, hb1⟩
  have HB1 := Lib.hid (HB0.out.trans (hb1.mono HB0.out.size))
  clear hb1
  go_wp2_with fail
  with_reducible refine (HWIN.out w1).mono ?_
  rintro e w2 ⟨z1, z2, rfl, hz, hb2⟩
  have HB2 := Lib.hid (HB1.out.trans (hb2.mono HB1.out.size))
  have HZ := Lib.hid hz
  clear hz
  clear hb2
  go_wp2_with fail
  with_reducible refine (wstr_f HZ.out w2).mono ?_
  rintro e w3 ⟨rfl, hb3⟩
  have HB3 := Lib.hid (HB2.out.trans (hb3.mono HB2.out.size))
  clear hb3
  go_wp2_with fail
  with_reducible refine (wcon_f HZ.out w3).mono ?_
  rintro e w4 ⟨rfl, hb4⟩
  have HB4 := Lib.hid (HB3.out.trans (hb4.mono HB3.out.size))
  clear hb4
  go_wp2_with fail
  with_reducible refine (HM.out _ _ w4 HZ.out).mono ?_
  rintro e w5 ⟨rfl, hb5⟩
  have HB5 := Lib.hid (HB4.out.trans (hb5.mono HB4.out.size))
  clear hb5
  go_wp2_with fail
  with_reducible refine (HSP.out _ _ w5 HZ.out).mono ?_
  rintro e w6 ⟨x1, x2, rfl, hx, hb6⟩
  have HB6 := Lib.hid (HB5.out.trans (hb6.mono HB5.out.size))
  have HX := Lib.hid hx
  clear hx
  clear hb6
  go_wp2_with fail
  with_reducible refine (HM.out _ _ w6 HZ.out).mono ?_
  rintro e w7 ⟨rfl, hb7⟩
  have HB7 := Lib.hid (HB6.out.trans (hb7.mono HB6.out.size))
  clear hb7
  go_wp2_with fail
  with_reducible refine (HGR.out _ _ w7 HX.out).mono ?_
  rintro e w8 ⟨y1, y2, rfl, hy, hb8⟩
  have HB8 := Lib.hid (HB7.out.trans (hb8.mono HB7.out.size))
  have g1 := feq hy.a' HZ.out.a' rfl
  have g2 := feq hy.b' HZ.out.b' rfl
  clear hy
  clear hb8
  obtain ⟨hk9, hb9⟩ := kf_of w8 false false 0
  obtain ⟨w9, hw9⟩ : ∃ x, x = w8.alloc (.cells #[.bool false, .bool false, .int .i64 0] 30) := ⟨_, rfl⟩
  rw [← hw9] at hk9 hb9
  have HB9 := Lib.hid (HB8.out.trans (hb9.mono HB8.out.size))
  have HW9 := Lib.hid hw9
  clear hw9 hb9
  go_upto_region 13 with fail
  rw [← HW9.out]
  obtain ⟨gk, hgk⟩ : ∃ g, g = w8.heap.size := ⟨_, rfl⟩
  rw [← hgk] at hk9 ⊢
  have HK9 := Lib.hid hk9
  obtain ⟨d0, d1, d2⟩ := hk9.cells
  clear hgk hk9
  go_wp2_with fail
  with_reducible refine (wstr_f HX.out w9).mono ?_
  rintro e w10 ⟨rfl, hb10⟩
  have HB10 := Lib.hid (HB9.out.trans (hb10.mono HB9.out.size))
  clear d0 d1 d2 g1 g2
  clear hb10
  go_wp2_with fail
  with_reducible refine (wcon_f HX.out w10).mono ?_
  rintro e w11 ⟨rfl, hb11⟩
  have HB11 := Lib.hid (HB10.out.trans (hb11.mono HB10.out.size))
  clear hb11
  go_wp2_with fail
  with_reducible refine (HSH.out _ _ w11 HZ.out).mono ?_
  rintro e w12 ⟨r1, r2, rfl, _, _, hb12⟩
  have HB12 := Lib.hid (HB11.out.trans (hb12.mono HB11.out.size))
  clear hb12
  obtain ⟨hk13, hb13⟩ := kf_of w12 true true 3
  obtain ⟨w13, hw13⟩ : ∃ x, x = w12.alloc (.cells #[.bool true, .bool true, .int .i64 3] 30) := ⟨_, rfl⟩
  rw [← hw13] at hk13 hb13
  have HB13 := Lib.hid (HB12.out.trans (hb13.mono HB12.out.size))
  have HW13 := Lib.hid hw13
  clear hw13 hb13
  go_upto_region 16 with fail
  rw [← HW13.out]
  obtain ⟨gs, hgs⟩ : ∃ g, g = w12.heap.size := ⟨_, rfl⟩
  rw [← hgs] at hk13 ⊢
  have HK13 := Lib.hid hk13
  obtain ⟨d0, d1, d2⟩ := hk13.cells
  clear hgs hk13
  go_wp2_with fail
  with_reducible refine (HFST.out w13).mono ?_
  rintro e w14 ⟨rfl, hb14⟩
  have HB14 := Lib.hid (HB13.out.trans (hb14.mono HB13.out.size))
  obtain ⟨d0, d1, d2⟩ := (HK13.out.up hb14).cells
  clear hb14
  go_wp2_with fail
  go_ret
  exact ⟨rfl, HB14.out⟩
set_option maxRecDepth 100000 in
set_option maxHeartbeats 4000000 in
theorem walk_neg_ok (s c n b : Int) (w : World) (hn : -9223372036854775808 ≤ n ∧ n ≤ 9223372036854775807) (s0 : -2147483647 ≤ s) (s1 : s ≤ 2147483647) (c0 : -2147483647 ≤ c) (c1 : c ≤ 2147483647) (b0 : -2147483647 ≤ b) (b1 : b ≤ 2147483647) (n0 : n < 0) (hsb : s + b ≤ 2147483647) : Calls Try.prog 3 #[.int .i64 s, .int .i64 c, .int .i64 n, .int .i64 b] w (YesW w) := by
  have HFST := Lib.hid fun (W : World) => first12_any W
  have hs : in_ s := by unfold in_; omega
  have hc : in_ c := by unfold in_; omega
  have hb : in_ b := by unfold in_; omega
  have HWIN := Lib.hid fun (W : World) => win_in W hs hc
  obtain ⟨m1, hm1⟩ : ∃ zz, zz = if c < s then c else s := ⟨_, rfl⟩
  obtain ⟨m, hm⟩ : ∃ zz, zz = if m1 < 0 then 0 else m1 := ⟨_, rfl⟩
  have om1 : (if c < s then c else s) = m1 := hm1.symm
  have om : (if m1 < 0 then 0 else m1) = m := hm.symm
  have em : may s c = m := by
    rw [hm, hm1, may]
    split <;> split <;> omega
  have mb : 0 ≤ m ∧ m ≤ 2147483647 ∧ (m = 0 ∨ m ≤ s ∧ m ≤ c) := by
    rw [← em, may]
    omega
  have HM : Hid (∀ x y W, Zw x y s c → Calls Try.prog 11 #[.complex .f64 x y] W (IPost W m)) := Lib.hid (fun x y W h => by
    have := wmay_f h W
    rwa [em] at this)
  have h1 : ¬ s < -2147483647 := by omega
  have h2 : ¬ 2147483647 < s := by omega
  have h3 : ¬ c < -2147483647 := by omega
  have h4 : ¬ 2147483647 < c := by omega
  have h5 : ¬ b < -2147483647 := by omega
  have h6 : ¬ 2147483647 < b := by omega
  have e1 : (s != s) = false := by simp
  have e2 : (c != c) = false := by simp
  have e3 : (m != m) = false := by simp
  have HSP : Hid (∀ x y W, Zw x y s c → Calls Try.prog 12 #[.complex .f64 x y, .int .i64 n] W fun e w' => ∃ a b, e = .returned (.tuple #[.complex .f64 a b, .int .i64 1]) ∧ Whole a 0 ∧ Whole b 0 ∧ Below W.heap.size W w') := Lib.hid (fun x y W h => spd_no h W hn (by rw [em]; omega))
  have kn : ¬ 0 ≤ n := by omega
  obtain ⟨u, hu⟩ : ∃ zz, zz = s + b := ⟨_, rfl⟩
  have ou : s + b = u := hu.symm
  have wu' : IntKind.i64.wrap u = u := IntWalk.i64_in _ (by omega)
  obtain ⟨v, hv⟩ : ∃ zz, zz = if u < -2147483647 then -2147483647 else u := ⟨_, rfl⟩
  have ov : (if u < -2147483647 then -2147483647 else u) = v := hv.symm
  have ku : u ≤ 2147483647 := by omega
  have e6 : (v == v) = true := by simp
  have e7 : (c == c) = true := by simp
  have HSH : Hid (∀ x y W, Zw x y s c → Calls Try.prog 14 #[.complex .f64 x y, .int .i64 b] W fun e w' => ∃ a b, e = .returned (.tuple #[.complex .f64 a b, .agg #[.bool false, .bool false, .int .i64 0]]) ∧ Zw a b v c ∧ Below W.heap.size W w') := Lib.hid (fun x y W h => by
    have := shi_ok h W hb (by omega)
    rwa [show max (s + b) (-2147483647) = v by rw [hv, ← hu]; split <;> omega] at this)
  clear s0 s1 c0 c1 b0 b1 hsb hs hc hb hm1 hm em mb hn n0 hu hv 
  go_enter Try.func3, Try.ntmps3
  have HB0 := Lib.hid (Below.refl w.heap.size w)
  go_wp2_with fail
  with_reducible refine (HFST.out w).mono ?_
  rintro e w1 ⟨rfl, hb1⟩
  have HB1 := Lib.hid (HB0.out.trans (hb1.mono HB0.out.size))
  clear hb1
  go_wp2_with fail
  with_reducible refine (HWIN.out w1).mono ?_
  rintro e w2 ⟨z1, z2, rfl, hz, hb2⟩
  have HB2 := Lib.hid (HB1.out.trans (hb2.mono HB1.out.size))
  have HZ := Lib.hid hz
  clear hz
  clear hb2
  go_wp2_with fail
  with_reducible refine (wstr_f HZ.out w2).mono ?_
  rintro e w3 ⟨rfl, hb3⟩
  have HB3 := Lib.hid (HB2.out.trans (hb3.mono HB2.out.size))
  clear hb3
  go_wp2_with fail
  with_reducible refine (wcon_f HZ.out w3).mono ?_
  rintro e w4 ⟨rfl, hb4⟩
  have HB4 := Lib.hid (HB3.out.trans (hb4.mono HB3.out.size))
  clear hb4
  go_wp2_with fail
  with_reducible refine (HM.out _ _ w4 HZ.out).mono ?_
  rintro e w5 ⟨rfl, hb5⟩
  have HB5 := Lib.hid (HB4.out.trans (hb5.mono HB4.out.size))
  clear hb5
  go_wp2_with fail
  with_reducible refine (HSP.out _ _ w5 HZ.out).mono ?_
  rintro e w6 ⟨x1, x2, rfl, _, _, hb6⟩
  have HB6 := Lib.hid (HB5.out.trans (hb6.mono HB5.out.size))
  clear hb6
  go_wp2_with fail
  with_reducible refine (HSH.out _ _ w6 HZ.out).mono ?_
  rintro e w7 ⟨r1, r2, rfl, hr, hb7⟩
  have HB7 := Lib.hid (HB6.out.trans (hb7.mono HB6.out.size))
  have HR := Lib.hid hr
  clear hr
  clear hb7
  obtain ⟨hk8, hb8⟩ := kf_of w7 false false 0
  obtain ⟨w8, hw8⟩ : ∃ x, x = w7.alloc (.cells #[.bool false, .bool false, .int .i64 0] 30) := ⟨_, rfl⟩
  rw [← hw8] at hk8 hb8
  have HB8 := Lib.hid (HB7.out.trans (hb8.mono HB7.out.size))
  have HW8 := Lib.hid hw8
  clear hw8 hb8
  go_upto_region 16 with fail
  rw [← HW8.out]
  obtain ⟨gs, hgs⟩ : ∃ g, g = w7.heap.size := ⟨_, rfl⟩
  rw [← hgs] at hk8 ⊢
  have HK8 := Lib.hid hk8
  obtain ⟨d0, d1, d2⟩ := hk8.cells
  clear hgs hk8
  go_wp2_with fail
  with_reducible refine (HFST.out w8).mono ?_
  rintro e w9 ⟨rfl, hb9⟩
  have HB9 := Lib.hid (HB8.out.trans (hb9.mono HB8.out.size))
  clear hb9
  go_wp2_with fail
  with_reducible refine (wstr_f HR.out w9).mono ?_
  rintro e w10 ⟨rfl, hb10⟩
  have HB10 := Lib.hid (HB9.out.trans (hb10.mono HB9.out.size))
  clear hb10
  go_wp2_with fail
  with_reducible refine (wcon_f HR.out w10).mono ?_
  rintro e w11 ⟨rfl, hb11⟩
  have HB11 := Lib.hid (HB10.out.trans (hb11.mono HB10.out.size))
  clear hb11
  go_wp2_with fail
  go_ret
  exact ⟨rfl, HB11.out⟩
set_option maxRecDepth 100000 in
set_option maxHeartbeats 4000000 in
theorem walk_neg_no (s c n b : Int) (w : World) (hn : -9223372036854775808 ≤ n ∧ n ≤ 9223372036854775807) (s0 : -2147483647 ≤ s) (s1 : s ≤ 2147483647) (c0 : -2147483647 ≤ c) (c1 : c ≤ 2147483647) (b0 : -2147483647 ≤ b) (b1 : b ≤ 2147483647) (n0 : n < 0) (hsb : 2147483647 < s + b) : Calls Try.prog 3 #[.int .i64 s, .int .i64 c, .int .i64 n, .int .i64 b] w (YesW w) := by
  have HFST := Lib.hid fun (W : World) => first12_any W
  have hs : in_ s := by unfold in_; omega
  have hc : in_ c := by unfold in_; omega
  have hb : in_ b := by unfold in_; omega
  have HWIN := Lib.hid fun (W : World) => win_in W hs hc
  obtain ⟨m1, hm1⟩ : ∃ zz, zz = if c < s then c else s := ⟨_, rfl⟩
  obtain ⟨m, hm⟩ : ∃ zz, zz = if m1 < 0 then 0 else m1 := ⟨_, rfl⟩
  have om1 : (if c < s then c else s) = m1 := hm1.symm
  have om : (if m1 < 0 then 0 else m1) = m := hm.symm
  have em : may s c = m := by
    rw [hm, hm1, may]
    split <;> split <;> omega
  have mb : 0 ≤ m ∧ m ≤ 2147483647 ∧ (m = 0 ∨ m ≤ s ∧ m ≤ c) := by
    rw [← em, may]
    omega
  have HM : Hid (∀ x y W, Zw x y s c → Calls Try.prog 11 #[.complex .f64 x y] W (IPost W m)) := Lib.hid (fun x y W h => by
    have := wmay_f h W
    rwa [em] at this)
  have h1 : ¬ s < -2147483647 := by omega
  have h2 : ¬ 2147483647 < s := by omega
  have h3 : ¬ c < -2147483647 := by omega
  have h4 : ¬ 2147483647 < c := by omega
  have h5 : ¬ b < -2147483647 := by omega
  have h6 : ¬ 2147483647 < b := by omega
  have e1 : (s != s) = false := by simp
  have e2 : (c != c) = false := by simp
  have e3 : (m != m) = false := by simp
  have HSP : Hid (∀ x y W, Zw x y s c → Calls Try.prog 12 #[.complex .f64 x y, .int .i64 n] W fun e w' => ∃ a b, e = .returned (.tuple #[.complex .f64 a b, .int .i64 1]) ∧ Whole a 0 ∧ Whole b 0 ∧ Below W.heap.size W w') := Lib.hid (fun x y W h => spd_no h W hn (by rw [em]; omega))
  have kn : ¬ 0 ≤ n := by omega
  obtain ⟨u, hu⟩ : ∃ zz, zz = s + b := ⟨_, rfl⟩
  have ou : s + b = u := hu.symm
  have wu' : IntKind.i64.wrap u = u := IntWalk.i64_in _ (by omega)
  have ku : 2147483647 < u := by omega
  have HSH : Hid (∀ x y W, Zw x y s c → Calls Try.prog 14 #[.complex .f64 x y, .int .i64 b] W fun e w' => ∃ a b, e = .returned (.tuple #[.complex .f64 a b, .agg #[.bool true, .bool true, .int .i64 3]]) ∧ Whole a 0 ∧ Whole b 0 ∧ Below W.heap.size W w') := Lib.hid (fun x y W h => shi_no h W hb (by omega))
  clear s0 s1 c0 c1 b0 b1 hsb hs hc hb hm1 hm em mb hn n0 hu 
  go_enter Try.func3, Try.ntmps3
  have HB0 := Lib.hid (Below.refl w.heap.size w)
  go_wp2_with fail
  with_reducible refine (HFST.out w).mono ?_
  rintro e w1 ⟨rfl, hb1⟩
  have HB1 := Lib.hid (HB0.out.trans (hb1.mono HB0.out.size))
  clear hb1
  go_wp2_with fail
  with_reducible refine (HWIN.out w1).mono ?_
  rintro e w2 ⟨z1, z2, rfl, hz, hb2⟩
  have HB2 := Lib.hid (HB1.out.trans (hb2.mono HB1.out.size))
  have HZ := Lib.hid hz
  clear hz
  clear hb2
  go_wp2_with fail
  with_reducible refine (wstr_f HZ.out w2).mono ?_
  rintro e w3 ⟨rfl, hb3⟩
  have HB3 := Lib.hid (HB2.out.trans (hb3.mono HB2.out.size))
  clear hb3
  go_wp2_with fail
  with_reducible refine (wcon_f HZ.out w3).mono ?_
  rintro e w4 ⟨rfl, hb4⟩
  have HB4 := Lib.hid (HB3.out.trans (hb4.mono HB3.out.size))
  clear hb4
  go_wp2_with fail
  with_reducible refine (HM.out _ _ w4 HZ.out).mono ?_
  rintro e w5 ⟨rfl, hb5⟩
  have HB5 := Lib.hid (HB4.out.trans (hb5.mono HB4.out.size))
  clear hb5
  go_wp2_with fail
  with_reducible refine (HSP.out _ _ w5 HZ.out).mono ?_
  rintro e w6 ⟨x1, x2, rfl, _, _, hb6⟩
  have HB6 := Lib.hid (HB5.out.trans (hb6.mono HB5.out.size))
  clear hb6
  go_wp2_with fail
  with_reducible refine (HSH.out _ _ w6 HZ.out).mono ?_
  rintro e w7 ⟨r1, r2, rfl, _, _, hb7⟩
  have HB7 := Lib.hid (HB6.out.trans (hb7.mono HB6.out.size))
  clear hb7
  obtain ⟨hk8, hb8⟩ := kf_of w7 true true 3
  obtain ⟨w8, hw8⟩ : ∃ x, x = w7.alloc (.cells #[.bool true, .bool true, .int .i64 3] 30) := ⟨_, rfl⟩
  rw [← hw8] at hk8 hb8
  have HB8 := Lib.hid (HB7.out.trans (hb8.mono HB7.out.size))
  have HW8 := Lib.hid hw8
  clear hw8 hb8
  go_upto_region 16 with fail
  rw [← HW8.out]
  obtain ⟨gs, hgs⟩ : ∃ g, g = w7.heap.size := ⟨_, rfl⟩
  rw [← hgs] at hk8 ⊢
  have HK8 := Lib.hid hk8
  obtain ⟨d0, d1, d2⟩ := hk8.cells
  clear hgs hk8
  go_wp2_with fail
  with_reducible refine (HFST.out w8).mono ?_
  rintro e w9 ⟨rfl, hb9⟩
  have HB9 := Lib.hid (HB8.out.trans (hb9.mono HB8.out.size))
  obtain ⟨d0, d1, d2⟩ := (HK8.out.up hb9).cells
  clear hb9
  go_wp2_with fail
  go_ret
  exact ⟨rfl, HB9.out⟩
set_option maxRecDepth 100000 in
set_option maxHeartbeats 4000000 in
theorem walk_big_ok (s c n b : Int) (w : World) (hn : -9223372036854775808 ≤ n ∧ n ≤ 9223372036854775807) (s0 : -2147483647 ≤ s) (s1 : s ≤ 2147483647) (c0 : -2147483647 ≤ c) (c1 : c ≤ 2147483647) (b0 : -2147483647 ≤ b) (b1 : b ≤ 2147483647) (n0 : 0 ≤ n) (n1 : may s c < n) (hsb : s + b ≤ 2147483647) : Calls Try.prog 3 #[.int .i64 s, .int .i64 c, .int .i64 n, .int .i64 b] w (YesW w) := by
  have HFST := Lib.hid fun (W : World) => first12_any W
  have hs : in_ s := by unfold in_; omega
  have hc : in_ c := by unfold in_; omega
  have hb : in_ b := by unfold in_; omega
  have HWIN := Lib.hid fun (W : World) => win_in W hs hc
  obtain ⟨m1, hm1⟩ : ∃ zz, zz = if c < s then c else s := ⟨_, rfl⟩
  obtain ⟨m, hm⟩ : ∃ zz, zz = if m1 < 0 then 0 else m1 := ⟨_, rfl⟩
  have om1 : (if c < s then c else s) = m1 := hm1.symm
  have om : (if m1 < 0 then 0 else m1) = m := hm.symm
  have em : may s c = m := by
    rw [hm, hm1, may]
    split <;> split <;> omega
  have mb : 0 ≤ m ∧ m ≤ 2147483647 ∧ (m = 0 ∨ m ≤ s ∧ m ≤ c) := by
    rw [← em, may]
    omega
  have HM : Hid (∀ x y W, Zw x y s c → Calls Try.prog 11 #[.complex .f64 x y] W (IPost W m)) := Lib.hid (fun x y W h => by
    have := wmay_f h W
    rwa [em] at this)
  have h1 : ¬ s < -2147483647 := by omega
  have h2 : ¬ 2147483647 < s := by omega
  have h3 : ¬ c < -2147483647 := by omega
  have h4 : ¬ 2147483647 < c := by omega
  have h5 : ¬ b < -2147483647 := by omega
  have h6 : ¬ 2147483647 < b := by omega
  have e1 : (s != s) = false := by simp
  have e2 : (c != c) = false := by simp
  have e3 : (m != m) = false := by simp
  rw [em] at n1
  have HSP : Hid (∀ x y W, Zw x y s c → Calls Try.prog 12 #[.complex .f64 x y, .int .i64 n] W fun e w' => ∃ a b, e = .returned (.tuple #[.complex .f64 a b, .int .i64 1]) ∧ Whole a 0 ∧ Whole b 0 ∧ Below W.heap.size W w') := Lib.hid (fun x y W h => spd_no h W hn (by rw [em]; omega))
  have kn : 0 ≤ n := n0
  have kn1 : ¬ n ≤ m := by omega
  obtain ⟨u, hu⟩ : ∃ zz, zz = s + b := ⟨_, rfl⟩
  have ou : s + b = u := hu.symm
  have wu' : IntKind.i64.wrap u = u := IntWalk.i64_in _ (by omega)
  obtain ⟨v, hv⟩ : ∃ zz, zz = if u < -2147483647 then -2147483647 else u := ⟨_, rfl⟩
  have ov : (if u < -2147483647 then -2147483647 else u) = v := hv.symm
  have ku : u ≤ 2147483647 := by omega
  have e6 : (v == v) = true := by simp
  have e7 : (c == c) = true := by simp
  have HSH : Hid (∀ x y W, Zw x y s c → Calls Try.prog 14 #[.complex .f64 x y, .int .i64 b] W fun e w' => ∃ a b, e = .returned (.tuple #[.complex .f64 a b, .agg #[.bool false, .bool false, .int .i64 0]]) ∧ Zw a b v c ∧ Below W.heap.size W w') := Lib.hid (fun x y W h => by
    have := shi_ok h W hb (by omega)
    rwa [show max (s + b) (-2147483647) = v by rw [hv, ← hu]; split <;> omega] at this)
  clear s0 s1 c0 c1 b0 b1 hsb hs hc hb hm1 hm em mb hn n0 n1 hu hv 
  go_enter Try.func3, Try.ntmps3
  have HB0 := Lib.hid (Below.refl w.heap.size w)
  go_wp2_with fail
  with_reducible refine (HFST.out w).mono ?_
  rintro e w1 ⟨rfl, hb1⟩
  have HB1 := Lib.hid (HB0.out.trans (hb1.mono HB0.out.size))
  clear hb1
  go_wp2_with fail
  with_reducible refine (HWIN.out w1).mono ?_
  rintro e w2 ⟨z1, z2, rfl, hz, hb2⟩
  have HB2 := Lib.hid (HB1.out.trans (hb2.mono HB1.out.size))
  have HZ := Lib.hid hz
  clear hz
  clear hb2
  go_wp2_with fail
  with_reducible refine (wstr_f HZ.out w2).mono ?_
  rintro e w3 ⟨rfl, hb3⟩
  have HB3 := Lib.hid (HB2.out.trans (hb3.mono HB2.out.size))
  clear hb3
  go_wp2_with fail
  with_reducible refine (wcon_f HZ.out w3).mono ?_
  rintro e w4 ⟨rfl, hb4⟩
  have HB4 := Lib.hid (HB3.out.trans (hb4.mono HB3.out.size))
  clear hb4
  go_wp2_with fail
  with_reducible refine (HM.out _ _ w4 HZ.out).mono ?_
  rintro e w5 ⟨rfl, hb5⟩
  have HB5 := Lib.hid (HB4.out.trans (hb5.mono HB4.out.size))
  clear hb5
  go_wp2_with fail
  with_reducible refine (HSP.out _ _ w5 HZ.out).mono ?_
  rintro e w6 ⟨x1, x2, rfl, _, _, hb6⟩
  have HB6 := Lib.hid (HB5.out.trans (hb6.mono HB5.out.size))
  clear hb6
  go_wp2_with fail
  with_reducible refine (HM.out _ _ w6 HZ.out).mono ?_
  rintro e w7 ⟨rfl, hb7⟩
  have HB7 := Lib.hid (HB6.out.trans (hb7.mono HB6.out.size))
  clear hb7
  go_wp2_with fail
  with_reducible refine (HSH.out _ _ w7 HZ.out).mono ?_
  rintro e w8 ⟨r1, r2, rfl, hr, hb8⟩
  have HB8 := Lib.hid (HB7.out.trans (hb8.mono HB7.out.size))
  have HR := Lib.hid hr
  clear hr
  clear hb8
  obtain ⟨hk9, hb9⟩ := kf_of w8 false false 0
  obtain ⟨w9, hw9⟩ : ∃ x, x = w8.alloc (.cells #[.bool false, .bool false, .int .i64 0] 30) := ⟨_, rfl⟩
  rw [← hw9] at hk9 hb9
  have HB9 := Lib.hid (HB8.out.trans (hb9.mono HB8.out.size))
  have HW9 := Lib.hid hw9
  clear hw9 hb9
  go_upto_region 16 with fail
  rw [← HW9.out]
  obtain ⟨gs, hgs⟩ : ∃ g, g = w8.heap.size := ⟨_, rfl⟩
  rw [← hgs] at hk9 ⊢
  have HK9 := Lib.hid hk9
  obtain ⟨d0, d1, d2⟩ := hk9.cells
  clear hgs hk9
  go_wp2_with fail
  with_reducible refine (HFST.out w9).mono ?_
  rintro e w10 ⟨rfl, hb10⟩
  have HB10 := Lib.hid (HB9.out.trans (hb10.mono HB9.out.size))
  clear hb10
  go_wp2_with fail
  with_reducible refine (wstr_f HR.out w10).mono ?_
  rintro e w11 ⟨rfl, hb11⟩
  have HB11 := Lib.hid (HB10.out.trans (hb11.mono HB10.out.size))
  clear hb11
  go_wp2_with fail
  with_reducible refine (wcon_f HR.out w11).mono ?_
  rintro e w12 ⟨rfl, hb12⟩
  have HB12 := Lib.hid (HB11.out.trans (hb12.mono HB11.out.size))
  clear hb12
  go_wp2_with fail
  go_ret
  exact ⟨rfl, HB12.out⟩
set_option maxRecDepth 100000 in
set_option maxHeartbeats 4000000 in
theorem walk_big_no (s c n b : Int) (w : World) (hn : -9223372036854775808 ≤ n ∧ n ≤ 9223372036854775807) (s0 : -2147483647 ≤ s) (s1 : s ≤ 2147483647) (c0 : -2147483647 ≤ c) (c1 : c ≤ 2147483647) (b0 : -2147483647 ≤ b) (b1 : b ≤ 2147483647) (n0 : 0 ≤ n) (n1 : may s c < n) (hsb : 2147483647 < s + b) : Calls Try.prog 3 #[.int .i64 s, .int .i64 c, .int .i64 n, .int .i64 b] w (YesW w) := by
  have HFST := Lib.hid fun (W : World) => first12_any W
  have hs : in_ s := by unfold in_; omega
  have hc : in_ c := by unfold in_; omega
  have hb : in_ b := by unfold in_; omega
  have HWIN := Lib.hid fun (W : World) => win_in W hs hc
  obtain ⟨m1, hm1⟩ : ∃ zz, zz = if c < s then c else s := ⟨_, rfl⟩
  obtain ⟨m, hm⟩ : ∃ zz, zz = if m1 < 0 then 0 else m1 := ⟨_, rfl⟩
  have om1 : (if c < s then c else s) = m1 := hm1.symm
  have om : (if m1 < 0 then 0 else m1) = m := hm.symm
  have em : may s c = m := by
    rw [hm, hm1, may]
    split <;> split <;> omega
  have mb : 0 ≤ m ∧ m ≤ 2147483647 ∧ (m = 0 ∨ m ≤ s ∧ m ≤ c) := by
    rw [← em, may]
    omega
  have HM : Hid (∀ x y W, Zw x y s c → Calls Try.prog 11 #[.complex .f64 x y] W (IPost W m)) := Lib.hid (fun x y W h => by
    have := wmay_f h W
    rwa [em] at this)
  have h1 : ¬ s < -2147483647 := by omega
  have h2 : ¬ 2147483647 < s := by omega
  have h3 : ¬ c < -2147483647 := by omega
  have h4 : ¬ 2147483647 < c := by omega
  have h5 : ¬ b < -2147483647 := by omega
  have h6 : ¬ 2147483647 < b := by omega
  have e1 : (s != s) = false := by simp
  have e2 : (c != c) = false := by simp
  have e3 : (m != m) = false := by simp
  rw [em] at n1
  have HSP : Hid (∀ x y W, Zw x y s c → Calls Try.prog 12 #[.complex .f64 x y, .int .i64 n] W fun e w' => ∃ a b, e = .returned (.tuple #[.complex .f64 a b, .int .i64 1]) ∧ Whole a 0 ∧ Whole b 0 ∧ Below W.heap.size W w') := Lib.hid (fun x y W h => spd_no h W hn (by rw [em]; omega))
  have kn : 0 ≤ n := n0
  have kn1 : ¬ n ≤ m := by omega
  obtain ⟨u, hu⟩ : ∃ zz, zz = s + b := ⟨_, rfl⟩
  have ou : s + b = u := hu.symm
  have wu' : IntKind.i64.wrap u = u := IntWalk.i64_in _ (by omega)
  have ku : 2147483647 < u := by omega
  have HSH : Hid (∀ x y W, Zw x y s c → Calls Try.prog 14 #[.complex .f64 x y, .int .i64 b] W fun e w' => ∃ a b, e = .returned (.tuple #[.complex .f64 a b, .agg #[.bool true, .bool true, .int .i64 3]]) ∧ Whole a 0 ∧ Whole b 0 ∧ Below W.heap.size W w') := Lib.hid (fun x y W h => shi_no h W hb (by omega))
  clear s0 s1 c0 c1 b0 b1 hsb hs hc hb hm1 hm em mb hn n0 n1 hu 
  go_enter Try.func3, Try.ntmps3
  have HB0 := Lib.hid (Below.refl w.heap.size w)
  go_wp2_with fail
  with_reducible refine (HFST.out w).mono ?_
  rintro e w1 ⟨rfl, hb1⟩
  have HB1 := Lib.hid (HB0.out.trans (hb1.mono HB0.out.size))
  clear hb1
  go_wp2_with fail
  with_reducible refine (HWIN.out w1).mono ?_
  rintro e w2 ⟨z1, z2, rfl, hz, hb2⟩
  have HB2 := Lib.hid (HB1.out.trans (hb2.mono HB1.out.size))
  have HZ := Lib.hid hz
  clear hz
  clear hb2
  go_wp2_with fail
  with_reducible refine (wstr_f HZ.out w2).mono ?_
  rintro e w3 ⟨rfl, hb3⟩
  have HB3 := Lib.hid (HB2.out.trans (hb3.mono HB2.out.size))
  clear hb3
  go_wp2_with fail
  with_reducible refine (wcon_f HZ.out w3).mono ?_
  rintro e w4 ⟨rfl, hb4⟩
  have HB4 := Lib.hid (HB3.out.trans (hb4.mono HB3.out.size))
  clear hb4
  go_wp2_with fail
  with_reducible refine (HM.out _ _ w4 HZ.out).mono ?_
  rintro e w5 ⟨rfl, hb5⟩
  have HB5 := Lib.hid (HB4.out.trans (hb5.mono HB4.out.size))
  clear hb5
  go_wp2_with fail
  with_reducible refine (HSP.out _ _ w5 HZ.out).mono ?_
  rintro e w6 ⟨x1, x2, rfl, _, _, hb6⟩
  have HB6 := Lib.hid (HB5.out.trans (hb6.mono HB5.out.size))
  clear hb6
  go_wp2_with fail
  with_reducible refine (HM.out _ _ w6 HZ.out).mono ?_
  rintro e w7 ⟨rfl, hb7⟩
  have HB7 := Lib.hid (HB6.out.trans (hb7.mono HB6.out.size))
  clear hb7
  go_wp2_with fail
  with_reducible refine (HSH.out _ _ w7 HZ.out).mono ?_
  rintro e w8 ⟨r1, r2, rfl, _, _, hb8⟩
  have HB8 := Lib.hid (HB7.out.trans (hb8.mono HB7.out.size))
  clear hb8
  obtain ⟨hk9, hb9⟩ := kf_of w8 true true 3
  obtain ⟨w9, hw9⟩ : ∃ x, x = w8.alloc (.cells #[.bool true, .bool true, .int .i64 3] 30) := ⟨_, rfl⟩
  rw [← hw9] at hk9 hb9
  have HB9 := Lib.hid (HB8.out.trans (hb9.mono HB8.out.size))
  have HW9 := Lib.hid hw9
  clear hw9 hb9
  go_upto_region 16 with fail
  rw [← HW9.out]
  obtain ⟨gs, hgs⟩ : ∃ g, g = w8.heap.size := ⟨_, rfl⟩
  rw [← hgs] at hk9 ⊢
  have HK9 := Lib.hid hk9
  obtain ⟨d0, d1, d2⟩ := hk9.cells
  clear hgs hk9
  go_wp2_with fail
  with_reducible refine (HFST.out w9).mono ?_
  rintro e w10 ⟨rfl, hb10⟩
  have HB10 := Lib.hid (HB9.out.trans (hb10.mono HB9.out.size))
  obtain ⟨d0, d1, d2⟩ := (HK9.out.up hb10).cells
  clear hb10
  go_wp2_with fail
  go_ret
  exact ⟨rfl, HB10.out⟩
theorem walk_any (s c n b : Int) (w : World) (hn : -9223372036854775808 ≤ n ∧ n ≤ 9223372036854775807) : Calls Try.prog 3 #[.int .i64 s, .int .i64 c, .int .i64 n, .int .i64 b] w (YesW w) := by
  by_cases h : s < -2147483647 ∨ 2147483647 < s ∨ c < -2147483647 ∨ 2147483647 < c ∨ b < -2147483647 ∨ 2147483647 < b
  · exact walk_out s c n b w h
  · by_cases hsb : s + b ≤ 2147483647
    · by_cases n0 : 0 ≤ n
      · by_cases n1 : n ≤ may s c
        · exact walk_ok_ok s c n b w hn (by omega) (by omega) (by omega) (by omega) (by omega) (by omega) n0 n1 hsb
        · exact walk_big_ok s c n b w hn (by omega) (by omega) (by omega) (by omega) (by omega) (by omega) n0 (by omega) hsb
      · exact walk_neg_ok s c n b w hn (by omega) (by omega) (by omega) (by omega) (by omega) (by omega) (by omega) hsb
    · by_cases n0 : 0 ≤ n
      · by_cases n1 : n ≤ may s c
        · exact walk_ok_no s c n b w hn (by omega) (by omega) (by omega) (by omega) (by omega) (by omega) n0 n1 (by omega)
        · exact walk_big_no s c n b w hn (by omega) (by omega) (by omega) (by omega) (by omega) (by omega) n0 (by omega) (by omega)
      · exact walk_neg_no s c n b w hn (by omega) (by omega) (by omega) (by omega) (by omega) (by omega) (by omega) (by omega)
end flowBack
end Go.Proofs.Ytmihmngfmlmndaa
