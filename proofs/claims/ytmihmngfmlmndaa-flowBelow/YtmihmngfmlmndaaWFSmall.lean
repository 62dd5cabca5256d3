/- The small functions of the landed flow: cut, is, Windows, Stream, Conn, May, Spend. -/
import Derived.Test.YtmihmngfmlmndaaWTrunc
import Derived.Deep.DeepCutAuto
import Derived.BigQuiet
namespace Go.Proofs.Ytmihmngfmlmndaa
open Go.RowKit Fl Fw

theorem part_w {x : Nat} {k : Int} (h : Whole x k) (hk : in_ k) (w : World) : Calls Try.prog 19 #[.float .f64 x] w fun e w' => e = .returned (.bool true) ∧ w' = w := by
  unfold in_ at hk
  have k1 := fge h whole_low
  rw [decide_eq_true (show -2147483647 ≤ k by omega)] at k1
  have k2 := fle h whole_top
  rw [decide_eq_true (show k ≤ 2147483647 by omega)] at k2
  have k3 := feq (whole_trunc h (by omega) (by omega)) h rfl
  have HT := Lib.hid (trunc_w h w)
  clear h hk
  go_enter Try.func19, Try.ntmps19
  go_wp2_with fail
  with_reducible refine (HT.out).mono ?_
  rintro e w' ⟨rfl, rfl⟩
  go_wp2_with fail
  go_ret
  exact ⟨rfl, rfl⟩
theorem is_w {a b : Nat} {k l : Int} (h : Zw a b k l) (w : World) : Calls Try.prog 17 #[.complex .f64 a b] w fun e w' => e = .returned (.bool true) ∧ w' = w := by
  have H1 := Lib.hid (part_w h.a' h.ka w)
  have H2 := Lib.hid (part_w h.b' h.lb w)
  clear h
  go_enter Try.func17, Try.ntmps17
  go_wp2_with fail
  with_reducible refine (H1.out).mono ?_
  rintro e w' ⟨rfl, rfl⟩
  go_wp2_with fail
  with_reducible refine (H2.out).mono ?_
  rintro e w' ⟨rfl, rfl⟩
  go_wp2_with fail
  go_ret
  exact ⟨rfl, rfl⟩
theorem cut_w (n : Int) (w : World) : Calls Try.prog 16 #[.int .i64 n] w fun e w' => e = .returned (.int .i64 (cut n)) ∧ w' = w := by
  obtain ⟨m, hm⟩ : ∃ m, m = if 2147483647 < n then 2147483647 else n := ⟨_, rfl⟩
  obtain ⟨r, hr⟩ : ∃ r, r = if -2147483647 < m then m else -2147483647 := ⟨_, rfl⟩
  have om : (if 2147483647 < n then 2147483647 else n) = m := hm.symm
  have or' : (if -2147483647 < m then m else -2147483647) = r := hr.symm
  have e : cut n = r := by
    rw [hr, hm, cut]
    split <;> split <;> split <;> omega
  rw [e]
  clear hm hr e
  go_enter Try.func16, Try.ntmps16
  go_wp2_with fail
  go_ret
  exact ⟨rfl, rfl⟩
theorem pair_w (s c : Int) (w : World) : Calls Try.prog 15 #[.int .i64 s, .int .i64 c] w fun e w' => e = .returned (.complex .f64 (fOf s) (fOf c)) ∧ w' = w := by
  go_enter Try.func15, Try.ntmps15
  go_wp2_with fail
  go_ret
  exact ⟨rfl, rfl⟩
theorem in_cut (n : Int) : in_ (cut n) := by
  unfold in_ cut
  split
  · omega
  · split <;> omega
theorem wwin_f (s c : Int) (w : World) (_ : -9223372036854775808 ≤ s ∧ s ≤ 9223372036854775807) (_ : -9223372036854775808 ≤ c ∧ c ≤ 9223372036854775807) : Calls Try.prog 8 #[.int .i64 s, .int .i64 c] w (ZPost w (cut s) (cut c)) := by
  have H1 := Lib.hid (cut_w s w)
  have H2 := Lib.hid (cut_w c w)
  have H3 := Lib.hid (pair_w (cut s) (cut c) w)
  have HF : Hid (ZPost w (cut s) (cut c) (.returned (.complex .f64 (fOf (cut s)) (fOf (cut c)))) w) := Lib.hid ⟨_, _, rfl, whole_of (in_cut s), whole_of (in_cut c), Below.refl _ _⟩
  go_enter Try.func8, Try.ntmps8
  go_wp2_with fail
  with_reducible refine (H1.out).mono ?_
  rintro e w' ⟨rfl, rfl⟩
  go_wp2_with fail
  with_reducible refine (H2.out).mono ?_
  rintro e w' ⟨rfl, rfl⟩
  go_wp2_with fail
  with_reducible refine (H3.out).mono ?_
  rintro e w' ⟨rfl, rfl⟩
  go_wp2_with fail
  go_ret
  exact HF.out
theorem str_w {a b : Nat} {k l : Int} (h : Zw a b k l) (w : World) : Calls Try.prog 9 #[.complex .f64 a b] w fun e w' => e = .returned (.int .i64 k) ∧ w' = w := by
  have H1 := Lib.hid (is_w h w)
  have hc := run_toIntW h.a' h.ka
  clear h
  go_enter Try.func9, Try.ntmps9
  go_wp2_with fail
  with_reducible refine (H1.out).mono ?_
  rintro e w' ⟨rfl, rfl⟩
  go_wp2_with fail
  go_ret
  exact ⟨rfl, rfl⟩
theorem con_w {a b : Nat} {k l : Int} (h : Zw a b k l) (w : World) : Calls Try.prog 10 #[.complex .f64 a b] w fun e w' => e = .returned (.int .i64 l) ∧ w' = w := by
  have H1 := Lib.hid (is_w h w)
  have hc := run_toIntW h.b' h.lb
  clear h
  go_enter Try.func10, Try.ntmps10
  go_wp2_with fail
  with_reducible refine (H1.out).mono ?_
  rintro e w' ⟨rfl, rfl⟩
  go_wp2_with fail
  go_ret
  exact ⟨rfl, rfl⟩
theorem may_w {a b : Nat} {k l : Int} (h : Zw a b k l) (w : World) : Calls Try.prog 11 #[.complex .f64 a b] w fun e w' => e = .returned (.int .i64 (may k l)) ∧ w' = w := by
  have H1 := Lib.hid (str_w h w)
  have H2 := Lib.hid (con_w h w)
  obtain ⟨m, hm⟩ : ∃ m, m = if l < k then l else k := ⟨_, rfl⟩
  obtain ⟨r, hr⟩ : ∃ r, r = if 0 < m then m else 0 := ⟨_, rfl⟩
  have om : (if l < k then l else k) = m := hm.symm
  have or' : (if 0 < m then m else 0) = r := hr.symm
  have e : may k l = r := by
    rw [hr, hm, may]
    split <;> split <;> omega
  rw [e]
  clear hm hr e h
  go_enter Try.func11, Try.ntmps11
  go_wp2_with fail
  with_reducible refine (H1.out).mono ?_
  rintro e w' ⟨rfl, rfl⟩
  go_wp2_with fail
  with_reducible refine (H2.out).mono ?_
  rintro e w' ⟨rfl, rfl⟩
  go_wp2_with fail
  go_ret
  exact ⟨rfl, rfl⟩
theorem wspd_f {a b : Nat} {k l : Int} (h : Zw a b k l) (n : Int) (w : World) (_ : -9223372036854775808 ≤ n ∧ n ≤ 9223372036854775807) : Calls Try.prog 12 #[.complex .f64 a b, .int .i64 n] w (ZEPost w (spend k l n)) := by
  have H1 := Lib.hid (is_w h w)
  have H2 := Lib.hid (may_w h w)
  obtain ⟨m, hm⟩ : ∃ m, m = may k l := ⟨_, rfl⟩
  rw [← hm] at H2
  by_cases n0 : 0 ≤ n
  · have k0 : ¬ n < 0 := by omega
    by_cases n1 : n ≤ m
    · have k1 : ¬ m < n := by omega
      obtain ⟨_, _, ⟨ka, kb⟩, ⟨la, lb⟩⟩ := id h
      have hn : in_ n := by unfold in_; rw [may] at hm; omega
      have hw := whole_of hn
      have hsub := run_subW h.a' h.b' hw hw (by unfold in_ at hn; omega) (by unfold in_ at hn; omega) 23
      have s1 := (sub_whole h.a' hw (by unfold in_ at hn; omega) (by unfold in_ at hn; omega)).2
      have s2 := (sub_whole h.b' hw (by unfold in_ at hn; omega) (by unfold in_ at hn; omega)).2
      have HF : Hid (ZEPost w (spend k l n) (.returned (.tuple #[.complex .f64 (subB a (fOf n)) (subB b (fOf n)), .int .i64 0])) w) := Lib.hid (by
        rw [spend, if_pos ⟨n0, by rw [← hm]; exact n1⟩]
        exact ⟨_, _, rfl, s1, s2, Below.refl _ _⟩)
      have H3 := Lib.hid (pair_w n n w)
      clear h hm n0 n1 ka kb la lb hn hw s1 s2
      go_enter Try.func12, Try.ntmps12
      go_wp2_with fail
      with_reducible refine (H1.out).mono ?_
      rintro e w' ⟨rfl, rfl⟩
      go_wp2_with fail
      with_reducible refine (H2.out).mono ?_
      rintro e w' ⟨rfl, rfl⟩
      go_wp2_with fail
      with_reducible refine (H3.out).mono ?_
      rintro e w' ⟨rfl, rfl⟩
      go_wp2_with fail
      go_ret2
      exact HF.out
    · have k1 : m < n := by omega
      have HF : Hid (ZEPost w (spend k l n) (.returned (.tuple #[.complex .f64 0 0, .int .i64 1])) w) := Lib.hid (by
        rw [spend, if_neg (by rw [← hm]; omega)]
        exact ⟨_, _, rfl, whole_zero, whole_zero, Below.refl _ _⟩)
      clear h hm n0 n1
      go_enter Try.func12, Try.ntmps12
      go_wp2_with fail
      with_reducible refine (H1.out).mono ?_
      rintro e w' ⟨rfl, rfl⟩
      go_wp2_with fail
      with_reducible refine (H2.out).mono ?_
      rintro e w' ⟨rfl, rfl⟩
      go_wp2_with fail
      go_ret2
      exact HF.out
  · have k0 : n < 0 := by omega
    have HF : Hid (ZEPost w (spend k l n) (.returned (.tuple #[.complex .f64 0 0, .int .i64 1])) w) := Lib.hid (by
      rw [spend, if_neg (by omega)]
      exact ⟨_, _, rfl, whole_zero, whole_zero, Below.refl _ _⟩)
    clear h hm n0
    go_enter Try.func12, Try.ntmps12
    go_wp2_with fail
    with_reducible refine (H1.out).mono ?_
    rintro e w' ⟨rfl, rfl⟩
    go_wp2_with fail
    go_ret2
    exact HF.out
end Go.Proofs.Ytmihmngfmlmndaa
