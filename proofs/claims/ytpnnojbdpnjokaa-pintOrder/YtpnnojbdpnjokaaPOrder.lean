/- The walk of PintOrder. -/
import Derived.Test.YtpnnojbdpnjokaaPFirst
import Derived.Test.YtpnnojbdpnjokaaLIn
namespace Go.Proofs.Ytpnnojbdpnjokaa
open Go.RowKit Pn

namespace pintOrder
set_option maxRecDepth 100000 in
set_option maxHeartbeats 4000000 in
theorem walk_err (h : Nat) (b n m : Int) (w : World) (hR : Rdy w) (hh : h < 256) (hrb : Rng b) (hrn : Rng n) (hrm : Rng m) (hout : ¬ (1 ≤ b ∧ b ≤ 8 ∧ 0 ≤ n ∧ n ≤ 2147483647 ∧ 0 ≤ m ∧ m ≤ 2147483647)) :
    Calls Try.prog 6 #[.int .i64 b, .int .i64 n, .int .i64 m, .int .u8 h] w (Yes w) := by
  have HR := Lib.hid hR
  have HRB := Lib.hid hrb
  have HRN := Lib.hid hrn
  have HRM := Lib.hid hrm
  obtain ⟨P1, hP1⟩ : ∃ P, P = putI 0 b n := ⟨_, rfl⟩
  obtain ⟨P2, hP2⟩ : ∃ P, P = putI 0 b m := ⟨_, rfl⟩
  obtain ⟨P3, hP3⟩ : ∃ P, P = putI h b n := ⟨_, rfl⟩
  have HP1 := Lib.hid hP1
  have HP2 := Lib.hid hP2
  have HP3 := Lib.hid hP3
  have hor : P1.2 = 1 ∨ P1.2 = 0 ∧ P2.2 = 1 := by
    by_cases h1 : 1 ≤ b ∧ b ≤ 8 ∧ 0 ≤ n ∧ n ≤ 2147483647
    · right
      rw [hP1, hP2, putI_in (by omega) (by omega), putI_out (by omega)]
      exact ⟨rfl, rfl⟩
    · left
      rw [hP1, putI_out h1]
  obtain ⟨S1, t1⟩ := P1
  obtain ⟨S2, t2⟩ := P2
  obtain ⟨S3, t3⟩ := P3
  simp only [] at hor
  obtain ⟨M1, hM1⟩ : ∃ M, M = S1.length := ⟨_, rfl⟩
  obtain ⟨M2, hM2⟩ : ∃ M, M = S2.length := ⟨_, rfl⟩
  obtain ⟨M3, hM3⟩ : ∃ M, M = S3.length := ⟨_, rfl⟩
  have HM1 := Lib.hid hM1
  have HM2 := Lib.hid hM2
  have HM3 := Lib.hid hM3
  have HOR := Lib.hid hor
  clear hR hrb hrn hrm hP1 hP2 hP3 hM1 hM2 hM3 hout hor
  go_enter Try.func6, Try.ntmps6
  go_wp2_with fail
  with_reducible refine (first_any w HR.out).mono ?_
  rintro e w1 ⟨rfl, hb1⟩
  go_wp2_with fail
  with_reducible refine (put0_f b n w1 (HR.out.below hb1) HRB.out HRN.out).mono ?_
  rw [← HP1.out]
  rintro e w2 ⟨A2, c2, rfl, _, _, _, hbn⟩
  have hb2 := hb1.trans (hbn.mono hb1.size)
  clear hb1 hbn
  simp only []
  rw [← HM1.out]
  go_wp2_with fail
  with_reducible refine (put0_f b m w2 (HR.out.below hb2) HRB.out HRM.out).mono ?_
  rw [← HP2.out]
  rintro e w3 ⟨A3, c3, rfl, _, _, _, hbn⟩
  have hb3 := hb2.trans (hbn.mono hb2.size)
  clear hb2 hbn
  simp only []
  rw [← HM2.out]
  go_wp2_with fail
  with_reducible refine (put_f h b n w3 (HR.out.below hb3) hh HRB.out HRN.out).mono ?_
  rw [← HP3.out]
  rintro e w4 ⟨A4, c4, rfl, _, _, _, hbn⟩
  have hb4 := hb3.trans (hbn.mono hb3.size)
  clear hb3 hbn
  simp only []
  rw [← HM3.out]
  rcases HOR.out with rfl | ⟨rfl, rfl⟩
  · go_wp2_with fail
    with_reducible refine (first_any w4 (HR.out.below hb4)).mono ?_
    rintro e w5 ⟨rfl, hbn⟩
    have hb5 := hb4.trans (hbn.mono hb4.size)
    clear hb4 hbn
    go_wp2_with fail
    go_ret
    exact ⟨rfl, hb5⟩
  · go_wp2_with fail
    with_reducible refine (first_any w4 (HR.out.below hb4)).mono ?_
    rintro e w5 ⟨rfl, hbn⟩
    have hb5 := hb4.trans (hbn.mono hb4.size)
    clear hb4 hbn
    go_wp2_with fail
    go_ret
    exact ⟨rfl, hb5⟩
set_option maxRecDepth 100000 in
set_option maxHeartbeats 4000000 in
theorem walk_ok (h B n m : Nat) (w : World) (hR : Rdy w) (hh : h < 256) (hB1 : 1 ≤ B) (hB8 : B ≤ 8) (hn : n ≤ 2147483647) (hm : m ≤ 2147483647) :
    Calls Try.prog 6 #[.int .i64 (B : Int), .int .i64 (n : Int), .int .i64 (m : Int), .int .u8 h] w (Yes w) := by
  have HR := Lib.hid hR
  have HRB : Hid (Rng (B : Int)) := Lib.hid (by unfold Rng; omega)
  have HRN : Hid (Rng (n : Int)) := Lib.hid (by unfold Rng; omega)
  have HRM : Hid (Rng (m : Int)) := Lib.hid (by unfold Rng; omega)
  have HP1 : Hid (putI 0 (B : Int) (n : Int) = (put 0 B n, 0)) := Lib.hid (putI_in (by omega) (by omega))
  have HP2 : Hid (putI 0 (B : Int) (m : Int) = (put 0 B m, 0)) := Lib.hid (putI_in (by omega) (by omega))
  have HP3 : Hid (putI h (B : Int) (n : Int) = (put h B n, 0)) := Lib.hid (putI_in (by omega) (by omega))
  obtain ⟨S1, hS1⟩ : ∃ S, S = put 0 B n := ⟨_, rfl⟩
  obtain ⟨S2, hS2⟩ : ∃ S, S = put 0 B m := ⟨_, rfl⟩
  obtain ⟨S3, hS3⟩ : ∃ S, S = put h B n := ⟨_, rfl⟩
  rw [← hS1] at HP1
  rw [← hS2] at HP2
  rw [← hS3] at HP3
  have HB1 : Hid (∀ x ∈ S1, x < 256) := Lib.hid (by rw [hS1]; exact put_byte 0 B n (by omega) hB8)
  have HB2 : Hid (∀ x ∈ S2, x < 256) := Lib.hid (by rw [hS2]; exact put_byte 0 B m (by omega) hB8)
  have HB3 : Hid (∀ x ∈ S3, x < 256) := Lib.hid (by rw [hS3]; exact put_byte h B n hh hB8)
  obtain ⟨M1, hM1⟩ : ∃ M, M = S1.length := ⟨_, rfl⟩
  obtain ⟨M2, hM2⟩ : ∃ M, M = S2.length := ⟨_, rfl⟩
  have hM3 : S3.length = M1 := by rw [hM1, hS1, hS3, put_len, put_len]
  have hM6 : M1 ≤ 6 := by rw [hM1, hS1]; exact put_six 0 B n hn
  have HG : Hid (getI S3 (B : Int) = (n, M1, 0)) := Lib.hid (by
    have := get_put h B n [] hn
    rw [List.append_nil, ← hS3, hM3] at this
    rw [getI, if_neg (by omega), Int.toNat_natCast, this])
  have HMO : Hid (n ≤ m → M1 ≤ M2) := Lib.hid (fun hnm => by rw [hM1, hM2, hS1, hS2]; exact put_mono 0 0 B n m hnm)
  have HEQ : Hid (decide (S1 = S2) = decide (n = m)) := Lib.hid (by
    rw [Bool.eq_iff_iff, decide_eq_true_eq, decide_eq_true_eq, hS1, hS2]
    exact ⟨put_inj 0 B n m hn hm, fun e => by rw [e]⟩)
  have HM1 := Lib.hid hM1
  have HM2 := Lib.hid hM2
  have HM3 := Lib.hid hM3
  clear hR hS1 hS2 hS3 hM1 hM2 hM3
  go_enter Try.func6, Try.ntmps6
  go_wp2_with fail
  with_reducible refine (first_any w HR.out).mono ?_
  rintro e w1 ⟨rfl, hb1⟩
  go_wp2_with fail
  with_reducible refine (put0_f B n w1 (HR.out.below hb1) HRB.out HRN.out).mono ?_
  rw [HP1.out]
  rintro e w2 ⟨A2, c2, rfl, hat2, _, _, hbn⟩
  have hb2 := hb1.trans (hbn.mono hb1.size)
  have H2 := Lib.hid hat2
  clear hb1 hbn hat2
  simp only []
  rw [← HM1.out]
  go_wp2_with fail
  with_reducible refine (put0_f B m w2 (HR.out.below hb2) HRB.out HRM.out).mono ?_
  rw [HP2.out]
  rintro e w3 ⟨A3, c3, rfl, hat3, _, _, hbn⟩
  have hb3 := hb2.trans (hbn.mono hb2.size)
  have H23 := Lib.hid (H2.out.up hbn)
  have H3 := Lib.hid hat3
  clear hb2 hbn hat3 H2
  simp only []
  rw [← HM2.out]
  go_wp2_with fail
  with_reducible refine (put_f h B n w3 (HR.out.below hb3) hh HRB.out HRN.out).mono ?_
  rw [HP3.out]
  rintro e w4 ⟨A4, c4, rfl, hat4, hc4, hnc4, hbn⟩
  simp only [] at hnc4 ⊢
  rw [HM3.out] at hnc4 ⊢
  have hb4 := hb3.trans (hbn.mono hb3.size)
  have H24 := Lib.hid (H23.out.up hbn)
  have H34 := Lib.hid (H3.out.up hbn)
  have H4 := Lib.hid hat4
  have HC4 := Lib.hid hc4
  clear hb3 hbn hat4 H3 H23 hc4
  go_wp2_with fail
  with_reducible refine (get_f A4 S3 M1 c4 B w4 (HR.out.below hb4) H4.out HB3.out HM3.out HC4.out hnc4 (by omega) HRB.out).mono ?_
  rw [HG.out]
  rintro e w5 ⟨rfl, hbn⟩
  have hb5 := hb4.trans (hbn.mono hb4.size)
  have H25 := Lib.hid (H24.out.up hbn)
  have H35 := Lib.hid (H34.out.up hbn)
  clear hb4 hbn H24 H34 H4
  go_wp2_with fail
  with_reducible refine (first_any w5 (HR.out.below hb5)).mono ?_
  rintro e w6 ⟨rfl, hbn⟩
  have hb6 := hb5.trans (hbn.mono hb5.size)
  have H26 := Lib.hid (H25.out.up hbn)
  have H36 := Lib.hid (H35.out.up hbn)
  clear hb5 hbn H25 H35
  by_cases hnm : m < n
  · have p1 : (m : Int) < (n : Int) := by omega
    have p2 : ((n : Int) == (m : Int)) = false := by simp; omega
    have p3 : ((n : Int) == (n : Int)) = true := by simp
    have p4 : ((M1 : Int) == (M1 : Int)) = true := by simp
    have hne : n ≠ m := by omega
    have HD : Hid (decide (S1 = S2) = false) := Lib.hid (by rw [HEQ.out]; exact decide_eq_false hne)
    go_wp2_with fail
    with_reducible refine (bytes_any A2 A3 S1 S2 M1 M2 c2 c3 w6 _ _ H26.out H36.out HB1.out HB2.out HM1.out.symm HM2.out.symm).mono ?_
    rw [HD.out]
    rintro e w' ⟨rfl, rfl⟩
    go_wp2_with fail
    go_ret
    exact ⟨rfl, hb6⟩
  · have p1 : ¬ (m : Int) < (n : Int) := by omega
    have hle := HMO.out (by omega)
    have p5 : (M1 : Int) ≤ (M2 : Int) := by omega
    have p3 : ((n : Int) == (n : Int)) = true := by simp
    have p4 : ((M1 : Int) == (M1 : Int)) = true := by simp
    by_cases hne : n = m
    · subst hne
      have HD : Hid (decide (S1 = S2) = true) := Lib.hid (by rw [HEQ.out]; exact decide_eq_true rfl)
      go_wp2_with fail
      with_reducible refine (bytes_any A2 A3 S1 S2 M1 M2 c2 c3 w6 _ _ H26.out H36.out HB1.out HB2.out HM1.out.symm HM2.out.symm).mono ?_
      rw [HD.out]
      rintro e w' ⟨rfl, rfl⟩
      go_wp2_with fail
      go_ret
      exact ⟨rfl, hb6⟩
    · have p2 : ((n : Int) == (m : Int)) = false := by simp; omega
      have HD : Hid (decide (S1 = S2) = false) := Lib.hid (by rw [HEQ.out]; exact decide_eq_false hne)
      go_wp2_with fail
      with_reducible refine (bytes_any A2 A3 S1 S2 M1 M2 c2 c3 w6 _ _ H26.out H36.out HB1.out HB2.out HM1.out.symm HM2.out.symm).mono ?_
      rw [HD.out]
      rintro e w' ⟨rfl, rfl⟩
      go_wp2_with fail
      go_ret
      exact ⟨rfl, hb6⟩
theorem walk (h b n m : Int) (w : World) (hR : Rdy w) (hrb : (Lit.int .i64 b).wf = true) (hrn : (Lit.int .i64 n).wf = true) (hrm : (Lit.int .i64 m).wf = true) (hh : (Lit.int .u8 h).wf = true) :
    Calls Try.prog 6 #[.int .i64 b, .int .i64 n, .int .i64 m, .int .u8 h] w (Yes w) := by
  have hh' := bounds_u8 hh
  obtain ⟨h1, rfl⟩ : ∃ v : Nat, h = (v : Int) := ⟨h.toNat, by omega⟩
  by_cases hin : 1 ≤ b ∧ b ≤ 8 ∧ 0 ≤ n ∧ n ≤ 2147483647 ∧ 0 ≤ m ∧ m ≤ 2147483647
  · obtain ⟨B, rfl⟩ : ∃ v : Nat, b = (v : Int) := ⟨b.toNat, by omega⟩
    obtain ⟨n1, rfl⟩ : ∃ v : Nat, n = (v : Int) := ⟨n.toNat, by omega⟩
    obtain ⟨m1, rfl⟩ : ∃ v : Nat, m = (v : Int) := ⟨m.toNat, by omega⟩
    exact walk_ok h1 B n1 m1 w hR (by omega) (by omega) (by omega) (by omega) (by omega)
  · exact walk_err h1 b n m w hR (by omega) (bounds_i64 hrb) (bounds_i64 hrn) (bounds_i64 hrm) hin
end pintOrder
end Go.Proofs.Ytpnnojbdpnjokaa
