/- The walk of PintBack. -/
import Derived.Test.YtpnnojbdpnjokaaPFirst
import Derived.Test.YtpnnojbdpnjokaaLIn
import Derived.Test.YtpnnojbdpnjokaaLCut
namespace Go.Proofs.Ytpnnojbdpnjokaa
open Go.RowKit Pn

namespace pintBack
set_option maxRecDepth 100000 in
set_option maxHeartbeats 4000000 in
theorem walk_err (A : Option Addr) (h : Nat) (b n cut : Int) (k c : Nat) (w : World) (hR : Rdy w) (hh : h < 256) (hrb : Rng b) (hrn : Rng n) (hout : ¬ (1 ≤ b ∧ b ≤ 8 ∧ 0 ≤ n ∧ n ≤ 2147483647)) :
    Calls Try.prog 4 #[.int .u8 h, .int .i64 b, .int .i64 n, .slice A k c, .int .i64 cut] w (Yes w) := by
  have HR := Lib.hid hR
  have HRB := Lib.hid hrb
  have HRN := Lib.hid hrn
  have HP : Hid (putI h b n = ([], 1)) := Lib.hid (putI_out hout)
  clear hR hrb hrn hout
  go_enter Try.func4, Try.ntmps4
  go_wp2_with fail
  with_reducible refine (first_any w HR.out).mono ?_
  rintro e w1 ⟨rfl, hb1⟩
  go_wp2_with fail
  with_reducible refine (put_f h b n w1 (HR.out.below hb1) hh HRB.out HRN.out).mono ?_
  rw [HP.out]
  rintro e w2 ⟨A2, c2, rfl, _, _, _, hbn⟩
  have hb2 := hb1.trans (hbn.mono hb1.size)
  clear hb1 hbn
  go_wp2_with fail
  with_reducible refine (first_any w2 (HR.out.below hb2)).mono ?_
  rintro e w3 ⟨rfl, hbn⟩
  have hb3 := hb2.trans (hbn.mono hb2.size)
  clear hb2 hbn
  go_wp2_with fail
  go_ret
  exact ⟨rfl, hb3⟩
set_option maxRecDepth 100000 in
set_option maxHeartbeats 4000000 in
theorem walk_long (A : Option Addr) (h B n : Nat) (cut : Int) (k c : Nat) (w : World) (hR : Rdy w) (hh : h < 256) (hB1 : 1 ≤ B) (hB8 : B ≤ 8) (hn : n ≤ 2147483647) (hk : 100 < k) :
    Calls Try.prog 4 #[.int .u8 h, .int .i64 (B : Int), .int .i64 (n : Int), .slice A k c, .int .i64 cut] w (Yes w) := by
  have HR := Lib.hid hR
  have HRB : Hid (Rng (B : Int)) := Lib.hid (by unfold Rng; omega)
  have HRN : Hid (Rng (n : Int)) := Lib.hid (by unfold Rng; omega)
  obtain ⟨S, hS⟩ : ∃ S, S = put h B n := ⟨_, rfl⟩
  have HP : Hid (putI h (B : Int) (n : Int) = (S, 0)) := Lib.hid (by rw [hS]; exact putI_in (by omega) (by omega))
  obtain ⟨M, hM⟩ : ∃ M, M = S.length := ⟨_, rfl⟩
  have HM := Lib.hid hM
  have p1 : (100 : Int) < (k : Int) := by omega
  clear hR hM hS
  go_enter Try.func4, Try.ntmps4
  go_wp2_with fail
  with_reducible refine (first_any w HR.out).mono ?_
  rintro e w1 ⟨rfl, hb1⟩
  go_wp2_with fail
  with_reducible refine (put_f h B n w1 (HR.out.below hb1) hh HRB.out HRN.out).mono ?_
  rw [HP.out]
  rintro e w2 ⟨A2, c2, rfl, _, _, _, hbn⟩
  have hb2 := hb1.trans (hbn.mono hb1.size)
  clear hb1 hbn
  simp only []
  rw [← HM.out]
  go_wp2_with fail
  with_reducible refine (first_any w2 (HR.out.below hb2)).mono ?_
  rintro e w3 ⟨rfl, hbn⟩
  have hb3 := hb2.trans (hbn.mono hb2.size)
  clear hb2 hbn
  go_wp2_with fail
  go_ret
  exact ⟨rfl, hb3⟩
set_option maxRecDepth 100000 in
set_option maxHeartbeats 4000000 in
theorem walk_short (A : Option Addr) (l : List Nat) (h B n : Nat) (cut : Int) (k c : Nat) (w : World) (hR : Rdy w) (hA : At .u8 w w.heap.size A l) (hb : ∀ x ∈ l, x < 256) (hl : l.length = k) (hc : A = none → c = 0) (hh : h < 256) (hB1 : 1 ≤ B) (hB8 : B ≤ 8) (hn : n ≤ 2147483647) (hk : k ≤ 100) :
    Calls Try.prog 4 #[.int .u8 h, .int .i64 (B : Int), .int .i64 (n : Int), .slice A k c, .int .i64 cut] w (Yes w) := by
  have HR := Lib.hid hR
  have HRB : Hid (Rng (B : Int)) := Lib.hid (by unfold Rng; omega)
  have HRN : Hid (Rng (n : Int)) := Lib.hid (by unfold Rng; omega)
  have HA := Lib.hid fun (w' : World) (hb : Below w.heap.size w w') => hA.up hb
  have HL := Lib.hid hl
  have HC := Lib.hid hc
  obtain ⟨S, hS⟩ : ∃ S, S = put h B n := ⟨_, rfl⟩
  have HP : Hid (putI h (B : Int) (n : Int) = (S, 0)) := Lib.hid (by rw [hS]; exact putI_in (by omega) (by omega))
  obtain ⟨M, hM⟩ : ∃ M, M = S.length := ⟨_, rfl⟩
  have HM := Lib.hid hM
  have hM1 : 1 ≤ M := by rw [hM, hS]; exact put_pos h B n
  have hM6 : M ≤ 6 := by rw [hM, hS]; exact put_six h B n hn
  have HSB : Hid (∀ x ∈ S, x < 256) := Lib.hid (by rw [hS]; exact put_byte h B n hh hB8)
  have HXB : Hid (∀ x ∈ S ++ l, x < 256) := Lib.hid (fun x hx => by
    rw [List.mem_append] at hx
    rcases hx with h | h
    · exact HSB.out x h
    · exact hb x h)
  have HXL : Hid ((S ++ l).length = M + k) := Lib.hid (by rw [List.length_append, hM, hl])
  have HG : Hid (getI (S ++ l) (B : Int) = (n, M, 0)) := Lib.hid (by
    have := get_put h B n l hn
    rw [← hS, ← hM] at this
    rw [getI, if_neg (by omega), Int.toNat_natCast, this])
  have HCUT : Hid (∀ q, q < M → getI (S.take q) (B : Int) = (0, 0, 4)) := Lib.hid (fun q hq => by
    have := get_cut h B n q hn (by rw [← hS, ← hM]; exact hq)
    rw [← hS] at this
    rw [getI, if_neg (by omega), Int.toNat_natCast, this])
  obtain ⟨x, hx⟩ : ∃ x, S[0]? = some x := ⟨S[0]'(by omega), List.getElem?_eq_getElem (by omega)⟩
  obtain ⟨p, hp⟩ : ∃ p, p = 2 ^ B := ⟨_, rfl⟩
  have hp1 : 2 ≤ p := by rw [hp]; exact Nat.pow_le_pow_right (n := 2) (by decide) hB1
  have ep : ((2 : Int) ^ B) = (p : Int) := by rw [hp]; simp
  obtain ⟨Q, hQ⟩ : ∃ Q, Q = h / p := ⟨_, rfl⟩
  have eQ : (h : Int) / (p : Int) = (Q : Int) := by rw [hQ, Int.natCast_ediv]
  have hxQ : x / p = Q := by
    rw [hQ, hp]
    rw [hS] at hx
    unfold put at hx
    split at hx
    · simp at hx
      rw [← hx, hd_div _ _ _ (by have := full_lt B; omega)]
    · simp at hx
      rw [← hx, hd_div _ _ _ (full_lt B)]
  have exQ : (x : Int) / (p : Int) = (Q : Int) := by rw [← hxQ, Int.natCast_ediv]
  have hx256 : x < 256 := HSB.out x (List.mem_of_getElem? hx)
  have su := u64_small B (by omega)
  have HX := Lib.hid hx
  have p1 : ((Q : Int) != (Q : Int)) = false := by simp
  have p2 : ((n : Int) != (n : Int)) = false := by simp
  have p3 : ((M : Int) != (M : Int)) = false := by simp
  have p4 : ¬ (100 : Int) < (k : Int) := by omega
  clear hR hM hS hA hb hl hc hx hp hQ hxQ
  go_enter Try.func4, Try.ntmps4
  go_wp2_with fail
  with_reducible refine (first_any w HR.out).mono ?_
  rintro e w1 ⟨rfl, hb1⟩
  go_wp2_with fail
  with_reducible refine (put_f h B n w1 (HR.out.below hb1) hh HRB.out HRN.out).mono ?_
  rw [HP.out]
  rintro e w2 ⟨A2, c2, rfl, hat2, hc2, hnc2, hbn⟩
  simp only [] at hat2 hnc2 ⊢
  rw [← HM.out] at hnc2 ⊢
  have hb2 := hb1.trans (hbn.mono hb1.size)
  have H2 := Lib.hid hat2
  have HC2 := Lib.hid hc2
  clear hb1 hbn hat2 hc2
  go_wp2_with fail
  with_reducible refine (copy_any A2 S M c2 w2 H2.out HM.out.symm HC2.out (by omega)).mono ?_
  rintro e w3 ⟨v3, rfl, hr3⟩
  have HA3 := Lib.hid (HA.out _ (hb2.trans (hr3.2.mono hb2.size)))
  go_wp2_with (at_builtin; refine wpList_append_at rfl (.tmp 63) (.tmp 64) rfl w2.heap.size _ S rfl hr3.1 A l _ c HL.out rfl HC.out _ HA3.out ?_ ?_ ?_; (rotate_right; intro v4 w4 hown4 hg4; rw [HXL.out] at hown4; obtain ⟨A4, c4, rfl⟩ := own_shape hown4))
  · have hb34 : Below w2.heap.size w2 w4 := hr3.2.grown hg4 (by have := hr3.2.size; omega) (own_block hr3.1)
    have hb4 := hb2.trans (hb34.mono hb2.size)
    have H24 := Lib.hid (H2.out.up hb34)
    have H4 := Lib.hid (At.of_own hown4)
    have HN4 := Lib.hid (own_none hown4)
    have hc4 := own_cap hown4
    clear hb34 hb2 hg4 hown4 hr3 HA3 H2
    go_wp2_with fail
    with_reducible refine (get_f A4 (S ++ l) (M + k) c4 B w4 (HR.out.below hb4) H4.out HXB.out HXL.out HN4.out hc4 (by omega) HRB.out).mono ?_
    rw [HG.out]
    rintro e w5 ⟨rfl, hbn⟩
    have hb5 := hb4.trans (hbn.mono hb4.size)
    have H25 := Lib.hid (H24.out.up hbn)
    clear hb4 hbn H24 H4
    obtain ⟨bk, o, rfl, _, hcell⟩ := H25.out.pos (by have := HM.out; omega)
    have cx : w5.cell? ⟨bk, o, none⟩ = some (.int .u8 (x : Int)) := by
      have h0 := hcell 0 (by have := HM.out; omega)
      have h1 := HX.out
      rw [List.getElem?_eq_getElem (by have := HM.out; omega)] at h1
      injection h1 with h1
      rwa [Nat.add_zero, h1] at h0
    clear hcell
    by_cases hcut : cut < 0 ∨ (M : Int) ≤ cut
    · have HCU := Lib.hid hcut
      clear hcut
      rcases HCU.out with h0 | h0
      · go_wp2_with fail
        with_reducible refine (first_any w5 (HR.out.below hb5)).mono ?_
        rintro e w6 ⟨rfl, hbn⟩
        have hb6 := hb5.trans (hbn.mono hb5.size)
        clear hb5 hbn
        go_wp2_with fail
        go_ret
        exact ⟨rfl, hb6⟩
      · go_wp2_with fail
        with_reducible refine (first_any w5 (HR.out.below hb5)).mono ?_
        rintro e w6 ⟨rfl, hbn⟩
        have hb6 := hb5.trans (hbn.mono hb5.size)
        clear hb5 hbn
        go_wp2_with fail
        go_ret
        exact ⟨rfl, hb6⟩
    · obtain ⟨q, rfl⟩ : ∃ v : Nat, cut = (v : Int) := ⟨cut.toNat, by omega⟩
      have hqM : q < M := by omega
      have hq1 : ¬ (M : Int) ≤ (q : Int) := by omega
      have hsl := fun w => slice_h (some ⟨bk, o, none⟩) M c2 q w (by omega)
      have HTL : Hid ((S.take q).length = q) := Lib.hid (by rw [List.length_take, ← HM.out]; omega)
      have HTB : Hid (∀ x ∈ S.take q, x < 256) := Lib.hid (fun x hx => HSB.out x (List.mem_of_mem_take hx))
      have HT5 := Lib.hid (H25.out.take (q := q) (c := c2) (by rw [← HM.out]; exact hnc2))
      have HTN : Hid (cutAt (some ⟨bk, o, none⟩) c2 0 = none → c2 = 0) := Lib.hid (cutAt_none (q := 0) HC2.out)
      obtain ⟨A5, hA5⟩ : ∃ A5, A5 = cutAt (some ⟨bk, o, none⟩) c2 0 := ⟨_, rfl⟩
      rw [← hA5] at hsl HT5 HTN
      clear hcut hA5
      go_wp2_with fail
      with_reducible refine (get_f A5 (S.take q) q c2 B w5 (HR.out.below hb5) HT5.out HTB.out HTL.out HTN.out (by omega) (by omega) HRB.out).mono ?_
      rw [HCUT.out q hqM]
      rintro e w6 ⟨rfl, hbn⟩
      have hb6 := hb5.trans (hbn.mono hb5.size)
      clear hb5 hbn hsl cx
      go_wp2_with fail
      with_reducible refine (first_any w6 (HR.out.below hb6)).mono ?_
      rintro e w7 ⟨rfl, hbn⟩
      have hb7 := hb6.trans (hbn.mono hb6.size)
      clear hb6 hbn
      go_wp2_with fail
      go_ret
      exact ⟨rfl, hb7⟩
  all_goals (have := HM.out; have := HL.out; first | omega | (simp; omega) | (have := hr3.2.size; omega) | simp)
theorem walk (A : Option Addr) (l : List Nat) (h b n cut : Int) (c : Nat) (w : World) (hR : Rdy w) (hA : At .u8 w w.heap.size A l) (hb : ∀ x ∈ l, x < 256) (hc : A = none → c = 0) (hh : (Lit.int .u8 h).wf = true) (hrb : (Lit.int .i64 b).wf = true) (hrn : (Lit.int .i64 n).wf = true) :
    Calls Try.prog 4 #[.int .u8 h, .int .i64 b, .int .i64 n, .slice A l.length c, .int .i64 cut] w (Yes w) := by
  have hh' := bounds_u8 hh
  obtain ⟨h1, rfl⟩ : ∃ v : Nat, h = (v : Int) := ⟨h.toNat, by omega⟩
  by_cases hin : 1 ≤ b ∧ b ≤ 8 ∧ 0 ≤ n ∧ n ≤ 2147483647
  · obtain ⟨B, rfl⟩ : ∃ v : Nat, b = (v : Int) := ⟨b.toNat, by omega⟩
    obtain ⟨n1, rfl⟩ : ∃ v : Nat, n = (v : Int) := ⟨n.toNat, by omega⟩
    by_cases hl : 100 < l.length
    · exact walk_long A h1 B n1 cut _ c w hR (by omega) (by omega) (by omega) (by omega) hl
    · exact walk_short A l h1 B n1 cut _ c w hR hA hb rfl hc (by omega) (by omega) (by omega) (by omega) (by omega)
  · exact walk_err A h1 b n cut _ c w hR (by omega) (bounds_i64 hrb) (bounds_i64 hrn) hin
end pintBack
end Go.Proofs.Ytpnnojbdpnjokaa
