/- The walk of HuffJoins. -/
import Derived.Test.YtpoffmnaoohkpaaDoorHBack
namespace Go.Proofs.YtpoffmnaoohkpaaDoor
open Go.RowKit Hf
namespace huffJoins
theorem walk_long (A A' : Option Addr) (n n' c c' : Nat) (room : Int) (w : World) (hR : Rdy w) (hl : 500 < n ∨ 500 < n' ∨ room < 0) : Calls Tryd.prog 5 #[.slice A n c, .slice A' n' c', .int .i64 room] w (Yes w) := by
  have HR := Lib.hid hR
  clear hR
  by_cases h1 : 500 < n
  · have q1 : decide ((500 : Int) < (n : Int)) = true := by simp; omega
    clear hl
    go_enter Tryd.func5, Tryd.ntmps5
    go_wp2_with fail
    with_reducible refine (first_any w HR.out).mono ?_
    rintro e w1 ⟨rfl, hb1⟩
    go_wp2_with fail
    with_reducible refine (first_any w1 (HR.out.below hb1)).mono ?_
    rintro e w2 ⟨rfl, hb2⟩
    go_wp2_with fail
    go_ret
    exact ⟨rfl, hb1.trans (hb2.mono hb1.size)⟩
  · have q1 : decide ((500 : Int) < (n : Int)) = false := by simp; omega
    by_cases h2 : 500 < n'
    · have q2 : decide ((500 : Int) < (n' : Int)) = true := by simp; omega
      clear hl
      go_enter Tryd.func5, Tryd.ntmps5
      go_wp2_with fail
      with_reducible refine (first_any w HR.out).mono ?_
      rintro e w1 ⟨rfl, hb1⟩
      go_wp2_with fail
      with_reducible refine (first_any w1 (HR.out.below hb1)).mono ?_
      rintro e w2 ⟨rfl, hb2⟩
      go_wp2_with fail
      go_ret
      exact ⟨rfl, hb1.trans (hb2.mono hb1.size)⟩
    · have q2 : decide ((500 : Int) < (n' : Int)) = false := by simp; omega
      have q3 : decide (room < 0) = true := decide_eq_true (by omega)
      clear hl
      go_enter Tryd.func5, Tryd.ntmps5
      go_wp2_with fail
      with_reducible refine (first_any w HR.out).mono ?_
      rintro e w1 ⟨rfl, hb1⟩
      go_wp2_with fail
      with_reducible refine (first_any w1 (HR.out.below hb1)).mono ?_
      rintro e w2 ⟨rfl, hb2⟩
      go_wp2_with fail
      go_ret
      exact ⟨rfl, hb1.trans (hb2.mono hb1.size)⟩
set_option maxRecDepth 100000 in
set_option maxHeartbeats 4000000 in
theorem walk_short (A A' : Option Addr) (l s : List Nat) (n n' c c' : Nat) (room : Int) (w : World) (hR : Rdy w) (hA : At .u8 w w.heap.size A l) (hA' : At .u8 w w.heap.size A' s) (hb : ∀ x ∈ l, x < 256) (hb' : ∀ x ∈ s, x < 256) (hl : l.length = n) (hl' : s.length = n') (hc : A = none → c = 0) (hc' : A' = none → c' = 0) (hnc : n ≤ c) (hnc' : n' ≤ c') (hn : n ≤ 500) (hn' : n' ≤ 500) (hr : 0 ≤ room) :
    Calls Tryd.prog 5 #[.slice A n c, .slice A' n' c', .int .i64 room] w (Yes w) := by
  have HR := Lib.hid hR
  have HA := Lib.hid fun (w' : World) (hb : Below w.heap.size w w') => hA.up hb
  have HA' := Lib.hid fun (w' : World) (hb : Below w.heap.size w w') => hA'.up hb
  have HB := Lib.hid hb
  have HB' := Lib.hid hb'
  have HL := Lib.hid hl
  have HL' := Lib.hid hl'
  have HC := Lib.hid hc
  have HC' := Lib.hid hc'
  have q1 : decide ((500 : Int) < (n : Int)) = false := by simp; omega
  have q2 : decide ((500 : Int) < (n' : Int)) = false := by simp; omega
  have q3 : decide (room < 0) = false := decide_eq_false (by omega)
  obtain ⟨J, hJ⟩ : ∃ J, J = l ++ s := ⟨_, rfl⟩
  obtain ⟨P, hP⟩ : ∃ P, P = J.length := ⟨_, rfl⟩
  have hPn : P = n + n' := by rw [hP, hJ, List.length_append]; omega
  have HJB : Hid (∀ x ∈ J, x < 256) := Lib.hid (fun x hx => by
    rw [hJ, List.mem_append] at hx
    rcases hx with h | h
    · exact hb x h
    · exact hb' x h)
  obtain ⟨E, hE⟩ : ∃ E, E = enc J := ⟨_, rfl⟩
  have HEB : Hid (∀ x ∈ E, x < 256) := Lib.hid (by rw [hE]; exact enc_byte J)
  obtain ⟨N1, hN1⟩ : ∃ N, N = nBits l := ⟨_, rfl⟩
  obtain ⟨N2, hN2⟩ : ∃ N, N = nBits s := ⟨_, rfl⟩
  obtain ⟨N, hN⟩ : ∃ N, N = nBits J := ⟨_, rfl⟩
  have hNs : N = N1 + N2 := by rw [hN, hJ, nBits_app, hN1, hN2]
  have eN : (N1 : Int) + (N2 : Int) = (N : Int) := by omega
  have qN : ((N : Int) != (N : Int)) = false := by simp
  have b1 := nBits_le l
  have b2 := nBits_le s
  have hN1b : N1 ≤ 15000 := by rw [hN1]; omega
  have hN2b : N2 ≤ 15000 := by rw [hN2]; omega
  obtain ⟨M, hM⟩ : ∃ M, M = E.length := ⟨_, rfl⟩
  have hMb : M ≤ 4000 := by rw [hM, hE, enc_len, ← hN]; omega
  have HD0 : Hid (dec E (P : Int) = (J, 0)) := Lib.hid (by rw [hE, hP]; exact dec_enc J _ HJB.out (Int.le_refl _))
  have HD1 : Hid ((P : Int) ≤ room → dec E room = (J, 0)) := Lib.hid (fun h => by rw [hE]; exact dec_enc J _ HJB.out (by omega))
  have HD2 : Hid (room < (P : Int) → dec E room = ([], 3)) := Lib.hid (fun h => by rw [hE]; exact dec_enc_long J _ HJB.out (by omega) (by omega))
  have HJ := Lib.hid hJ
  have HP := Lib.hid hP
  have HE := Lib.hid hE
  have HN := Lib.hid hN
  have HN1 := Lib.hid hN1
  have HN2 := Lib.hid hN2
  have HM := Lib.hid hM
  have hPb : P ≤ 1000 := by omega
  clear hR hA hA' hb hb' hl hl' hc hc' hJ hP hE hN hN1 hN2 hNs hM b1 b2 hPn
  go_enter Tryd.func5, Tryd.ntmps5
  go_wp2_with fail
  with_reducible refine (first_any w HR.out).mono ?_
  rintro e w1 ⟨rfl, hb1⟩
  go_wp2_with fail
  with_reducible refine (copy_any A l n c w1 (HA.out _ hb1) HL.out HC.out (by omega)).mono ?_
  rintro e w2 ⟨v2, rfl, hr2⟩
  have hA2 := Lib.hid (HA'.out _ hb1)
  go_wp2_with (at_builtin; refine wpList_append_at rfl (.tmp 29) (.tmp 30) rfl w1.heap.size _ l rfl hr2.1 A' s _ c' HL'.out rfl HC'.out _ (hA2.out.below hr2.2 (Nat.le_refl _)) ?_ ?_ ?_; (rotate_right; intro v3 w3 hown3 hg3; rw [← HJ.out, ← HP.out] at hown3; obtain ⟨AJ, cJ, rfl⟩ := own_shape hown3))
  · have hb23 : Below w1.heap.size w1 w3 := hr2.2.grown hg3 hr2.2.size (own_block hr2.1)
    have hb3 := hb1.trans (hb23.mono hb1.size)
    have HJ3 := Lib.hid (At.of_own hown3)
    have HJN := Lib.hid (own_none hown3)
    have hcJ := own_cap hown3
    clear hb1 hb23 hg3 hown3 hr2 hA2
    go_wp2_with fail
    with_reducible refine (enc_f AJ J P cJ w3 (HR.out.below hb3) HJ3.out HJB.out HP.out.symm HJN.out hcJ (by omega)).mono ?_
    rw [← HE.out]
    rintro e w4 ⟨v4, rfl, hr4⟩
    obtain ⟨Ac, cc, rfl, hatc, hnc2, hcc⟩ := hr4.at
    rw [← HM.out] at hcc ⊢
    have HNC := Lib.hid hnc2
    have HE4 := Lib.hid hatc
    have HJ4 := Lib.hid (HJ3.out.up hr4.2)
    have hb4 := hb3.trans (hr4.2.mono hb3.size)
    clear hb3 HJ3 hr4 hatc hnc2
    go_wp2_with fail
    with_reducible refine (dec_f Ac E M cc (P : Int) w4 (HR.out.below hb4) HE4.out HEB.out HM.out.symm HNC.out hcc (by omega)).mono ?_
    rw [HD0.out]
    rintro e w5 ⟨A5, c5, rfl, hat5, _, hbn⟩
    rw [← HP.out]
    have hb5 := hb4.trans (hbn.mono hb4.size)
    have HE5 := Lib.hid (HE4.out.up hbn)
    have HJ5 := Lib.hid (HJ4.out.up hbn)
    have H5 := Lib.hid hat5
    clear hb4 hbn HE4 HJ4 hat5
    go_wp2_with fail
    with_reducible refine (bytes_any A5 AJ J J P P c5 cJ w5 _ _ H5.out HJ5.out HJB.out HJB.out HP.out.symm HP.out.symm).mono ?_
    rw [decide_eq_true (rfl : J = J)]
    rintro e w' ⟨rfl, rfl⟩
    clear H5
    go_wp2_with fail
    with_reducible refine (bits_f AJ J P cJ w5 (HR.out.below hb5) HJ5.out HJB.out HP.out.symm HJN.out hcJ (by omega)).mono ?_
    rw [← HN.out]
    rintro e w6 ⟨rfl, hbn⟩
    have hb6 := hb5.trans (hbn.mono hb5.size)
    have HE6 := Lib.hid (HE5.out.up hbn)
    have HJ6 := Lib.hid (HJ5.out.up hbn)
    clear hb5 hbn HE5 HJ5
    go_wp2_with fail
    with_reducible refine (bits_f A l n c w6 (HR.out.below hb6) (HA.out _ hb6) HB.out HL.out HC.out hnc (by omega)).mono ?_
    rw [← HN1.out]
    rintro e w7 ⟨rfl, hbn⟩
    have hb7 := hb6.trans (hbn.mono hb6.size)
    have HE7 := Lib.hid (HE6.out.up hbn)
    have HJ7 := Lib.hid (HJ6.out.up hbn)
    clear hb6 hbn HE6 HJ6
    go_wp2_with fail
    with_reducible refine (bits_f A' s n' c' w7 (HR.out.below hb7) (HA'.out _ hb7) HB'.out HL'.out HC'.out hnc' (by omega)).mono ?_
    rw [← HN2.out]
    rintro e w8 ⟨rfl, hbn⟩
    have hb8 := hb7.trans (hbn.mono hb7.size)
    have HE8 := Lib.hid (HE7.out.up hbn)
    have HJ8 := Lib.hid (HJ7.out.up hbn)
    clear hb7 hbn HE7 HJ7
    go_wp2_with fail
    with_reducible refine (dec_f Ac E M cc room w8 (HR.out.below hb8) HE8.out HEB.out HM.out.symm HNC.out hcc (by omega)).mono ?_
    by_cases hroom : (P : Int) ≤ room
    · rw [HD1.out hroom]
      rintro e w9 ⟨A9, c9, rfl, hat9, _, hbn⟩
      rw [← HP.out]
      have hb9 := hb8.trans (hbn.mono hb8.size)
      have HJ9 := Lib.hid (HJ8.out.up hbn)
      have H9 := Lib.hid hat9
      clear hb8 hbn HE8 HJ8 hat9
      go_wp2_with fail
      with_reducible refine (first_any w9 (HR.out.below hb9)).mono ?_
      rintro e w10 ⟨rfl, hbn⟩
      have hb10 := hb9.trans (hbn.mono hb9.size)
      have HJ10 := Lib.hid (HJ9.out.up hbn)
      have H10 := Lib.hid (H9.out.up hbn)
      clear hb9 hbn HJ9 H9
      go_wp2_with fail
      with_reducible refine (bytes_any A9 AJ J J P P c9 cJ w10 _ _ H10.out HJ10.out HJB.out HJB.out HP.out.symm HP.out.symm).mono ?_
      rw [decide_eq_true (rfl : J = J)]
      rintro e w' ⟨rfl, rfl⟩
      go_wp2_with fail
      go_ret
      exact ⟨rfl, hb10⟩
    · have hroom' : room < (P : Int) := by omega
      rw [HD2.out hroom']
      rintro e w9 ⟨A9, c9, rfl, _, _, hbn⟩
      have hb9 := hb8.trans (hbn.mono hb8.size)
      clear hb8 hbn HE8 HJ8
      go_wp2_with fail
      with_reducible refine (first_any w9 (HR.out.below hb9)).mono ?_
      rintro e w10 ⟨rfl, hbn⟩
      have hb10 := hb9.trans (hbn.mono hb9.size)
      clear hb9 hbn
      go_wp2_with fail
      go_ret
      exact ⟨rfl, hb10⟩
  all_goals (have := HL.out; have := HL'.out; first | (simp; omega) | (have := hr2.2.size; simp; omega) | simp)
theorem walk (A A' : Option Addr) (l s : List Nat) (c c' : Nat) (room : Int) (w : World) (hR : Rdy w) (hA : At .u8 w w.heap.size A l) (hA' : At .u8 w w.heap.size A' s) (hb : ∀ x ∈ l, x < 256) (hb' : ∀ x ∈ s, x < 256) (hc : A = none → c = 0) (hc' : A' = none → c' = 0) (hnc : l.length ≤ c) (hnc' : s.length ≤ c') :
    Calls Tryd.prog 5 #[.slice A l.length c, .slice A' s.length c', .int .i64 room] w (Yes w) := by
  by_cases hl : 500 < l.length ∨ 500 < s.length ∨ room < 0
  · exact walk_long A A' _ _ c c' room w hR hl
  · exact walk_short A A' l s _ _ c c' room w hR hA hA' hb hb' rfl rfl hc hc' hnc hnc' (by omega) (by omega) (by omega)
end huffJoins
end Go.Proofs.YtpoffmnaoohkpaaDoor
