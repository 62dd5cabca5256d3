/- The walk of HuffEnds. -/
import Derived.Test.YtpoffmnaoohkpaaDoorHBack
namespace Go.Proofs.YtpoffmnaoohkpaaDoor
open Go.RowKit Hf
theorem dec_none (most : Int) : dec [] most = ([], 0) := rfl
namespace huffEnds
def EnR (w : World) (Ac : Option Addr) (E : List Nat) (i : Value) (wr : World) : Prop := ∃ k : Nat, k ≤ 7 ∧ i = .int .i64 (k : Int) ∧ Below w.heap.size w wr ∧ At .u8 wr wr.heap.size Ac E
theorem walk_long (A : Option Addr) (n c : Nat) (w : World) (hR : Rdy w) (hl : 500 < n) : Calls Tryd.prog 6 #[.slice A n c] w (Yes w) := by
  have HR := Lib.hid hR
  clear hR
  have q1 : decide ((500 : Int) < (n : Int)) = true := by simp; omega
  go_enter Tryd.func6, Tryd.ntmps6
  go_wp2_with fail
  with_reducible refine (first_any w HR.out).mono ?_
  rintro e w1 ⟨rfl, hb1⟩
  go_wp2_with fail
  with_reducible refine (first_any w1 (HR.out.below hb1)).mono ?_
  rintro e w2 ⟨rfl, hb2⟩
  go_wp2_with fail
  go_ret
  exact ⟨rfl, hb1.trans (hb2.mono hb1.size)⟩
set_option maxRecDepth 100000 in
set_option maxHeartbeats 4000000 in
theorem walk_short (A : Option Addr) (l : List Nat) (n c : Nat) (w : World) (hR : Rdy w) (hA : At .u8 w w.heap.size A l) (hb : ∀ x ∈ l, x < 256) (hl : l.length = n) (hc : A = none → c = 0) (hnc : n ≤ c) (hn : n ≤ 500) :
    Calls Tryd.prog 6 #[.slice A n c] w (Yes w) := by
  have HR := Lib.hid hR
  have HA := Lib.hid fun (w' : World) (hb : Below w.heap.size w w') => hA.up hb
  have HB := Lib.hid hb
  have HL := Lib.hid hl
  have HC := Lib.hid hc
  have q1 : decide ((500 : Int) < (n : Int)) = false := by simp; omega
  obtain ⟨E, hE⟩ : ∃ E, E = enc l := ⟨_, rfl⟩
  obtain ⟨N, hN⟩ : ∃ N, N = nBits l := ⟨_, rfl⟩
  have hN30 : N ≤ 30 * n := by rw [hN, ← hl]; exact nBits_le l
  have HEB : Hid (∀ x ∈ E, x < 256) := Lib.hid (by rw [hE]; exact enc_byte l)
  have hEL : E.length = (N + 7) / 8 := by rw [hE, enc_len, ← hN]
  obtain ⟨M, hM⟩ : ∃ M, M = E.length := ⟨_, rfl⟩
  obtain ⟨pd, hpd⟩ : ∃ p, p = 8 * M - N := ⟨_, rfl⟩
  have epd : 8 * (M : Int) - (N : Int) = (pd : Int) := by omega
  have hpd7 : pd ≤ 7 := by omega
  have p1 : decide ((pd : Int) < 0) = false := decide_eq_false (by omega)
  have p2 : decide ((7 : Int) < (pd : Int)) = false := decide_eq_false (by omega)
  have HPM : Hid (0 < pd → 0 < M) := Lib.hid (by omega)
  have hM2 : M ≤ 4000 := by omega
  have HF : Hid (dec (E ++ [255, 255, 255, 255]) ((n : Int) + 9) = ([], 2)) := Lib.hid (by rw [hE]; exact dec_fours l _ hb (by omega))
  have HEX : Hid (∀ z ∈ E ++ [255, 255, 255, 255], z < 256) := Lib.hid (fun z hz => by
    rw [List.mem_append] at hz
    rcases hz with h | h
    · exact HEB.out z h
    · simp at h; omega)
  have He4 : Hid ((E ++ [255, 255, 255, 255]).length = M + 4) := Lib.hid (by simp; omega)
  have HE := Lib.hid hE
  have HN := Lib.hid hN
  have HM := Lib.hid hM
  clear hR hA hb hl hc hE hN hM hEL hpd
  go_enter Tryd.func6, Tryd.ntmps6
  go_wp2_with fail
  with_reducible refine (first_any w HR.out).mono ?_
  rintro e w1 ⟨rfl, hb1⟩
  go_wp2_with fail
  with_reducible refine (enc_f A l n c w1 (HR.out.below hb1) (HA.out _ hb1) HB.out HL.out HC.out hnc (by omega)).mono ?_
  rw [← HE.out]
  rintro e w2 ⟨v2, rfl, hr2⟩
  obtain ⟨Ac, cc, rfl, hatc, hnc2, hcc⟩ := hr2.at
  rw [← HM.out] at hcc ⊢
  have HNC := Lib.hid hnc2
  have HE2 := Lib.hid hatc
  have hb2 := hb1.trans (hr2.2.mono hb1.size)
  clear hb1 hr2 hatc hnc2
  go_wp2_with fail
  with_reducible refine (dec_f none [] 0 0 0 w2 (HR.out.below hb2) (at_nil _ _ _ _) (fun x hx => by simp at hx) rfl (fun _ => rfl) (Nat.le_refl _) (by omega)).mono ?_
  rw [dec_none]
  rintro e w3 ⟨A3, c3, rfl, _, _, hbn⟩
  have hb3 := hb2.trans (hbn.mono hb2.size)
  have HE3 := Lib.hid (HE2.out.up hbn)
  clear hb2 hbn HE2
  go_wp2_with fail
  with_reducible refine (bits_f A l n c w3 (HR.out.below hb3) (HA.out _ hb3) HB.out HL.out HC.out hnc (by omega)).mono ?_
  rw [← HN.out]
  rintro e w4 ⟨rfl, hbn⟩
  have hb4 := hb3.trans (hbn.mono hb3.size)
  have HE4 := HE3.out.up hbn
  clear hb3 hbn HE3
  go_wp2
  go_loopw [7] (fun i wr => EnR w Ac E i wr) (fun i _ => pd - (intOf i).toNat)
  case atStart => exact ⟨0, by omega, rfl, hb4, HE4⟩
  case round =>
    clear hb4 HE4
    obtain ⟨k, hk, rfl, hbr, hEr⟩ := hrel
    by_cases hlt : k < pd
    · have hMp : 0 < M := HPM.out (by omega)
      have ki : (k : Int) < (pd : Int) := by omega
      have HER := Lib.hid hEr
      clear hEr
      go_wp2_with fail
      with_reducible refine (copy_any Ac E M cc wr HER.out HM.out.symm HNC.out (by omega)).mono ?_
      rintro e w5 ⟨v5, rfl, hown5, hb5⟩
      rw [← HM.out] at hown5
      obtain ⟨g, cg, rfl, hg, hown5⟩ := own_form hown5 hMp
      obtain ⟨Z, hZ⟩ : ∃ Z, Z = M - 1 := ⟨_, rfl⟩
      have hZM : Z < M := by omega
      have eZ : (M : Int) - 1 = (Z : Int) := by omega
      have iZ : (Z : Int) < (M : Int) := by omega
      have hZE : Z < E.length := by rw [← HM.out]; exact hZM
      obtain ⟨y, hy⟩ : ∃ y, y = E[Z] := ⟨_, rfl⟩
      have hy256 : y < 256 := by rw [hy]; exact HEB.out _ (List.getElem_mem _)
      have cy : w5.cell? ⟨g, Z, none⟩ = some (.int .u8 (y : Int)) := by rw [hy]; exact own_at hown5 hZE
      have fy : w5.frozen? ⟨g, Z, none⟩ = false := own_free hown5
      obtain ⟨p, hp⟩ : ∃ p, p = 2 ^ k := ⟨_, rfl⟩
      have hp256 : p < 256 := by rw [hp]; exact Nat.lt_of_le_of_lt (Nat.pow_le_pow_right (by decide) (show k ≤ 7 by omega)) (by decide)
      have ep : ((2 : Int) ^ k) = (p : Int) := by rw [hp]; simp
      obtain ⟨y2, hy2⟩ : ∃ y2, y2 = y ^^^ p := ⟨_, rfl⟩
      have hy2b : y2 < 256 := by rw [hy2]; exact Nat.xor_lt_two_pow (n := 8) hy256 hp256
      have ex : bits BinOp.xor IntKind.u8 (y : Int) (p : Int) = (y2 : Int) := by rw [hy2]; exact u8_xor_nat y p hy256 hp256
      have su : IntKind.u64.wrap (k : Int) = (k : Int) := by
        have e : ∀ z : Int, IntKind.u64.wrap z = z % 18446744073709551616 := fun z => by simp [IntKind.wrap, IntKind.bits, IntKind.signed]
        rw [e]
        omega
      have hst := (hown5.stored Z (.int .u8 (y2 : Int))).1
      rw [cn_set] at hst
      obtain ⟨F, hF⟩ : ∃ F, F = E.set Z y2 := ⟨_, rfl⟩
      rw [← hF] at hst
      have HFB : Hid (∀ x ∈ F, x < 256) := Lib.hid (fun x hx => by
        rw [hF] at hx
        rcases List.mem_or_eq_of_mem_set hx with h | h
        · exact HEB.out x h
        · omega)
      have HFL : Hid (F.length = M) := Lib.hid (by rw [hF, List.length_set, ← HM.out])
      have hbs : Below wr.heap.size wr (w5.setCell ⟨g, Z, none⟩ (.int .u8 (y2 : Int))) := hb5.setCell hg _
      have H6 := Lib.hid (At.of_own hst)
      have HE6 := Lib.hid (HER.out.up hbs)
      have hb6 : Below w.heap.size w (w5.setCell ⟨g, Z, none⟩ (.int .u8 (y2 : Int))) := hbr.trans (hbs.mono hbr.size)
      have hcg := own_cap hown5
      clear hy hp hy2 hst hF hown5 hb5 hbs hZ HER hbr hZE
      go_wp2_with fail
      generalize w5.setCell ⟨g, Z, none⟩ (.int .u8 (y2 : Int)) = w6 at H6 HE6 hb6 ⊢
      clear cy fy
      with_reducible refine (rdec_any (some ⟨g, 0, none⟩) F M cg ((n : Int) + 1) w6 H6.out HFB.out HFL.out (by omega)).mono ?_
      rintro e w7 ⟨A7, c7, rfl, _, _, hbn⟩
      have hb7 := hb6.trans (hbn.mono hb6.size)
      have H7 := Lib.hid (H6.out.up hbn)
      have HE7 := Lib.hid (HE6.out.up hbn)
      clear hb6 hbn H6 HE6
      go_wp2_with fail
      with_reducible refine (dec_f (some ⟨g, 0, none⟩) F M cg ((n : Int) + 1) w7 (HR.out.below hb7) H7.out HFB.out HFL.out (fun h => by cases h) hcg (by omega)).mono ?_
      rintro e w8 ⟨A8, c8, rfl, _, _, hbn⟩
      have hb8 := hb7.trans (hbn.mono hb7.size)
      have HE8 := HE7.out.up hbn
      generalize (dec F ((n : Int) + 1)).2 = d2
      generalize (dec F ((n : Int) + 1)).1.length = d1
      have qd : ((d2 : Int) != (d2 : Int)) = false := by simp
      clear hb7 hbn H7 HE7
      go_wp2
      go_roundw
      case rel => exact ⟨k + 1, by omega, by go_num, hb8, HE8⟩
      case measure => simp [intOf]; omega
    · have ki : ¬ (k : Int) < (pd : Int) := by omega
      have kd : decide ((k : Int) < (pd : Int)) = false := decide_eq_false (by omega)
      have HER := Lib.hid hEr
      clear hEr
      go_wp2_with fail
      with_reducible refine (copy_any Ac E M cc wr HER.out HM.out.symm HNC.out (by omega)).mono ?_
      rintro e w5 ⟨v5, rfl, hr5⟩
      go_wp2_with (at_builtin; refine wpList_append_at rfl (.tmp 85) (.tmp 86) rfl wr.heap.size _ E rfl (hr5.1.alloc _) (some ⟨w5.heap.size, 0, none⟩) [255, 255, 255, 255] _ 4 rfl rfl (fun h => by cases h) _ (At.new w5 [255, 255, 255, 255] 5 (0, 0)) ?_ ?_ ?_; (rotate_right; intro v6 w6 hown6 hg6; rw [He4.out] at hown6; obtain ⟨A6, c6, rfl⟩ := own_shape hown6))
      · have hb56 : Below wr.heap.size wr w6 := (hr5.2.alloc hr5.2.size _).grown hg6 (by have := hr5.2.size; simp; omega) (own_block hr5.1)
        have hb6 := hbr.trans (hb56.mono hbr.size)
        have H6 := Lib.hid (At.of_own hown6)
        have HN6 := Lib.hid (own_none hown6)
        have hc6 := own_cap hown6
        clear hb56 hg6 hown6 hr5 hbr HER
        go_wp2_with fail
        with_reducible refine (dec_f A6 (E ++ [255, 255, 255, 255]) (M + 4) c6 ((n : Int) + 9) w6 (HR.out.below hb6) H6.out HEX.out He4.out HN6.out hc6 (by omega)).mono ?_
        rw [HF.out]
        rintro e w7 ⟨A7, c7, rfl, _, _, hbn⟩
        have hb7 := hb6.trans (hbn.mono hb6.size)
        clear hb6 hbn H6
        go_wp2_with fail
        with_reducible refine (first_any w7 (HR.out.below hb7)).mono ?_
        rintro e w8 ⟨rfl, hbn⟩
        have hb8 := hb7.trans (hbn.mono hb7.size)
        clear hb7 hbn
        go_wp2_with fail
        go_ret
        exact ⟨rfl, hb8⟩
      all_goals (have := HM.out; first | (simp; omega) | (have := hr5.2.size; simp; omega) | simp)
theorem walk (A : Option Addr) (l : List Nat) (c : Nat) (w : World) (hR : Rdy w) (hA : At .u8 w w.heap.size A l) (hb : ∀ x ∈ l, x < 256) (hc : A = none → c = 0) (hnc : l.length ≤ c) :
    Calls Tryd.prog 6 #[.slice A l.length c] w (Yes w) := by
  by_cases hl : 500 < l.length
  · exact walk_long A _ c w hR hl
  · exact walk_short A l _ c w hR hA hb rfl hc hnc (by omega)
end huffEnds
end Go.Proofs.YtpoffmnaoohkpaaDoor
