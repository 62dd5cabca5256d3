/- Contract of the landed Put. -/
import Derived.Test.YtpnnojbdpnjokaaPLand
namespace Go.Proofs.Ytpnnojbdpnjokaa
open Go.RowKit Pn

/-- What holds at Put's label: the bytes laid and those to come are l. -/
def PJ (h B F D : Nat) (w : World) (l : List Nat) (a : Act) (wr : World) : Prop :=
  ∃ (t : Nat) (v u11 u12 u13 u14 u15 u16 u17 u18 u19 u20 u21 u22 u23 u24 u25 u26 u27 u28 u29 u30 u31 u32 u33 u34 u35 u36 u37 u38 u39 u40 u41 u42 u43 u44 u45 u46 u47 u48 u49 u50 u51 u52 u53 u54 u55 u56 u57 u58 u59 : Value) (o : List Nat), a = { tmps := #[.int .u8 (h : Int), .int .i64 (B : Int), .int .i64 (t : Int), undef, undef, undef, .slice none 0 0, .int .i64 0, .int .i64 (F : Int), .int .u8 (D : Int), v, u11, u12, u13, u14, u15, u16, u17, u18, u19, u20, u21, u22, u23, u24, u25, u26, u27, u28, u29, u30, u31, u32, u33, u34, u35, u36, u37, u38, u39, u40, u41, u42, u43, u44, u45, u46, u47, u48, u49, u50, u51, u52, u53, u54, u55, u56, u57, u58, u59], defers := [] } ∧ t ≤ 2147483647 ∧ o.length ≤ 6 ∧ o ++ grp t = l ∧ Row w.heap.size w o v wr
set_option maxRecDepth 100000 in
set_option maxHeartbeats 4000000 in
theorem put_out (h : Nat) (b n : Int) (w : World) (hout : ¬ (1 ≤ b ∧ b ≤ 8 ∧ 0 ≤ n ∧ n ≤ 2147483647)) : Calls Try.prog 8 #[.int .u8 h, .int .i64 b, .int .i64 n] w (PutPost w (putI h b n)) := by
  have HP : Hid (putI h b n = ([], 1)) := Lib.hid (putI_out hout)
  have HIB := Lib.hid (inByte_any b w)
  by_cases hb : 1 ≤ b ∧ b ≤ 8
  · rw [decide_eq_true hb] at HIB
    by_cases h3 : n < 0
    · have d3 : decide (n < 0) = true := decide_eq_true h3
      clear hout hb
      go_enter Try.func8, Try.ntmps8
      go_wp2
      go_step3
      go_wp2_with fail
      with_reducible refine (HIB.out).mono ?_
      rintro e w1 ⟨rfl, rfl⟩
      go_wp2
      rw [Exit.noGoto_ret]
      go_ret2
      rw [HP.out]
      exact ⟨none, 0, rfl, at_nil _ _ _ _, fun _ => rfl, by simp, Below.refl _ _⟩
    · have d3 : decide (n < 0) = false := decide_eq_false h3
      have h4 : 2147483647 < n := by omega
      have d4 : decide (2147483647 < n) = true := decide_eq_true h4
      clear hout hb
      go_enter Try.func8, Try.ntmps8
      go_wp2
      go_step3
      go_wp2_with fail
      with_reducible refine (HIB.out).mono ?_
      rintro e w1 ⟨rfl, rfl⟩
      go_wp2
      rw [Exit.noGoto_ret]
      go_ret2
      rw [HP.out]
      exact ⟨none, 0, rfl, at_nil _ _ _ _, fun _ => rfl, by simp, Below.refl _ _⟩
  · rw [decide_eq_false hb] at HIB
    clear hout hb
    go_enter Try.func8, Try.ntmps8
    go_wp2
    go_step3
    go_wp2_with fail
    with_reducible refine (HIB.out).mono ?_
    rintro e w1 ⟨rfl, rfl⟩
    go_wp2
    rw [Exit.noGoto_ret]
    go_ret2
    rw [HP.out]
    exact ⟨none, 0, rfl, at_nil _ _ _ _, fun _ => rfl, by simp, Below.refl _ _⟩
set_option maxRecDepth 100000 in
set_option maxHeartbeats 4000000 in
theorem put_in (h B m : Nat) (w : World) (hh : h < 256) (hB1 : 1 ≤ B) (hB8 : B ≤ 8) (hm : m ≤ 2147483647) : Calls Try.prog 8 #[.int .u8 h, .int .i64 (B : Int), .int .i64 (m : Int)] w (PutPost w (put h B m, 0)) := by
  obtain ⟨F, hF⟩ : ∃ F, F = full B := ⟨_, rfl⟩
  have hF2 : F < 256 := by rw [hF]; have := full_bound hB8; have := full_lt B; omega
  obtain ⟨D, hD⟩ : ∃ D, D = hd h B := ⟨_, rfl⟩
  have hDl : D + F < 256 := by rw [hD, hF]; exact hd_byte h B _ hh hB8 (full_lt B)
  have eD : bits BinOp.andNot IntKind.u8 (h : Int) (F : Int) = (D : Int) := by
    rw [u8_andNot_nat h F hh (by omega), hF, hD, full, hd]
    exact congrArg _ (clear_low ⟨B, by omega⟩ ⟨h, hh⟩)
  have HDM : Hid (∀ r, r ≤ F → bits BinOp.or IntKind.u8 (D : Int) (r : Int) = ((D + r : Nat) : Int)) := Lib.hid (fun r hr => by
    have := full_lt B
    rw [u8_or_nat D r (by omega) (by omega), nat_join B D r (by rw [hD, hd, Nat.mul_mod_left]) (by omega)])
  have HPUT : Hid (put h B m = if m < F then [D + m] else (D + F) :: grp (m - F)) := Lib.hid (by rw [hF, hD]; rfl)
  have fw : IntKind.u8.wrap (F : Int) = (F : Int) := by rw [IntKind.wrap_u8']; omega
  have HIB := Lib.hid (inByte_any (B : Int) w)
  rw [decide_eq_true (show 1 ≤ (B : Int) ∧ (B : Int) ≤ 8 by omega)] at HIB
  have HON := Lib.hid (ones_any B w hB1 hB8)
  rw [← hF] at HON
  obtain ⟨D2, hD2⟩ : ∃ D2, D2 = D + F := ⟨_, rfl⟩
  have eDF : (D : Int) + (F : Int) = (D2 : Int) := by omega
  obtain ⟨l, hl⟩ : ∃ l, l = D2 :: grp (m - F) := ⟨_, rfl⟩
  have HL := Lib.hid hl
  have HLN : Hid (m < F ∨ put h B m = l) := Lib.hid (by
    rcases Nat.lt_or_ge m F with h1 | h1
    · exact Or.inl h1
    · exact Or.inr (by rw [HPUT.out, if_neg (by omega), hl, hD2]))
  clear hF hD hD2 hl
  go_enter Try.func8, Try.ntmps8
  go_wp2
  by_cases hlt : m < F
  · have mw : IntKind.u8.wrap (m : Int) = (m : Int) := by rw [IntKind.wrap_u8']; omega
    have eo := HDM.out m (by omega)
    go_step3
    go_wp2_with fail
    with_reducible refine (HIB.out).mono ?_
    rintro e w1 ⟨rfl, rfl⟩
    go_wp2_with fail
    with_reducible refine (HON.out).mono ?_
    rintro e w1 ⟨rfl, rfl⟩
    go_wp2
    rw [Exit.noGoto_ret]
    go_ret2
    rw [HPUT.out, if_pos hlt]
    exact ⟨_, _, rfl, At.new w [D + m] 5 (0, 0), (fun h => by cases h), by simp, (Below.refl _ _).alloc (Nat.le_refl _) _⟩
  refine wp_scope_one 0 (PJ h B F D w l) (fun a _ => (intOf (a.tmps.getD 2 undef)).toNat) rfl ?_ ?_
  · rintro a wr ⟨t, v, u11, u12, u13, u14, u15, u16, u17, u18, u19, u20, u21, u22, u23, u24, u25, u26, u27, u28, u29, u30, u31, u32, u33, u34, u35, u36, u37, u38, u39, u40, u41, u42, u43, u44, u45, u46, u47, u48, u49, u50, u51, u52, u53, u54, u55, u56, u57, u58, u59, o, rfl, ht, ho, hog, hrow⟩
    have hol : o.length + nd t + 1 ≤ 6 := by
      have := congrArg List.length hog
      rw [HL.out, List.length_append, List.length_cons, grp_len, grp_len] at this
      have := grp_nd (m := m - F) (by omega)
      omega
    have HOG := Lib.hid hog
    clear hog HIB HON
    by_cases h128 : t < 128
    · have tw : IntKind.u8.wrap (t : Int) = (t : Int) := by rw [IntKind.wrap_u8']; omega
      have d128 : decide ((127 : Int) < (t : Int)) = false := decide_eq_false (by omega)
      obtain ⟨K, hK⟩ : ∃ K, (o ++ [t]).length = K := ⟨_, rfl⟩
      have HK := Lib.hid hK
      clear hK
      go_wp2_with (at_builtin; refine wpList_append_at rfl (.tmp 55) (.tmp 58) rfl w.heap.size _ o rfl (hrow.1.alloc _) (some ⟨wr.heap.size, 0, none⟩) [t] _ 1 rfl rfl (fun h => by cases h) _ (At.new wr [t] 5 (0, 0)) ?_ ?_ ?_; (rotate_right; intro v9 w9 hown9 hg9; rw [HK.out] at hown9; obtain ⟨A9, c9, rfl⟩ := own_shape hown9))
      · have hb9 := (hrow.2.alloc hrow.2.size _).grown hg9 (by have := hrow.2.size; simp; omega) (own_block hrow.1)
        clear hg9 hrow
        go_wp2
        simp only [Exit.jump]
        go_ret2
        have e : put h B m = o ++ [t] := by rw [HLN.out.resolve_left hlt, ← HOG.out, grp_low h128]
        rw [e]
        exact ⟨A9, c9, by rw [HK.out]; rfl, At.of_own hown9, own_none hown9, by rw [HK.out]; exact own_cap hown9, hb9⟩
      all_goals first | (simp; omega) | (have := hrow.2.size; simp; omega) | simp
    · obtain ⟨r, hr⟩ : ∃ r, r = t % 128 := ⟨_, rfl⟩
      obtain ⟨q, hq⟩ : ∃ q, q = t / 128 := ⟨_, rfl⟩
      obtain ⟨r2, hr2⟩ : ∃ r2, r2 = r + 128 := ⟨_, rfl⟩
      have er : bits BinOp.and IntKind.i64 (t : Int) 127 = (r : Int) := by rw [i64_and127]; omega
      have er2 : bits BinOp.or IntKind.i64 (r : Int) 128 = (r2 : Int) := by
        have := i64_or_nat r 128 (by omega) (by omega)
        rw [Nat.or_comm, nat_join 7 128 r (by omega) (by omega)] at this
        rw [hr2, Nat.add_comm]
        exact this
      have rw2 : IntKind.u8.wrap (r2 : Int) = (r2 : Int) := by rw [IntKind.wrap_u8']; omega
      have eq : (t : Int) / 128 = (q : Int) := by omega
      have d128 : decide ((127 : Int) < (t : Int)) = true := decide_eq_true (by omega)
      have HQ : Hid (o ++ [r2] ++ grp q = l) := Lib.hid (by rw [← HOG.out, grp_high h128, List.append_assoc, List.singleton_append, hr2, hr, hq])
      have hqt : q < t ∧ q ≤ 2147483647 := by omega
      have ho5 : o.length ≤ 5 := by omega
      clear hr hq hr2
      go_wp2_with (at_builtin; refine wpList_append_at rfl (.tmp 46) (.tmp 51) rfl w.heap.size _ o rfl (hrow.1.alloc _) (some ⟨wr.heap.size, 0, none⟩) [r2] _ 1 rfl rfl (fun h => by cases h) _ (At.new wr [r2] 5 (0, 0)) ?_ ?_ ?_; (rotate_right; intro v9 w9 hown9 hg9))
      · have hb9 := (hrow.2.alloc hrow.2.size _).grown hg9 (by have := hrow.2.size; simp; omega) (own_block hrow.1)
        clear hg9 hrow
        go_wp2
        go_step3
        refine ⟨rfl, ⟨q, _, _, _, _, _, _, _, _, _, _, _, _, _, _, _, _, _, _, _, _, _, _, _, _, _, _, _, _, _, _, _, _, _, _, _, _, _, _, _, _, _, _, _, _, _, _, _, _, _, _, o ++ [r2], rfl, hqt.2, by simp; omega, HQ.out, hown9, hb9⟩, ?_⟩
        simp [intOf]
        omega
      all_goals first | (simp; omega) | (have := hrow.2.size; simp; omega) | simp
  · intro HPS
    have eo := HDM.out F (by omega)
    obtain ⟨M, hM⟩ : ∃ M, M = m - F := ⟨_, rfl⟩
    have eM : (m : Int) - (F : Int) = (M : Int) := by omega
    have HM := Lib.hid hM
    have hM2 : M ≤ 2147483647 := by omega
    clear hM
    go_wp2_with fail
    with_reducible refine (HIB.out).mono ?_
    rintro e w1 ⟨rfl, rfl⟩
    go_wp2_with fail
    with_reducible refine (HON.out).mono ?_
    rintro e w1 ⟨rfl, rfl⟩
    go_wp2
    go_step3
    rename_i hK
    refine hK _ _ (HPS.out _ _ ⟨M, _, _, _, _, _, _, _, _, _, _, _, _, _, _, _, _, _, _, _, _, _, _, _, _, _, _, _, _, _, _, _, _, _, _, _, _, _, _, _, _, _, _, _, _, _, _, _, _, _, _, [D2], rfl, hM2, by simp, by rw [HL.out, HM.out]; rfl, own_one w w.heap.size D2 (Nat.le_refl _), (Below.refl _ _).alloc (Nat.le_refl _) _⟩)
/-- Put, at all arguments. -/
theorem put_f (h : Nat) (b n : Int) (w : World) (_ : Rdy w) (hh : h < 256) (_ : Rng b) (_ : Rng n) : Calls Try.prog 8 #[.int .u8 h, .int .i64 b, .int .i64 n] w (PutPost w (putI h b n)) := by
  by_cases hin : 1 ≤ b ∧ b ≤ 8 ∧ 0 ≤ n ∧ n ≤ 2147483647
  · obtain ⟨B, rfl⟩ : ∃ v : Nat, b = (v : Int) := ⟨b.toNat, by omega⟩
    obtain ⟨m, rfl⟩ : ∃ v : Nat, n = (v : Int) := ⟨n.toNat, by omega⟩
    rw [putI_in (by omega) (by omega)]
    exact put_in h B m w hh (by omega) (by omega) (by omega)
  · exact put_out h b n w hin
end Go.Proofs.Ytpnnojbdpnjokaa
