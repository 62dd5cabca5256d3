/- Contract of the reference's Put. -/
import Derived.Test.YtpnnojbdpnjokaaPMath
import Derived.Test.YtpnnojbdpnjokaaLHelp
import Derived.Laws.Bits128
namespace Go.Proofs.Ytpnnojbdpnjokaa
open Go.RowKit Pn

theorem i64_ofNat (a : Nat) (ha : a < 9223372036854775808) : IntKind.i64.wrap (a : Int) = (a : Int) := by rw [IntKind.wrap_i64]; omega
theorem i64_and_nat (a b : Nat) (ha : a < 9223372036854775808) (hb : b < 9223372036854775808) : bits .and .i64 (a : Int) (b : Int) = ((a &&& b : Nat) : Int) := by
  have hx : a &&& b < 2 ^ 63 := Nat.and_lt_two_pow _ (by omega)
  show IntKind.i64.wrap ((BitVec.ofInt 64 (a : Int) &&& BitVec.ofInt 64 (b : Int)).toNat : Int) = _
  rw [BitVec.toNat_and, ofInt_u64 a (by omega), ofInt_u64 b (by omega)]
  exact i64_ofNat _ (by omega)
theorem i64_or_nat (a b : Nat) (ha : a < 9223372036854775808) (hb : b < 9223372036854775808) : bits .or .i64 (a : Int) (b : Int) = ((a ||| b : Nat) : Int) := by
  have hx : a ||| b < 2 ^ 63 := Nat.or_lt_two_pow (by omega) (by omega)
  show IntKind.i64.wrap ((BitVec.ofInt 64 (a : Int) ||| BitVec.ofInt 64 (b : Int)).toNat : Int) = _
  rw [BitVec.toNat_or, ofInt_u64 a (by omega), ofInt_u64 b (by omega)]
  exact i64_ofNat _ (by omega)
theorem u64_small (B : Nat) (h : B ≤ 1000) : IntKind.u64.wrap (B : Int) = (B : Int) := by
  have e : ∀ z : Int, IntKind.u64.wrap z = z % 18446744073709551616 := fun z => by simp [IntKind.wrap, IntKind.bits, IntKind.signed]
  rw [e]
  omega
theorem own_one (w : World) (B x : Nat) (hB : B ≤ w.heap.size) : (w.alloc (.cells #[.int .u8 (x : Int)] 5)).ownsRow B 5 1 (.slice (some ⟨w.heap.size, 0, none⟩) 1 1) 1 (cn .u8 [x]) :=
  ⟨rfl, .inr ⟨w.heap.size, 1, #[.int .u8 (x : Int)], rfl, hB, heap_alloc_new w _, Nat.le_refl _, (by unfold maxLen; omega), rfl, rfl⟩⟩
/-- What Put hands back: bytes in new memory, and what went wrong. -/
def PutPost (w : World) (s : List Nat × Nat) (e : Ending) (w' : World) : Prop := ∃ A c, e = .returned (.tuple #[.slice A s.1.length c, .int .i64 ((s.2 : Nat) : Int)]) ∧ At .u8 w' w'.heap.size A s.1 ∧ (A = none → c = 0) ∧ s.1.length ≤ c ∧ Below w.heap.size w w'
def PtR (w : World) (l : List Nat) (n v : Value) (wr : World) : Prop := ∃ (m : Nat) (o : List Nat), m ≤ 2147483647 ∧ o.length ≤ 6 ∧ n = .int .i64 (m : Int) ∧ o ++ grp m = l ∧ Row w.heap.size w o v wr
set_option maxRecDepth 100000 in
set_option maxHeartbeats 4000000 in
theorem rput_out (h : Nat) (b n : Int) (w : World) (hout : ¬ (1 ≤ b ∧ b ≤ 8 ∧ 0 ≤ n ∧ n ≤ 2147483647)) : Calls Try.prog 9 #[.int .u8 h, .int .i64 b, .int .i64 n] w (PutPost w (putI h b n)) := by
  have HP : Hid (putI h b n = ([], 1)) := Lib.hid (putI_out hout)
  by_cases h1 : b < 1
  · clear hout
    go_enter Try.func9, Try.ntmps9
    go_wp2
    go_ret2
    rw [HP.out]
    exact ⟨none, 0, rfl, at_nil _ _ _ _, fun _ => rfl, by simp, Below.refl _ _⟩
  by_cases h2 : 8 < b
  · clear hout
    go_enter Try.func9, Try.ntmps9
    go_wp2
    go_ret2
    rw [HP.out]
    exact ⟨none, 0, rfl, at_nil _ _ _ _, fun _ => rfl, by simp, Below.refl _ _⟩
  by_cases h3 : n < 0
  · clear hout
    go_enter Try.func9, Try.ntmps9
    go_wp2
    go_ret2
    rw [HP.out]
    exact ⟨none, 0, rfl, at_nil _ _ _ _, fun _ => rfl, by simp, Below.refl _ _⟩
  have h4 : 2147483647 < n := by omega
  clear hout
  go_enter Try.func9, Try.ntmps9
  go_wp2
  go_ret2
  rw [HP.out]
  exact ⟨none, 0, rfl, at_nil _ _ _ _, fun _ => rfl, by simp, Below.refl _ _⟩
set_option maxRecDepth 100000 in
set_option maxHeartbeats 4000000 in
theorem rput_in (h B m : Nat) (w : World) (hh : h < 256) (hB1 : 1 ≤ B) (hB8 : B ≤ 8) (hm : m ≤ 2147483647) : Calls Try.prog 9 #[.int .u8 h, .int .i64 (B : Int), .int .i64 (m : Int)] w (PutPost w (put h B m, 0)) := by
  obtain ⟨p, hp⟩ : ∃ p, p = 2 ^ B := ⟨_, rfl⟩
  have hp1 : 2 ≤ p := by rw [hp]; exact Nat.pow_le_pow_right (n := 2) (by decide) hB1
  have hp2 : p ≤ 256 := by rw [hp]; exact full_bound hB8
  have ep : ((2 : Int) ^ B) = (p : Int) := by rw [hp]; simp
  obtain ⟨F, hF⟩ : ∃ F, F = full B := ⟨_, rfl⟩
  have HF2 : Hid (F = p - 1) := Lib.hid (by rw [hF, hp, full])
  have eF : (p : Int) - 1 = (F : Int) := by have := HF2.out; omega
  have hFp : F < p := by omega
  have su := u64_small B (by omega)
  obtain ⟨D, hD⟩ : ∃ D, D = hd h B := ⟨_, rfl⟩
  have hDl : D + F < 256 := by rw [hD, hF]; exact hd_byte h B _ hh hB8 (full_lt B)
  have eD : bits BinOp.andNot IntKind.u8 (h : Int) (F : Int) = (D : Int) := by
    rw [u8_andNot_nat h F hh (by omega), hF, hD, full, hd]
    exact congrArg _ (clear_low ⟨B, by omega⟩ ⟨h, hh⟩)
  have HDM : Hid (∀ r, r < p → bits BinOp.or IntKind.u8 (D : Int) (r : Int) = ((D + r : Nat) : Int)) := Lib.hid (fun r hr => by
    rw [u8_or_nat D r (by omega) (by omega), nat_join B D r (by rw [hD, hd, Nat.mul_mod_left]) (by omega)])
  have HPUT : Hid (put h B m = if m < F then [D + m] else (D + F) :: grp (m - F)) := Lib.hid (by rw [hF, hD]; rfl)
  have fw : IntKind.u8.wrap (F : Int) = (F : Int) := by rw [IntKind.wrap_u8']; omega
  clear hp hF hD
  by_cases hlt : m < F
  · have mw : IntKind.u8.wrap (m : Int) = (m : Int) := by rw [IntKind.wrap_u8']; omega
    have eo := HDM.out m (by omega)
    go_enter Try.func9, Try.ntmps9
    go_wp2
    go_ret2
    rw [HPUT.out, if_pos hlt]
    exact ⟨_, _, rfl, At.new w [D + m] 5 (0, 0), (fun h => by cases h), by simp, (Below.refl _ _).alloc (Nat.le_refl _) _⟩
  · have eo := HDM.out F (by omega)
    obtain ⟨M, hM⟩ : ∃ M, M = m - F := ⟨_, rfl⟩
    have eM : (m : Int) - (F : Int) = (M : Int) := by omega
    have HM := Lib.hid hM
    have hM2 : M ≤ 2147483647 := by omega
    clear hM
    go_enter Try.func9, Try.ntmps9
    go_wp2
    go_loopw [2, 10] (fun n v wr => PtR w ((D + F) :: grp M) n v wr) (fun n _ _ => (intOf n).toNat)
    case atStart => exact ⟨M, [D + F], by omega, by simp, rfl, rfl, own_one w w.heap.size (D + F) (Nat.le_refl _), (Below.refl _ _).alloc (Nat.le_refl _) _⟩
    case round =>
      obtain ⟨t, o, ht, ho, rfl, hog, hrow⟩ := hrel
      have hol : o.length + nd t + 1 ≤ 6 := by
        have := congrArg List.length hog
        rw [List.length_append, List.length_cons, grp_len, grp_len] at this
        have := grp_nd (m := M) (by omega)
        omega
      have HOG := Lib.hid hog
      clear hog
      by_cases h128 : t < 128
      · have tw : IntKind.u8.wrap (t : Int) = (t : Int) := by rw [IntKind.wrap_u8']; omega
        have d128 : decide ((128 : Int) ≤ (t : Int)) = false := decide_eq_false (by omega)
        obtain ⟨K, hK⟩ : ∃ K, (o ++ [t]).length = K := ⟨_, rfl⟩
        have HK := Lib.hid hK
        clear hK
        go_wp2_with (at_builtin; refine wpList_append_at rfl (.tmp 60) (.tmp 63) rfl w.heap.size _ o rfl (hrow.1.alloc _) (some ⟨wr.heap.size, 0, none⟩) [t] _ 1 rfl rfl (fun h => by cases h) _ (At.new wr [t] 5 (0, 0)) ?_ ?_ ?_; (rotate_right; intro v9 w9 hown9 hg9; rw [HK.out] at hown9; obtain ⟨A9, c9, rfl⟩ := own_shape hown9))
        · have hb9 := (hrow.2.alloc hrow.2.size _).grown hg9 (by have := hrow.2.size; simp; omega) (own_block hrow.1)
          clear hg9 hrow
          go_wp2
          go_ret2
          have e : put h B m = o ++ [t] := by rw [HPUT.out, if_neg hlt, ← HM.out, ← HOG.out, grp_low h128]
          rw [e]
          exact ⟨A9, c9, by rw [HK.out]; rfl, At.of_own hown9, own_none hown9, by rw [HK.out]; exact own_cap hown9, hb9⟩
        all_goals first | (simp; omega) | (have := hrow.2.size; simp; omega) | simp
      · obtain ⟨r, hr⟩ : ∃ r, r = t % 128 := ⟨_, rfl⟩
        obtain ⟨q, hq⟩ : ∃ q, q = t / 128 := ⟨_, rfl⟩
        obtain ⟨r2, hr2⟩ : ∃ r2, r2 = r + 128 := ⟨_, rfl⟩
        have er : bits BinOp.and IntKind.i64 (t : Int) 127 = (r : Int) := by rw [i64_and127]; omega
        have er2 : bits BinOp.or IntKind.i64 (r : Int) 128 = (r2 : Int) := by
          have := i64_or_nat r 128 (by omega) (by omega)
          rw [Nat.or_comm, nat_join 7 128 r (by omega) (by omega)] at this
          rw [hr2, Nat.add_comm]
          exact this
        have rw2 : IntKind.u8.wrap (r2 : Int) = (r2 : Int) := by rw [IntKind.wrap_u8']; omega
        have eq : (t : Int) / 128 = (q : Int) := by omega
        have d128 : decide ((128 : Int) ≤ (t : Int)) = true := decide_eq_true (by omega)
        have HQ : Hid (o ++ [r2] ++ grp q = (D + F) :: grp M) := Lib.hid (by rw [← HOG.out, grp_high h128, List.append_assoc, List.singleton_append, hr2, hr, hq])
        have hqt : q < t ∧ q ≤ 2147483647 := by omega
        have ho5 : o.length ≤ 5 := by omega
        clear hr hq hr2
        go_wp2_with (at_builtin; refine wpList_append_at rfl (.tmp 51) (.tmp 56) rfl w.heap.size _ o rfl (hrow.1.alloc _) (some ⟨wr.heap.size, 0, none⟩) [r2] _ 1 rfl rfl (fun h => by cases h) _ (At.new wr [r2] 5 (0, 0)) ?_ ?_ ?_; (rotate_right; intro v9 w9 hown9 hg9))
        · have hb9 := (hrow.2.alloc hrow.2.size _).grown hg9 (by have := hrow.2.size; simp; omega) (own_block hrow.1)
          clear hg9 hrow
          go_wp2
          go_roundw
          case rel => exact ⟨q, o ++ [r2], hqt.2, by simp; omega, by go_num, HQ.out, hown9, hb9⟩
          case measure => simp [intOf]; omega
        all_goals first | (simp; omega) | (have := hrow.2.size; simp; omega) | simp
/-- The reference's Put, at all arguments. -/
theorem rput_any (h : Nat) (b n : Int) (w : World) (hh : h < 256) : Calls Try.prog 9 #[.int .u8 h, .int .i64 b, .int .i64 n] w (PutPost w (putI h b n)) := by
  by_cases hin : 1 ≤ b ∧ b ≤ 8 ∧ 0 ≤ n ∧ n ≤ 2147483647
  · obtain ⟨B, rfl⟩ : ∃ v : Nat, b = (v : Int) := ⟨b.toNat, by omega⟩
    obtain ⟨m, rfl⟩ : ∃ v : Nat, n = (v : Int) := ⟨n.toNat, by omega⟩
    rw [putI_in (by omega) (by omega)]
    exact rput_in h B m w hh (by omega) (by omega) (by omega)
  · exact rput_out h b n w hin
end Go.Proofs.Ytpnnojbdpnjokaa
