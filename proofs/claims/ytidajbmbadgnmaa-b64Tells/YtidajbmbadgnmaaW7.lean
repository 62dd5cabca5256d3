/- Contract of the reference's Decode: the same bytes, or the same error. -/
import Derived.Test.YtidajbmbadgnmaaW6
namespace Go.Proofs.Ytidajbmbadgnmaa
open Go.RowKit Bm

theorem sgn_of_val {n : Nat} {x : UInt8} (hn : n < 64) (h : sgn n = x) : val x = n := by rw [← h, val_sgn n hn]
def vI (x : UInt8) : Int := if val x < 64 then (val x : Int) else -1
set_option maxHeartbeats 1000000 in
theorem value_any (x : UInt8) (w : World) : Calls Try.prog 18 #[.int .u8 (x.toNat : Int)] w fun e w' => e = .returned (.int .i64 (vI x)) ∧ w = w' := by
  have HV := Lib.hid (val_le x)
  go_enter Try.func18, Try.ntmps18
  go_wp2
  go_loop [3] (fun i => ∃ k : Nat, k ≤ 64 ∧ k ≤ val x ∧ i = .int .i64 k) (fun i => 64 - (intOf i).toNat)
  case atStart => exact ⟨0, by omega, by omega, rfl⟩
  case round =>
    obtain ⟨k, hk, hkv, rfl⟩ := hrel
    by_cases hlt : k < 64
    · have H1 := Lib.hid (sign_at (k : Int) k k rfl (by omega) (by omega) (sgn k) rfl)
      by_cases hs : sgn k = x
      · have hx := sgn_of_val hlt hs
        have ht : (((sgn k).toNat : Int) == (x.toNat : Int)) = true := by rw [hs]; simp
        have HX := Lib.hid hx
        clear hx hs
        go_wp2_with (go_at_call 19; with_reducible refine (H1.out _).mono ?_; rintro e w' ⟨rfl, rfl⟩)
        go_ret
        refine ⟨ret_int ?_, rfl⟩
        rw [vI, HX.out, if_pos hlt]
      · have ht : (((sgn k).toNat : Int) == (x.toNat : Int)) = false := by
          rw [beq_eq_false_iff_ne]
          intro e
          exact hs (UInt8.toNat_inj.1 (by omega))
        have hne : k ≠ val x := by
          intro e
          apply hs
          rw [e]
          exact sgn_val x (by omega)
        clear hs
        go_wp2_with (go_at_call 19; with_reducible refine (H1.out _).mono ?_; rintro e w' ⟨rfl, rfl⟩)
        go_round
        case rel => exact ⟨k + 1, by omega, by omega, by go_num⟩
        case measure => simp [intOf]; omega
    · go_wp2
      go_ret
      exact ⟨ret_int (by rw [vI, if_neg (by omega)]), rfl⟩
theorem value_yes (x : UInt8) (V : Nat) (w : World) (h : val x < 64) (hV : V = val x) : Calls Try.prog 18 #[.int .u8 (x.toNat : Int)] w fun e w' => e = .returned (.int .i64 (V : Int)) ∧ w = w' := by
  have := value_any x w
  rw [vI, if_pos h, ← hV] at this
  exact this
theorem value_no (x : UInt8) (w : World) (h : ¬ val x < 64) : Calls Try.prog 18 #[.int .u8 (x.toNat : Int)] w fun e w' => e = .returned (.int .i64 (-1)) ∧ w = w' := by
  have := value_any x w
  rw [vI, if_neg h] at this
  exact this

/-- At a round's head of the loop over the groups. -/
def GrpR (w : World) (s : ByteArray) (v i : Value) (wr : World) : Prop :=
  ∃ (k : Nat) (acc : List UInt8), k ≤ s.size ∧ k % 4 = 0 ∧ acc.length * 4 ≤ k * 3 ∧ i = .int .i64 k ∧ (rOut (s.data.toList.drop k)).map (acc ++ ·) = rOut s.data.toList ∧ wr.ownsRow w.heap.size 5 1 v acc.length (cel acc) ∧ Below w.heap.size w wr
/-- At a round's head of the loop over a group's signs. -/
def InR (G : List UInt8) (W n j : Value) : Prop := ∃ k : Nat, k ≤ 4 ∧ W = .int .i64 (gW G k) ∧ n = .int .i64 (gN G k) ∧ j = .int .i64 k

theorem four_at (s : ByteArray) (k : Nat) (hk : k + 4 ≤ s.size) : ∃ p q r t : UInt8, s.data.toList.drop k = p :: q :: r :: t :: s.data.toList.drop (k + 4) ∧ ∀ j (hj : j < 4), s[k + j]'(by omega) = [p, q, r, t].getD j 0 := by
  refine ⟨s[k], s[k + 1], s[k + 2], s[k + 3], ?_, ?_⟩
  · rw [drop_at s k (by omega), drop_at s (k + 1) (by omega), drop_at s (k + 1 + 1) (by omega), drop_at s (k + 1 + 1 + 1) (by omega)]
  · intro j hj
    rcases (show j = 0 ∨ j = 1 ∨ j = 2 ∨ j = 3 by omega) with rfl | rfl | rfl | rfl <;> rfl
theorem own_cap {w : World} {B : Nat} {A : Option Addr} {n c : Nat} {xs : List Value} (h : w.ownsRow B 5 1 (.slice A n c) n xs) : n ≤ c := by
  rcases h.2 with ⟨hv, hn⟩ | ⟨_, _, _, hv, _, _, hnc, _⟩
  · omega
  · injection hv with _ _ hv
    omega
theorem or6 (W V : Nat) (hW : W < 262144) (hV : V < 64) : bits BinOp.or IntKind.i64 ((W : Int) * 64) (V : Int) = ((W * 64 + V : Nat) : Int) := by
  have := i64_or (W * 64) V 6 (by omega) (by omega) (by omega) (by omega)
  rw [← this]
  simp

theorem fdec_len (s : ByteArray) (w : World) (hs : s.size ≤ 6000) (h4 : ¬ s.size % 4 = 0) : Calls Try.prog 9 #[.string s] w (DecNo w) := by
  have ht : (((s.size : Int) % 4) != 0) = true := by simp; omega
  go_enter Try.func9, Try.ntmps9
  go_wp2
  go_ret2
  exact ⟨rfl, Below.refl _ _⟩

set_option maxHeartbeats 2000000 in
theorem fdec_fit (s : ByteArray) (w : World) (hs : s.size ≤ 6000) (h4 : s.size % 4 = 0) : Calls Try.prog 9 #[.string s] w (DecPost w s) := by
  obtain ⟨i0, hi0, hz0, hz1, hz2⟩ := info_parts info5
  have ht : (((s.size : Int) % 4) != 0) = false := by simp; omega
  have H4 := Lib.hid h4
  clear h4
  go_enter Try.func9, Try.ntmps9
  go_wp2
  go_loopw [4, 5] (fun v i wr => GrpR w s v i wr) (fun _ i _ => s.size - (intOf i).toNat)
  case atStart => exact ⟨0, [], Nat.zero_le _, rfl, Nat.le_refl _, rfl, by simp, World.ownsRow_nil _ _ _ _, Below.refl _ _⟩
  case round =>
    obtain ⟨k, acc, hk, hk4, hal, rfl, hacc, hown, hbel⟩ := hrel
    have HA := Lib.hid hacc
    clear hacc
    obtain ⟨A2, cap2, rfl⟩ := own_shape hown
    by_cases hlt : k < s.size
    · have hk44 : k + 4 ≤ s.size := by have := H4.out; omega
      obtain ⟨p, q, r, t, hd, hat⟩ := four_at s k hk44
      obtain ⟨G, hG⟩ : ∃ G, G = [p, q, r, t] := ⟨_, rfl⟩
      rw [← hG] at hat
      have HG := Lib.hid hG
      have HD := Lib.hid hd
      have HT := Lib.hid hat
      have HK := Lib.hid hk4
      clear hd hat hG hk4
      go_wp2
      go_loop [6, 7, 8] (fun W n j => InR G W n j) (fun _ _ j => 4 - (intOf j).toNat)
      case atStart => exact ⟨0, by omega, rfl, rfl, rfl⟩
      case round =>
        obtain ⟨j, hj, rfl, rfl, rfl⟩ := hrel
        by_cases hj4 : j < 4
        · obtain ⟨x, hx⟩ : ∃ x, x = G.getD j 0 := ⟨_, rfl⟩
          have hxs : s[k + j]'(by omega) = x := by rw [hx]; exact HT.out j hj4
          have HX := Lib.hid hx
          clear hx
          have hWl : gW G j < 262144 := Nat.lt_of_lt_of_le (gW_lt G j) (Nat.pow_le_pow_right (by omega) (by omega : j ≤ 3))
          have hNl := gN_le G j
          by_cases hv : val x < 64
          · have HVY := Lib.hid (fun w => value_yes x (val x) w hv rfl)
            go_wp2_with (go_at_call 18; with_reducible refine (HVY.out _).mono ?_; rintro e w' ⟨rfl, rfl⟩)
            go_round
            case rel =>
              refine ⟨j + 1, by omega, ?_, ?_, by go_num⟩
              · rw [or6 _ _ hWl hv, gW, ← HX.out, vv, if_pos hv]
              · rw [gN, ← HX.out, if_pos hv]
            case measure => simp [intOf]; omega
          · have HVN := Lib.hid (fun w => value_no x w hv)
            go_wp2_with (go_at_call 18; with_reducible refine (HVN.out _).mono ?_; rintro e w' ⟨rfl, rfl⟩)
            go_round
            case rel =>
              refine ⟨j + 1, by omega, ?_, ?_, by go_num⟩
              · have := or6 (gW G j) 0 hWl (by omega)
                rw [show (0 : Int) = ((0 : Nat) : Int) from rfl, this, gW, ← HX.out, vv, if_neg hv]
              · rw [gN, ← HX.out, if_neg hv]
                congr 1
                omega
            case measure => simp [intOf]; omega
        · obtain rfl : j = 4 := by omega
          have hWl : gW G 4 < 16777216 := gW_lt G 4
          have hNl := gN_le G 4
          obtain ⟨y0, hy0⟩ : ∃ y, y = UInt8.ofNat (gW G 4 / 65536) := ⟨_, rfl⟩
          obtain ⟨y1, hy1⟩ : ∃ y, y = UInt8.ofNat (gW G 4 / 256 % 256) := ⟨_, rfl⟩
          obtain ⟨y2, hy2⟩ : ∃ y, y = UInt8.ofNat (gW G 4 % 256) := ⟨_, rfl⟩
          have HB : Hid (gB G = [y0, y1, y2]) := by apply Lib.hid; rw [gB, hy0, hy1, hy2]
          have e0 : ((gW G 4 : Nat) : Int) / 65536 = (y0.toNat : Int) := by rw [hy0, toNat_ofNat (by omega)]; omega
          have e1 : ((gW G 4 : Nat) : Int) / 256 % 256 = (y1.toNat : Int) := by rw [hy1, toNat_ofNat (by omega)]; omega
          have e2 : ((gW G 4 : Nat) : Int) % 256 = (y2.toNat : Int) := by rw [hy2, toNat_ofNat (by omega)]; omega
          clear hy0 hy1 hy2
          have HN0 := Lib.hid (Eq.refl (gN G 4))
          generalize gW G 4 = W at *
          generalize hN : gN G 4 = n at *
          have HN := Lib.hid hN
          clear hN HN0
          rcases (show n = 0 ∨ n = 1 ∨ n = 2 ∨ n = 3 ∨ n = 4 by omega) with rfl | rfl | rfl | rfl | rfl
          · go_wp2
            go_ret2
            refine .inl ⟨dec_none_of ?_, rfl, hbel⟩
            rw [← HA.out, HD.out, rOut_four, ← HG.out, HN.out]
            rfl
          · go_wp2
            go_ret2
            refine .inl ⟨dec_none_of ?_, rfl, hbel⟩
            rw [← HA.out, HD.out, rOut_four, ← HG.out, HN.out]
            rfl
          · have Hh : Hid (Has (wr.alloc (.cells (cel [y0, y1, y2]).toArray 5)) (wr.alloc (.cells (cel [y0, y1, y2]).toArray 5)).heap.size (some ⟨wr.heap.size, 0, none⟩) [y0]) := Lib.hid ((has_new wr [y0, y1, y2] (0, 0)).take 1)
            go_wp2_with (at_builtin; refine wpList_append_has rfl _ _ rfl w.heap.size _ acc rfl (hown.alloc _) (some ⟨wr.heap.size, 0, none⟩) [y0] _ 3 rfl rfl (fun h => by cases h) _ Hh.out ?b2 ?c2 ?_)
            case b2 => first | omega | (simp; omega)
            case c2 => have := hbel.size; simp; omega
            intro v4 w4 hown4 hg4
            have hbel4 := below_app hbel hown hg4
            clear hg4 hown hbel
            go_wp2
            go_roundw
            case rel =>
              refine ⟨k + 4, acc ++ [y0], by omega, by have := HK.out; omega, by simp; omega, by go_num, ?_, by simpa using hown4, hbel4⟩
              have := HA.out
              rw [HD.out, rOut_four, ← HG.out, HN.out, if_neg (by omega), HB.out, Option.map_map] at this
              rw [← this]
              congr 1
              funext z
              simp
            case measure => simp [intOf]; omega
          · have Hh : Hid (Has (wr.alloc (.cells (cel [y0, y1, y2]).toArray 5)) (wr.alloc (.cells (cel [y0, y1, y2]).toArray 5)).heap.size (some ⟨wr.heap.size, 0, none⟩) [y0, y1]) := Lib.hid ((has_new wr [y0, y1, y2] (0, 0)).take 2)
            go_wp2_with (at_builtin; refine wpList_append_has rfl _ _ rfl w.heap.size _ acc rfl (hown.alloc _) (some ⟨wr.heap.size, 0, none⟩) [y0, y1] _ 3 rfl rfl (fun h => by cases h) _ Hh.out ?b3 ?c3 ?_)
            case b3 => first | omega | (simp; omega)
            case c3 => have := hbel.size; simp; omega
            intro v4 w4 hown4 hg4
            have hbel4 := below_app hbel hown hg4
            clear hg4 hown hbel
            go_wp2
            go_roundw
            case rel =>
              refine ⟨k + 4, acc ++ [y0, y1], by omega, by have := HK.out; omega, by simp; omega, by go_num, ?_, by simpa using hown4, hbel4⟩
              have := HA.out
              rw [HD.out, rOut_four, ← HG.out, HN.out, if_neg (by omega), HB.out, Option.map_map] at this
              rw [← this]
              congr 1
              funext z
              simp
            case measure => simp [intOf]; omega
          · have Hh : Hid (Has (wr.alloc (.cells (cel [y0, y1, y2]).toArray 5)) (wr.alloc (.cells (cel [y0, y1, y2]).toArray 5)).heap.size (some ⟨wr.heap.size, 0, none⟩) [y0, y1, y2]) := Lib.hid ((has_new wr [y0, y1, y2] (0, 0)).take 3)
            go_wp2_with (at_builtin; refine wpList_append_has rfl _ _ rfl w.heap.size _ acc rfl (hown.alloc _) (some ⟨wr.heap.size, 0, none⟩) [y0, y1, y2] _ 3 rfl rfl (fun h => by cases h) _ Hh.out ?b4 ?c4 ?_)
            case b4 => first | omega | (simp; omega)
            case c4 => have := hbel.size; simp; omega
            intro v4 w4 hown4 hg4
            have hbel4 := below_app hbel hown hg4
            clear hg4 hown hbel
            go_wp2
            go_roundw
            case rel =>
              refine ⟨k + 4, acc ++ [y0, y1, y2], by omega, by have := HK.out; omega, by simp; omega, by go_num, ?_, by simpa using hown4, hbel4⟩
              have := HA.out
              rw [HD.out, rOut_four, ← HG.out, HN.out, if_neg (by omega), HB.out, Option.map_map] at this
              rw [← this]
              congr 1
              funext z
              simp
            case measure => simp [intOf]; omega
    · have HE : Hid (rOut s.data.toList = some acc) := by
        have := HA.out
        rw [drop_end s k hlt, rOut_nil] at this
        apply Lib.hid
        rw [← this]
        simp
      have hF := Has.of_own hown
      have hle := own_cap hown
      by_cases he : enc acc = s.data.toList
      · have htst : ((str (enc acc)).toList != s.toList) = false := by rw [toList_data, toList_data, str_list, he]; simp
        have htsu : ((str (enc acc)).toList == s.toList) = true := by rw [toList_data, toList_data, str_list, he]; simp
        have hDS := Lib.hid (dec_some_of he)
        have hal2 : acc.length ≤ 5000 := by
          have := congrArg List.length he
          rw [enc_len] at this
          simp at this
          omega
        clear he
        go_wp2_with (go_at_call 11; with_reducible refine (fenc_any A2 acc cap2 wr hF hle hal2).mono ?_; rintro e w4 ⟨rfl, hb4⟩)
        go_ret2
        exact .inr ⟨acc, hDS.out, A2, cap2, rfl, (hF.below hb4 (Nat.le_refl _)).more hb4.size, hbel.trans (hb4.mono hbel.size)⟩
      · have htst : ((str (enc acc)).toList != s.toList) = true := by rw [toList_data, toList_data, str_list]; simpa using he
        have htsu : ((str (enc acc)).toList == s.toList) = false := by rw [toList_data, toList_data, str_list]; simpa using he
        have hDS := Lib.hid (dec_none_other HE.out he)
        clear he
        go_wp2_with (go_at_call 11; with_reducible refine (fenc_any A2 acc cap2 wr hF hle (by omega)).mono ?_; rintro e w4 ⟨rfl, hb4⟩)
        go_ret2
        exact .inl ⟨hDS.out, rfl, hbel.trans (hb4.mono hbel.size)⟩
end Go.Proofs.Ytidajbmbadgnmaa
