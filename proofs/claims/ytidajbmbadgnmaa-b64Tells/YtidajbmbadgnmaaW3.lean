/- Contract of b64.Decode: the bytes of the text, or the error; of what was there nothing has turned. -/
import Derived.Test.YtidajbmbadgnmaaW2
namespace Go.Proofs.Ytidajbmbadgnmaa
open Go.RowKit Bm

/-- At a round's head of Decode's loop. -/
def DecR (w : World) (t : ByteArray) (v bb hh i : Value) (wr : World) : Prop :=
  ∃ (k b h : Nat) (acc : List UInt8), k ≤ t.size ∧ i = .int .i64 k ∧ bb = .int .u64 b ∧ hh = .int .u64 h ∧ h < 8 ∧ h % 2 = 0 ∧ b < 2 ^ h ∧ acc.length ≤ k ∧
    (decS b h (t.data.toList.drop k)).map (acc ++ ·) = decS 0 0 t.data.toList ∧ wr.ownsRow w.heap.size 5 1 v acc.length (cel acc) ∧ Below w.heap.size w wr
def DecNo (w : World) (e : Ending) (w' : World) : Prop := e = .returned (.tuple #[.slice none 0 0, .int .i64 2]) ∧ Below w.heap.size w w'
def DecYes (w : World) (y : List UInt8) (e : Ending) (w' : World) : Prop := ∃ A c, e = .returned (.tuple #[.slice A y.length c, .int .i64 0]) ∧ Has w' w'.heap.size A y ∧ Below w.heap.size w w'
def DecPost (w : World) (s : ByteArray) (e : Ending) (w' : World) : Prop := (dec s.data.toList = none ∧ DecNo w e w') ∨ (∃ y, dec s.data.toList = some y ∧ DecYes w y e w')

theorem or_bits6 (b c : Nat) (hb : b < 256) (hc : c < 64) : bits BinOp.or IntKind.u64 ((b : Int) * 64) (c : Int) = ((b * 64 + c : Nat) : Int) := by
  rw [show ((b : Int) * 64) = ((b * 64 : Nat) : Int) by simp, u64_or_nat _ _ (by omega) (by omega), nat_join 6 _ _ (by omega) (by omega)]

theorem drop_at (t : ByteArray) (k : Nat) (h : k < t.size) : t.data.toList.drop k = t[k] :: t.data.toList.drop (k + 1) := by
  rw [List.drop_eq_getElem_cons (by simpa using h), byte_at' t k h]
theorem drop_end (t : ByteArray) (k : Nat) (h : ¬ k < t.size) : t.data.toList.drop k = [] := List.drop_eq_nil_of_le (by simp; omega)
theorem dec_bad {t : ByteArray} {k b h : Nat} {acc : List UInt8} {o : Option (List UInt8)} (hk : k < t.size) (hv : ¬ val t[k] < 64) (ha : (decS b h (t.data.toList.drop k)).map (acc ++ ·) = o) : o = none := by
  rw [drop_at t k hk, decS_bad hv] at ha
  exact ha.symm
theorem dec_in {t : ByteArray} {k b : Nat} {acc : List UInt8} {o : Option (List UInt8)} (hk : k < t.size) (hv : val t[k] < 64) (ha : (decS b 0 (t.data.toList.drop k)).map (acc ++ ·) = o) :
    (decS (b * 64 + val t[k]) 6 (t.data.toList.drop (k + 1))).map (acc ++ ·) = o := by
  rw [drop_at t k hk, decS_in hv (by omega)] at ha
  exact ha
theorem dec_out {t : ByteArray} {k b g : Nat} {acc : List UInt8} {o : Option (List UInt8)} (hk : k < t.size) (hv : val t[k] < 64) (ha : (decS b (g + 2) (t.data.toList.drop k)).map (acc ++ ·) = o) :
    (decS ((b * 64 + val t[k]) % 2 ^ g) g (t.data.toList.drop (k + 1))).map ((acc ++ [UInt8.ofNat ((b * 64 + val t[k]) / 2 ^ g)]) ++ ·) = o := by
  rw [drop_at t k hk, decS_out hv (by omega), Option.map_map, Nat.add_sub_cancel] at ha
  rw [← ha]
  congr 1
  funext x
  simp
theorem out_lt {B g : Nat} (h : B < 2 ^ (g + 8)) : B / 2 ^ g < 256 := by
  rw [Nat.pow_add] at h
  exact Nat.div_lt_of_lt_mul h
theorem out_byte {B g : Nat} (h : B < 2 ^ (g + 8)) : (B : Int) / 2 ^ g % 256 = ((UInt8.ofNat (B / 2 ^ g)).toNat : Int) := by
  have hl := out_lt h
  have e : (B : Int) / 2 ^ g = ((B / 2 ^ g : Nat) : Int) := by
    rw [show ((2 : Int) ^ g) = ((2 ^ g : Nat) : Int) by simp, ← Int.natCast_ediv]
  rw [e, toNat_ofNat hl]
  generalize B / 2 ^ g = q at *
  omega
theorem dec_mid {b g v : Nat} (hb : b < 2 ^ (g + 2)) (hv : v < 64) : b * 64 + v < 2 ^ (g + 8) := by
  have e : (2 : Nat) ^ (g + 8) = 2 ^ (g + 2) * 64 := by rw [show g + 8 = g + 2 + 6 by omega, Nat.pow_add]
  omega

theorem decode_len (s : ByteArray) (w : World) (hs : s.size ≤ 10000) (h4 : ¬ s.size % 4 = 0) : Calls Try.prog 8 #[.string s] w (DecNo w) := by
  have ht : (((s.size : Int) % 4) != 0) = true := by simp; omega
  go_enter Try.func8, Try.ntmps8
  go_wp2
  go_ret2
  exact ⟨rfl, Below.refl _ _⟩

set_option maxHeartbeats 1000000 in
theorem decode_fit (s : ByteArray) (w : World) (hs : s.size ≤ 10000) (h4 : s.size % 4 = 0) : Calls Try.prog 8 #[.string s] w (DecPost w s) := by
  obtain ⟨i0, hi0, hz0, hz1, hz2⟩ := info_parts info5
  have ht : (((s.size : Int) % 4) != 0) = false := by simp; omega
  have hp := pads_any s
  have HD : Hid (dec s.data.toList = decS 0 0 (stripB (stripB s)).data.toList) := by
    apply Lib.hid
    rw [dec, if_pos (by simpa using h4), stripB, str_list, stripB, str_list]
  have hsz : (stripB (stripB s)).size ≤ 10000 := Nat.le_trans (stripB_size _) (Nat.le_trans (stripB_size _) hs)
  have Hp := Lib.hid hp
  clear hp
  generalize stripB (stripB s) = t at *
  clear h4
  go_enter Try.func8, Try.ntmps8
  go_wp2_with (first | (go_at_call 15; refine (Hp.out _ hs).mono ?_; rintro e w' ⟨rfl, rfl⟩) | (at_make; refine wpList_make_own _ rfl _ _ 22 rfl w.heap.size 5 i0 _ 1 Try.underlying22 hi0 hz0 hz1 _ _ _ (t.size * 3 / 4) rfl rfl (by omega) (by rw [hz2]; omega) (by unfold maxLen; omega) (Nat.le_refl _) ?_; intro w1 hown1 hg1))
  have hb1 : Below w.heap.size w w1 := (Below.refl _ _).grown hg1 (Nat.le_refl _) (by simp)
  clear hg1
  go_loopw [5, 6, 7, 23] (fun v bb hh i wr => DecR w t v bb hh i wr) (fun _ _ _ i _ => t.size - (intOf i).toNat)
  case atStart => exact ⟨0, 0, 0, [], Nat.zero_le _, rfl, rfl, rfl, by omega, rfl, by omega, by simp, by simp, hown1, hb1⟩
  case round =>
    clear hown1 hb1
    obtain ⟨k, b, h, acc, hk, rfl, rfl, rfl, hh, hev, hb, hal, hacc, hown, hbel⟩ := hrel
    have HA := Lib.hid hacc
    clear hacc
    obtain ⟨A2, cap2, rfl⟩ := own_shape hown
    by_cases hlt : k < t.size
    · have hb64 : b < 64 := Nat.lt_of_lt_of_le hb (Nat.pow_le_pow_right (by omega) (by omega : h ≤ 6))
      have hlk := t[k].toNat_lt
      by_cases hv : val t[k] < 64
      · obtain ⟨V, hV⟩ : ∃ V, V = val t[k] := ⟨_, rfl⟩
        have hv' : V < 64 := by omega
        obtain ⟨B, hB⟩ : ∃ B, B = b * 64 + V := ⟨_, rfl⟩
        have hor : bits BinOp.or IntKind.u64 ((b : Int) * 64) (V : Int) = (B : Int) := by rw [or_bits6 b V (by omega) hv', hB]
        have hix := ix_yes t[k]
        rw [← hV] at hix
        have HX := Lib.hid hix
        have HV := Lib.hid hV
        have HB := Lib.hid hB
        have hBl : B < 65536 := by omega
        clear hix hV hB
        by_cases h2 : 2 ≤ h
        · obtain ⟨g, rfl⟩ : ∃ g, h = g + 2 := ⟨h - 2, by omega⟩
          have hg8 : (g : Int) + 2 + 6 - 8 = (g : Int) := by omega
          have hmid : B < 2 ^ (g + 8) := by rw [HB.out]; exact dec_mid hb hv'
          go_wp2_with (first | (go_at_call 16; refine (HX.out _ hv').mono ?_; rintro e w' ⟨rfl, rfl⟩) | (at_builtin; refine wpList_append_own _ rfl _ _ 22 rfl w.heap.size 5 i0 _ 1 1 Try.underlying22 hi0 hz0 hz1 hz2 rfl (by decide) _ _ _ rfl (hown.alloc _) ⟨wr.heap.size, 0, none⟩ 1 1 _ rfl rfl (cell_one_new _ _ _) ?c2 ?c3 ?c4 ?c5 ?_))
          case c2 => first | rfl | (intro u hu; simp at hu; subst hu; rfl)
          case c3 => unfold maxLen; omega
          case c4 => omega
          case c5 => have := hbel.size; simp; omega
          · intro v' w2 hown3 hg3 _
            have hbelF := below_app hbel hown hg3
            rw [out_byte hmid] at hown3
            have hownF := own_snoc hown3
            clear hown3 hg3 hown hbel
            go_wp2_with (go_at_call 17; refine (lowest_any B g _ hBl (by omega)).mono ?_; rintro e w' ⟨rfl, rfl⟩)
            go_roundw
            case rel =>
              have := dec_out hlt (by rw [← HV.out]; exact hv') HA.out
              rw [← HV.out, ← HB.out] at this
              exact ⟨k + 1, B % 2 ^ g, g, acc ++ [UInt8.ofNat (B / 2 ^ g)], by omega, by go_num, rfl, rfl, by omega, by omega, Nat.mod_lt _ (Nat.pow_pos (by omega)), by simp; omega, this, hownF, hbelF⟩
            case measure => simp [intOf]; omega
        · obtain rfl : h = 0 := by omega
          go_wp2_with (go_at_call 16; refine (HX.out _ hv').mono ?_; rintro e w' ⟨rfl, rfl⟩)
          go_roundw
          case rel =>
            have := dec_in hlt (by rw [← HV.out]; exact hv') HA.out
            rw [← HV.out, ← HB.out] at this
            exact ⟨k + 1, B, 6, acc, by omega, by go_num, rfl, rfl, by omega, by omega, by have := HB.out; omega, by omega, this, hown, hbel⟩
          case measure => simp [intOf]; omega
      · go_wp2_with (go_at_call 16; refine (ix_no _ _ hv).mono ?_; rintro e w' ⟨rfl, rfl⟩)
        go_ret2
        exact .inl ⟨HD.out.trans (dec_bad hlt hv HA.out), rfl, hbel⟩
    · have HE := Lib.hid (drop_end t k hlt)
      by_cases hb0 : b = 0
      · have hz : ((b : Int) != 0) = false := by simp; omega
        go_wp2
        go_ret2
        refine .inr ⟨acc, ?_, A2, cap2, rfl, Has.of_own hown, hbel⟩
        rw [HD.out, ← HA.out, HE.out, decS, if_pos hb0]
        simp
      · have hz : ((b : Int) != 0) = true := by simp; omega
        go_wp2
        go_ret2
        refine .inl ⟨?_, rfl, hbel⟩
        rw [HD.out, ← HA.out, HE.out, decS, if_neg hb0]
        rfl

theorem decode_no (s : ByteArray) (w : World) (hs : s.size ≤ 10000) (h : dec s.data.toList = none) : Calls Try.prog 8 #[.string s] w (DecNo w) := by
  by_cases h4 : s.size % 4 = 0
  · refine (decode_fit s w hs h4).mono fun e w' hp => ?_
    rcases hp with ⟨_, h⟩ | ⟨y, hy, _⟩
    · exact h
    · rw [h] at hy; cases hy
  · exact decode_len s w hs h4
theorem decode_yes (s : ByteArray) (y : List UInt8) (w : World) (hs : s.size ≤ 10000) (h : dec s.data.toList = some y) : Calls Try.prog 8 #[.string s] w (DecYes w y) := by
  by_cases h4 : s.size % 4 = 0
  · refine (decode_fit s w hs h4).mono fun e w' hp => ?_
    rcases hp with ⟨hn, _⟩ | ⟨y', hy, hp⟩
    · rw [h] at hn; cases hn
    · rw [h] at hy
      injection hy with hy
      subst hy
      exact hp
  · rw [dec_length _ (by simpa using h4)] at h
    cases h
end Go.Proofs.Ytidajbmbadgnmaa
