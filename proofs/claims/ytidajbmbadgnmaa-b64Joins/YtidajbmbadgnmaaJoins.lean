/-
  For every two slices of bytes a and b: wlvlaw2.B64Joins answers true: Encode of a whole number of threes goes ahead of the text of what follows, Decode reads the joined text, and a sign more or fewer is no text.
  No condition.
-/
import Derived.Test.YtidajbmbadgnmaaIn
import Derived.Test.YtidajbmbadgnmaaW5
namespace Go.Proofs.Ytidajbmbadgnmaa.b64Joins
open Go.ChangeShapes Go.WideShapes Go.ChangeAt Go.RowKit Bm

set_option maxRecDepth 100000 in
set_option maxHeartbeats 1000000 in
theorem walk_long (A A' : Option Addr) (l m : List UInt8) (c c' : Nat) (w : World) (hl : 1500 < l.length ∨ 1500 < m.length) :
    Calls Try.prog 5 #[.slice A l.length c, .slice A' m.length c'] w fun e w' => e = .returned (.bool true) ∧ Below w.heap.size w w' := by
  by_cases h1 : 1500 < l.length
  all_goals
    first
    | have h2 : decide ((1500 : Int) < (l.length : Int)) = true := by simp; omega
    | (have h2 : decide ((1500 : Int) < (l.length : Int)) = false := by simp; omega
       have h3 : 1500 < m.length := by omega
       have h4 : decide ((1500 : Int) < (m.length : Int)) = true := by simp; omega)
    clear hl
    go_enter Try.func5, Try.ntmps5
    go_wp2_with fail
    with_reducible refine (first_any _).mono ?_
    rintro e w1 ⟨rfl, hb1⟩
    go_wp2_with fail
    with_reducible refine (first_any _).mono ?_
    rintro e w2 ⟨rfl, hb2⟩
    go_wp2_with fail
    go_ret
    exact ⟨rfl, hb1.trans (hb2.mono hb1.size)⟩

theorem encode_n (A : Option Addr) (k : List UInt8) (n c : Nat) (w : World) (hk : k.length = n) (hr : Has w w.heap.size A k) (hn : n ≤ 5000) :
    Calls Try.prog 10 #[.slice A n c] w fun e w' => e = .returned (.string (str (enc k))) ∧ Below w.heap.size w w' := by
  subst hk
  exact encode_any A k c w hr hn
theorem str_app (a b : List UInt8) : (str a ++ str b).data.toList = a ++ b := by
  simp [str]
theorem size_app (a b : ByteArray) : (a ++ b).size = a.size + b.size := by simp
theorem size65 : ByteArray.size ⟨#[65]⟩ = 1 := rfl
theorem size61 : ByteArray.size ⟨#[61]⟩ = 1 := rfl
theorem dec_more (t : ByteArray) (n : Nat) (h : t.size = n * 4) : dec (t ++ ⟨#[65]⟩).data.toList = none ∧ dec (⟨#[61]⟩ ++ t).data.toList = none :=
  ⟨dec_length _ (by rw [Array.length_toList]; show (t ++ ⟨#[65]⟩).size % 4 ≠ 0; rw [size_app, size65]; omega),
   dec_length _ (by rw [Array.length_toList]; show (⟨#[61]⟩ ++ t).size % 4 ≠ 0; rw [size_app, size61]; omega)⟩
theorem dec_odd (s : ByteArray) (h : s.size % 4 ≠ 0) : dec s.data.toList = none := dec_length _ (by simpa using h)

set_option maxRecDepth 100000 in
set_option maxHeartbeats 2000000 in
theorem walk_short (A A' : Option Addr) (l m : List UInt8) (c c' : Nat) (w : World) (h : Has w w.heap.size A l) (h' : Has w w.heap.size A' m) (hlc : l.length ≤ c) (hA : A = none → c = 0) (hA' : A' = none → c' = 0) (hl : l.length ≤ 1500) (hm : m.length ≤ 1500) :
    Calls Try.prog 5 #[.slice A l.length c, .slice A' m.length c'] w fun e w' => e = .returned (.bool true) ∧ Below w.heap.size w w' := by
  have HA := Lib.hid hA
  have HA' := Lib.hid hA'
  clear hA hA'
  have q1 : decide ((1500 : Int) < (l.length : Int)) = false := by simp; omega
  have q2 : decide ((1500 : Int) < (m.length : Int)) = false := by simp; omega
  go_enter Try.func5, Try.ntmps5
  go_wp2_with fail
  refine (first_any _).mono ?_
  rintro e w1 ⟨rfl, hb1⟩
  have h1 := (h.below hb1 (Nat.le_refl _)).more hb1.size
  have h1' := (h'.below hb1 (Nat.le_refl _)).more hb1.size
  obtain ⟨k, hk⟩ : ∃ k : List UInt8, k = l.take (l.length / 3 * 3) := ⟨_, rfl⟩
  have hkl : k.length = l.length / 3 * 3 := by rw [hk]; simp; omega
  have hk1 : Has w1 w1.heap.size A k := by rw [hk]; exact h1.take _
  have HKL := Lib.hid hkl
  have hk15 : k.length ≤ 1500 := by omega
  clear hk hkl h h' h1
  go_wp2_with fail
  refine (encode_n A k _ c w1 HKL.out hk1 (by omega)).mono ?_
  rintro e w2 ⟨rfl, hb2⟩
  have hk2 := (hk1.below hb2 (Nat.le_refl _)).more hb2.size
  have h2' := (h1'.below hb2 (Nat.le_refl _)).more hb2.size
  have hb02 := hb1.trans (hb2.mono hb1.size)
  clear hk1 h1' hb1 hb2
  go_wp2_with fail
  refine (encode_any A' m c' w2 h2' (by omega)).mono ?_
  rintro e w3 ⟨rfl, hb3⟩
  have hk3 := (hk2.below hb3 (Nat.le_refl _)).more hb3.size
  have h3' := (h2'.below hb3 (Nat.le_refl _)).more hb3.size
  have hb03 := hb02.trans (hb3.mono hb02.size)
  clear hk2 h2' hb3 hb02
  have hown0 := own_empty w3 w3.heap.size (Nat.le_refl _)
  have hk4 : Has (w3.alloc (.cells #[] 5)) w3.heap.size A k := hk3.below ((Below.refl _ _).alloc (Nat.le_refl _) _) (Nat.le_refl _)
  go_wp2_with (first | (at_builtin; refine wpList_append_has rfl (.tmp 36) (.tmp 39) rfl w3.heap.size _ [] rfl hown0 A k _ c HKL.out rfl HA.out _ hk4 ?_ ?_ ?_; (rotate_right; intro v4 w4 hown4 hg4; have hb4 : Below w3.heap.size w3 w4 := ((Below.refl _ _).alloc (Nat.le_refl _) _).grown hg4 (by simp) (own_block hown0))) | (at_builtin; refine wpList_append_has rfl (.tmp 40) (.tmp 41) rfl w3.heap.size _ k rfl hown4 A' m _ c' rfl rfl HA'.out _ (h3'.below hb4 (Nat.le_refl _)) ?_ hb4.size ?_; (rotate_right; intro v5 w5 hown5 hg5; obtain ⟨A5, c5, rfl⟩ := own_shape hown5)))
  · have hb5 : Below w3.heap.size w3 w5 := hb4.grown hg5 hb4.size (own_block hown4)
    have hF5 := Has.of_own hown5
    have hb05 := hb03.trans (hb5.mono hb03.size)
    clear hown0 hown4 hown5 hg4 hg5 hb4 hb5 hk3 hk4 h3'
    have hj := enc_join k m (by rw [HKL.out]; omega)
    have HJ := Lib.hid hj
    have hz1 : (str (enc (k ++ m))).size = (k.length + m.length + 2) / 3 * 4 := by rw [str_size, enc_len]; simp
    have hz2 : (str (enc k)).size = (k.length + 2) / 3 * 4 := by rw [str_size, enc_len]
    have hz3 : (str (enc m)).size = (m.length + 2) / 3 * 4 := by rw [str_size, enc_len]
    have HZ := Lib.hid hz1
    have s1 : (str (enc (k ++ m))).size ≤ 4100 := by omega
    have s2 : (str (enc k)).size ≤ 2100 := by omega
    have s3 : (str (enc m)).size ≤ 2100 := by omega
    have HM := Lib.hid (dec_more _ _ hz1)
    have s4 : (str (enc (k ++ m)) ++ ⟨#[65]⟩).size ≤ 10000 := by rw [size_app, size65]; omega
    have s5 : (⟨#[61]⟩ ++ str (enc (k ++ m))).size ≤ 10000 := by rw [size_app, size61]; omega
    have s6 : (str (enc k) ++ str (enc m)).size ≤ 10000 := by rw [size_app]; omega
    have HS := Lib.hid (And.intro s4 (And.intro s5 s6))
    have HDY : Hid (dec (str (enc k) ++ str (enc m)).data.toList = some (k ++ m)) := by apply Lib.hid; rw [str_app, ← HJ.out]; exact dec_enc _
    clear hj hz1 hz2 hz3 s4 s5 s6
    with_reducible refine (encode_n A5 (k ++ m) _ c5 w5 (by simp) hF5 (by omega)).mono ?_
    rintro e w6 ⟨rfl, hb6⟩
    have hb06 := hb05.trans (hb6.mono hb05.size)
    clear hb6 hb05 hF5
    go_wp2_with fail
    with_reducible refine (decode_no (str (enc (k ++ m)) ++ ⟨#[65]⟩) w6 HS.out.1 HM.out.1).mono ?_
    rintro e w7 ⟨rfl, hb7⟩
    have hb07 := hb06.trans (hb7.mono hb06.size)
    clear hb7 hb06
    go_wp2_with fail
    with_reducible refine (decode_no (⟨#[61]⟩ ++ str (enc (k ++ m))) w7 HS.out.2.1 HM.out.2).mono ?_
    rintro e w8 ⟨rfl, hb8⟩
    have hb08 := hb07.trans (hb8.mono hb07.size)
    clear hb8 hb07
    go_wp2_with fail
    with_reducible refine (decode_yes (str (enc k) ++ str (enc m)) (k ++ m) w8 HS.out.2.2 HDY.out).mono ?_
    rintro e w9 ⟨A9, c9, rfl, hF9, hb9⟩
    have hb09 := hb08.trans (hb9.mono hb08.size)
    clear hb9 hb08 hF9
    have heq : ((str (enc (k ++ m))).toList == (str (enc k) ++ str (enc m)).toList) = true := by rw [toList_data, toList_data, str_app, str_list, HJ.out]; simp
    go_wp2_with fail
    with_reducible refine (first_any _).mono ?_
    rintro e w10 ⟨rfl, hb10⟩
    have hb010 := hb09.trans (hb10.mono hb09.size)
    clear hb09
    have hq : (((k.length : Int) + (m.length : Int)) == (l.length : Int) / 3 * 3 + (m.length : Int)) = true := by
      have := HKL.out
      rw [beq_iff_eq]
      omega
    by_cases hz : (str (enc (k ++ m))).size = 0
    · have hz0 : (((str (enc (k ++ m))).size : Int) == 0) = true := by rw [beq_iff_eq]; omega
      clear hz
      go_wp2_with fail
      go_ret
      exact ⟨rfl, hb010⟩
    · have hz0 : (((str (enc (k ++ m))).size : Int) == 0) = false := by rw [beq_eq_false_iff_ne]; omega
      have hzp : 0 < (str (enc (k ++ m))).size := by omega
      have hzp' : (0 : Int) ≤ ((str (enc (k ++ m))).size : Int) - 1 := by omega
      have hzp'' : (1 : Int) ≤ ((str (enc (k ++ m))).size : Int) := by omega
      clear hz
      have hes : ((str (enc (k ++ m))).extract 0 ((str (enc (k ++ m))).size - 1)).size = (str (enc (k ++ m))).size - 1 := by simp
      have HES := Lib.hid (And.intro (show ((str (enc (k ++ m))).extract 0 ((str (enc (k ++ m))).size - 1)).size ≤ 10000 by omega) (dec_odd ((str (enc (k ++ m))).extract 0 ((str (enc (k ++ m))).size - 1)) (by rw [hes]; have := HZ.out; omega)))
      clear hes
      go_wp2_with fail
      with_reducible refine (short_any ((str (enc (k ++ m))).extract 0 ((str (enc (k ++ m))).size - 1)) w10 HES.out.1 HES.out.2).mono ?_
      rintro e w11 ⟨rfl, hb11⟩
      go_wp2_with fail
      go_ret
      exact ⟨rfl, hb010.trans (hb11.mono hb010.size)⟩
  · omega
  · simp; omega
  · simp

theorem walk (A A' : Option Addr) (l m : List UInt8) (c c' : Nat) (w : World) (h : Has w w.heap.size A l) (h' : Has w w.heap.size A' m) (hlc : l.length ≤ c) (hA : A = none → c = 0) (hA' : A' = none → c' = 0) :
    Calls Try.prog 5 #[.slice A l.length c, .slice A' m.length c'] w fun e w' => e = .returned (.bool true) ∧ Below w.heap.size w w' := by
  by_cases hl : 1500 < l.length ∨ 1500 < m.length
  · exact walk_long A A' l m c c' w hl
  · exact walk_short A A' l m c c' w h h' hlc hA hA' (by omega) (by omega)

/-! ### THE ROW's STEP: WRITTEN OUT: LEAVE IT -/
set_option maxRecDepth 100000 in
theorem lifted (os : Os) (started : os.Started) (H : Type) (enc : TypeId × Value → H) :
    ReturnsInHanded {} Try.checked os 5 .any (Rows.b64JoinsSpec.pre6 enc Try.prog Try.f5 Rows.b64JoinsRow.domain false) (Rows.b64JoinsSpec.post enc Try.prog Try.f5 false true false false) := by
  refine returnsInHanded_of_change (C := Try.checked) own started (by kernel_rfl) Try.func5
    (ChangeSpec.witness6 (enc := enc) (C := Try.checked) false ⟨#[], #[.slice none 0 0, .slice none 0 0], []⟩ 8 (by kernel_rfl) (by kernel_rfl) (by kernel_rfl) (by kernel_rfl)) ?_
  intro W base args ds gs before hval0 hW hcnd _
  have hval : ∀ (j : Nat) t v, Try.f5.params[j]? = some t → args[j]? = some v → Value.okWide Try.prog W .any base t v := hval0
  have hW' := hW
  obtain ⟨p, q, hA0, hV, rfl, hfz, hnd⟩ := hW
  have hA : DataW.TrodAll enc Try.prog W 0 (fun _ => true) true Try.f5.params.toList args.toList ds p := hA0
  rw [Try.params5] at hA hval
  obtain ⟨v0, vs0, d0, ds0, p0, q0, hargs, rfl, rfl, h0, r0⟩ := trodAll_cons hA
  obtain ⟨v1, vs1, d1, ds1, p1, q1, rfl, rfl, rfl, h1, r1⟩ := trodAll_cons r0
  obtain ⟨rfl, rfl, rfl⟩ := trodAll_nil r1
  obtain rfl : args = #[v0, v1] := by cases args; simp_all
  obtain ⟨rfl, rfl⟩ := trodVars_none hV
  obtain ⟨a0, len0, cap0, rfl⟩ := okWide_slice Try.underlying22 (hval 0 22 v0 rfl rfl)
  have k0 := h0
  have lt0 : ∀ x ∈ p0, x.block < W.heap.size := by obtain ⟨m, hm⟩ := k0; exact DataW.trod_lt m _ _ _ hm
  obtain ⟨l0, rfl, c0, n0, w0⟩ := opened h0
  obtain ⟨a1, len1, cap1, rfl⟩ := okWide_slice Try.underlying22 (hval 1 22 v1 rfl rfl)
  have k1 := h1
  have lt1 : ∀ x ∈ p1, x.block < W.heap.size := by obtain ⟨m, hm⟩ := k1; exact DataW.trod_lt m _ _ _ hm
  obtain ⟨l1, rfl, c1, n1, w1⟩ := opened h1
  clear hA0 hval0
  refine (walk a0 a1 l0 l1 cap0 cap1 W w0 w1 c0 n0 n1).mono fun e W' ⟨he, bel⟩ => ?_
  subst he
  exact ⟨_, rfl, _, _, _, [], _, [], hW', trodAll_mk1 (shut_bool Try.underlying4 _), (trodAll_cons_mk (Below.trod laidOut (by kernel_rfl) (of_decide_eq_true (by kernel_rfl)) k0 bel lt0) (trodAll_cons_mk (Below.trod laidOut (by kernel_rfl) (of_decide_eq_true (by kernel_rfl)) k1 bel lt1) trodAll_mk0)), rfl, bel.frame _, fun h => by cases h⟩

theorem over : Rows.b64JoinsRow.holds Try.pinned (OpenSpec.ofChange Rows.b64JoinsSpec) :=
  OpenClaim.holds_of_wide 5 Try.f5 rfl rfl rfl rfl rfl rfl rfl ⟨rfl, rfl, rfl, rfl, rfl⟩ rfl rfl rfl rfl rfl (by kernel_rfl) Try.func5 (by kernel_rfl)
    (of_decide_eq_true (by kernel_rfl)) (by unfold Func.isWrapper; first | (rw [if_pos (by decide +kernel)]; kernel_rfl) | (rw [if_neg (by decide +kernel)]; exact ⟨rfl, rfl⟩))
    (fun os started H enc _ => lifted os started H enc)

end Go.Proofs.Ytidajbmbadgnmaa.b64Joins
namespace Go.Proofs.Ytidajbmbadgnmaa
theorem b64Joins_holds : Rows.B64JoinsSaid := b64Joins.over
#print axioms b64Joins_holds
end Go.Proofs.Ytidajbmbadgnmaa
