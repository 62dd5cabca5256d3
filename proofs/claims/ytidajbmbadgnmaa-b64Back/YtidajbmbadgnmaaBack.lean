/-
  For every slice of bytes b and every string s: wlvlaw2.B64Back answers true: Decode of Encode is b, Encode's text is of fours, b is not changed, and a text that Decode reads is Encode of what was read.
  No condition.
-/
import Derived.Test.YtidajbmbadgnmaaIn
namespace Go.Proofs.Ytidajbmbadgnmaa.b64Back
open Go.ChangeShapes Go.WideShapes Go.ChangeAt Go.RowKit Bm
open Go.ChangeMaps (open_string shut_string)

set_option maxHeartbeats 1000000 in
theorem walk_long (A : Option Addr) (l : List UInt8) (c : Nat) (s : ByteArray) (w : World) (hl : 3000 < l.length ∨ 3000 < s.size) :
    Calls Try.prog 4 #[.slice A l.length c, .string s] w fun e w' => e = .returned (.bool true) ∧ Below w.heap.size w w' := by
  by_cases h1 : 3000 < l.length
  all_goals
    first
    | have h2 : decide ((3000 : Int) < (l.length : Int)) = true := by simp; omega
    | (have h2 : decide ((3000 : Int) < (l.length : Int)) = false := by simp; omega
       have h3 : 3000 < s.size := by omega
       have h4 : decide ((3000 : Int) < (s.size : Int)) = true := by simp; omega)
    clear hl
    go_enter Try.func4, Try.ntmps4
    go_wp2_with fail
    refine (first_any _).mono ?_
    rintro e w1 ⟨rfl, hb1⟩
    go_wp2_with fail
    refine (first_any _).mono ?_
    rintro e w2 ⟨rfl, hb2⟩
    go_wp2_with fail
    go_ret
    exact ⟨rfl, hb1.trans (hb2.mono hb1.size)⟩

set_option maxRecDepth 100000 in
set_option maxHeartbeats 2000000 in
theorem walk_short (A : Option Addr) (l : List UInt8) (c : Nat) (s : ByteArray) (w : World) (h : Has w w.heap.size A l) (hl : l.length ≤ 3000) (hs : s.size ≤ 3000) :
    Calls Try.prog 4 #[.slice A l.length c, .string s] w fun e w' => e = .returned (.bool true) ∧ Below w.heap.size w w' := by
  have ht : dec (str (enc l)).data.toList = some l := by rw [str_list]; exact dec_enc l
  have htl : (str (enc l)).size = (l.length + 2) / 3 * 4 := by rw [str_size, enc_len]
  have HT := Lib.hid ht
  have hts : (str (enc l)).size ≤ 10000 := by omega
  have hk : (((str (enc l)).size : Int) != ((l.length : Int) + 2) / 3 * 4) = false := by rw [htl]; simp
  have hll : (l == l) = true := by simp
  clear ht htl
  go_enter Try.func4, Try.ntmps4
  go_wp2_with fail
  refine (first_any _).mono ?_
  rintro e w1 ⟨rfl, hb1⟩
  have h1 := (h.below hb1 (Nat.le_refl _)).more hb1.size
  go_wp2_with fail
  refine (copy_any A l c w1 h1 (by omega)).mono ?_
  rintro e w2 ⟨A2, c2, rfl, hc2, hb2⟩
  have h2 := (h1.below hb2 (Nat.le_refl _)).more hb2.size
  have hb02 := hb1.trans (hb2.mono hb1.size)
  go_wp2_with fail
  refine (encode_any A l c w2 h2 (by omega)).mono ?_
  rintro e w3 ⟨rfl, hb3⟩
  have h3 := (h2.below hb3 (Nat.le_refl _)).more hb3.size
  have hc3 := (hc2.below hb3 (Nat.le_refl _)).more hb3.size
  have hb03 := hb02.trans (hb3.mono hb02.size)
  go_wp2_with fail
  refine (decode_yes (str (enc l)) l w3 hts HT.out).mono ?_
  rintro e w4 ⟨A4, c4, rfl, hd4, hb4⟩
  have h4 := (h3.below hb4 (Nat.le_refl _)).more hb4.size
  have hc4 := (hc3.below hb4 (Nat.le_refl _)).more hb4.size
  have hb04 := hb03.trans (hb4.mono hb03.size)
  clear h1 h2 h3 hb1 hb2 hb3 hb4 hc2 hc3 hb02 hb03
  go_wp2_with fail
  refine (bytes_any A4 A l l c4 c w4 _ _ hd4 h4).mono ?_
  rw [hll]
  rintro e w' ⟨rfl, rfl⟩
  go_wp2_with fail
  refine (bytes_any A2 A l l c2 c w4 _ _ hc4 h4).mono ?_
  rw [hll]
  rintro e w' ⟨rfl, rfl⟩
  cases hy : dec s.data.toList with
  | none =>
    have HY := Lib.hid hy
    clear hy
    go_wp2_with fail
    refine (decode_no s w4 (by omega) HY.out).mono ?_
    rintro e w5 ⟨rfl, hb5⟩
    have hb05 := hb04.trans (hb5.mono hb04.size)
    go_wp2_with fail
    refine (first_any _).mono ?_
    rintro e w6 ⟨rfl, hb6⟩
    go_wp2_with fail
    go_ret
    exact ⟨rfl, hb05.trans (hb6.mono hb05.size)⟩
  | some y =>
    have hey := enc_dec _ _ hy
    have hyl : y.length ≤ 5000 := by
      have h1 := congrArg List.length hey
      rw [enc_len] at h1
      simp at h1
      omega
    have hse : ((str (enc y)).toList == s.toList) = true := by rw [toList_data, toList_data, str_list, hey]; simp
    have HY := Lib.hid hy
    clear hy hey
    go_wp2_with fail
    refine (decode_yes s y w4 (by omega) HY.out).mono ?_
    rintro e w5 ⟨A5, c5, rfl, hd5, hb5⟩
    have hb05 := hb04.trans (hb5.mono hb04.size)
    go_wp2_with fail
    refine (first_any _).mono ?_
    rintro e w6 ⟨rfl, hb6⟩
    have hd6 := (hd5.below hb6 (Nat.le_refl _)).more hb6.size
    have hb06 := hb05.trans (hb6.mono hb05.size)
    go_wp2_with fail
    refine (encode_any A5 y c5 w6 hd6 hyl).mono ?_
    rintro e w7 ⟨rfl, hb7⟩
    go_wp2_with fail
    go_ret
    exact ⟨rfl, hb06.trans (hb7.mono hb06.size)⟩

theorem walk (A : Option Addr) (l : List UInt8) (c : Nat) (s : ByteArray) (w : World) (h : Has w w.heap.size A l) :
    Calls Try.prog 4 #[.slice A l.length c, .string s] w fun e w' => e = .returned (.bool true) ∧ Below w.heap.size w w' := by
  by_cases hl : 3000 < l.length ∨ 3000 < s.size
  · exact walk_long A l c s w hl
  · exact walk_short A l c s w h (by omega) (by omega)

/-! ### THE ROW's STEP: WRITTEN OUT: LEAVE IT -/
set_option maxRecDepth 100000 in
theorem lifted (os : Os) (started : os.Started) (H : Type) (enc : TypeId × Value → H) :
    ReturnsInHanded {} Try.checked os 4 .any (Rows.b64BackSpec.pre6 enc Try.prog Try.f4 Rows.b64BackRow.domain false) (Rows.b64BackSpec.post enc Try.prog Try.f4 false true false false) := by
  refine returnsInHanded_of_change (C := Try.checked) own started (by kernel_rfl) Try.func4
    (ChangeSpec.witness6 (enc := enc) (C := Try.checked) false ⟨#[], #[.slice none 0 0, .string ByteArray.empty], []⟩ 8 (by kernel_rfl) (by kernel_rfl) (by kernel_rfl) (by kernel_rfl)) ?_
  intro W base args ds gs before hval0 hW hcnd _
  have hval : ∀ (j : Nat) t v, Try.f4.params[j]? = some t → args[j]? = some v → Value.okWide Try.prog W .any base t v := hval0
  have hW' := hW
  obtain ⟨p, q, hA0, hV, rfl, hfz, hnd⟩ := hW
  have hA : DataW.TrodAll enc Try.prog W 0 (fun _ => true) true Try.f4.params.toList args.toList ds p := hA0
  rw [Try.params4] at hA hval
  obtain ⟨v0, vs0, d0, ds0, p0, q0, hargs, rfl, rfl, h0, r0⟩ := trodAll_cons hA
  obtain ⟨v1, vs1, d1, ds1, p1, q1, rfl, rfl, rfl, h1, r1⟩ := trodAll_cons r0
  obtain ⟨rfl, rfl, rfl⟩ := trodAll_nil r1
  obtain rfl : args = #[v0, v1] := by cases args; simp_all
  obtain ⟨rfl, rfl⟩ := trodVars_none hV
  obtain ⟨a0, len0, cap0, rfl⟩ := okWide_slice Try.underlying22 (hval 0 22 v0 rfl rfl)
  have k0 := h0
  have lt0 : ∀ x ∈ p0, x.block < W.heap.size := by obtain ⟨m, hm⟩ := k0; exact DataW.trod_lt m _ _ _ hm
  obtain ⟨l0, rfl, _, _, w0⟩ := opened h0
  obtain ⟨a1, rfl, rfl, rfl, w1⟩ := open_string Try.underlying9 (hval 1 9 v1 rfl rfl) h1
  clear hA0 hval0
  refine (walk a0 l0 cap0 a1 W w0).mono fun e W' ⟨he, bel⟩ => ?_
  subst he
  exact ⟨_, rfl, _, _, _, [], _, [], hW', trodAll_mk1 (shut_bool Try.underlying4 _), (trodAll_cons_mk (Below.trod laidOut (by kernel_rfl) (of_decide_eq_true (by kernel_rfl)) k0 bel lt0) (trodAll_cons_mk (shut_string Try.underlying9 w1) trodAll_mk0)), rfl, bel.frame _, fun h => by cases h⟩

theorem over : Rows.b64BackRow.holds Try.pinned (OpenSpec.ofChange Rows.b64BackSpec) :=
  OpenClaim.holds_of_wide 4 Try.f4 rfl rfl rfl rfl rfl rfl rfl ⟨rfl, rfl, rfl, rfl, rfl⟩ rfl rfl rfl rfl rfl (by kernel_rfl) Try.func4 (by kernel_rfl)
    (of_decide_eq_true (by kernel_rfl)) (by unfold Func.isWrapper; first | (rw [if_pos (by decide +kernel)]; kernel_rfl) | (rw [if_neg (by decide +kernel)]; exact ⟨rfl, rfl⟩))
    (fun os started H enc _ => lifted os started H enc)

end Go.Proofs.Ytidajbmbadgnmaa.b64Back
namespace Go.Proofs.Ytidajbmbadgnmaa
theorem b64Back_holds : Rows.B64BackSaid := b64Back.over
#print axioms b64Back_holds
end Go.Proofs.Ytidajbmbadgnmaa
