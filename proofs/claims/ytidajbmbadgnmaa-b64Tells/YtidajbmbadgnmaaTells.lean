/-
  For every slice of bytes b and every string s: wlvlaw2.B64Tells answers true: Encode of b and Decode of s answer as the document's own definition does.
  No condition.
-/
import Derived.Test.YtidajbmbadgnmaaIn
import Derived.Test.YtidajbmbadgnmaaW7
namespace Go.Proofs.Ytidajbmbadgnmaa.b64Tells
open Go.ChangeShapes Go.WideShapes Go.ChangeAt Go.RowKit Bm
open Go.ChangeMaps (open_string shut_string)

theorem fdec_no (s : ByteArray) (w : World) (hs : s.size ≤ 6000) (h : dec s.data.toList = none) : Calls Try.prog 9 #[.string s] w (DecNo w) := by
  by_cases h4 : s.size % 4 = 0
  · refine (fdec_fit s w hs h4).mono fun e w' hp => ?_
    rcases hp with ⟨_, h⟩ | ⟨y, hy, _⟩
    · exact h
    · rw [h] at hy; cases hy
  · exact fdec_len s w hs h4
theorem fdec_yes (s : ByteArray) (y : List UInt8) (w : World) (hs : s.size ≤ 6000) (h : dec s.data.toList = some y) : Calls Try.prog 9 #[.string s] w (DecYes w y) := by
  by_cases h4 : s.size % 4 = 0
  · refine (fdec_fit s w hs h4).mono fun e w' hp => ?_
    rcases hp with ⟨hn, _⟩ | ⟨y', hy, hp⟩
    · rw [h] at hn; cases hn
    · rw [h] at hy
      injection hy with hy
      subst hy
      exact hp
  · rw [dec_length _ (by simpa using h4)] at h
    cases h
theorem bytes_none (w : World) : Calls Try.prog 12 #[.slice none 0 0, .slice none 0 0] w fun e w' => e = .returned (.bool true) ∧ w = w' :=
  bytes_any none none [] [] 0 0 w 0 0 (Has.nil _ _ _) (Has.nil _ _ _)

set_option maxHeartbeats 1000000 in
theorem walk_long (A : Option Addr) (l : List UInt8) (c : Nat) (s : ByteArray) (w : World) (hl : 3000 < l.length ∨ 3000 < s.size) :
    Calls Try.prog 3 #[.slice A l.length c, .string s] w fun e w' => e = .returned (.bool true) ∧ Below w.heap.size w w' := by
  by_cases h1 : 3000 < l.length
  all_goals
    first
    | have h2 : decide ((3000 : Int) < (l.length : Int)) = true := by simp; omega
    | (have h2 : decide ((3000 : Int) < (l.length : Int)) = false := by simp; omega
       have h3 : 3000 < s.size := by omega
       have h4 : decide ((3000 : Int) < (s.size : Int)) = true := by simp; omega)
    clear hl
    go_enter Try.func3, Try.ntmps3
    go_wp2_with fail
    refine (first_any _).mono ?_
    rintro e w1 ⟨rfl, hb1⟩
    go_wp2_with fail
    refine (first_any _).mono ?_
    rintro e w2 ⟨rfl, hb2⟩
    go_wp2_with fail
    go_ret
    exact ⟨rfl, hb1.trans (hb2.mono hb1.size)⟩

set_option maxRecDepth 100000 in
set_option maxHeartbeats 2000000 in
theorem walk_short (A : Option Addr) (l : List UInt8) (c : Nat) (s : ByteArray) (w : World) (h : Has w w.heap.size A l) (hlc : l.length ≤ c) (hl : l.length ≤ 3000) (hs : s.size ≤ 3000) :
    Calls Try.prog 3 #[.slice A l.length c, .string s] w fun e w' => e = .returned (.bool true) ∧ Below w.heap.size w w' := by
  have q1 : decide ((3000 : Int) < (l.length : Int)) = false := by simp; omega
  have q2 : decide ((3000 : Int) < (s.size : Int)) = false := by simp; omega
  have q3 : ((str (enc l)).toList == (str (enc l)).toList) = true := by simp
  go_enter Try.func3, Try.ntmps3
  go_wp2_with fail
  refine (first_any _).mono ?_
  rintro e w1 ⟨rfl, hb1⟩
  have h1 := (h.below hb1 (Nat.le_refl _)).more hb1.size
  clear h
  cases hy : dec s.data.toList with
  | none =>
    have HY := Lib.hid hy
    clear hy
    go_wp2_with fail
    refine (decode_no s w1 (by omega) HY.out).mono ?_
    rintro e w2 ⟨rfl, hb2⟩
    have h2 := (h1.below hb2 (Nat.le_refl _)).more hb2.size
    have hb02 := hb1.trans (hb2.mono hb1.size)
    clear h1 hb1 hb2
    go_wp2_with fail
    refine (fdec_no s w2 (by omega) HY.out).mono ?_
    rintro e w3 ⟨rfl, hb3⟩
    have h3 := (h2.below hb3 (Nat.le_refl _)).more hb3.size
    have hb03 := hb02.trans (hb3.mono hb02.size)
    clear h2 hb02 hb3
    go_wp2_with fail
    refine (first_any _).mono ?_
    rintro e w4 ⟨rfl, hb4⟩
    have h4 := (h3.below hb4 (Nat.le_refl _)).more hb4.size
    have hb04 := hb03.trans (hb4.mono hb03.size)
    clear h3 hb03 hb4
    go_wp2_with fail
    refine (encode_any A l c w4 h4 (by omega)).mono ?_
    rintro e w5 ⟨rfl, hb5⟩
    have h5 := (h4.below hb5 (Nat.le_refl _)).more hb5.size
    have hb05 := hb04.trans (hb5.mono hb04.size)
    clear h4 hb04 hb5
    go_wp2_with fail
    refine (fenc_any A l c w5 h5 hlc (by omega)).mono ?_
    rintro e w6 ⟨rfl, hb6⟩
    have hb06 := hb05.trans (hb6.mono hb05.size)
    clear h5 hb05 hb6
    go_wp2_with fail
    refine (bytes_none w6).mono ?_
    rintro e w' ⟨rfl, rfl⟩
    go_wp2_with fail
    go_ret
    exact ⟨rfl, hb06⟩
  | some y =>
    have HY := Lib.hid hy
    have hyy : (y == y) = true := by simp
    clear hy
    go_wp2_with fail
    refine (decode_yes s y w1 (by omega) HY.out).mono ?_
    rintro e w2 ⟨A2, c2, rfl, hd2, hb2⟩
    have h2 := (h1.below hb2 (Nat.le_refl _)).more hb2.size
    have hb02 := hb1.trans (hb2.mono hb1.size)
    clear h1 hb1 hb2
    go_wp2_with fail
    refine (fdec_yes s y w2 (by omega) HY.out).mono ?_
    rintro e w3 ⟨A3, c3, rfl, hf3, hb3⟩
    have h3 := (h2.below hb3 (Nat.le_refl _)).more hb3.size
    have hd3 := (hd2.below hb3 (Nat.le_refl _)).more hb3.size
    have hb03 := hb02.trans (hb3.mono hb02.size)
    clear h2 hb02 hb3 hd2
    go_wp2_with fail
    refine (first_any _).mono ?_
    rintro e w4 ⟨rfl, hb4⟩
    have h4 := (h3.below hb4 (Nat.le_refl _)).more hb4.size
    have hd4 := (hd3.below hb4 (Nat.le_refl _)).more hb4.size
    have hf4 := (hf3.below hb4 (Nat.le_refl _)).more hb4.size
    have hb04 := hb03.trans (hb4.mono hb03.size)
    clear h3 hb03 hb4 hd3 hf3
    go_wp2_with fail
    refine (encode_any A l c w4 h4 (by omega)).mono ?_
    rintro e w5 ⟨rfl, hb5⟩
    have h5 := (h4.below hb5 (Nat.le_refl _)).more hb5.size
    have hd5 := (hd4.below hb5 (Nat.le_refl _)).more hb5.size
    have hf5 := (hf4.below hb5 (Nat.le_refl _)).more hb5.size
    have hb05 := hb04.trans (hb5.mono hb04.size)
    clear h4 hb04 hb5 hd4 hf4
    go_wp2_with fail
    refine (fenc_any A l c w5 h5 hlc (by omega)).mono ?_
    rintro e w6 ⟨rfl, hb6⟩
    have hd6 := (hd5.below hb6 (Nat.le_refl _)).more hb6.size
    have hf6 := (hf5.below hb6 (Nat.le_refl _)).more hb6.size
    have hb06 := hb05.trans (hb6.mono hb05.size)
    clear h5 hb05 hb6 hd5 hf5
    go_wp2_with fail
    refine (bytes_any A2 A3 y y c2 c3 w6 _ _ hd6 hf6).mono ?_
    rw [hyy]
    rintro e w' ⟨rfl, rfl⟩
    go_wp2_with fail
    go_ret
    exact ⟨rfl, hb06⟩

theorem walk (A : Option Addr) (l : List UInt8) (c : Nat) (s : ByteArray) (w : World) (h : Has w w.heap.size A l) (hlc : l.length ≤ c) :
    Calls Try.prog 3 #[.slice A l.length c, .string s] w fun e w' => e = .returned (.bool true) ∧ Below w.heap.size w w' := by
  by_cases hl : 3000 < l.length ∨ 3000 < s.size
  · exact walk_long A l c s w hl
  · exact walk_short A l c s w h hlc (by omega) (by omega)

/-! ### THE ROW's STEP: WRITTEN OUT: LEAVE IT -/
set_option maxRecDepth 100000 in
theorem lifted (os : Os) (started : os.Started) (H : Type) (enc : TypeId × Value → H) :
    ReturnsInHanded {} Try.checked os 3 .any (Rows.b64TellsSpec.pre6 enc Try.prog Try.f3 Rows.b64TellsRow.domain false) (Rows.b64TellsSpec.post enc Try.prog Try.f3 false true false false) := by
  refine returnsInHanded_of_change (C := Try.checked) own started (by kernel_rfl) Try.func3
    (ChangeSpec.witness6 (enc := enc) (C := Try.checked) false ⟨#[], #[.slice none 0 0, .string ByteArray.empty], []⟩ 8 (by kernel_rfl) (by kernel_rfl) (by kernel_rfl) (by kernel_rfl)) ?_
  intro W base args ds gs before hval0 hW hcnd _
  have hval : ∀ (j : Nat) t v, Try.f3.params[j]? = some t → args[j]? = some v → Value.okWide Try.prog W .any base t v := hval0
  have hW' := hW
  obtain ⟨p, q, hA0, hV, rfl, hfz, hnd⟩ := hW
  have hA : DataW.TrodAll enc Try.prog W 0 (fun _ => true) true Try.f3.params.toList args.toList ds p := hA0
  rw [Try.params3] at hA hval
  obtain ⟨v0, vs0, d0, ds0, p0, q0, hargs, rfl, rfl, h0, r0⟩ := trodAll_cons hA
  obtain ⟨v1, vs1, d1, ds1, p1, q1, rfl, rfl, rfl, h1, r1⟩ := trodAll_cons r0
  obtain ⟨rfl, rfl, rfl⟩ := trodAll_nil r1
  obtain rfl : args = #[v0, v1] := by cases args; simp_all
  obtain ⟨rfl, rfl⟩ := trodVars_none hV
  obtain ⟨a0, len0, cap0, rfl⟩ := okWide_slice Try.underlying22 (hval 0 22 v0 rfl rfl)
  have k0 := h0
  have lt0 : ∀ x ∈ p0, x.block < W.heap.size := by obtain ⟨m, hm⟩ := k0; exact DataW.trod_lt m _ _ _ hm
  obtain ⟨l0, rfl, c0, _, w0⟩ := opened h0
  obtain ⟨a1, rfl, rfl, rfl, w1⟩ := open_string Try.underlying9 (hval 1 9 v1 rfl rfl) h1
  clear hA0 hval0
  refine (walk a0 l0 cap0 a1 W w0 c0).mono fun e W' ⟨he, bel⟩ => ?_
  subst he
  exact ⟨_, rfl, _, _, _, [], _, [], hW', trodAll_mk1 (shut_bool Try.underlying4 _), (trodAll_cons_mk (Below.trod laidOut (by kernel_rfl) (of_decide_eq_true (by kernel_rfl)) k0 bel lt0) (trodAll_cons_mk (shut_string Try.underlying9 w1) trodAll_mk0)), rfl, bel.frame _, fun h => by cases h⟩

theorem over : Rows.b64TellsRow.holds Try.pinned (OpenSpec.ofChange Rows.b64TellsSpec) :=
  OpenClaim.holds_of_wide 3 Try.f3 rfl rfl rfl rfl rfl rfl rfl ⟨rfl, rfl, rfl, rfl, rfl⟩ rfl rfl rfl rfl rfl (by kernel_rfl) Try.func3 (by kernel_rfl)
    (of_decide_eq_true (by kernel_rfl)) (by unfold Func.isWrapper; first | (rw [if_pos (by decide +kernel)]; kernel_rfl) | (rw [if_neg (by decide +kernel)]; exact ⟨rfl, rfl⟩))
    (fun os started H enc _ => lifted os started H enc)

end Go.Proofs.Ytidajbmbadgnmaa.b64Tells
namespace Go.Proofs.Ytidajbmbadgnmaa
theorem b64Tells_holds : Rows.B64TellsSaid := b64Tells.over
#print axioms b64Tells_holds
end Go.Proofs.Ytidajbmbadgnmaa
