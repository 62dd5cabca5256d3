/-
  For all slices of bytes b, salt and other: wlvlaw3.ShaTells answers true: One, Salted and Equal answer as the document's own definitions do.
  The card's own condition: the listed package-level variable starts as the program's text lays it (tied). No other condition.
-/
import Derived.Test.YthaecckneblecaaDoorIn
import Derived.Test.YthaecckneblecaaDoorTie
import Derived.Test.YthaecckneblecaaDoorCards
import Derived.SevenTiedAt
namespace Go.Proofs.YthaecckneblecaaDoor.shaTells
open Go.ChangeShapes Go.WideShapes Go.ChangeAt Go.RowKit Sh

theorem walk_long (A A' A'' : Option Addr) (n n' n'' c c' c'' : Nat) (w : World) (hT : Tab w) (hl : 2000 < n ∨ 2000 < n' ∨ 2000 < n'') :
    Calls Tryd.prog 3 #[.slice A n c, .slice A' n' c', .slice A'' n'' c''] w (Yes w) := by
  have HT := Lib.hid hT
  clear hT
  by_cases h1 : 2000 < n
  · have q1 : decide ((2000 : Int) < (n : Int)) = true := by simp; omega
    clear hl
    go_enter Tryd.func3, Tryd.ntmps3
    go_wp2_with fail
    with_reducible refine (first_any w HT.out).mono ?_
    rintro e w1 ⟨rfl, hb1⟩
    go_wp2_with fail
    with_reducible refine (first_any w1 (HT.out.below hb1)).mono ?_
    rintro e w2 ⟨rfl, hb2⟩
    go_wp2_with fail
    go_ret
    exact ⟨rfl, hb1.trans (hb2.mono hb1.size)⟩
  · have q1 : decide ((2000 : Int) < (n : Int)) = false := by simp; omega
    by_cases h2 : 2000 < n'
    · have q2 : decide ((2000 : Int) < (n' : Int)) = true := by simp; omega
      clear hl
      go_enter Tryd.func3, Tryd.ntmps3
      go_wp2_with fail
      with_reducible refine (first_any w HT.out).mono ?_
      rintro e w1 ⟨rfl, hb1⟩
      go_wp2_with fail
      with_reducible refine (first_any w1 (HT.out.below hb1)).mono ?_
      rintro e w2 ⟨rfl, hb2⟩
      go_wp2_with fail
      go_ret
      exact ⟨rfl, hb1.trans (hb2.mono hb1.size)⟩
    · have q2 : decide ((2000 : Int) < (n' : Int)) = false := by simp; omega
      have q3 : decide ((2000 : Int) < (n'' : Int)) = true := by simp; omega
      clear hl
      go_enter Tryd.func3, Tryd.ntmps3
      go_wp2_with fail
      with_reducible refine (first_any w HT.out).mono ?_
      rintro e w1 ⟨rfl, hb1⟩
      go_wp2_with fail
      with_reducible refine (first_any w1 (HT.out.below hb1)).mono ?_
      rintro e w2 ⟨rfl, hb2⟩
      go_wp2_with fail
      go_ret
      exact ⟨rfl, hb1.trans (hb2.mono hb1.size)⟩
set_option maxRecDepth 100000 in
set_option maxHeartbeats 2000000 in
theorem walk_short (A A' A'' : Option Addr) (l s o : List Nat) (n n' n'' c c' c'' : Nat) (w : World) (hT : Tab w) (hA : At .u8 w w.heap.size A l) (hA' : At .u8 w w.heap.size A' s) (hA'' : At .u8 w w.heap.size A'' o)
    (hb : ∀ x ∈ l, x < 256) (hb' : ∀ x ∈ s, x < 256) (hb'' : ∀ x ∈ o, x < 256) (hl : l.length = n) (hl' : s.length = n') (hl'' : o.length = n'') (hc : A = none → c = 0) (hc' : A' = none → c' = 0) (hnc : n ≤ c)
    (h1 : n ≤ 2000) (h2 : n' ≤ 2000) (h3 : n'' ≤ 2000) :
    Calls Tryd.prog 3 #[.slice A n c, .slice A' n' c', .slice A'' n'' c''] w (Yes w) := by
  have q1 : decide ((2000 : Int) < (n : Int)) = false := by simp; omega
  have q2 : decide ((2000 : Int) < (n' : Int)) = false := by simp; omega
  have q3 : decide ((2000 : Int) < (n'' : Int)) = false := by simp; omega
  have HT := Lib.hid hT
  have HA := Lib.hid fun (w' : World) (hb : Below w.heap.size w w') => (hA.below hb (Nat.le_refl _)).more hb.size
  have HA' := Lib.hid fun (w' : World) (hb : Below w.heap.size w w') => (hA'.below hb (Nat.le_refl _)).more hb.size
  have HA'' := Lib.hid fun (w' : World) (hb : Below w.heap.size w w') => (hA''.below hb (Nat.le_refl _)).more hb.size
  have HB := Lib.hid hb
  have HB' := Lib.hid hb'
  have HB'' := Lib.hid hb''
  have HL := Lib.hid hl
  have HL' := Lib.hid hl'
  have HL'' := Lib.hid hl''
  have HC := Lib.hid hc
  have HC' := Lib.hid hc'
  obtain ⟨J, hJ⟩ : ∃ J, J = s ++ [0] ++ l := ⟨_, rfl⟩
  have HJ := Lib.hid hJ
  clear hT hA hA' hA'' hb hb' hb'' hl hl' hl'' hc hc' hJ
  go_enter Tryd.func3, Tryd.ntmps3
  go_wp2_with fail
  with_reducible refine (first_any w HT.out).mono ?_
  rintro e w1 ⟨rfl, hb1⟩
  go_wp2_with fail
  with_reducible refine (first_any w1 (HT.out.below hb1)).mono ?_
  rintro e w2 ⟨rfl, hb⟩
  have hb2 := hb1.trans (hb.mono hb1.size)
  clear hb hb1
  go_wp2_with fail
  with_reducible refine (sone_any A l n c w2 (HA.out _ hb2) HB.out HL.out HC.out hnc (by omega) (HT.out.below hb2)).mono ?_
  rintro e w3 ⟨v3, rfl, hr3⟩
  obtain ⟨A3, c3, rfl, hat3, hn3, hc3⟩ := hr3.sum
  have hb3 := hb2.trans (hr3.2.mono hb2.size)
  clear hb2 hr3
  go_wp2_with fail
  with_reducible refine (rrow_one A l n c w3 (HA.out _ hb3) HB.out HL.out HC.out (by omega)).mono ?_
  rintro e w4 ⟨A4, c4, rfl, hat4, hb⟩
  have hb4 := hb3.trans (hb.mono hb3.size)
  have hat34 := hat3.below hb (Nat.le_refl _)
  clear hb hb3 hat3
  go_wp2_with fail
  with_reducible refine (bytes_any A3 A4 (sum l) (sum l) 32 32 c3 c4 w4 _ _ hat34 hat4 (sum_byte l) (sum_byte l) (sum_len l) (sum_len l)).mono ?_
  rw [decide_eq_true (rfl : sum l = sum l)]
  rintro e w' ⟨rfl, rfl⟩
  clear hat34 hat4 hn3 hc3
  go_wp2_with fail
  with_reducible refine (ssalted_any A' A s l J HJ.out n' n c' c w4 (HA'.out _ hb4) (HA.out _ hb4) HB'.out HB.out HL'.out HL.out HC'.out HC.out (by omega) (by omega) (HT.out.below hb4)).mono ?_
  rintro e w5 ⟨v5, rfl, hr5⟩
  obtain ⟨A5, c5, rfl, hat5, hn5, hc5⟩ := hr5.sum
  have hb5 := hb4.trans (hr5.2.mono hb4.size)
  clear hb4 hr5
  go_wp2_with fail
  with_reducible refine (rsalted A' A s l J HJ.out n' n c' c w5 (HA'.out _ hb5) (HA.out _ hb5) HB'.out HB.out HL'.out HL.out HC'.out HC.out (by omega) (by omega)).mono ?_
  rintro e w6 ⟨A6, c6, rfl, hat6, hb⟩
  have hb6 := hb5.trans (hb.mono hb5.size)
  have hat56 := hat5.below hb (Nat.le_refl _)
  clear hb hb5 hat5
  go_wp2_with fail
  with_reducible refine (bytes_any A5 A6 (sum J) (sum J) 32 32 c5 c6 w6 _ _ hat56 hat6 (sum_byte J) (sum_byte J) (sum_len J) (sum_len J)).mono ?_
  rw [decide_eq_true (rfl : sum J = sum J)]
  rintro e w' ⟨rfl, rfl⟩
  clear hat56 hat6 hn5 hc5
  go_wp2_with fail
  with_reducible refine (equal_any A A'' l o n n'' c c'' w6 _ _ (HA.out _ hb6) (HA''.out _ hb6) HB.out HB''.out HL.out HL''.out (by omega) (by omega)).mono ?_
  rintro e w7 ⟨rfl, d7, rfl⟩
  have hb7 : Below w.heap.size w (w6.drewN d7) := below_drewN hb6 d7
  clear hb6
  generalize w6.drewN d7 = w7 at hb7 ⊢
  go_wp2_with fail
  with_reducible refine (bytes_any A A'' l o n n'' c c'' w7 _ _ (HA.out _ hb7) (HA''.out _ hb7) HB.out HB''.out HL.out HL''.out).mono ?_
  rintro e w' ⟨rfl, rfl⟩
  have hbb : (decide (l = o) == decide (l = o)) = true := by simp
  go_wp2_with fail
  go_ret
  exact ⟨rfl, hb7⟩
theorem walk (A A' A'' : Option Addr) (l s o : List Nat) (c c' c'' : Nat) (w : World) (hT : Tab w) (hA : At .u8 w w.heap.size A l) (hA' : At .u8 w w.heap.size A' s) (hA'' : At .u8 w w.heap.size A'' o)
    (hb : ∀ x ∈ l, x < 256) (hb' : ∀ x ∈ s, x < 256) (hb'' : ∀ x ∈ o, x < 256) (hc : A = none → c = 0) (hc' : A' = none → c' = 0) (hnc : l.length ≤ c) :
    Calls Tryd.prog 3 #[.slice A l.length c, .slice A' s.length c', .slice A'' o.length c''] w (Yes w) := by
  by_cases hl : 2000 < l.length ∨ 2000 < s.length ∨ 2000 < o.length
  · exact walk_long A A' A'' _ _ _ c c' c'' w hT hl
  · exact walk_short A A' A'' l s o _ _ _ c c' c'' w hT hA hA' hA'' hb hb' hb'' rfl rfl rfl hc hc' hnc (by omega) (by omega) (by omega)

set_option maxRecDepth 100000 in
theorem lifted (os : Os) (started : os.Started) (H : Type) (enc : TypeId × Value → H) :
    ReturnsInHanded {} Tryd.checked os 3 .any (fun w args => (Rows.shaTellsSpec.pre enc Tryd.prog Tryd.f3 [] false w args ∧ laidMetH Tryd.prog laid1 w) ∧ sizedMet enc Tryd.prog Tryd.f3 (OpenSpec.ofChange Rows.shaTellsSpec) false w args)
      (Rows.shaTellsSpec.post enc Tryd.prog Tryd.f3 false true false false) := by
  refine returnsInHanded_of_change_and (C := Tryd.checked) (X := fun w _ => laidMetH Tryd.prog laid1 w) (fun _ _ _ hh h => h.of_heap hh) own started (by kernel_rfl) Tryd.func3
    (ChangeSpec.witness_shaped (enc := enc) (C := Tryd.checked) (os := os) (X := fun w _ => laidMetH Tryd.prog laid1 w) false (World.doorLaid Tryd.prog 14 os) #[.slice none 0 0, .slice none 0 0, .slice none 0 0] 8 rfl (World.shaped_of_RefB (by kernel_rfl) (by kernel_rfl)) (by kernel_rfl) (by kernel_rfl) (by kernel_rfl) (door_met os _)) ?_
  intro W base args ds gs before hval0 hW _ _ hL _
  have hval : ∀ (j : Nat) t v, Tryd.f3.params[j]? = some t → args[j]? = some v → Value.okWide Tryd.prog W .any base t v := hval0
  have hW' := hW
  obtain ⟨p, q, hA0, hV, rfl, hfz, hnd⟩ := hW
  have hA : DataW.TrodAll enc Tryd.prog W 0 (fun _ => true) true Tryd.f3.params.toList args.toList ds p := hA0
  rw [Tryd.params3] at hA hval
  obtain ⟨v0, vs0, d0, ds0, p0, q0, hargs, rfl, rfl, h0, r0⟩ := trodAll_cons hA
  obtain ⟨v1, vs1, d1, ds1, p1, q1, rfl, rfl, rfl, h1, r1⟩ := trodAll_cons r0
  obtain ⟨v2, vs2, d2, ds2, p2, q2, rfl, rfl, rfl, h2, r2⟩ := trodAll_cons r1
  obtain ⟨rfl, rfl, rfl⟩ := trodAll_nil r2
  obtain rfl : args = #[v0, v1, v2] := by cases args; simp_all
  obtain ⟨rfl, rfl⟩ := trodVars_none hV
  obtain ⟨a0, len0, cap0, rfl⟩ := okWide_slice Tryd.underlying22 (hval 0 22 v0 rfl rfl)
  obtain ⟨a1, len1, cap1, rfl⟩ := okWide_slice Tryd.underlying22 (hval 1 22 v1 rfl rfl)
  obtain ⟨a2, len2, cap2, rfl⟩ := okWide_slice Tryd.underlying22 (hval 2 22 v2 rfl rfl)
  have k0 := h0
  have lt0 : ∀ x ∈ p0, x.block < W.heap.size := by obtain ⟨m, hm⟩ := k0; exact DataW.trod_lt m _ _ _ hm
  have k1 := h1
  have lt1 : ∀ x ∈ p1, x.block < W.heap.size := by obtain ⟨m, hm⟩ := k1; exact DataW.trod_lt m _ _ _ hm
  have k2 := h2
  have lt2 : ∀ x ∈ p2, x.block < W.heap.size := by obtain ⟨m, hm⟩ := k2; exact DataW.trod_lt m _ _ _ hm
  obtain ⟨l0, rfl, c0, n0, b0, w0⟩ := opened h0
  obtain ⟨l1, rfl, c1, n1, b1, w1⟩ := opened h1
  obtain ⟨l2, rfl, c2, n2, b2, w2⟩ := opened h2
  have hT := tab_of_laid hL
  clear hA0 hval0
  refine (walk a0 a1 a2 l0 l1 l2 cap0 cap1 cap2 W hT w0 w1 w2 b0 b1 b2 n0 n1 c0).mono fun e W' ⟨he, bel⟩ => ?_
  subst he
  exact ⟨_, rfl, _, _, _, [], _, [], hW', trodAll_mk1 (shut_bool Tryd.underlying4 _), (trodAll_cons_mk (Below.trod laidOut (by kernel_rfl) (of_decide_eq_true (by kernel_rfl)) k0 bel lt0) (trodAll_cons_mk (Below.trod laidOut (by kernel_rfl) (of_decide_eq_true (by kernel_rfl)) k1 bel lt1) (trodAll_cons_mk (Below.trod laidOut (by kernel_rfl) (of_decide_eq_true (by kernel_rfl)) k2 bel lt2) trodAll_mk0))), rfl, bel.frame _, fun h => by cases h⟩

theorem over : Rows.shaTellsRow.holds Tryd.pinned (OpenSpec.ofChange Rows.shaTellsSpec) :=
  OpenClaim.holds_of_wide 3 Tryd.f3 rfl rfl rfl rfl rfl rfl rfl ⟨rfl, rfl, rfl, rfl, rfl⟩ rfl rfl rfl rfl rfl (by kernel_rfl) Tryd.func3 (by kernel_rfl)
    (of_decide_eq_true (by kernel_rfl)) (by unfold Func.isWrapper; first | (rw [if_pos (by decide +kernel)]; kernel_rfl) | (rw [if_neg (by decide +kernel)]; exact ⟨rfl, rfl⟩))
    (fun os started H enc _ => lifted os started H enc)

end Go.Proofs.YthaecckneblecaaDoor.shaTells
namespace Go.Proofs.YthaecckneblecaaDoor
theorem shaTells_holds : Rows.ShaTellsCardSaid :=
  Claim7.holds_tied_plain_at .later [] [.data] true (true, "49f9cc08ee9b641f6f38c9c905c1d8a058b6377c34e7407e40867af2676a575d") false
    shaTells.over (fun _ h => by cases h) (by kernel_rfl) (fun _ h => by cases h) shaTells_row_tie rfl ⟨rfl, rfl⟩ (by kernel_rfl) rfl
    (fun f fn hf hfn => by
      obtain rfl : f = 3 := Option.some.inj ((show Tryd.prog.funcNamed Rows.shaTellsRow.func = some 3 by kernel_rfl).symm.trans hf) |>.symm
      obtain rfl : fn = Tryd.f3 := (Option.some.inj (Tryd.func3.symm.trans hfn)).symm
      exact ⟨by kernel_rfl, fun j t ht => by
        rw [Tryd.params3] at ht
        have hm : t ∈ [22, 22, 22] := by simpa using Array.mem_of_getElem? ht
        have hall : ([22, 22, 22].all fun u => !Tryd.prog.wantsStandIn u) = true := by kernel_rfl
        exact (show Tryd.prog.wantsStandIn t = false by simpa using List.all_eq_true.1 hall t hm)⟩)
    (by kernel_rfl)
#print axioms shaTells_holds
end Go.Proofs.YthaecckneblecaaDoor
