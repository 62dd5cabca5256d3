/-
  For all slices of bytes a and b, every int at and every byte turn: wlvlaw3.ShaApart answers true: sums are alike just if the document's are; Equal asks all bytes and both lengths.
  The card's own condition: the listed package-level variable starts as the program's text lays it (tied). No other condition.
-/
import Derived.Test.YthaecckneblecaaDoorIn
import Derived.Test.YthaecckneblecaaDoorTie
import Derived.Test.YthaecckneblecaaDoorCards
import Derived.SevenTiedAt
namespace Go.Proofs.YthaecckneblecaaDoor.shaApart
open Go.ChangeShapes Go.WideShapes Go.ChangeAt Go.RowKit Sh

theorem walk_long (A A' : Option Addr) (n n' c c' : Nat) (i u : Int) (w : World) (hT : Tab w) (hl : 500 < n ∨ 500 < n' ∨ i < 0) :
    Calls Tryd.prog 5 #[.slice A n c, .slice A' n' c', .int .i64 i, .int .u8 u] w (Yes w) := by
  have HT := Lib.hid hT
  clear hT
  by_cases h1 : 500 < n
  · have q1 : decide ((500 : Int) < (n : Int)) = true := by simp; omega
    clear hl
    go_enter Tryd.func5, Tryd.ntmps5
    go_wp2_with fail
    with_reducible refine (first_any w HT.out).mono ?_
    rintro e w1 ⟨rfl, hb1⟩
    go_wp2_with fail
    with_reducible refine (first_any w1 (HT.out.below hb1)).mono ?_
    rintro e w2 ⟨rfl, hb2⟩
    go_wp2_with fail
    go_ret
    exact ⟨rfl, hb1.trans (hb2.mono hb1.size)⟩
  · have q1 : decide ((500 : Int) < (n : Int)) = false := by simp; omega
    by_cases h2 : 500 < n'
    · have q2 : decide ((500 : Int) < (n' : Int)) = true := by simp; omega
      clear hl
      go_enter Tryd.func5, Tryd.ntmps5
      go_wp2_with fail
      with_reducible refine (first_any w HT.out).mono ?_
      rintro e w1 ⟨rfl, hb1⟩
      go_wp2_with fail
      with_reducible refine (first_any w1 (HT.out.below hb1)).mono ?_
      rintro e w2 ⟨rfl, hb2⟩
      go_wp2_with fail
      go_ret
      exact ⟨rfl, hb1.trans (hb2.mono hb1.size)⟩
    · have q2 : decide ((500 : Int) < (n' : Int)) = false := by simp; omega
      have q3 : decide (i < 0) = true := by simp; omega
      clear hl
      go_enter Tryd.func5, Tryd.ntmps5
      go_wp2_with fail
      with_reducible refine (first_any w HT.out).mono ?_
      rintro e w1 ⟨rfl, hb1⟩
      go_wp2_with fail
      with_reducible refine (first_any w1 (HT.out.below hb1)).mono ?_
      rintro e w2 ⟨rfl, hb2⟩
      go_wp2_with fail
      go_ret
      exact ⟨rfl, hb1.trans (hb2.mono hb1.size)⟩
set_option maxRecDepth 100000 in
set_option maxHeartbeats 4000000 in
theorem walk_short (A A' : Option Addr) (l s : List Nat) (n n' c c' k u : Nat) (w : World) (hT : Tab w) (hA : At .u8 w w.heap.size A l) (hA' : At .u8 w w.heap.size A' s)
    (hb : ∀ x ∈ l, x < 256) (hb' : ∀ x ∈ s, x < 256) (hl : l.length = n) (hl' : s.length = n') (hc : A = none → c = 0) (hc' : A' = none → c' = 0) (hnc : n ≤ c) (hnc' : n' ≤ c') (h1 : n ≤ 500) (h2 : n' ≤ 500) (hu : u < 256) :
    Calls Tryd.prog 5 #[.slice A n c, .slice A' n' c', .int .i64 k, .int .u8 u] w (Yes w) := by
  have q1 : decide ((500 : Int) < (n : Int)) = false := by simp; omega
  have q2 : decide ((500 : Int) < (n' : Int)) = false := by simp; omega
  have q3 : decide ((k : Int) < 0) = false := decide_eq_false (by omega)
  have HT := Lib.hid hT
  have HA := Lib.hid fun (w' : World) (hb : Below w.heap.size w w') => hA.up hb
  have HA' := Lib.hid fun (w' : World) (hb : Below w.heap.size w w') => hA'.up hb
  have HB := Lib.hid hb
  have HB' := Lib.hid hb'
  have HL := Lib.hid hl
  have HL' := Lib.hid hl'
  have HC := Lib.hid hc
  have HC' := Lib.hid hc'
  obtain ⟨S, hS⟩ : ∃ S, S = sum l := ⟨_, rfl⟩
  have HSL : Hid (S.length = 32) := Lib.hid (by rw [hS]; exact sum_len l)
  have HSB : Hid (∀ x ∈ S, x < 256) := Lib.hid (by rw [hS]; exact sum_byte l)
  obtain ⟨S', hS'⟩ : ∃ S, S = sum s := ⟨_, rfl⟩
  have HSL' : Hid (S'.length = 32) := Lib.hid (by rw [hS']; exact sum_len s)
  have HSB' : Hid (∀ x ∈ S', x < 256) := Lib.hid (by rw [hS']; exact sum_byte s)
  obtain ⟨r, hr⟩ : ∃ r, r = k % 32 := ⟨_, rfl⟩
  have er : (k : Int) % 32 = (r : Int) := by omega
  have hr32 : r < 32 := by omega
  have hri : (r : Int) < 32 := by omega
  have hrS : r < S.length := by rw [HSL.out]; exact hr32
  obtain ⟨y0, hy0⟩ : ∃ y, y = S[r] := ⟨_, rfl⟩
  have hy256 : y0 < 256 := by rw [hy0]; exact HSB.out _ (List.getElem_mem _)
  obtain ⟨y1, hy1⟩ : ∃ y, y = y0 ^^^ u := ⟨_, rfl⟩
  have hy1b : y1 < 256 := by rw [hy1]; exact Nat.xor_lt_two_pow (n := 8) hy256 hu
  have xr : bits BinOp.xor IntKind.u8 (y0 : Int) (u : Int) = (y1 : Int) := by rw [hy1]; exact u8_xor_nat y0 u hy256 hu
  have HYB : Hid (∀ x ∈ S.set r y1, x < 256) := by
    apply Lib.hid
    intro x hx
    rcases List.mem_or_eq_of_mem_set hx with h | h
    · exact HSB.out x h
    · omega
  obtain ⟨bb, hbb⟩ : ∃ bb, bb = decide (S = S.set r y1) := ⟨_, rfl⟩
  have qu : ((u : Int) == 0) = bb := by
    have key : S = S.set r y1 ↔ u = 0 := by
      constructor
      · intro e
        have e0 : S[r] = y1 := by
          have h0 : (S.set r y1)[r]'(by simpa using hrS) = y1 := by simp
          have h9 := congrArg (fun L => L[r]?) e
          rw [List.getElem?_eq_getElem hrS, List.getElem?_eq_getElem (by simpa using hrS), h0] at h9
          injection h9
        rw [← hy0, hy1] at e0
        have h3 := (xor_zero (y0 ^^^ u) y0).2 e0.symm
        rw [Nat.xor_comm y0 u, Nat.xor_assoc, Nat.xor_self] at h3
        simpa using h3
      · rintro rfl
        rw [hy1, Nat.xor_zero, hy0, List.set_getElem_self]
    rw [hbb, Bool.eq_iff_iff]
    simp only [beq_iff_eq, decide_eq_true_eq]
    rw [key]
    omega
  have qb : (bb == bb) = true := by simp
  obtain ⟨b2, hb2⟩ : ∃ b, b = decide (S = S') := ⟨_, rfl⟩
  have qn : (b2 != b2) = false := by simp
  have HBB := Lib.hid hbb
  have HB2 := Lib.hid hb2
  have HT10 : Hid (decide (S.take 10 = S) = false) := by
    apply Lib.hid
    rw [decide_eq_false_iff_not]
    intro e
    have := congrArg List.length e
    rw [List.length_take, HSL.out] at this
    omega
  have HNIL : Hid (decide (S = []) = false) := by
    apply Lib.hid
    rw [decide_eq_false_iff_not]
    intro e
    have := HSL.out
    rw [e] at this
    cases this
  have HS := Lib.hid hS
  have HS' := Lib.hid hS'
  have HY0 := Lib.hid hy0
  have HRS := Lib.hid hrS
  clear hT hA hA' hb hb' hl hl' hc hc' hS hS' hy0 hy1 hr hbb hb2
  go_enter Tryd.func5, Tryd.ntmps5
  go_wp2_with fail
  with_reducible refine (first_any w HT.out).mono ?_
  rintro e w1 ⟨rfl, hb1⟩
  go_wp2_with fail
  with_reducible refine (sone_any A l n c w1 (HA.out _ hb1) HB.out HL.out HC.out hnc (by omega) (HT.out.below hb1)).mono ?_
  rintro e w2 ⟨v2, rfl, hr2⟩
  obtain ⟨gx, cx, rfl, hgx, hcx, hox⟩ := hr2.form
  rw [← HS.out] at hox
  have HX2 := Lib.hid (At.of_own hox)
  have hb2 := hb1.trans (hr2.2.mono hb1.size)
  clear hb1 hr2 hox
  go_wp2_with fail
  with_reducible refine (sone_any A' s n' c' w2 (HA'.out _ hb2) HB'.out HL'.out HC'.out hnc' (by omega) (HT.out.below hb2)).mono ?_
  rintro e w3 ⟨v3, rfl, hr3⟩
  obtain ⟨gy, cy, rfl, hgy, hcy, hoy⟩ := hr3.form
  rw [← HS'.out] at hoy
  have HY3 := Lib.hid (At.of_own hoy)
  have HX3 := Lib.hid (HX2.out.up hr3.2)
  have hb3 := hb2.trans (hr3.2.mono hb2.size)
  clear hb2 hr3 hoy HX2
  go_wp2_with fail
  with_reducible refine (equal_any (some ⟨gx, 0, none⟩) (some ⟨gy, 0, none⟩) S S' 32 32 cx cy w3 _ _ HX3.out HY3.out HSB.out HSB'.out HSL.out HSL'.out (by omega) (by omega)).mono ?_
  rw [← HB2.out]
  rintro e w' ⟨rfl, d3, rfl⟩
  have hbq : Below w3.heap.size w3 (w3.drewN d3) := below_drewN (Below.refl _ _) d3
  have HX4 := Lib.hid (HX3.out.up hbq)
  have hb4 := hb3.trans (hbq.mono hb3.size)
  clear HX3 HY3 hb3 hbq
  generalize w3.drewN d3 = w4 at HX4 hb4 ⊢
  go_wp2_with fail
  with_reducible refine (rrow_one A l n c w4 (HA.out _ hb4) HB.out HL.out HC.out (by omega)).mono ?_
  rintro e w5 ⟨A5, c5, rfl, hat5, hbn⟩
  rw [← HS.out] at hat5
  have HX5 := Lib.hid (HX4.out.up hbn)
  have hb5 := hb4.trans (hbn.mono hb4.size)
  clear HX4 hb4 hbn
  go_wp2_with fail
  with_reducible refine (rrow_one A' s n' c' w5 (HA'.out _ hb5) HB'.out HL'.out HC'.out (by omega)).mono ?_
  rintro e w6 ⟨A6, c6, rfl, hat6, hbn⟩
  rw [← HS'.out] at hat6
  have HX6 := Lib.hid (HX5.out.up hbn)
  have hat56 := hat5.up hbn
  have hb6 := hb5.trans (hbn.mono hb5.size)
  clear HX5 hb5 hbn hat5
  go_wp2_with fail
  with_reducible refine (bytes_any A5 A6 S S' 32 32 c5 c6 w6 _ _ hat56 hat6 HSB.out HSB'.out HSL.out HSL'.out).mono ?_
  rw [← HB2.out]
  rintro e w' ⟨rfl, rfl⟩
  clear hat56 hat6
  have hcx0 : ¬ cx = 0 := by omega
  go_wp2_with fail
  with_reducible refine (copy_any (some ⟨gx, 0, none⟩) S 32 cx w6 HX6.out HSL.out (fun h => by cases h) (by omega)).mono ?_
  rintro e w7 ⟨v7, rfl, hown7, hbn⟩
  rw [HSL.out] at hown7
  obtain ⟨gz, cz, rfl, hgz, hoz⟩ := own_form hown7 (by omega)
  have hatx7 : At .u8 w7 w6.heap.size (some ⟨gx, 0, none⟩) S := HX6.out.below hbn (Nat.le_refl _)
  have hb7 := hb6.trans (hbn.mono hb6.size)
  have hw67 : w6.heap.size ≤ w7.heap.size := hbn.size
  have hwz : w.heap.size ≤ gz := Nat.le_trans hb6.size hgz
  clear HX6 hb6 hbn hown7
  have cz0 : w7.cell? ⟨gz, r, none⟩ = some (.int .u8 (y0 : Int)) := by rw [own_at hoz HRS.out, HY0.out]
  have fz0 : w7.frozen? ⟨gz, r, none⟩ = false := own_free hoz
  have HZ8 := Lib.hid (own_put (i := r) (x := y1) hoz)
  have HX8 : Hid (At .u8 (w7.setCell ⟨gz, r, none⟩ (.int .u8 (y1 : Int))) (w7.setCell ⟨gz, r, none⟩ (.int .u8 (y1 : Int))).heap.size (some ⟨gx, 0, none⟩) S) := Lib.hid ((hatx7.far (p := ⟨gz, r, none⟩) hgz _).more (by simpa [World.setCell] using hw67))
  have hb8 : Below w.heap.size w (w7.setCell ⟨gz, r, none⟩ (.int .u8 (y1 : Int))) := hb7.setCell hwz _
  clear hatx7 hoz hb7 hw67
  go_wp2_with fail
  generalize w7.setCell ⟨gz, r, none⟩ (.int .u8 (y1 : Int)) = w8 at HZ8 HX8 hb8 ⊢
  clear cz0 fz0
  with_reducible refine (first_any w8 (HT.out.below hb8)).mono ?_
  rintro e w9 ⟨rfl, hbn⟩
  have HX9 := Lib.hid (HX8.out.up hbn)
  have HZ9 := Lib.hid (HZ8.out.up hbn)
  have hb9 := hb8.trans (hbn.mono hb8.size)
  clear HX8 HZ8 hb8 hbn
  go_wp2_with fail
  with_reducible refine (equal_any (some ⟨gx, 0, none⟩) (some ⟨gz, 0, none⟩) S (S.set r y1) 32 32 cx cz w9 _ _ HX9.out HZ9.out HSB.out HYB.out HSL.out (by rw [List.length_set, HSL.out]) (by omega) (by omega)).mono ?_
  rw [← HBB.out]
  rintro e w' ⟨rfl, d9, rfl⟩
  have hbq : Below w9.heap.size w9 (w9.drewN d9) := below_drewN (Below.refl _ _) d9
  have HX10 := Lib.hid (HX9.out.up hbq)
  have hb10 := hb9.trans (hbq.mono hb9.size)
  clear HX9 HZ9 hb9 hbq
  generalize w9.drewN d9 = w10 at HX10 hb10 ⊢
  go_wp2_with fail
  with_reducible refine (equal_any (some ⟨gx, 0, none⟩) none S [] 32 0 cx 0 w10 _ 0 HX10.out (at_nil _ _ _ _) HSB.out (fun x hx => by simp at hx) HSL.out rfl (by omega) (by omega)).mono ?_
  rw [HNIL.out]
  rintro e w' ⟨rfl, d10, rfl⟩
  have hbq : Below w10.heap.size w10 (w10.drewN d10) := below_drewN (Below.refl _ _) d10
  have HX11 := Lib.hid (HX10.out.up hbq)
  have hb11 := hb10.trans (hbq.mono hb10.size)
  clear HX10 hb10 hbq
  generalize w10.drewN d10 = w11 at HX11 hb11 ⊢
  go_wp2_with fail
  with_reducible refine (equal_any none none [] [] 0 0 0 0 w11 0 0 (at_nil _ _ _ _) (at_nil _ _ _ _) (fun x hx => by simp at hx) (fun x hx => by simp at hx) rfl rfl (by omega) (by omega)).mono ?_
  rw [decide_eq_true (rfl : ([] : List Nat) = [])]
  rintro e w' ⟨rfl, d11, rfl⟩
  have hbq : Below w11.heap.size w11 (w11.drewN d11) := below_drewN (Below.refl _ _) d11
  have HX12 := Lib.hid (HX11.out.up hbq)
  have hb12 := hb11.trans (hbq.mono hb11.size)
  clear HX11 hb11 hbq
  generalize w11.drewN d11 = w12 at HX12 hb12 ⊢
  have hcxi : (10 : Int) ≤ (cx : Int) := by omega
  have HX10' : Hid (At .u8 w12 w12.heap.size (some ⟨gx, 0, none⟩) (S.take 10)) := Lib.hid (by
    have h := HX12.out.cut (c := 32) (q := 0) (l' := S.take 10) (by rw [HSL.out]; omega) (fun i hi => by
      have hi' : i < 10 ∧ i < S.length := by simp at hi; omega
      exact ⟨by omega, by rw [Nat.zero_add, List.getElem?_take, if_pos hi'.1]⟩)
    exact h)
  go_wp2_with fail
  with_reducible refine (equal_any (some ⟨gx, 0, none⟩) (some ⟨gx, 0, none⟩) (S.take 10) S 10 32 cx cx w12 _ _ HX10'.out HX12.out (fun x hx => HSB.out x (List.mem_of_mem_take hx)) HSB.out (by rw [List.length_take, HSL.out]; omega) HSL.out (by omega) (by omega)).mono ?_
  rw [HT10.out]
  rintro e w' ⟨rfl, d12, rfl⟩
  have hb13 : Below w.heap.size w (w12.drewN d12) := below_drewN hb12 d12
  clear HX12 HX10' hb12
  go_wp2_with fail
  go_ret
  exact ⟨rfl, hb13⟩
theorem walk (A A' : Option Addr) (l s : List Nat) (c c' : Nat) (i u : Int) (w : World) (hT : Tab w) (hA : At .u8 w w.heap.size A l) (hA' : At .u8 w w.heap.size A' s)
    (hb : ∀ x ∈ l, x < 256) (hb' : ∀ x ∈ s, x < 256) (hc : A = none → c = 0) (hc' : A' = none → c' = 0) (hnc : l.length ≤ c) (hnc' : s.length ≤ c') (hu : (Lit.int .u8 u).wf = true) :
    Calls Tryd.prog 5 #[.slice A l.length c, .slice A' s.length c', .int .i64 i, .int .u8 u] w (Yes w) := by
  by_cases hl : 500 < l.length ∨ 500 < s.length ∨ i < 0
  · exact walk_long A A' _ _ c c' i u w hT hl
  · have hu' := bounds_u8 hu
    obtain ⟨k, rfl⟩ : ∃ k : Nat, i = (k : Int) := ⟨i.toNat, by omega⟩
    obtain ⟨v, rfl⟩ : ∃ v : Nat, u = (v : Int) := ⟨u.toNat, by omega⟩
    exact walk_short A A' l s _ _ c c' k v w hT hA hA' hb hb' rfl rfl hc hc' hnc hnc' (by omega) (by omega) (by omega)

set_option maxRecDepth 100000 in
theorem lifted (os : Os) (started : os.Started) (H : Type) (enc : TypeId × Value → H) :
    ReturnsInHanded {} Tryd.checked os 5 .any (fun w args => (Rows.shaApartSpec.pre enc Tryd.prog Tryd.f5 [] false w args ∧ laidMetH Tryd.prog laid1 w) ∧ sizedMet enc Tryd.prog Tryd.f5 (OpenSpec.ofChange Rows.shaApartSpec) false w args)
      (Rows.shaApartSpec.post enc Tryd.prog Tryd.f5 false true false false) := by
  refine returnsInHanded_of_change_and (C := Tryd.checked) (X := fun w _ => laidMetH Tryd.prog laid1 w) (fun _ _ _ hh h => h.of_heap hh) own started (by kernel_rfl) Tryd.func5
    (ChangeSpec.witness_shaped (enc := enc) (C := Tryd.checked) (os := os) (X := fun w _ => laidMetH Tryd.prog laid1 w) false (World.doorLaid Tryd.prog 14 os) #[.slice none 0 0, .slice none 0 0, .int .i64 0, .int .u8 0] 8 rfl (World.shaped_of_RefB (by kernel_rfl) (by kernel_rfl)) (by kernel_rfl) (by kernel_rfl) (by kernel_rfl) (door_met os _)) ?_
  intro W base args ds gs before hval0 hW _ _ hL _
  have hval : ∀ (j : Nat) t v, Tryd.f5.params[j]? = some t → args[j]? = some v → Value.okWide Tryd.prog W .any base t v := hval0
  have hW' := hW
  obtain ⟨p, q, hA0, hV, rfl, hfz, hnd⟩ := hW
  have hA : DataW.TrodAll enc Tryd.prog W 0 (fun _ => true) true Tryd.f5.params.toList args.toList ds p := hA0
  rw [Tryd.params5] at hA hval
  obtain ⟨v0, vs0, d0, ds0, p0, q0, hargs, rfl, rfl, h0, r0⟩ := trodAll_cons hA
  obtain ⟨v1, vs1, d1, ds1, p1, q1, rfl, rfl, rfl, h1, r1⟩ := trodAll_cons r0
  obtain ⟨v2, vs2, d2, ds2, p2, q2, rfl, rfl, rfl, h2, r2⟩ := trodAll_cons r1
  obtain ⟨v3, vs3, d3, ds3, p3, q3, rfl, rfl, rfl, h3, r3⟩ := trodAll_cons r2
  obtain ⟨rfl, rfl, rfl⟩ := trodAll_nil r3
  obtain rfl : args = #[v0, v1, v2, v3] := by cases args; simp_all
  obtain ⟨rfl, rfl⟩ := trodVars_none hV
  obtain ⟨a0, len0, cap0, rfl⟩ := okWide_slice Tryd.underlying22 (hval 0 22 v0 rfl rfl)
  have k0 := h0
  have lt0 : ∀ x ∈ p0, x.block < W.heap.size := by obtain ⟨m, hm⟩ := k0; exact DataW.trod_lt m _ _ _ hm
  obtain ⟨l0, rfl, c0, n0, b0, w0⟩ := opened h0
  obtain ⟨a1, len1, cap1, rfl⟩ := okWide_slice Tryd.underlying22 (hval 1 22 v1 rfl rfl)
  have k1 := h1
  have lt1 : ∀ x ∈ p1, x.block < W.heap.size := by obtain ⟨m, hm⟩ := k1; exact DataW.trod_lt m _ _ _ hm
  obtain ⟨l1, rfl, c1, n1, b1, w1⟩ := opened h1
  obtain ⟨i2, rfl, rfl, rfl, w2⟩ := open_int Tryd.underlying3 (hval 2 3 v2 rfl rfl) h2
  obtain ⟨i3, rfl, rfl, rfl, w3⟩ := open_int Tryd.underlying5 (hval 3 5 v3 rfl rfl) h3
  have hT := tab_of_laid hL
  clear hA0 hval0
  refine (walk a0 a1 l0 l1 cap0 cap1 i2 i3 W hT w0 w1 b0 b1 n0 n1 c0 c1 w3).mono fun e W' ⟨he, bel⟩ => ?_
  subst he
  exact ⟨_, rfl, _, _, _, [], _, [], hW', trodAll_mk1 (shut_bool Tryd.underlying4 _), (trodAll_cons_mk (Below.trod laidOut (by kernel_rfl) (of_decide_eq_true (by kernel_rfl)) k0 bel lt0) (trodAll_cons_mk (Below.trod laidOut (by kernel_rfl) (of_decide_eq_true (by kernel_rfl)) k1 bel lt1) (trodAll_cons_mk (shut_int Tryd.underlying3 w2) (trodAll_cons_mk (shut_int Tryd.underlying5 w3) trodAll_mk0)))), rfl, bel.frame _, fun h => by cases h⟩

theorem over : Rows.shaApartRow.holds Tryd.pinned (OpenSpec.ofChange Rows.shaApartSpec) :=
  OpenClaim.holds_of_wide 5 Tryd.f5 rfl rfl rfl rfl rfl rfl rfl ⟨rfl, rfl, rfl, rfl, rfl⟩ rfl rfl rfl rfl rfl (by kernel_rfl) Tryd.func5 (by kernel_rfl)
    (of_decide_eq_true (by kernel_rfl)) (by unfold Func.isWrapper; first | (rw [if_pos (by decide +kernel)]; kernel_rfl) | (rw [if_neg (by decide +kernel)]; exact ⟨rfl, rfl⟩))
    (fun os started H enc _ => lifted os started H enc)

end Go.Proofs.YthaecckneblecaaDoor.shaApart
namespace Go.Proofs.YthaecckneblecaaDoor
theorem shaApart_holds : Rows.ShaApartCardSaid :=
  Claim7.holds_tied_plain_at .later [] [.data] true (true, "49f9cc08ee9b641f6f38c9c905c1d8a058b6377c34e7407e40867af2676a575d") false
    shaApart.over (fun _ h => by cases h) (by kernel_rfl) (fun _ h => by cases h) shaApart_row_tie rfl ⟨rfl, rfl⟩ (by kernel_rfl) rfl
    (fun f fn hf hfn => by
      obtain rfl : f = 5 := Option.some.inj ((show Tryd.prog.funcNamed Rows.shaApartRow.func = some 5 by kernel_rfl).symm.trans hf) |>.symm
      obtain rfl : fn = Tryd.f5 := (Option.some.inj (Tryd.func5.symm.trans hfn)).symm
      exact ⟨by kernel_rfl, fun j t ht => by
        rw [Tryd.params5] at ht
        have hm : t ∈ [22, 22, 3, 5] := by simpa using Array.mem_of_getElem? ht
        have hall : ([22, 22, 3, 5].all fun u => !Tryd.prog.wantsStandIn u) = true := by kernel_rfl
        exact (show Tryd.prog.wantsStandIn t = false by simpa using List.all_eq_true.1 hall t hm)⟩)
    (by kernel_rfl)
#print axioms shaApart_holds
end Go.Proofs.YthaecckneblecaaDoor
