/-
  For all slices of bytes b and salt: wlvlaw3.ShaOwn answers true: a sum is 32 bytes, in new memory; what is handed in is not changed; Salted is One of salt, a byte 0 and the word.
  The card's own condition: the listed package-level variable starts as the program's text lays it (tied). No other condition.
-/
import Derived.Test.YthaecckneblecaaDoorIn
import Derived.Test.YthaecckneblecaaDoorTie
import Derived.Test.YthaecckneblecaaDoorCards
import Derived.SevenTiedAt
namespace Go.Proofs.YthaecckneblecaaDoor.shaOwn
open Go.ChangeShapes Go.WideShapes Go.ChangeAt Go.RowKit Sh

theorem walk_long (A A' : Option Addr) (n n' c c' : Nat) (w : World) (hT : Tab w) (hl : 2000 < n ∨ 2000 < n') :
    Calls Tryd.prog 4 #[.slice A n c, .slice A' n' c'] w (Yes w) := by
  have HT := Lib.hid hT
  clear hT
  by_cases h1 : 2000 < n
  · have q1 : decide ((2000 : Int) < (n : Int)) = true := by simp; omega
    clear hl
    go_enter Tryd.func4, Tryd.ntmps4
    go_wp2_with fail
    with_reducible refine (first_any w HT.out).mono ?_
    rintro e w1 ⟨rfl, hb1⟩
    go_wp2_with fail
    with_reducible refine (first_any w1 (HT.out.below hb1)).mono ?_
    rintro e w2 ⟨rfl, hb2⟩
    go_wp2_with fail
    go_ret
    exact ⟨rfl, hb1.trans (hb2.mono hb1.size)⟩
  · have q1 : decide ((2000 : Int) < (n : Int)) = false := by simp; omega
    have q2 : decide ((2000 : Int) < (n' : Int)) = true := by simp; omega
    clear hl
    go_enter Tryd.func4, Tryd.ntmps4
    go_wp2_with fail
    with_reducible refine (first_any w HT.out).mono ?_
    rintro e w1 ⟨rfl, hb1⟩
    go_wp2_with fail
    with_reducible refine (first_any w1 (HT.out.below hb1)).mono ?_
    rintro e w2 ⟨rfl, hb2⟩
    go_wp2_with fail
    go_ret
    exact ⟨rfl, hb1.trans (hb2.mono hb1.size)⟩
set_option maxRecDepth 100000 in
set_option maxHeartbeats 4000000 in
theorem walk_short (A A' : Option Addr) (l s : List Nat) (n n' c c' : Nat) (w : World) (hT : Tab w) (hA : At .u8 w w.heap.size A l) (hA' : At .u8 w w.heap.size A' s)
    (hb : ∀ x ∈ l, x < 256) (hb' : ∀ x ∈ s, x < 256) (hl : l.length = n) (hl' : s.length = n') (hc : A = none → c = 0) (hc' : A' = none → c' = 0) (hnc : n ≤ c) (h1 : n ≤ 2000) (h2 : n' ≤ 2000) :
    Calls Tryd.prog 4 #[.slice A n c, .slice A' n' c'] w (Yes w) := by
  have q1 : decide ((2000 : Int) < (n : Int)) = false := by simp; omega
  have q2 : decide ((2000 : Int) < (n' : Int)) = false := by simp; omega
  have HT := Lib.hid hT
  have HA := Lib.hid fun (w' : World) (hb : Below w.heap.size w w') => hA.up hb
  have HA' := Lib.hid fun (w' : World) (hb : Below w.heap.size w w') => hA'.up hb
  have HB := Lib.hid hb
  have HB' := Lib.hid hb'
  have HL := Lib.hid hl
  have HL' := Lib.hid hl'
  have HC := Lib.hid hc
  have HC' := Lib.hid hc'
  obtain ⟨J, hJ⟩ : ∃ J, J = s ++ [0] ++ l := ⟨_, rfl⟩
  have hJl : J.length ≤ 4001 := by rw [hJ]; simp; omega
  have HJB : Hid (∀ x ∈ J, x < 256) := by
    apply Lib.hid
    intro x hx
    rw [hJ, List.mem_append, List.mem_append, List.mem_singleton] at hx
    rcases hx with (h | h) | h
    · exact hb' x h
    · omega
    · exact hb x h
  have HJ := Lib.hid hJ
  obtain ⟨S, hS⟩ : ∃ S, S = sum l := ⟨_, rfl⟩
  have HSL : Hid (S.length = 32) := Lib.hid (by rw [hS]; exact sum_len l)
  have HSB : Hid (∀ x ∈ S, x < 256) := Lib.hid (by rw [hS]; exact sum_byte l)
  obtain ⟨y0, hy0⟩ : ∃ y, y = S[0]'(by rw [HSL.out]; omega) := ⟨_, rfl⟩
  have hy256 : y0 < 256 := by rw [hy0]; exact HSB.out _ (List.getElem_mem _)
  obtain ⟨y1, hy1⟩ : ∃ y, y = y0 ^^^ 1 := ⟨_, rfl⟩
  have hy1b : y1 < 256 := by rw [hy1]; exact Nat.xor_lt_two_pow (n := 8) hy256 (by omega)
  have xr : bits BinOp.xor IntKind.u8 (y0 : Int) 1 = (y1 : Int) := by rw [hy1]; exact u8_xor_nat y0 1 hy256 (by omega)
  have HYB : Hid (∀ x ∈ S.set 0 y1, x < 256) := by
    apply Lib.hid
    intro x hx
    rcases List.mem_or_eq_of_mem_set hx with h | h
    · exact HSB.out x h
    · omega
  have HNE : Hid (decide (S = S.set 0 y1) = false) := by
    apply Lib.hid
    rw [decide_eq_false_iff_not]
    intro e
    have e0 : S[0]'(by rw [HSL.out]; omega) = y1 := by
      have h0 : (S.set 0 y1)[0]'(by simp [HSL.out]) = y1 := by simp
      have h9 := congrArg (fun L => L[0]?) e
      rw [List.getElem?_eq_getElem (by rw [HSL.out]; omega), List.getElem?_eq_getElem (by simp [HSL.out]), h0] at h9
      injection h9
    rw [← hy0, hy1] at e0
    have h3 := (xor_zero (y0 ^^^ 1) y0).2 e0.symm
    rw [Nat.xor_comm y0 1, Nat.xor_assoc, Nat.xor_self] at h3
    simp at h3
  have HT31 : Hid (decide (S = S.take 31) = false) := by
    apply Lib.hid
    rw [decide_eq_false_iff_not]
    intro e
    have := congrArg List.length e
    rw [List.length_take, HSL.out] at this
    omega
  have HS := Lib.hid hS
  have HY0 := Lib.hid hy0
  clear hT hA hA' hb hb' hl hl' hc hc' hJ hS hy0 hy1
  go_enter Tryd.func4, Tryd.ntmps4
  go_wp2_with fail
  with_reducible refine (first_any w HT.out).mono ?_
  rintro e w1 ⟨rfl, hb1⟩
  go_wp2_with fail
  with_reducible refine (copy_any A l n c w1 (HA.out _ hb1) HL.out HC.out (by omega)).mono ?_
  rintro e w2 ⟨v2, rfl, hr2⟩
  obtain ⟨Ac, cc, rfl, hatc, hnc2, hcc⟩ := hr2.at
  rw [HL.out] at hcc ⊢
  have HNC := Lib.hid hnc2
  have hb2 := hb1.trans (hr2.2.mono hb1.size)
  clear hb1 hr2 hnc2
  go_wp2_with fail
  with_reducible refine (sone_any Ac l n cc w2 hatc HB.out HL.out HNC.out hcc (by omega) (HT.out.below hb2)).mono ?_
  rintro e w3 ⟨v3, rfl, hr3⟩
  obtain ⟨gx, cx, rfl, hgx, hcx, hox⟩ := hr3.form
  rw [← HS.out] at hox
  have hatx : At .u8 w3 w3.heap.size (some ⟨gx, 0, none⟩) S := At.of_own hox
  have hatc3 := hatc.up hr3.2
  have hb3 := hb2.trans (hr3.2.mono hb2.size)
  clear hb2 hr3 hatc hox
  go_wp2_with fail
  with_reducible refine (sone_any Ac l n cc w3 hatc3 HB.out HL.out HNC.out hcc (by omega) (HT.out.below hb3)).mono ?_
  rintro e w4 ⟨v4, rfl, hr4⟩
  obtain ⟨gy, cy, rfl, hgy, hcy, hoy⟩ := hr4.form
  rw [← HS.out] at hoy
  have hatx4 : At .u8 w4 w3.heap.size (some ⟨gx, 0, none⟩) S := hatx.below hr4.2 (Nat.le_refl _)
  have hatc4 : At .u8 w4 w3.heap.size Ac l := hatc3.below hr4.2 (Nat.le_refl _)
  have hb4 := hb3.trans (hr4.2.mono hb3.size)
  have hw34 : w3.heap.size ≤ w4.heap.size := hr4.2.size
  have hwy : w.heap.size ≤ gy := Nat.le_trans hb3.size hgy
  clear hb3 hr4 hatc3 hatx
  go_wp2_with fail
  with_reducible refine (equal_any (some ⟨gx, 0, none⟩) (some ⟨gy, 0, none⟩) S S 32 32 cx cy w4 _ _ hatx4 (At.of_own hoy) HSB.out HSB.out HSL.out HSL.out (by omega) (by omega)).mono ?_
  rw [decide_eq_true (rfl : S = S)]
  rintro e w' ⟨rfl, d4, rfl⟩
  have hatx5 : At .u8 (w4.drewN d4) w3.heap.size (some ⟨gx, 0, none⟩) S := hatx4
  have hatc5 : At .u8 (w4.drewN d4) w3.heap.size Ac l := hatc4
  have hoy5 : (w4.drewN d4).ownsRow w3.heap.size 5 1 (.slice (some ⟨gy, 0, none⟩) 32 cy) 32 (cn .u8 S) := hoy
  have hb5 : Below w.heap.size w (w4.drewN d4) := below_drewN hb4 d4
  have hw35 : w3.heap.size ≤ (w4.drewN d4).heap.size := hw34
  clear hatx4 hatc4 hoy hb4 hw34
  generalize w4.drewN d4 = w5 at hatx5 hatc5 hoy5 hb5 hw35 ⊢
  have cy0 : w5.cell? ⟨gy, 0, none⟩ = some (.int .u8 (y0 : Int)) := by rw [own_at hoy5 (by rw [HSL.out]; omega), HY0.out]
  have fy0 : w5.frozen? ⟨gy, 0, none⟩ = false := own_free hoy5
  have haty6 := own_put (i := 0) (x := y1) hoy5
  have hatx6 : At .u8 (w5.setCell ⟨gy, 0, none⟩ (.int .u8 (y1 : Int))) (w5.setCell ⟨gy, 0, none⟩ (.int .u8 (y1 : Int))).heap.size (some ⟨gx, 0, none⟩) S := (hatx5.far (p := ⟨gy, 0, none⟩) hgy _).more (by simpa [World.setCell] using hw35)
  have hatc6 : At .u8 (w5.setCell ⟨gy, 0, none⟩ (.int .u8 (y1 : Int))) (w5.setCell ⟨gy, 0, none⟩ (.int .u8 (y1 : Int))).heap.size Ac l := (hatc5.far (p := ⟨gy, 0, none⟩) hgy _).more (by simpa [World.setCell] using hw35)
  have hb6 : Below w.heap.size w (w5.setCell ⟨gy, 0, none⟩ (.int .u8 (y1 : Int))) := hb5.setCell hwy _
  have HY6 := Lib.hid haty6
  have HX6 := Lib.hid hatx6
  have HC6 := Lib.hid hatc6
  clear haty6 hatx6 hatc6 hatx5 hatc5 hoy5 hb5 hw35
  go_wp2_with fail
  generalize w5.setCell ⟨gy, 0, none⟩ (.int .u8 (y1 : Int)) = w6 at HY6 HX6 HC6 hb6 ⊢
  clear cy0 fy0
  with_reducible refine (ssalted_any A' Ac s l J HJ.out n' n c' cc w6 (HA'.out _ hb6) HC6.out HB'.out HB.out HL'.out HL.out HC'.out HNC.out (by omega) (by omega) (HT.out.below hb6)).mono ?_
  rintro e w7 ⟨v7, rfl, hr7⟩
  obtain ⟨Az, cz, rfl, hatz, _, _⟩ := hr7.sum
  have HY7 := Lib.hid (HY6.out.up hr7.2)
  have HX7 := Lib.hid (HX6.out.up hr7.2)
  have HC7 := Lib.hid (HC6.out.up hr7.2)
  have HZ7 := Lib.hid hatz
  have hb7 := hb6.trans (hr7.2.mono hb6.size)
  clear HY6 HX6 HC6 hb6 hr7 hatz
  have hown0 := Lib.hid (own_empty w7 w7.heap.size (Nat.le_refl _))
  have hs7 : At .u8 (w7.alloc (.cells #[] 5)) w7.heap.size A' s := (HA'.out _ hb7).below ((Below.refl _ _).alloc (Nat.le_refl _) _) (Nat.le_refl _)
  have hl7 := Lib.hid (HA.out _ hb7)
  go_wp2_with (first
    | (at_builtin; refine wpList_append_at rfl (.tmp 49) (.tmp 50) rfl w7.heap.size _ [] rfl hown0.out A' s _ c' HL'.out rfl HC'.out _ hs7 ?_ ?_ ?_; (rotate_right; intro v8 w8 hown8 hg8; have hb8 : Below w7.heap.size w7 w8 := ((Below.refl _ _).alloc (Nat.le_refl _) _).grown hg8 (by simp) (own_block hown0.out)))
    | (at_builtin; refine wpList_append_at rfl (.tmp 51) (.tmp 52) rfl w7.heap.size _ s rfl (hown8.alloc _) (some ⟨w8.heap.size, 0, none⟩) [0] _ 1 rfl rfl (fun h => by cases h) _ (At.new w8 [0] 5 (0, 0)) ?_ ?_ ?_; (rotate_right; intro v9 w9 hown9 hg9; have hb9 : Below w7.heap.size w7 w9 := (hb8.alloc hb8.size _).grown hg9 (by have := hb8.size; simp; omega) (own_block hown8)))
    | (at_builtin; refine wpList_append_at rfl (.tmp 53) (.tmp 54) rfl w7.heap.size _ (s ++ [0]) rfl hown9 A l _ c HL.out rfl HC.out _ (hl7.out.below hb9 (Nat.le_refl _)) ?_ ?_ ?_; (rotate_right; intro v10 w10 hown10 hg10; rw [← HJ.out] at hown10; obtain ⟨AJ, cJ, rfl⟩ := own_shape hown10)))
  · have hbj : Below w7.heap.size w7 w10 := hb9.grown hg10 hb9.size (own_block hown9)
    have HY8 := Lib.hid (HY7.out.up hbj)
    have HX8 := Lib.hid (HX7.out.up hbj)
    have HC8 := Lib.hid (HC7.out.up hbj)
    have HZ8 := Lib.hid (HZ7.out.up hbj)
    have HJ8 := Lib.hid (At.of_own hown10)
    have HJN := Lib.hid (own_none hown10)
    have hJc := own_cap hown10
    have hb10 := hb7.trans (hbj.mono hb7.size)
    clear HY7 HX7 HC7 HZ7 hbj hown10 hg10 hown9 hg9 hown8 hg8 hb8 hb9 hb7 hown0 hs7 hl7
    go_wp2_with fail
    with_reducible refine (first_any w10 (HT.out.below hb10)).mono ?_
    rintro e w11 ⟨rfl, hbn⟩
    have HY9 := Lib.hid (HY8.out.up hbn)
    have HX9 := Lib.hid (HX8.out.up hbn)
    have HC9 := Lib.hid (HC8.out.up hbn)
    have HZ9 := Lib.hid (HZ8.out.up hbn)
    have HJ9 := Lib.hid (HJ8.out.up hbn)
    have hb11 := hb10.trans (hbn.mono hb10.size)
    clear HY8 HX8 HC8 HZ8 HJ8 hb10 hbn
    go_wp2_with fail
    with_reducible refine (bytes_any Ac A l l n n cc c w11 _ _ HC9.out (HA.out _ hb11) HB.out HB.out HL.out HL.out).mono ?_
    rw [decide_eq_true (rfl : l = l)]
    rintro e w' ⟨rfl, rfl⟩
    clear HC9
    go_wp2_with fail
    with_reducible refine (sone_any A l n c w11 (HA.out _ hb11) HB.out HL.out HC.out hnc (by omega) (HT.out.below hb11)).mono ?_
    rintro e w12 ⟨v12, rfl, hr12⟩
    obtain ⟨A12, c12, rfl, hat12, _, _⟩ := hr12.sum
    rw [← HS.out] at hat12
    have HY10 := Lib.hid (HY9.out.up hr12.2)
    have HX10 := Lib.hid (HX9.out.up hr12.2)
    have HZ10 := Lib.hid (HZ9.out.up hr12.2)
    have HJ10 := Lib.hid (HJ9.out.up hr12.2)
    have hb12 := hb11.trans (hr12.2.mono hb11.size)
    clear HY9 HX9 HZ9 HJ9 hb11 hr12
    go_wp2_with fail
    with_reducible refine (equal_any (some ⟨gx, 0, none⟩) A12 S S 32 32 cx c12 w12 _ _ HX10.out hat12 HSB.out HSB.out HSL.out HSL.out (by omega) (by omega)).mono ?_
    rw [decide_eq_true (rfl : S = S)]
    rintro e w' ⟨rfl, d12, rfl⟩
    have hbq : Below w12.heap.size w12 (w12.drewN d12) := below_drewN (Below.refl _ _) d12
    have HY11 := Lib.hid (HY10.out.up hbq)
    have HX11 := Lib.hid (HX10.out.up hbq)
    have HZ11 := Lib.hid (HZ10.out.up hbq)
    have HJ11 := Lib.hid (HJ10.out.up hbq)
    have hb13 := hb12.trans (hbq.mono hb12.size)
    clear HY10 HX10 HZ10 HJ10 hb12 hat12 hbq
    generalize w12.drewN d12 = w13 at HY11 HX11 HZ11 HJ11 hb13 ⊢
    go_wp2_with fail
    with_reducible refine (equal_any (some ⟨gx, 0, none⟩) (some ⟨gy, 0, none⟩) S (S.set 0 y1) 32 32 cx cy w13 _ _ HX11.out HY11.out HSB.out HYB.out HSL.out (by rw [List.length_set, HSL.out]) (by omega) (by omega)).mono ?_
    rw [HNE.out]
    rintro e w' ⟨rfl, d13, rfl⟩
    have hbq : Below w13.heap.size w13 (w13.drewN d13) := below_drewN (Below.refl _ _) d13
    have HX12 := Lib.hid (HX11.out.up hbq)
    have HZ12 := Lib.hid (HZ11.out.up hbq)
    have HJ12 := Lib.hid (HJ11.out.up hbq)
    have hb14 := hb13.trans (hbq.mono hb13.size)
    clear HY11 HX11 HZ11 HJ11 hb13 hbq
    generalize w13.drewN d13 = w14 at HX12 HZ12 HJ12 hb14 ⊢
    have hcx0 : ¬ cx = 0 := by omega
    have hcxi : (31 : Int) ≤ (cx : Int) := by omega
    have HX31 : Hid (At .u8 w14 w14.heap.size (some ⟨gx, 0, none⟩) (S.take 31)) := Lib.hid (by
      have h := HX12.out.cut (c := 32) (q := 0) (l' := S.take 31) (by rw [HSL.out]; omega) (fun i hi => by
        have hi' : i < 31 ∧ i < S.length := by simp at hi; omega
        exact ⟨by omega, by rw [Nat.zero_add, List.getElem?_take, if_pos hi'.1]⟩)
      exact h)
    go_wp2_with fail
    with_reducible refine (equal_any (some ⟨gx, 0, none⟩) (some ⟨gx, 0, none⟩) S (S.take 31) 32 31 cx cx w14 _ _ HX12.out HX31.out HSB.out (fun x hx => HSB.out x (List.mem_of_mem_take hx)) HSL.out (by rw [List.length_take, HSL.out]; omega) (by omega) (by omega)).mono ?_
    rw [HT31.out]
    rintro e w' ⟨rfl, d14, rfl⟩
    have hbq : Below w14.heap.size w14 (w14.drewN d14) := below_drewN (Below.refl _ _) d14
    have HZ13 := Lib.hid (HZ12.out.up hbq)
    have HJ13 := Lib.hid (HJ12.out.up hbq)
    have hb15 := hb14.trans (hbq.mono hb14.size)
    clear HX12 HX31 HZ12 HJ12 hb14 hbq
    generalize w14.drewN d14 = w15 at HZ13 HJ13 hb15 ⊢
    go_wp2_with fail
    with_reducible refine (sone_any AJ J J.length cJ w15 HJ13.out HJB.out rfl HJN.out hJc (by omega) (HT.out.below hb15)).mono ?_
    rintro e w16 ⟨v16, rfl, hr16⟩
    obtain ⟨A16, c16, rfl, hat16, _, _⟩ := hr16.sum
    have HZ14 := Lib.hid (HZ13.out.up hr16.2)
    have hb16 := hb15.trans (hr16.2.mono hb15.size)
    clear HZ13 HJ13 hb15 hr16
    go_wp2_with fail
    with_reducible refine (equal_any Az A16 (sum J) (sum J) 32 32 cz c16 w16 _ _ HZ14.out hat16 (sum_byte J) (sum_byte J) (sum_len J) (sum_len J) (by omega) (by omega)).mono ?_
    rw [decide_eq_true (rfl : sum J = sum J)]
    rintro e w' ⟨rfl, d16, rfl⟩
    have hb17 : Below w.heap.size w (w16.drewN d16) := below_drewN hb16 d16
    clear HZ14 hat16 hb16
    go_wp2_with fail
    go_ret
    exact ⟨rfl, hb17⟩
  all_goals (have := HL.out; have := HL'.out; first | (simp; omega) | (have := hb8.size; simp; omega) | (have := hb9.size; simp; omega) | simp)
theorem walk (A A' : Option Addr) (l s : List Nat) (c c' : Nat) (w : World) (hT : Tab w) (hA : At .u8 w w.heap.size A l) (hA' : At .u8 w w.heap.size A' s)
    (hb : ∀ x ∈ l, x < 256) (hb' : ∀ x ∈ s, x < 256) (hc : A = none → c = 0) (hc' : A' = none → c' = 0) (hnc : l.length ≤ c) :
    Calls Tryd.prog 4 #[.slice A l.length c, .slice A' s.length c'] w (Yes w) := by
  by_cases hl : 2000 < l.length ∨ 2000 < s.length
  · exact walk_long A A' _ _ c c' w hT hl
  · exact walk_short A A' l s _ _ c c' w hT hA hA' hb hb' rfl rfl hc hc' hnc (by omega) (by omega)

set_option maxRecDepth 100000 in
theorem lifted (os : Os) (started : os.Started) (H : Type) (enc : TypeId × Value → H) :
    ReturnsInHanded {} Tryd.checked os 4 .any (fun w args => (Rows.shaOwnSpec.pre enc Tryd.prog Tryd.f4 [] false w args ∧ laidMetH Tryd.prog laid1 w) ∧ sizedMet enc Tryd.prog Tryd.f4 (OpenSpec.ofChange Rows.shaOwnSpec) false w args)
      (Rows.shaOwnSpec.post enc Tryd.prog Tryd.f4 false true false false) := by
  refine returnsInHanded_of_change_and (C := Tryd.checked) (X := fun w _ => laidMetH Tryd.prog laid1 w) (fun _ _ _ hh h => h.of_heap hh) own started (by kernel_rfl) Tryd.func4
    (ChangeSpec.witness_shaped (enc := enc) (C := Tryd.checked) (os := os) (X := fun w _ => laidMetH Tryd.prog laid1 w) false (World.doorLaid Tryd.prog 14 os) #[.slice none 0 0, .slice none 0 0] 8 rfl (World.shaped_of_RefB (by kernel_rfl) (by kernel_rfl)) (by kernel_rfl) (by kernel_rfl) (by kernel_rfl) (door_met os _)) ?_
  intro W base args ds gs before hval0 hW _ _ hL _
  have hval : ∀ (j : Nat) t v, Tryd.f4.params[j]? = some t → args[j]? = some v → Value.okWide Tryd.prog W .any base t v := hval0
  have hW' := hW
  obtain ⟨p, q, hA0, hV, rfl, hfz, hnd⟩ := hW
  have hA : DataW.TrodAll enc Tryd.prog W 0 (fun _ => true) true Tryd.f4.params.toList args.toList ds p := hA0
  rw [Tryd.params4] at hA hval
  obtain ⟨v0, vs0, d0, ds0, p0, q0, hargs, rfl, rfl, h0, r0⟩ := trodAll_cons hA
  obtain ⟨v1, vs1, d1, ds1, p1, q1, rfl, rfl, rfl, h1, r1⟩ := trodAll_cons r0
  obtain ⟨rfl, rfl, rfl⟩ := trodAll_nil r1
  obtain rfl : args = #[v0, v1] := by cases args; simp_all
  obtain ⟨rfl, rfl⟩ := trodVars_none hV
  obtain ⟨a0, len0, cap0, rfl⟩ := okWide_slice Tryd.underlying22 (hval 0 22 v0 rfl rfl)
  have k0 := h0
  have lt0 : ∀ x ∈ p0, x.block < W.heap.size := by obtain ⟨m, hm⟩ := k0; exact DataW.trod_lt m _ _ _ hm
  obtain ⟨l0, rfl, c0, n0, b0, w0⟩ := opened h0
  obtain ⟨a1, len1, cap1, rfl⟩ := okWide_slice Tryd.underlying22 (hval 1 22 v1 rfl rfl)
  have k1 := h1
  have lt1 : ∀ x ∈ p1, x.block < W.heap.size := by obtain ⟨m, hm⟩ := k1; exact DataW.trod_lt m _ _ _ hm
  obtain ⟨l1, rfl, c1, n1, b1, w1⟩ := opened h1
  have hT := tab_of_laid hL
  clear hA0 hval0
  refine (walk a0 a1 l0 l1 cap0 cap1 W hT w0 w1 b0 b1 n0 n1 c0).mono fun e W' ⟨he, bel⟩ => ?_
  subst he
  exact ⟨_, rfl, _, _, _, [], _, [], hW', trodAll_mk1 (shut_bool Tryd.underlying4 _), (trodAll_cons_mk (Below.trod laidOut (by kernel_rfl) (of_decide_eq_true (by kernel_rfl)) k0 bel lt0) (trodAll_cons_mk (Below.trod laidOut (by kernel_rfl) (of_decide_eq_true (by kernel_rfl)) k1 bel lt1) trodAll_mk0)), rfl, bel.frame _, fun h => by cases h⟩

theorem over : Rows.shaOwnRow.holds Tryd.pinned (OpenSpec.ofChange Rows.shaOwnSpec) :=
  OpenClaim.holds_of_wide 4 Tryd.f4 rfl rfl rfl rfl rfl rfl rfl ⟨rfl, rfl, rfl, rfl, rfl⟩ rfl rfl rfl rfl rfl (by kernel_rfl) Tryd.func4 (by kernel_rfl)
    (of_decide_eq_true (by kernel_rfl)) (by unfold Func.isWrapper; first | (rw [if_pos (by decide +kernel)]; kernel_rfl) | (rw [if_neg (by decide +kernel)]; exact ⟨rfl, rfl⟩))
    (fun os started H enc _ => lifted os started H enc)

end Go.Proofs.YthaecckneblecaaDoor.shaOwn
namespace Go.Proofs.YthaecckneblecaaDoor
theorem shaOwn_holds : Rows.ShaOwnCardSaid :=
  Claim7.holds_tied_plain_at .later [] [.data] true (true, "49f9cc08ee9b641f6f38c9c905c1d8a058b6377c34e7407e40867af2676a575d") false
    shaOwn.over (fun _ h => by cases h) (by kernel_rfl) (fun _ h => by cases h) shaOwn_row_tie rfl ⟨rfl, rfl⟩ (by kernel_rfl) rfl
    (fun f fn hf hfn => by
      obtain rfl : f = 4 := Option.some.inj ((show Tryd.prog.funcNamed Rows.shaOwnRow.func = some 4 by kernel_rfl).symm.trans hf) |>.symm
      obtain rfl : fn = Tryd.f4 := (Option.some.inj (Tryd.func4.symm.trans hfn)).symm
      exact ⟨by kernel_rfl, fun j t ht => by
        rw [Tryd.params4] at ht
        have hm : t ∈ [22, 22] := by simpa using Array.mem_of_getElem? ht
        have hall : ([22, 22].all fun u => !Tryd.prog.wantsStandIn u) = true := by kernel_rfl
        exact (show Tryd.prog.wantsStandIn t = false by simpa using List.all_eq_true.1 hall t hm)⟩)
    (by kernel_rfl)
#print axioms shaOwn_holds
end Go.Proofs.YthaecckneblecaaDoor
