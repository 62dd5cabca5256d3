/- The walk of PackLimits. -/
import Derived.Test.YtiandidencnlcaaDoorUObj
namespace Go.Proofs.YtiandidencnlcaaDoor
open Go.RowKit

theorem put0 : Pn.put 32 5 0 = [32] := by decide
theorem add_none (f : Fld) : addL 0 f [] = [] := by
  rw [addL, fitL, if_neg]
  rw [kept_size]
  unfold fsize
  omega
theorem enc_none (m : Nat) (T : List Fld) (tl ls : Nat) : EncS.enc ⟨m, T, tl, ls, false⟩ [] = ([], 0, ⟨m, T, m, ls, false⟩) := by simp [EncS.enc, allFit, EncS.lims, pall]
theorem enc_lim (f : Fld) (hf : f.fits) (hn : f.never = false) : ∃ B, 1 ≤ B.length ∧ (EncS.new.peer 0).enc [f] = (32 :: B, 0, ⟨0, [], 0, 0, false⟩) := by
  have h1 : EncS.new.peer 0 = ⟨0, [], 4096, 0, true⟩ := by kernel_rfl
  have hx : allFit [f] = true := allFit_iff.2 (fun g hg => by simp at hg; subst hg; exact hf)
  refine ⟨(pfld 0 [] f).1, pfld_pos _ _ _, ?_⟩
  have ht : (pfld 0 [] f).2 = [] := by
    unfold pfld
    split
    · rfl
    · show (if f.never then [] else addL 0 f []) = []
      rw [hn]
      exact add_none f
  have hlm : EncS.lims ⟨0, [], 4096, 0, true⟩ = [32] := by decide
  rw [h1, EncS.enc, hx, hlm]
  simp [pall, ht]
theorem enc_again : (EncS.peer ⟨0, [], 0, 0, false⟩ 0).enc [] = ([], 0, ⟨0, [], 0, 0, false⟩) := by kernel_rfl
theorem enc_more (n : Nat) (hn : n ≤ 5000) : ∃ B ls, (B = [] ↔ n = 0) ∧ (EncS.peer ⟨0, [], 0, 0, false⟩ (n : Int)).enc [] = (B, 0, ⟨min n 4096, [], min n 4096, ls, false⟩) := by
  have hc : clampT (n : Int) = min n 4096 := by unfold clampT; omega
  have h1 : EncS.peer ⟨0, [], 0, 0, false⟩ (n : Int) = ⟨min n 4096, [], 0, min n 4096, true⟩ := by simp [EncS.peer, hc, fitL]
  by_cases h0 : n = 0
  · subst h0
    exact ⟨[], 0, by simp, by kernel_rfl⟩
  · refine ⟨Pn.put 32 5 (min n 4096), min n 4096, ?_, ?_⟩
    · have := Pn.put_pos 32 5 (min n 4096)
      constructor
      · intro e; rw [e] at this; simp at this
      · intro e; exact absurd e h0
    · rw [h1]
      have hm : ¬ min n 4096 = 0 := by omega
      simp [EncS.enc, allFit, EncS.lims, pall, hm]
namespace packLimits
set_option maxRecDepth 100000 in
set_option maxHeartbeats 8000000 in
theorem walk_in (F1 F2 : ByteArray) (F3 : Bool) (n : Nat) (w : World) (hR : Rdy w) (h1 : F1.size ≤ 300) (h2 : F2.size ≤ 300) (hn : n ≤ 5000) : Calls Tryd.prog 6 #[.agg #[.string F1, .string F2, .bool F3], .int .i64 (n : Int)] w (Yes w) := by
  have HR := Lib.hid fun (w' : World) (hb : Below w.heap.size w w') => hR.below hb
  -- the box
  have hb0 : Below w.heap.size w (w.alloc (.cells #[.string F1, .string F2, .bool F3] 52)) := (Below.refl _ _).alloc (Nat.le_refl _) _
  have hh0 : (w.alloc (.cells #[.string F1, .string F2, .bool F3] 52)).heap[w.heap.size]? = some (.cells #[.string F1, .string F2, .bool F3] 52 (0, 0)) := heap_alloc_new w _
  obtain ⟨g, hg⟩ : ∃ g, g = w.heap.size := ⟨_, rfl⟩
  obtain ⟨w0, hw0⟩ : ∃ W, W = w.alloc (.cells #[.string F1, .string F2, .bool F3] 52) := ⟨_, rfl⟩
  rw [← hw0] at hb0 hh0
  rw [← hg] at hh0
  have HFI := Lib.hid (first9_any w0 (HR.out w0 hb0))
  have HB0 := Lib.hid hb0
  have HH0 := Lib.hid hh0
  have HG := Lib.hid hg
  have HW0 := Lib.hid hw0
  obtain ⟨nl, hnl⟩ : ∃ n, n = F1.size := ⟨_, rfl⟩
  obtain ⟨vl, hvl⟩ : ∃ n, n = F2.size := ⟨_, rfl⟩
  have sn : F1.size = nl := hnl.symm
  have sv : F2.size = vl := hvl.symm
  rw [sn] at h1
  rw [sv] at h2
  have c1 : ¬ (300 : Int) < (nl : Int) := by omega
  have c2 : ¬ (300 : Int) < (vl : Int) := by omega
  have c3 : ¬ (n : Int) < 0 := by omega
  have c4 : ¬ (5000 : Int) < (n : Int) := by omega
  have HSN := Lib.hid sn
  have HSV := Lib.hid sv
  clear hR hb0 hh0 hg hw0 hnl hvl
  go_enter Tryd.func6, Tryd.ntmps6
  go_wp2_with fail
  rw [← HW0.out, ← HG.out]
  with_reducible refine (HFI.out).mono ?_
  rintro e w1 ⟨rfl, hb1⟩
  have hh1 : w1.heap[g]? = some (.cells #[.string F1, .string F2, .bool F3] 52 (0, 0)) := (hb1.block g (lt_of_heap HH0.out)).trans HH0.out
  have x0 : w1.cell? ⟨g, 0, none⟩ = some (.string F1) := cell_of_row _ g 0 _ 52 _ hh1
  have x1 : w1.cell? ⟨g, 1, none⟩ = some (.string F2) := cell_of_row _ g 1 _ 52 _ hh1
  have hbw1 := HB0.out.trans (hb1.mono HB0.out.size)
  have HN := Lib.hid (HasQ.new (HR.out _ hbw1) hbw1)
  have HH1 := Lib.hid hh1
  clear hb1 hh1 hbw1 HFI HH0
  go_wp2_with fail
  with_reducible refine (HN.out).mono ?_
  rintro e w2 ⟨p, t, rfl, hH2, hb2⟩
  have hgl1 := lt_of_heap HH1.out
  have hh2 : w2.heap[g]? = some (.cells #[.string F1, .string F2, .bool F3] 52 (0, 0)) := (hb2.block g hgl1).trans HH1.out
  have HH2 := Lib.hid hh2
  have HHQ := Lib.hid (hH2.less (X' := fun x => x = g) (fun x hx => by subst hx; exact hgl1))
  have HTB := Lib.hid (hH2.table (HR.out _ hH2.below))
  clear hb2 hh2 hH2 HN hgl1 x0 x1
  go_wp2_with fail
  with_reducible refine (HTB.out).mono ?_
  rintro e w3 ⟨rfl, _, hb3⟩
  have hgl2 := lt_of_heap HH2.out
  have hgw : w.heap.size ≤ g := by have := HG.out; omega
  have hh3 : w3.heap[g]? = some (.cells #[.string F1, .string F2, .bool F3] 52 (0, 0)) := (hb3.block g hgl2).trans HH2.out
  have x2 : w3.cell? ⟨g, 2, none⟩ = some (.bool F3) := cell_of_row _ g 2 _ 52 _ hh3
  have f2 : w3.frozen? ⟨g, 2, none⟩ = false := frozen_of_row w3 g 2 _ 52 hh3
  have hk4 : Keeps (fun x => x = g) w3 (w3.setCell ⟨g, 2, none⟩ (.bool false)) := (Keeps.refl (fun x => x = g) w3).setCell (S := fun x => x = g) (p := ⟨g, 2, none⟩) rfl _
  have hh4 : (w3.setCell ⟨g, 2, none⟩ (.bool false)).heap[g]? = some (.cells #[.string F1, .string F2, .bool false] 52 (0, 0)) := by
    have := heap_setCell_same w3 g 2 _ 52 (.bool false) hh3
    simpa using this
  have hH4 := (HHQ.out.quiet hb3).touch hk4 rfl hgw
  have HPR := Lib.hid (hH4.peer (HR.out _ hH4.below) 0 (by unfold Rng; omega))
  have HH4 := Lib.hid hh4
  clear hb3 hh3 hk4 hh4 hH4 HHQ HTB HH2 HH1 hgl2
  go_wp2_with fail
  with_reducible refine (HPR.out).mono ?_
  rintro e w5 ⟨rfl, hH5, hz5, hkp5⟩
  have hh5 : w5.heap[g]? = some (.cells #[.string F1, .string F2, .bool false] 52 (0, 0)) := (hkp5 g rfl).trans HH4.out
  have y0 : w5.cell? ⟨g, 0, none⟩ = some (.string F1) := cell_of_row _ g 0 _ 52 _ hh5
  have y1 : w5.cell? ⟨g, 1, none⟩ = some (.string F2) := cell_of_row _ g 1 _ 52 _ hh5
  have y2 : w5.cell? ⟨g, 2, none⟩ = some (.bool false) := cell_of_row _ g 2 _ 52 _ hh5
  have hba : Below w5.heap.size w5 (w5.alloc (.cells #[.string F1, .string F2, .bool false] 52)) := (Below.refl _ _).alloc (Nat.le_refl _) _
  have hH6 := hH5.more hba
  obtain ⟨B, hB1, hBe⟩ := enc_lim ⟨F1, F2, false⟩ ⟨by have := HSN.out; simp only []; omega, by have := HSV.out; simp only []; omega⟩ rfl
  have hD := hH6.enc (HR.out _ hH6.below) (some ⟨w5.heap.size, 0, none⟩) [⟨F1, F2, false⟩] 1 1 (atF_lit w5 [⟨F1, F2, false⟩]) rfl (fun h => by cases h) (Nat.le_refl _) (fun _ a ha => by injection ha with ha; subst ha; exact .inr ⟨Nat.le_refl _, by simp⟩) (by have := HSN.out; have := HSV.out; simp only [tot, fsize]; omega)
  rw [hBe] at hD
  obtain ⟨m, hm⟩ : ∃ m, m = B.length := ⟨_, rfl⟩
  simp only [List.length_cons, ← hm] at hD
  rw [← hm] at hB1
  have HD1 := Lib.hid hD
  clear hD hBe hba hH5 hH6 hz5 hkp5 hh5 HH4 HPR x2 f2 hm
  go_wp2_with fail
  with_reducible refine (HD1.out).mono ?_
  rintro e w6 ⟨A6, c6, rfl, hH6, ho6⟩
  obtain ⟨b6, o6, rfl, hb6, hc6⟩ := ho6.at' (by simp)
  have k6 : w6.cell? ⟨b6, o6, none⟩ = some (.int .u8 32) := by
    have := hc6 0 (by simp)
    simpa using this
  have hH6' : HasQ w (fun x => x = b6) p t ⟨0, [], 0, 0, false⟩ w6 := hH6.less (fun x hx => by subst hx; exact .inr ⟨hb6, _, _, rfl⟩)
  have hD := hH6'.enc (HR.out _ hH6'.below) none [] 0 0 (atF_nil _ _ _) rfl (fun _ => rfl) (Nat.le_refl _) (fun h => absurd rfl h) (by simp [tot])
  rw [enc_none] at hD
  simp only [List.length_nil] at hD
  have HD2 := Lib.hid hD
  have K6 := Lib.hid k6
  clear hD hH6 ho6 hc6 hH6' HD1 y0 y1 y2 hb6 k6
  go_wp2_with fail
  with_reducible refine (HD2.out).mono ?_
  rintro e w7 ⟨A7, c7, rfl, hH7, ho7⟩
  have k7 : w7.cell? ⟨b6, o6, none⟩ = some (.int .u8 32) := (World.cell?_of_block (a := ⟨b6, o6, none⟩) (ho7.kept b6 rfl)).trans K6.out
  have hH7' : HasQ w (fun x => x = b6) p t ⟨0, [], 0, 0, false⟩ w7 := hH7.less (fun x hx => .inl hx)
  have HTB := Lib.hid (hH7'.table (HR.out _ hH7'.below))
  have K7 := Lib.hid k7
  clear hH7 ho7 HD2 k7 hH7' K6
  go_wp2_with fail
  with_reducible refine (HTB.out).mono ?_
  rintro e w8 ⟨rfl, hH8, hb8⟩
  have hb6l := World.block_lt_of_cell? w7 _ K7.out
  have k8 := (hb8.cell (p := ⟨b6, o6, none⟩) hb6l).trans K7.out
  have K8 := Lib.hid k8
  have HLN := Lib.hid (hH8.len (HR.out _ hH8.below))
  have HH8 := Lib.hid hH8
  clear hH8 hb8 k8 K7 HTB hb6l
  go_wp2_with fail
  with_reducible refine (HLN.out).mono ?_
  rintro e w9 ⟨rfl, hb9⟩
  have hb6l := World.block_lt_of_cell? w8 _ K8.out
  have K9 := Lib.hid ((hb9.cell (p := ⟨b6, o6, none⟩) hb6l).trans K8.out)
  have hH9 := HH8.out.quiet hb9
  have HPR := Lib.hid (hH9.peer (HR.out _ hH9.below) 0 (by unfold Rng; omega))
  simp only [List.length_nil]
  clear hb9 HLN HH8 hH9 K8 hb6l
  go_wp2_with fail
  with_reducible refine (HPR.out).mono ?_
  rintro e w10 ⟨rfl, hH10, _, hkp10⟩
  have K10 := Lib.hid ((World.cell?_of_block (a := ⟨b6, o6, none⟩) (hkp10 b6 rfl)).trans K9.out)
  have hD := hH10.enc (HR.out _ hH10.below) none [] 0 0 (atF_nil _ _ _) rfl (fun _ => rfl) (Nat.le_refl _) (fun h => absurd rfl h) (by simp [tot])
  rw [enc_again] at hD
  simp only [List.length_nil] at hD
  have HD3 := Lib.hid hD
  clear hD hH10 hkp10 HPR K9
  go_wp2_with fail
  with_reducible refine (HD3.out).mono ?_
  rintro e w11 ⟨A11, c11, rfl, hH11, ho11⟩
  have K11 := Lib.hid ((World.cell?_of_block (a := ⟨b6, o6, none⟩) (ho11.kept b6 rfl)).trans K10.out)
  have hH11' : HasQ w (fun x => x = b6) p t ⟨0, [], 0, 0, false⟩ w11 := hH11.less (fun x hx => .inl hx)
  have HPR := Lib.hid (hH11'.peer (HR.out _ hH11'.below) (n : Int) (by unfold Rng; omega))
  clear hH11 ho11 HD3 K10 hH11'
  go_wp2_with fail
  with_reducible refine (HPR.out).mono ?_
  rintro e w12 ⟨rfl, hH12, _, hkp12⟩
  have K12 := Lib.hid ((World.cell?_of_block (a := ⟨b6, o6, none⟩) (hkp12 b6 rfl)).trans K11.out)
  have hD := hH12.enc (HR.out _ hH12.below) none [] 0 0 (atF_nil _ _ _) rfl (fun _ => rfl) (Nat.le_refl _) (fun h => absurd rfl h) (by simp [tot])
  obtain ⟨B2, ls, hB2, hBe2⟩ := enc_more n hn
  rw [hBe2] at hD
  obtain ⟨m2, hm2⟩ : ∃ m, m = B2.length := ⟨_, rfl⟩
  obtain ⟨mm, hmm⟩ : ∃ m, m = min n 4096 := ⟨_, rfl⟩
  simp only [← hm2, ← hmm] at hD
  have HD4 := Lib.hid hD
  have q0 : ((m2 : Int) == 0) = ((n : Int) == 0) := by
    by_cases h0 : n = 0
    · have : B2 = [] := hB2.2 h0
      rw [hm2, this, h0]
      rfl
    · have h3 : ¬ m2 = 0 := fun e => h0 (hB2.1 (List.length_eq_zero_iff.1 (hm2 ▸ e)))
      have e1 : ((m2 : Int) == 0) = false := by simp; omega
      have e2 : ((n : Int) == 0) = false := by simp; omega
      rw [e1, e2]
  have em2 : min (n : Int) 4096 = (mm : Int) := by rw [hmm]; omega
  have em : (if (4096 : Int) < (n : Int) then 4096 else (n : Int)) = (mm : Int) := by
    rw [hmm]
    split <;> omega
  have HQ0 := Lib.hid q0
  clear hD hH12 hkp12 HPR K11 hm2 hmm hB2 hBe2 q0
  go_wp2_with fail
  with_reducible refine (HD4.out).mono ?_
  rintro e w13 ⟨A13, c13, rfl, hH13, ho13⟩
  simp only []
  have K13 := Lib.hid ((World.cell?_of_block (a := ⟨b6, o6, none⟩) (ho13.kept b6 rfl)).trans K12.out)
  have HF2 := Lib.hid (first9_any w13 (HR.out _ hH13.below))
  have HH13 := Lib.hid hH13
  clear hH13 ho13 HD4 K12
  go_wp2_with fail
  with_reducible refine (HF2.out).mono ?_
  rintro e w14 ⟨rfl, hb14⟩
  have hb6l := World.block_lt_of_cell? w13 _ K13.out
  have k14 := (hb14.cell (p := ⟨b6, o6, none⟩) hb6l).trans K13.out
  have hH14 := HH13.out.quiet hb14
  have HTB := Lib.hid (hH14.table (HR.out _ hH14.below))
  have ml : (1 : Int) < ((m + 1 : Nat) : Int) := by omega
  have q0 := HQ0.out
  clear hb14 hH14 K13 HH13 HF2 hb6l
  go_wp2_with fail
  with_reducible refine (HTB.out).mono ?_
  rintro e w15 ⟨rfl, hH15, _⟩
  have HMS := Lib.hid (hH15.most (HR.out _ hH15.below))
  have HH15 := Lib.hid hH15
  clear hH15 HTB k14
  go_wp2_with fail
  with_reducible refine (HMS.out).mono ?_
  rintro e w16 ⟨rfl, hb16⟩
  have hZ := (HH15.out.quiet hb16).below
  clear hb16 HH15 HMS
  simp only []
  go_wp2
  go_ret
  exact ⟨rfl, hZ⟩
set_option maxRecDepth 100000 in
set_option maxHeartbeats 8000000 in
theorem walk_not (F1 F2 : ByteArray) (F3 : Bool) (n : Int) (w : World) (hR : Rdy w) (h1 : F1.size ≤ maxLen) (h2 : F2.size ≤ maxLen) (ho : ¬ (F1.size ≤ 300 ∧ F2.size ≤ 300 ∧ 0 ≤ n ∧ n ≤ 5000)) : Calls Tryd.prog 6 #[.agg #[.string F1, .string F2, .bool F3], .int .i64 n] w (Yes w) := by
  have HR := Lib.hid fun (w' : World) (hb : Below w.heap.size w w') => hR.below hb
  have hb0 : Below w.heap.size w (w.alloc (.cells #[.string F1, .string F2, .bool F3] 52)) := (Below.refl _ _).alloc (Nat.le_refl _) _
  have hh0 : (w.alloc (.cells #[.string F1, .string F2, .bool F3] 52)).heap[w.heap.size]? = some (.cells #[.string F1, .string F2, .bool F3] 52 (0, 0)) := heap_alloc_new w _
  obtain ⟨g, hg⟩ : ∃ g, g = w.heap.size := ⟨_, rfl⟩
  obtain ⟨w0, hw0⟩ : ∃ W, W = w.alloc (.cells #[.string F1, .string F2, .bool F3] 52) := ⟨_, rfl⟩
  rw [← hw0] at hb0 hh0
  rw [← hg] at hh0
  have HFI := Lib.hid (first9_any w0 (HR.out w0 hb0))
  have HB0 := Lib.hid hb0
  have HH0 := Lib.hid hh0
  have HG := Lib.hid hg
  have HW0 := Lib.hid hw0
  obtain ⟨nl, hnl⟩ : ∃ n, n = F1.size := ⟨_, rfl⟩
  obtain ⟨vl, hvl⟩ : ∃ n, n = F2.size := ⟨_, rfl⟩
  have sn : F1.size = nl := hnl.symm
  have sv : F2.size = vl := hvl.symm
  unfold maxLen at h1 h2
  rw [sn] at h1 ho
  rw [sv] at h2 ho
  clear hR hb0 hh0 hg hw0 hnl hvl
  rcases (show (300 : Int) < (nl : Int) ∨ (¬ (300 : Int) < (nl : Int) ∧ (300 : Int) < (vl : Int)) ∨ (¬ (300 : Int) < (nl : Int) ∧ ¬ (300 : Int) < (vl : Int) ∧ n < 0) ∨ (¬ (300 : Int) < (nl : Int) ∧ ¬ (300 : Int) < (vl : Int) ∧ ¬ n < 0 ∧ 5000 < n) by omega) with c1 | ⟨c1, c2⟩ | ⟨c1, c2, c3⟩ | ⟨c1, c2, c3, c4⟩
  all_goals
    clear ho
    go_enter Tryd.func6, Tryd.ntmps6
    go_wp2_with fail
    rw [← HW0.out, ← HG.out]
    with_reducible refine (HFI.out).mono ?_
    rintro e w1 ⟨rfl, hb1⟩
    have hh1 : w1.heap[g]? = some (.cells #[.string F1, .string F2, .bool F3] 52 (0, 0)) := (hb1.block g (lt_of_heap HH0.out)).trans HH0.out
    have x0 : w1.cell? ⟨g, 0, none⟩ = some (.string F1) := cell_of_row _ g 0 _ 52 _ hh1
    have x1 : w1.cell? ⟨g, 1, none⟩ = some (.string F2) := cell_of_row _ g 1 _ 52 _ hh1
    have hbw1 := HB0.out.trans (hb1.mono HB0.out.size)
    have HF2 := Lib.hid (first9_any w1 (HR.out _ hbw1))
    have HBW := Lib.hid hbw1
    clear hb1 hh1 hbw1
    go_wp2_with fail
    with_reducible refine (HF2.out).mono ?_
    rintro e w2 ⟨rfl, hb2⟩
    have hZ := HBW.out.trans (hb2.mono HBW.out.size)
    clear x0 x1 hb2
    go_wp2
    go_ret
    exact ⟨rfl, hZ⟩
theorem walk (F1 F2 : ByteArray) (F3 : Bool) (n : Int) (w : World) (hR : Rdy w) (h1 : F1.size ≤ maxLen) (h2 : F2.size ≤ maxLen) : Calls Tryd.prog 6 #[.agg #[.string F1, .string F2, .bool F3], .int .i64 n] w (Yes w) := by
  by_cases h : F1.size ≤ 300 ∧ F2.size ≤ 300 ∧ 0 ≤ n ∧ n ≤ 5000
  · obtain ⟨k, rfl⟩ : ∃ k : Nat, n = (k : Int) := ⟨n.toNat, by omega⟩
    exact walk_in F1 F2 F3 k w hR h.1 h.2.1 (by omega)
  · exact walk_not F1 F2 F3 n w hR h1 h2 h
end packLimits
end Go.Proofs.YtiandidencnlcaaDoor
