/- The landed literal: a name, by its index or as a string, and a value; the rest behind it. -/
import Derived.Test.YtiandidencnlcaaDoorLSGet
import Derived.Test.YtiandidencnlcaaDoorLUAt
namespace Go.Proofs.YtiandidencnlcaaDoor
open Go.RowKit

def ulits2 (nm : ByteArray) (T : List Nat × Nat × Bool) : (ByteArray × ByteArray) × Nat × Bool := if T.2.2 = false then ((⟨#[]⟩, ⟨#[]⟩), 0, false) else ((nm, str T.1), T.2.1, true)
def ulits1 (b : List Nat) (N : ByteArray × Nat × Bool) : (ByteArray × ByteArray) × Nat × Bool := if N.2.2 = false then ((⟨#[]⟩, ⟨#[]⟩), 0, false) else ulits2 N.1 (utext b N.2.1)
/-- A literal at a place: its name and its value, where it ends, is it one. -/
def ulits (b : List Nat) (k : Nat) (L : List Fld) (R : Nat × Nat × Nat) : (ByteArray × ByteArray) × Nat × Bool := if R.2.2 ≠ 0 then ((⟨#[]⟩, ⟨#[]⟩), 0, false) else ulits1 b (uname b R.1 (k + R.2.1) L)
/-- What literal hands back of the block b from k on, which lies at A, n bytes. -/
def LtPost (w : World) (A : Option Addr) (n c k : Nat) (V : (ByteArray × ByteArray) × Nat × Bool) (e : Ending) (w' : World) : Prop :=
  ∃ F1 F2 F3 A' n' c', e = .returned (.tuple #[.agg #[.string F1, .string F2, .bool F3], .slice A' n' c', .bool V.2.2]) ∧ (V.2.2 = true → F1 = V.1.1 ∧ F2 = V.1.2 ∧ F3 = false ∧ n' = n - (V.2.1 - k) ∧ Cut A c A' c' (V.2.1 - k) n) ∧ Below w.heap.size w w'
set_option maxRecDepth 100000 in
set_option maxHeartbeats 8000000 in
theorem ulit_f (A : Option Addr) (b : List Nat) (n c k B : Nat) (w : World) (hR : Rdy w) (S : Nat → Prop) (p t m : Nat) (L : List Fld) (hc : w.cell? ⟨p, 0, none⟩ = some (.pointer (some ⟨t, 0, none⟩))) (hT : DT w S t m L) (hnf : NoNev L)
    (hA : At .u8 w w.heap.size A (b.drop k)) (hb : ∀ x ∈ b, x < 256) (hl : b.length - k = n) (hA0 : A = none → c = 0) (hnc : n ≤ c) (hn : n ≤ 100000) (hB1 : 1 ≤ B) (hB8 : B ≤ 8) :
    Calls Tryd.prog 58 #[.pointer (some ⟨p, 0, none⟩), .slice A n c, .int .i64 (B : Int)] w (LtPost w A n c k (ulits b k L (Pn.getI (b.drop k) (B : Int)))) := by
  have hpl := World.block_lt_of_cell? w _ hc
  obtain ⟨g, hg⟩ : ∃ g, g = w.heap.size := ⟨_, rfl⟩
  obtain ⟨gy, hh⟩ : ∃ x, x = g + 1 := ⟨_, rfl⟩
  obtain ⟨wa, hwa⟩ : ∃ wa, wa = (w.alloc (.cells #[.string ⟨#[]⟩, .string ⟨#[]⟩, .bool false] 52)).alloc (.cells #[.string ⟨#[]⟩, .string ⟨#[]⟩, .bool false] 52) := ⟨_, rfl⟩
  have hba : Below w.heap.size w wa := by rw [hwa]; exact ((Below.refl _ _).alloc (Nat.le_refl _) _).alloc (by simp) _
  have hg1 : wa.heap[g]? = some (.cells #[.string ⟨#[]⟩, .string ⟨#[]⟩, .bool false] 52) := by
    have h1 : Below (w.heap.size + 1) (w.alloc (.cells #[.string ⟨#[]⟩, .string ⟨#[]⟩, .bool false] 52)) wa := by rw [hwa]; exact (Below.refl _ _).alloc (by simp) _
    rw [hg, h1.block w.heap.size (by omega)]
    exact heap_alloc_new w _
  have hh1 : wa.heap[gy]? = some (.cells #[.string ⟨#[]⟩, .string ⟨#[]⟩, .bool false] 52) := by
    have := heap_alloc_new (w.alloc (.cells #[.string ⟨#[]⟩, .string ⟨#[]⟩, .bool false] 52)) (.cells #[.string ⟨#[]⟩, .string ⟨#[]⟩, .bool false] 52)
    rw [hh, hg, hwa]
    simpa using this
  have hgl : g < wa.heap.size := lt_of_heap hg1
  have hhl : gy < wa.heap.size := lt_of_heap hh1
  have hgB : w.heap.size ≤ g := by omega
  have hhB : w.heap.size ≤ gy := by omega
  have hghne : g ≠ gy := by omega
  obtain ⟨R, hRe⟩ : ∃ R, R = Pn.getI (b.drop k) (B : Int) := ⟨_, rfl⟩
  have HNUM := unum_f A (b.drop k) n c B wa (hR.below hba) (hA.up hba) (fun x hx => hb x (List.mem_of_mem_drop hx)) (by rw [List.length_drop]; exact hl) hA0 hnc hn hB1 hB8
  rw [← hRe] at HNUM ⊢
  obtain ⟨nn, u, e⟩ := R
  have HU : Hid (e = 0 → 1 ≤ u ∧ u ≤ n ∧ nn ≤ 2147483647) := Lib.hid (fun he => by
    subst he
    have := get_used (b.drop k) B nn u hB1 hB8 hRe.symm
    rw [List.length_drop] at this
    omega)
  obtain ⟨V, hV⟩ : ∃ V, V = ulits b k L (nn, u, e) := ⟨_, rfl⟩
  rw [← hV]
  have HV := Lib.hid hV
  have HNO : Hid (V.2.2 = false → ∀ (w' : World) (F1 F2 : ByteArray) (F3 : Bool) (A' : Option Addr) (n' c' : Nat), Below w.heap.size w w' → LtPost w A n c k V (.returned (.tuple #[.agg #[.string F1, .string F2, .bool F3], .slice A' n' c', .bool false])) w') := Lib.hid (fun hv w' F1 F2 F3 A' n' c' hB => ⟨F1, F2, F3, A', n', c', by rw [hv], fun h2 => (Bool.noConfusion (hv.symm.trans h2)), hB⟩)
  -- what the calls behind the number find
  have HTEXT : Hid (∀ (W : World) (A1 : Option Addr) (c1 k1 : Nat), Below w.heap.size w W → Cut A c A1 c1 (k1 - k) n → k ≤ k1 → Calls Tryd.prog 72 #[.slice A1 (n - (k1 - k)) c1] W (TrPost W A1 (n - (k1 - k)) c1 k1 (utext b k1))) := Lib.hid (fun W A1 c1 k1 hB hC hk => by
    have hat := hC.at' W (b.drop k) (by rw [List.length_drop]; exact hl) (hA.up hB)
    rw [List.drop_drop, show k + (k1 - k) = k1 by omega] at hat
    exact utext_f A1 b (n - (k1 - k)) c1 k1 W (hR.below hB) hat hb (by omega) (hC.nil hA0) (by have := hC.cap; omega) (by omega))
  have HAT : Hid (∀ (W : World), Below w.heap.size w W → nn ≤ 2147483647 → Calls Tryd.prog 60 #[.pointer (some ⟨p, 0, none⟩), .int .i64 (nn : Int)] W (FPost W (ufield L (nn : Int)))) := Lib.hid (fun W hB hnn => uat_f W (hR.below hB) S p t m nn L ((hB.cell (p := ⟨p, 0, none⟩) hpl).trans hc) (hT.keep (S' := fun _ => False) (Keeps.of_below hB) (fun _ _ h => h)) hnn)
  replace HNUM := Lib.hid HNUM
  have HBA := Lib.hid hba
  have HG1 := Lib.hid hg1
  have HH1 := Lib.hid hh1
  have HGL := Lib.hid hgl
  have HHL := Lib.hid hhl
  have HNF := Lib.hid hnf
  obtain ⟨wb, hwb⟩ : ∃ wb, wb = wa := ⟨_, rfl⟩
  rw [← hwb] at HBA HG1 HH1 HGL HHL
  clear hA hb hl hA0 hRe hV hba hg1 hh1 hgl hhl hT hc hR hpl hnf
  by_cases he : e = 0
  · obtain ⟨hu1, hu2, hnn⟩ := HU.out he
    subst he
    have HV1 : Hid (V = ulits1 b (uname b nn (k + u) L)) := Lib.hid (by rw [HV.out, ulits, if_neg (by simp)])
    clear HV HU
    replace HNUM : Hid (Calls Tryd.prog 59 #[.slice A n c, .int .i64 (B : Int)] wa (fun e1 w' => ∃ A' c', e1 = .returned (.tuple #[.int .i64 (nn : Int), .slice A' (n - u) c', .bool true]) ∧ Cut A c A' c' u n ∧ Below wb.heap.size wb w')) := by rw [hwb]; exact HNUM
    rw [hwa] at HNUM
    go_enter Tryd.func58, Tryd.ntmps58
    go_wp2_with fail
    with_reducible refine (HNUM.out).mono ?_
    rintro e1 w1 ⟨A1, c1, rfl, hC1, hb1⟩
    simp only []
    rw [← hg, ← hh]
    have hb2 := HBA.out.trans (hb1.mono HBA.out.size)
    have HB2 := Lib.hid hb2
    have HG2 := Lib.hid ((hb1.block g HGL.out).trans HG1.out)
    have HH2 := Lib.hid ((hb1.block gy HHL.out).trans HH1.out)
    have HC1 := Lib.hid hC1
    clear hC1 hb1 hb2 HNUM HBA HG1 HH1 HGL HHL hg hh hwa hwb
    rcases Nat.eq_zero_or_pos nn with h0 | h0
    · subst h0
      have hT1 := HTEXT.out w1 A1 c1 (k + u) HB2.out (by rw [Nat.add_sub_cancel_left]; exact HC1.out) (by omega)
      obtain ⟨T1, hT1e⟩ : ∃ T, T = utext b (k + u) := ⟨_, rfl⟩
      have HNM : Hid (uname b 0 (k + u) L = (str T1.1, T1.2.1, T1.2.2)) := Lib.hid (by rw [hT1e, uname, if_neg (by omega)])
      have HEND1 : Hid (T1.2.2 = true → k + u < T1.2.1) := Lib.hid (fun ht => by
        obtain ⟨s, e, o⟩ := T1
        simp only [] at ht
        subst ht
        exact (utext_end hT1e.symm).1)
      rw [← hT1e, Nat.add_sub_cancel_left] at hT1
      obtain ⟨raw1, k2, ok2⟩ := T1
      replace hT1 : Hid (Calls Tryd.prog 72 #[.slice A1 (n - u) c1] w1 (fun e1 w' => ∃ s A' n' c', e1 = .returned (.tuple #[.string s, .slice A' n' c', .bool ok2]) ∧ (ok2 = true → s = str raw1 ∧ n' = n - u - (k2 - (k + u)) ∧ Cut A1 c1 A' c' (k2 - (k + u)) (n - u)) ∧ Below w1.heap.size w1 w')) := Lib.hid hT1
      replace HEND1 : Hid (ok2 = true → k + u < k2) := HEND1
      clear hT1e
      go_wp2_with fail
      with_reducible refine (hT1.out).mono ?_
      rintro e1 w2 ⟨s2, A2, n2, c2, rfl, hfac1, hb2⟩
      simp only []
      have HFAC1 := Lib.hid hfac1
      have hgx := (hb2.block g (lt_of_heap HG2.out)).trans HG2.out
      have hhx := (hb2.block gy (lt_of_heap HH2.out)).trans HH2.out
      have hbx := HB2.out.trans (hb2.mono HB2.out.size)
      have fx : w2.frozen? ⟨gy, 0, none⟩ = false := frozen_of_row w2 gy 0 _ 52 hhx
      have cx : w2.cell? ⟨gy, 0, none⟩ = some (.string ⟨#[]⟩) := cell_of_row w2 gy 0 _ 52 _ hhx
      obtain ⟨w3, hw3⟩ : ∃ w3, w3 = w2.setCell ⟨gy, 0, none⟩ (.string s2) := ⟨_, rfl⟩
      have HB3 : Hid (Below w.heap.size w w3) := Lib.hid (by rw [hw3]; exact hbx.setCell (p := ⟨gy, 0, none⟩) hhB _)
      have HG3 : Hid (w3.heap[g]? = some (.cells #[.string ⟨#[]⟩, .string ⟨#[]⟩, .bool false] 52)) := Lib.hid (by
        rw [hw3, Below.heap_setCell w2 ⟨gy, 0, none⟩ _ g hghne]
        exact hgx)
      have HH3 : Hid (w3.heap[gy]? = some (.cells #[.string s2, .string ⟨#[]⟩, .bool false] 52)) := Lib.hid (by
        rw [hw3]
        have := heap_setCell_same w2 gy 0 _ 52 (.string s2) hhx
        simpa using this)
      have HW3 := Lib.hid hw3
      clear hfac1 hgx hhx hbx hb2 hT1 HG2 HH2 HB2 hw3
      cases ok2 with
      | false =>
        have fg0 : (w2.setCell ⟨gy, 0, none⟩ (.string s2)).frozen? ⟨g, 0, none⟩ = false := frozen_of_row (w2.setCell ⟨gy, 0, none⟩ (.string s2)) g 0 _ 52 (HW3.out ▸ HG3.out)
        have fg1 : (w2.setCell ⟨gy, 0, none⟩ (.string s2)).frozen? ⟨g, 1, none⟩ = false := frozen_of_row (w2.setCell ⟨gy, 0, none⟩ (.string s2)) g 1 _ 52 (HW3.out ▸ HG3.out)
        have fg2 : (w2.setCell ⟨gy, 0, none⟩ (.string s2)).frozen? ⟨g, 2, none⟩ = false := frozen_of_row (w2.setCell ⟨gy, 0, none⟩ (.string s2)) g 2 _ 52 (HW3.out ▸ HG3.out)
        have q0 : (w2.setCell ⟨gy, 0, none⟩ (.string s2)).cell? ⟨g, 0, none⟩ = some (.string ⟨#[]⟩) := cell_of_row (w2.setCell ⟨gy, 0, none⟩ (.string s2)) g 0 _ 52 _ (HW3.out ▸ HG3.out)
        have q1 : (w2.setCell ⟨gy, 0, none⟩ (.string s2)).cell? ⟨g, 1, none⟩ = some (.string ⟨#[]⟩) := cell_of_row (w2.setCell ⟨gy, 0, none⟩ (.string s2)) g 1 _ 52 _ (HW3.out ▸ HG3.out)
        have q2 : (w2.setCell ⟨gy, 0, none⟩ (.string s2)).cell? ⟨g, 2, none⟩ = some (.bool false) := cell_of_row (w2.setCell ⟨gy, 0, none⟩ (.string s2)) g 2 _ 52 _ (HW3.out ▸ HG3.out)
        have hs1 := (((HW3.out ▸ HB3.out : Below w.heap.size w (w2.setCell ⟨gy, 0, none⟩ (.string s2))).setCell (p := ⟨g, 0, none⟩) hgB (.string ⟨#[]⟩)).setCell (p := ⟨g, 1, none⟩) hgB (.string ⟨#[]⟩)).setCell (p := ⟨g, 2, none⟩) hgB (.bool false)
        have HVF : Hid (V.2.2 = false) := Lib.hid (by rw [HV1.out, HNM.out, ulits1, if_pos rfl])
        clear HW3 HG3 HH3 HB3
        go_wp2
        refine bodyPost_ret (v := .tuple #[.agg #[.string ⟨#[]⟩, .string ⟨#[]⟩, .bool false], .slice none 0 0, .bool false]) (by simp [results, Tryd.results58, go_sem, q0, q1, q2]) rfl (HNO.out HVF.out _ _ _ _ _ _ _ hs1)
      | true =>
        obtain ⟨e1, e2, e3⟩ := HFAC1.out rfl
        have hk2 := HEND1.out rfl
        have HK2 : Hid (k ≤ k2) := Lib.hid (by omega)
        have HC2 : Hid (Cut A c A2 c2 (k2 - k) n) := Lib.hid (by
          have h9 := HC1.out.trans e3
          rw [show u + (k2 - (k + u)) = k2 - k by omega] at h9
          exact h9)
        have HNR : Hid (n2 = n - (k2 - k)) := Lib.hid (by omega)
        subst e1
        have HVT : Hid (V = ulits2 (str raw1) (utext b k2)) := Lib.hid (by rw [HV1.out, HNM.out, ulits1, if_neg (by simp)])
        clear HFAC1 e2 e3 HEND1
        have hT2 := HTEXT.out w3 A2 c2 k2 HB3.out HC2.out HK2.out
        obtain ⟨T, hTe⟩ : ∃ T, T = utext b k2 := ⟨_, rfl⟩
        have HEND : Hid (T.2.2 = true → k2 < T.2.1) := Lib.hid (fun ht => by
          obtain ⟨s, e, o⟩ := T
          simp only [] at ht
          subst ht
          exact (utext_end hTe.symm).1)
        rw [← hTe] at hT2 HVT
        rw [← HNR.out] at hT2
        clear hTe
        obtain ⟨raw, k3, ok3⟩ := T
        replace hT2 : Hid (Calls Tryd.prog 72 #[.slice A2 n2 c2] w3 (fun e1 w' => ∃ s A' n' c', e1 = .returned (.tuple #[.string s, .slice A' n' c', .bool ok3]) ∧ (ok3 = true → s = str raw ∧ n' = n2 - (k3 - k2) ∧ Cut A2 c2 A' c' (k3 - k2) n2) ∧ Below w3.heap.size w3 w')) := Lib.hid hT2
        replace HEND : Hid (ok3 = true → k2 < k3) := HEND
        go_wp2_with fail
        rw [← HW3.out]
        with_reducible refine (hT2.out).mono ?_
        rintro e1 w4 ⟨s3, A3, n3, c3, rfl, hfac, hb4⟩
        simp only []
        have HFAC := Lib.hid hfac
        have hg4 := (hb4.block g (lt_of_heap HG3.out)).trans HG3.out
        have hh4 := (hb4.block gy (lt_of_heap HH3.out)).trans HH3.out
        have hb5 := HB3.out.trans (hb4.mono HB3.out.size)
        have f0 : w4.frozen? ⟨g, 0, none⟩ = false := frozen_of_row w4 g 0 _ 52 hg4
        have f1 : w4.frozen? ⟨g, 1, none⟩ = false := frozen_of_row w4 g 1 _ 52 hg4
        have f2 : w4.frozen? ⟨g, 2, none⟩ = false := frozen_of_row w4 g 2 _ 52 hg4
        have f3 : w4.frozen? ⟨gy, 1, none⟩ = false := frozen_of_row w4 gy 1 _ 52 hh4
        have q0 : w4.cell? ⟨g, 0, none⟩ = some (.string ⟨#[]⟩) := cell_of_row w4 g 0 _ 52 _ hg4
        have q1 : w4.cell? ⟨g, 1, none⟩ = some (.string ⟨#[]⟩) := cell_of_row w4 g 1 _ 52 _ hg4
        have q2 : w4.cell? ⟨g, 2, none⟩ = some (.bool false) := cell_of_row w4 g 2 _ 52 _ hg4
        have r0 : w4.cell? ⟨gy, 0, none⟩ = some (.string (str raw1)) := cell_of_row w4 gy 0 _ 52 _ hh4
        have r1 : w4.cell? ⟨gy, 1, none⟩ = some (.string ⟨#[]⟩) := cell_of_row w4 gy 1 _ 52 _ hh4
        have r2 : w4.cell? ⟨gy, 2, none⟩ = some (.bool false) := cell_of_row w4 gy 2 _ 52 _ hh4
        have HS1 := Lib.hid ((((hb5.setCell (p := ⟨gy, 1, none⟩) hhB (.string s3)).setCell (p := ⟨g, 0, none⟩) hgB (.string (str raw1))).setCell (p := ⟨g, 1, none⟩) hgB (.string s3)).setCell (p := ⟨g, 2, none⟩) hgB (.bool false))
        clear hfac hg4 hh4 hb4 hb5 hT2 HW3 HG3 HH3 HB3
        go_wp2
        refine bodyPost_ret (v := .tuple #[.agg #[.string (str raw1), .string s3, .bool false], .slice A3 n3 c3, .bool ok3]) (by simp [results, Tryd.results58, go_sem, q0, q1, q2]) rfl ?_
        cases ok3 with
        | false => exact HNO.out (by rw [HVT.out, ulits2, if_pos rfl]) _ _ _ _ _ _ _ HS1.out
        | true =>
          obtain ⟨e1, e2, e3⟩ := HFAC.out rfl
          have he := HEND.out rfl
          have hV2 : V = (((str raw1), str raw), k3, true) := by rw [HVT.out, ulits2, if_neg (by simp)]
          rw [hV2]
          refine ⟨_, _, _, _, _, _, rfl, fun _ => ⟨rfl, e1, rfl, ?_, ?_⟩, HS1.out⟩
          · have := HK2.out
            have := HNR.out
            simp only []
            omega
          · have h9 := HC2.out.trans (HNR.out ▸ e3)
            have h8 := HK2.out
            rw [show k2 - k + (k3 - k2) = k3 - k by omega] at h9
            exact h9
    · have hAT := HAT.out w1 HB2.out hnn
      obtain ⟨F, hF⟩ : ∃ F, F = ufield L (nn : Int) := ⟨_, rfl⟩
      have hZ := HNF.out.field (nn : Int)
      rw [← hF] at hAT hZ
      have HNM : Hid (uname b nn (k + u) L = (F.1.name, k + u, F.2)) := Lib.hid (by rw [hF, uname, if_pos h0])
      obtain ⟨⟨X, Y, Z⟩, ok2⟩ := F
      simp only [] at hZ
      subst hZ
      replace hAT : Hid (Calls Tryd.prog 60 #[.pointer (some ⟨p, 0, none⟩), .int .i64 (nn : Int)] w1 (fun e1 w' => e1 = .returned (.tuple #[.agg #[.string X, .string Y, .bool false], .bool ok2]) ∧ Below w1.heap.size w1 w')) := Lib.hid hAT
      have d0 : ((nn : Int) == 0) = false := by simp; omega
      clear hF h0
      go_wp2_with fail
      with_reducible refine (hAT.out).mono ?_
      rintro e1 w2 ⟨rfl, hb2⟩
      simp only []
      have hgx := (hb2.block g (lt_of_heap HG2.out)).trans HG2.out
      have hhx := (hb2.block gy (lt_of_heap HH2.out)).trans HH2.out
      have hbx := HB2.out.trans (hb2.mono HB2.out.size)
      have fx0 : w2.frozen? ⟨gy, 0, none⟩ = false := frozen_of_row w2 gy 0 _ 52 hhx
      have fx1 : w2.frozen? ⟨gy, 1, none⟩ = false := frozen_of_row w2 gy 1 _ 52 hhx
      have fx2 : w2.frozen? ⟨gy, 2, none⟩ = false := frozen_of_row w2 gy 2 _ 52 hhx
      have cx0 : w2.cell? ⟨gy, 0, none⟩ = some (.string ⟨#[]⟩) := cell_of_row w2 gy 0 _ 52 _ hhx
      have cx1 : w2.cell? ⟨gy, 1, none⟩ = some (.string ⟨#[]⟩) := cell_of_row w2 gy 1 _ 52 _ hhx
      have cx2 : w2.cell? ⟨gy, 2, none⟩ = some (.bool false) := cell_of_row w2 gy 2 _ 52 _ hhx
      obtain ⟨w3, hw3⟩ : ∃ w3, w3 = ((w2.setCell ⟨gy, 0, none⟩ (.string X)).setCell ⟨gy, 1, none⟩ (.string Y)).setCell ⟨gy, 2, none⟩ (.bool false) := ⟨_, rfl⟩
      have HB3 : Hid (Below w.heap.size w w3) := Lib.hid (by rw [hw3]; exact ((hbx.setCell (p := ⟨gy, 0, none⟩) hhB _).setCell (p := ⟨gy, 1, none⟩) hhB _).setCell (p := ⟨gy, 2, none⟩) hhB _)
      have HG3 : Hid (w3.heap[g]? = some (.cells #[.string ⟨#[]⟩, .string ⟨#[]⟩, .bool false] 52)) := Lib.hid (by
        rw [hw3, Below.heap_setCell _ ⟨gy, 2, none⟩ _ g hghne, Below.heap_setCell _ ⟨gy, 1, none⟩ _ g hghne, Below.heap_setCell w2 ⟨gy, 0, none⟩ _ g hghne]
        exact hgx)
      have HH3 : Hid (w3.heap[gy]? = some (.cells #[.string X, .string Y, .bool false] 52)) := Lib.hid (by
        rw [hw3]
        have h1 : (w2.setCell ⟨gy, 0, none⟩ (.string X)).heap[gy]? = some (.cells #[.string X, .string ⟨#[]⟩, .bool false] 52) := by
          have := heap_setCell_same w2 gy 0 _ 52 (.string X) hhx
          simpa using this
        have h2 : ((w2.setCell ⟨gy, 0, none⟩ (.string X)).setCell ⟨gy, 1, none⟩ (.string Y)).heap[gy]? = some (.cells #[.string X, .string Y, .bool false] 52) := by
          have := heap_setCell_same _ gy 1 _ 52 (.string Y) h1
          simpa using this
        have := heap_setCell_same _ gy 2 _ 52 (.bool false) h2
        simpa using this)
      have HW3 := Lib.hid hw3
      clear hgx hhx hbx hb2 hAT HG2 HH2 HB2 hw3
      cases ok2 with
      | false =>
        have fg0 : (((w2.setCell ⟨gy, 0, none⟩ (.string X)).setCell ⟨gy, 1, none⟩ (.string Y)).setCell ⟨gy, 2, none⟩ (.bool false)).frozen? ⟨g, 0, none⟩ = false := frozen_of_row (((w2.setCell ⟨gy, 0, none⟩ (.string X)).setCell ⟨gy, 1, none⟩ (.string Y)).setCell ⟨gy, 2, none⟩ (.bool false)) g 0 _ 52 (HW3.out ▸ HG3.out)
        have fg1 : (((w2.setCell ⟨gy, 0, none⟩ (.string X)).setCell ⟨gy, 1, none⟩ (.string Y)).setCell ⟨gy, 2, none⟩ (.bool false)).frozen? ⟨g, 1, none⟩ = false := frozen_of_row (((w2.setCell ⟨gy, 0, none⟩ (.string X)).setCell ⟨gy, 1, none⟩ (.string Y)).setCell ⟨gy, 2, none⟩ (.bool false)) g 1 _ 52 (HW3.out ▸ HG3.out)
        have fg2 : (((w2.setCell ⟨gy, 0, none⟩ (.string X)).setCell ⟨gy, 1, none⟩ (.string Y)).setCell ⟨gy, 2, none⟩ (.bool false)).frozen? ⟨g, 2, none⟩ = false := frozen_of_row (((w2.setCell ⟨gy, 0, none⟩ (.string X)).setCell ⟨gy, 1, none⟩ (.string Y)).setCell ⟨gy, 2, none⟩ (.bool false)) g 2 _ 52 (HW3.out ▸ HG3.out)
        have q0 : (((w2.setCell ⟨gy, 0, none⟩ (.string X)).setCell ⟨gy, 1, none⟩ (.string Y)).setCell ⟨gy, 2, none⟩ (.bool false)).cell? ⟨g, 0, none⟩ = some (.string ⟨#[]⟩) := cell_of_row (((w2.setCell ⟨gy, 0, none⟩ (.string X)).setCell ⟨gy, 1, none⟩ (.string Y)).setCell ⟨gy, 2, none⟩ (.bool false)) g 0 _ 52 _ (HW3.out ▸ HG3.out)
        have q1 : (((w2.setCell ⟨gy, 0, none⟩ (.string X)).setCell ⟨gy, 1, none⟩ (.string Y)).setCell ⟨gy, 2, none⟩ (.bool false)).cell? ⟨g, 1, none⟩ = some (.string ⟨#[]⟩) := cell_of_row (((w2.setCell ⟨gy, 0, none⟩ (.string X)).setCell ⟨gy, 1, none⟩ (.string Y)).setCell ⟨gy, 2, none⟩ (.bool false)) g 1 _ 52 _ (HW3.out ▸ HG3.out)
        have q2 : (((w2.setCell ⟨gy, 0, none⟩ (.string X)).setCell ⟨gy, 1, none⟩ (.string Y)).setCell ⟨gy, 2, none⟩ (.bool false)).cell? ⟨g, 2, none⟩ = some (.bool false) := cell_of_row (((w2.setCell ⟨gy, 0, none⟩ (.string X)).setCell ⟨gy, 1, none⟩ (.string Y)).setCell ⟨gy, 2, none⟩ (.bool false)) g 2 _ 52 _ (HW3.out ▸ HG3.out)
        have hs1 := (((HW3.out ▸ HB3.out : Below w.heap.size w (((w2.setCell ⟨gy, 0, none⟩ (.string X)).setCell ⟨gy, 1, none⟩ (.string Y)).setCell ⟨gy, 2, none⟩ (.bool false))).setCell (p := ⟨g, 0, none⟩) hgB (.string ⟨#[]⟩)).setCell (p := ⟨g, 1, none⟩) hgB (.string ⟨#[]⟩)).setCell (p := ⟨g, 2, none⟩) hgB (.bool false)
        have HVF : Hid (V.2.2 = false) := Lib.hid (by rw [HV1.out, HNM.out, ulits1, if_pos rfl])
        clear HW3 HG3 HH3 HB3
        go_wp2
        refine bodyPost_ret (v := .tuple #[.agg #[.string ⟨#[]⟩, .string ⟨#[]⟩, .bool false], .slice none 0 0, .bool false]) (by simp [results, Tryd.results58, go_sem, q0, q1, q2]) rfl (HNO.out HVF.out _ _ _ _ _ _ _ hs1)
      | true =>
        have HK2 : Hid (k ≤ k + u) := Lib.hid (by omega)
        have HC2 : Hid (Cut A c A1 c1 (k + u - k) n) := Lib.hid (by rw [Nat.add_sub_cancel_left]; exact HC1.out)
        obtain ⟨nr, hnr⟩ : ∃ nr, nr = n - u := ⟨_, rfl⟩
        rw [← hnr]
        have HNR : Hid (nr = n - (k + u - k)) := Lib.hid (by omega)
        have HVT : Hid (V = ulits2 X (utext b (k + u))) := Lib.hid (by rw [HV1.out, HNM.out, ulits1, if_neg (by simp)])
        clear hnr
        have hT2 := HTEXT.out w3 A1 c1 (k + u) HB3.out HC2.out HK2.out
        obtain ⟨T, hTe⟩ : ∃ T, T = utext b (k + u) := ⟨_, rfl⟩
        have HEND : Hid (T.2.2 = true → (k + u) < T.2.1) := Lib.hid (fun ht => by
          obtain ⟨s, e, o⟩ := T
          simp only [] at ht
          subst ht
          exact (utext_end hTe.symm).1)
        rw [← hTe] at hT2 HVT
        rw [← HNR.out] at hT2
        clear hTe
        obtain ⟨raw, k3, ok3⟩ := T
        replace hT2 : Hid (Calls Tryd.prog 72 #[.slice A1 nr c1] w3 (fun e1 w' => ∃ s A' n' c', e1 = .returned (.tuple #[.string s, .slice A' n' c', .bool ok3]) ∧ (ok3 = true → s = str raw ∧ n' = nr - (k3 - (k + u)) ∧ Cut A1 c1 A' c' (k3 - (k + u)) nr) ∧ Below w3.heap.size w3 w')) := Lib.hid hT2
        replace HEND : Hid (ok3 = true → (k + u) < k3) := HEND
        go_wp2_with fail
        rw [← HW3.out]
        with_reducible refine (hT2.out).mono ?_
        rintro e1 w4 ⟨s3, A3, n3, c3, rfl, hfac, hb4⟩
        simp only []
        have HFAC := Lib.hid hfac
        have hg4 := (hb4.block g (lt_of_heap HG3.out)).trans HG3.out
        have hh4 := (hb4.block gy (lt_of_heap HH3.out)).trans HH3.out
        have hb5 := HB3.out.trans (hb4.mono HB3.out.size)
        have f0 : w4.frozen? ⟨g, 0, none⟩ = false := frozen_of_row w4 g 0 _ 52 hg4
        have f1 : w4.frozen? ⟨g, 1, none⟩ = false := frozen_of_row w4 g 1 _ 52 hg4
        have f2 : w4.frozen? ⟨g, 2, none⟩ = false := frozen_of_row w4 g 2 _ 52 hg4
        have f3 : w4.frozen? ⟨gy, 1, none⟩ = false := frozen_of_row w4 gy 1 _ 52 hh4
        have q0 : w4.cell? ⟨g, 0, none⟩ = some (.string ⟨#[]⟩) := cell_of_row w4 g 0 _ 52 _ hg4
        have q1 : w4.cell? ⟨g, 1, none⟩ = some (.string ⟨#[]⟩) := cell_of_row w4 g 1 _ 52 _ hg4
        have q2 : w4.cell? ⟨g, 2, none⟩ = some (.bool false) := cell_of_row w4 g 2 _ 52 _ hg4
        have r0 : w4.cell? ⟨gy, 0, none⟩ = some (.string X) := cell_of_row w4 gy 0 _ 52 _ hh4
        have r1 : w4.cell? ⟨gy, 1, none⟩ = some (.string Y) := cell_of_row w4 gy 1 _ 52 _ hh4
        have r2 : w4.cell? ⟨gy, 2, none⟩ = some (.bool false) := cell_of_row w4 gy 2 _ 52 _ hh4
        have HS1 := Lib.hid ((((hb5.setCell (p := ⟨gy, 1, none⟩) hhB (.string s3)).setCell (p := ⟨g, 0, none⟩) hgB (.string X)).setCell (p := ⟨g, 1, none⟩) hgB (.string s3)).setCell (p := ⟨g, 2, none⟩) hgB (.bool false))
        clear hfac hg4 hh4 hb4 hb5 hT2 HW3 HG3 HH3 HB3
        go_wp2
        refine bodyPost_ret (v := .tuple #[.agg #[.string X, .string s3, .bool false], .slice A3 n3 c3, .bool ok3]) (by simp [results, Tryd.results58, go_sem, q0, q1, q2]) rfl ?_
        cases ok3 with
        | false => exact HNO.out (by rw [HVT.out, ulits2, if_pos rfl]) _ _ _ _ _ _ _ HS1.out
        | true =>
          obtain ⟨e1, e2, e3⟩ := HFAC.out rfl
          have he := HEND.out rfl
          have hV2 : V = ((X, str raw), k3, true) := by rw [HVT.out, ulits2, if_neg (by simp)]
          rw [hV2]
          refine ⟨_, _, _, _, _, _, rfl, fun _ => ⟨rfl, e1, rfl, ?_, ?_⟩, HS1.out⟩
          · have := HK2.out
            have := HNR.out
            simp only []
            omega
          · have h9 := HC2.out.trans (HNR.out ▸ e3)
            have h8 := HK2.out
            rw [show (k + u) - k + (k3 - (k + u)) = k3 - k by omega] at h9
            exact h9
  · have HVF : Hid (V.2.2 = false) := Lib.hid (by rw [HV.out, ulits, if_pos he])
    have HNO1 := Lib.hid (HNO.out HVF.out)
    replace HNUM : Hid (Calls Tryd.prog 59 #[.slice A n c, .int .i64 (B : Int)] wa (fun e1 w' => ∃ A' c', e1 = .returned (.tuple #[.int .i64 (nn : Int), .slice A' (n - u) c', .bool false]) ∧ Cut A c A' c' u n ∧ Below wb.heap.size wb w')) := by
      rw [show false = decide (e = 0) from (decide_eq_false he).symm]
      rw [hwb]
      exact HNUM
    rw [hwa] at HNUM
    clear HV HU HTEXT HAT HNF he hwa hwb
    go_enter Tryd.func58, Tryd.ntmps58
    go_wp2_with fail
    with_reducible refine (HNUM.out).mono ?_
    rintro e1 w1 ⟨A1, c1, rfl, hC, hb1⟩
    simp only []
    rw [← hg, ← hh]
    have hb2 := HBA.out.trans (hb1.mono HBA.out.size)
    have hg2 := (hb1.block g HGL.out).trans HG1.out
    have f0 : w1.frozen? ⟨g, 0, none⟩ = false := frozen_of_row w1 g 0 _ 52 hg2
    have f1 : w1.frozen? ⟨g, 1, none⟩ = false := frozen_of_row w1 g 1 _ 52 hg2
    have f2 : w1.frozen? ⟨g, 2, none⟩ = false := frozen_of_row w1 g 2 _ 52 hg2
    have q0 : w1.cell? ⟨g, 0, none⟩ = some (.string ⟨#[]⟩) := cell_of_row w1 g 0 _ 52 _ hg2
    have q1 : w1.cell? ⟨g, 1, none⟩ = some (.string ⟨#[]⟩) := cell_of_row w1 g 1 _ 52 _ hg2
    have q2 : w1.cell? ⟨g, 2, none⟩ = some (.bool false) := cell_of_row w1 g 2 _ 52 _ hg2
    have hs1 := ((hb2.setCell (p := ⟨g, 0, none⟩) hgB (.string ⟨#[]⟩)).setCell (p := ⟨g, 1, none⟩) hgB (.string ⟨#[]⟩)).setCell (p := ⟨g, 2, none⟩) hgB (.bool false)
    clear hg2 hb2 hb1 hC hg hh hgB hhB hghne
    go_wp2
    refine bodyPost_ret (v := .tuple #[.agg #[.string ⟨#[]⟩, .string ⟨#[]⟩, .bool false], .slice none 0 0, .bool false]) (by simp [results, Tryd.results58, go_sem, q0, q1, q2]) rfl (HNO1.out _ _ _ _ _ _ _ hs1)
end Go.Proofs.YtiandidencnlcaaDoor
