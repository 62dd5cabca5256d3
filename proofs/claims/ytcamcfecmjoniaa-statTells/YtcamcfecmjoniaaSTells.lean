/- The walk of StatTells. -/
import Derived.Test.YtcamcfecmjoniaaSFirst
import Derived.StillTailTactics
import Derived.Deep.RegionHeld3
import Derived.Deep.DeepCutAuto
namespace Go.Proofs.Ytcamcfecmjoniaa
open Go.RowKit St

namespace statTells
set_option maxRecDepth 100000 in
set_option maxHeartbeats 4000000 in
theorem walk_not (i : Int) (A B : Option Addr) (a b : List Fld) (n m c d : Nat) (w : World) (hR : Rdy w) (hA : AtF w w.heap.size A a) (hB : AtF w w.heap.size B b) (hn : a.length = n) (hm : b.length = m) (hao : ∀ f ∈ a, f.fit) (hbo : ∀ f ∈ b, f.fit) (hf : few a = false ∨ few a = true ∧ few b = false) :
    Calls Try.prog 3 #[.int .i64 i, .slice A n c, .slice B m d] w (Yes w) := by
  have HR := Lib.hid hR
  have HA := Lib.hid fun (w' : World) (hb : Below w.heap.size w w') => hA.up hb
  have HB := Lib.hid fun (w' : World) (hb : Below w.heap.size w w') => hB.up hb
  have HN := Lib.hid hn
  have HM := Lib.hid hm
  have HAO := Lib.hid hao
  have HBO := Lib.hid hbo
  have HF := Lib.hid hf
  clear hR hA hB hn hm hao hbo hf
  go_enter Try.func3, Try.ntmps3
  go_wp2_with fail
  with_reducible refine (first_any w HR.out).mono ?_
  rintro e w1 ⟨rfl, hb1⟩
  go_wp2_with fail
  with_reducible refine (few_any A a n c w1 (HA.out _ hb1) HN.out HAO.out).mono ?_
  rintro e w2 ⟨rfl, hbn⟩
  have hb2 := hb1.trans (hbn.mono hb1.size)
  clear hb1 hbn
  rcases HF.out with h1 | ⟨h1, h2⟩
  · rw [h1]
    go_wp2_with fail
    with_reducible refine (first_any w2 (HR.out.below hb2)).mono ?_
    rintro e w3 ⟨rfl, hbn⟩
    have hb3 := hb2.trans (hbn.mono hb2.size)
    clear hb2 hbn
    go_wp2_with fail
    go_ret
    exact ⟨rfl, hb3⟩
  · rw [h1]
    go_wp2_with fail
    with_reducible refine (few_any B b m d w2 (HB.out _ hb2) HM.out HBO.out).mono ?_
    rw [h2]
    rintro e w3 ⟨rfl, hbn⟩
    have hb3 := hb2.trans (hbn.mono hb2.size)
    clear hb2 hbn
    go_wp2_with fail
    with_reducible refine (first_any w3 (HR.out.below hb3)).mono ?_
    rintro e w4 ⟨rfl, hbn⟩
    have hb4 := hb3.trans (hbn.mono hb3.size)
    clear hb3 hbn
    go_wp2_with fail
    go_ret
    exact ⟨rfl, hb4⟩
def TlR (w : World) (n : Nat) (i : Value) (wr : World) : Prop := ∃ k : Nat, k ≤ n ∧ i = .int .i64 (k : Int) ∧ Below w.heap.size w wr
set_option maxRecDepth 100000 in
set_option maxHeartbeats 8000000 in
theorem walk_few (i : Int) (A B : Option Addr) (a b : List Fld) (n m c d : Nat) (w : World) (hR : Rdy w) (hi : Rng i) (hA : AtF w w.heap.size A a) (hB : AtF w w.heap.size B b) (hn : a.length = n) (hm : b.length = m) (hA0 : A = none → c = 0) (hB0 : B = none → d = 0) (hnc : n ≤ c) (hmd : m ≤ d) (hfa : few a = true) (hfb : few b = true) :
    Calls Try.prog 3 #[.int .i64 i, .slice A n c, .slice B m d] w (Yes w) := by
  have HR := Lib.hid hR
  have HI := Lib.hid hi
  have HA := Lib.hid fun (w' : World) (hb : Below w.heap.size w w') => hA.up hb
  have HAW := Lib.hid hA
  have HB := Lib.hid fun (w' : World) (hb : Below w.heap.size w w') => hB.up hb
  have HN := Lib.hid hn
  have HM := Lib.hid hm
  have HA0 := Lib.hid hA0
  have HB0 := Lib.hid hB0
  have HFA := Lib.hid hfa
  have HFB := Lib.hid hfb
  obtain ⟨hn200, hta⟩ := few_tot hfa
  obtain ⟨hm200, htb⟩ := few_tot hfb
  have HTA : Hid (tot a ≤ 46400) := Lib.hid hta
  have HTB : Hid (tot b ≤ 46400) := Lib.hid htb
  have hn2 : n ≤ 200 := by omega
  have hm2 : m ≤ 200 := by omega
  have HAO : Hid (∀ f ∈ a, f.ok) := Lib.hid (fun f hf => ok_of hf (by omega))
  have HBO : Hid (∀ f ∈ b, f.ok) := Lib.hid (fun f hf => ok_of hf (by omega))
  obtain ⟨G, hG⟩ : ∃ G, G = stg i := ⟨_, rfl⟩
  have HG := Lib.hid hG
  clear hR hi hA hB hn hm hA0 hB0 hfa hfb hta htb hn200 hm200 hG
  obtain ⟨⟨G1, G2, G3⟩, G4⟩ := G
  go_enter Try.func3, Try.ntmps3
  go_wp2_with fail
  with_reducible refine (first_any w HR.out).mono ?_
  rintro e w1 ⟨rfl, hb1⟩
  go_wp2_with fail
  with_reducible refine (few_any A a n c w1 (HA.out _ hb1) HN.out (fun f hf => (HAO.out f hf).fit)).mono ?_
  rw [HFA.out]
  rintro e w2 ⟨rfl, hbn⟩
  have hb2 := hb1.trans (hbn.mono hb1.size)
  clear hb1 hbn
  go_wp2_with fail
  with_reducible refine (few_any B b m d w2 (HB.out _ hb2) HM.out (fun f hf => (HBO.out f hf).fit)).mono ?_
  rw [HFB.out]
  rintro e w3 ⟨rfl, hbn⟩
  have hb3 := hb2.trans (hbn.mono hb2.size)
  clear hb2 hbn
  go_wp2_with fail
  with_reducible refine (sget_f i w3 (HR.out.below hb3) HI.out).mono ?_
  rw [← HG.out]
  rintro e w4 ⟨rfl, hbn⟩
  have hb4 := hb3.trans (hbn.mono hb3.size)
  clear hb3 hbn
  simp only []
  obtain ⟨g1, hg1⟩ : ∃ g, g = w4.heap.size := ⟨_, rfl⟩
  obtain ⟨wa, hwa⟩ : ∃ wa, wa = w4.alloc (.cells #[.string G1, .string G2, .bool G3] 26) := ⟨_, rfl⟩
  have hh : wa.heap[g1]? = some (.cells #[.string G1, .string G2, .bool G3] 26) := by rw [hwa, hg1]; exact heap_alloc_new w4 _
  have hlt : g1 < wa.heap.size := by rw [hwa, hg1]; simp
  have hba : Below w.heap.size w wa := by rw [hwa]; exact hb4.alloc hb4.size _
  have HC := Lib.hid (rstat_any i wa HI.out)
  rw [← HG.out, hwa] at HC
  go_wp2_with fail
  with_reducible refine (HC.out).mono ?_
  rw [← hwa]
  rintro e w5 ⟨rfl, hb5⟩
  simp only []
  obtain ⟨g2, hg2⟩ : ∃ g, g = w5.heap.size := ⟨_, rfl⟩
  obtain ⟨wb, hwb⟩ : ∃ wb, wb = w5.alloc (.cells #[.string G1, .string G2, .bool G3] 26) := ⟨_, rfl⟩
  have hbb : Below wa.heap.size wa wb := by rw [hwb]; exact hb5.alloc hb5.size _
  have hbw : Below w.heap.size w wb := hba.trans (hbb.mono hba.size)
  have hh2 : wb.heap[g2]? = some (.cells #[.string G1, .string G2, .bool G3] 26) := by rw [hwb, hg2]; exact heap_alloc_new w5 _
  have x0 : wb.cell? ⟨g1, 0, none⟩ = some (.string G1) := (hbb.cell (p := ⟨g1, 0, none⟩) hlt).trans (cell_of_row _ g1 0 _ 26 _ hh)
  have x1 : wb.cell? ⟨g1, 1, none⟩ = some (.string G2) := (hbb.cell (p := ⟨g1, 1, none⟩) hlt).trans (cell_of_row _ g1 1 _ 26 _ hh)
  have x2 : wb.cell? ⟨g1, 2, none⟩ = some (.bool G3) := (hbb.cell (p := ⟨g1, 2, none⟩) hlt).trans (cell_of_row _ g1 2 _ 26 _ hh)
  have y0 : wb.cell? ⟨g2, 0, none⟩ = some (.string G1) := cell_of_row _ g2 0 _ 26 _ hh2
  have y1 : wb.cell? ⟨g2, 1, none⟩ = some (.string G2) := cell_of_row _ g2 1 _ 26 _ hh2
  have y2 : wb.cell? ⟨g2, 2, none⟩ = some (.bool G3) := cell_of_row _ g2 2 _ 26 _ hh2
  rw [← hg1]
  rw [hwb] at x0 x1 x2 y0 y1 y2 hbw
  clear hh hh2 hwa hba hbb hb5 hb4 HC hlt hg1 hwb
  have HG2 := Lib.hid hg2
  rw [hg2] at y0 y1 y2
  clear hg2
  go_wp2
  clear x0 x1 x2 y0 y1 y2
  go_loopw [11] (fun i wr => TlR w n i wr) (fun i _ => n - (intOf i).toNat)
  case atStart => exact ⟨0, Nat.zero_le _, rfl, hbw⟩
  case round =>
    clear hbw
    obtain ⟨k, hk, rfl, hbw⟩ := hrel
    by_cases hlt : k < n
    · have hkl : k < a.length := by have := HN.out; omega
      obtain ⟨bk, o, rfl, hbk, hc⟩ := HAW.out.pos (by omega)
      obtain ⟨f, hf⟩ : ∃ f, f = a[k] := ⟨_, rfl⟩
      obtain ⟨c0, c1, c2⟩ := hc k hkl
      rw [← hf] at c0 c1 c2
      have hok : f.ok := HAO.out f (by rw [hf]; exact List.getElem_mem _)
      have hfs : fsize f ≤ 46400 := Nat.le_trans (fsize_le (by rw [hf]; exact List.getElem_mem _)) HTA.out
      have HOK := Lib.hid hok
      obtain ⟨F1, F2, F3⟩ := f
      simp only [] at c0 c1 c2
      have HO2 : Hid (F1.size ≤ 140737488355328 ∧ F2.size ≤ 140737488355328) := Lib.hid hok
      have HC0 := Lib.hid fun (w' : World) (hb : Below w.heap.size w w') => (hb.cell (p := ⟨bk, o + k * 3, none⟩) hbk).trans c0
      have HC1 := Lib.hid fun (w' : World) (hb : Below w.heap.size w w') => (hb.cell (p := ⟨bk, o + k * 3 + 1, none⟩) hbk).trans c1
      have HC2 := Lib.hid fun (w' : World) (hb : Below w.heap.size w w') => (hb.cell (p := ⟨bk, o + k * 3 + 2, none⟩) hbk).trans c2
      obtain ⟨D, hD⟩ : ∃ D, D = found F1 F2 := ⟨_, rfl⟩
      have HD := Lib.hid hD
      obtain ⟨d1, d2⟩ := D
      obtain ⟨z, hz⟩ : ∃ z, z = fsize ⟨F1, F2, F3⟩ := ⟨_, rfl⟩
      have HZ := Lib.hid hz
      have q1 : ((d1 : Int) != (d1 : Int)) = false := by simp
      have q2 : ((d2 : Int) != (d2 : Int)) = false := by simp
      have q3 : ((z : Int) != (z : Int)) = false := by simp
      have ki : (k : Int) < (n : Int) := by omega
      have e0 := HC0.out wr hbw
      have e1 := HC1.out wr hbw
      clear hc hkl hf c0 c1 c2 hD hz hok hfs
      have hbw2 : Below w.heap.size w wr.drew := below_drewN hbw 1
      have hf1 := fun (W : World) (hb : Below w.heap.size w W) => sfind_f F1 F2 W (HR.out.below hb) HO2.out.1 HO2.out.2
      have hf2 := fun (W : World) => rfind_any F1 F2 W
      rw [← HD.out] at hf1 hf2
      have HF1 := Lib.hid hf1
      have HF2 := Lib.hid hf2
      clear hf1 hf2
      go_wp2
      go_region_held3 (fun w' => w'.cell? ⟨bk, o + k * 3, none⟩ = some (.string F1) ∧ w'.cell? ⟨bk, o + k * 3 + 1, none⟩ = some (.string F2))
        (first
          | exact ⟨e0, e1⟩
          | exact ⟨HC0.out _ hb6, HC1.out _ hb6⟩)
        (first
          | ((with_reducible refine (HF1.out _ hbw2).mono ?_); rintro e w6 ⟨rfl, hb6'⟩; have hb6 := hbw2.trans (hb6'.mono hbw2.size)))
      clear e0 e1 hbw2 hbw hb6'
      have e0 := HC0.out w6 hb6
      have e1 := HC1.out w6 hb6
      have hbw3 : Below w.heap.size w w6.drew := below_drewN hb6 1
      go_wp2
      go_region_held3 (fun w' => w'.cell? ⟨bk, o + k * 3, none⟩ = some (.string F1) ∧ w'.cell? ⟨bk, o + k * 3 + 1, none⟩ = some (.string F2))
        (first
          | exact ⟨e0, e1⟩
          | exact ⟨HC0.out _ hb7, HC1.out _ hb7⟩)
        (first
          | ((with_reducible refine (HF2.out _).mono ?_); rintro e w7 ⟨rfl, hb7'⟩; have hb7 := hbw3.trans (hb7'.mono hbw3.size)))
      clear e0 e1 hbw3 hb6 hb7'
      have e0 := HC0.out w7 hb7
      have e1 := HC1.out w7 hb7
      have e2 := HC2.out w7 hb7
      have hz1 := fun (W : World) (hb : Below w.heap.size w W) => ssize_f ⟨F1, F2, F3⟩ W (HR.out.below hb) HOK.out
      have hz2 := fun (W : World) => rsize_any ⟨F1, F2, F3⟩ W HOK.out
      rw [← HZ.out] at hz1 hz2
      have HZ1 := Lib.hid hz1
      have HZ2 := Lib.hid hz2
      clear hz1 hz2
      have hbd : Below w.heap.size w w7.drew := below_drewN hb7 1
      go_wp2
      go_region_held3 (fun w' => w'.cell? ⟨bk, o + k * 3, none⟩ = some (.string F1) ∧ w'.cell? ⟨bk, o + k * 3 + 1, none⟩ = some (.string F2) ∧ w'.cell? ⟨bk, o + k * 3 + 2, none⟩ = some (.bool F3))
        (first
          | exact ⟨e0, e1, e2⟩
          | exact ⟨HC0.out _ hb8, HC1.out _ hb8, HC2.out _ hb8⟩
          | exact ⟨HC0.out _ hb9, HC1.out _ hb9, HC2.out _ hb9⟩)
        (first
          | ((with_reducible refine (HZ1.out _ hbd).mono ?_); rintro e w8 ⟨rfl, hb8'⟩; have hb8 := hbd.trans (hb8'.mono hbd.size))
          | ((with_reducible refine (HZ2.out _).mono ?_); rintro e w9 ⟨rfl, hb9'⟩; have hb9 := hb8.trans (hb9'.mono hb8.size)))
      clear e0 e1 e2 hbd hb7 hb8 hb8' hb9'
      go_wp2
      go_roundw
      case rel => exact ⟨k + 1, by omega, by go_num, hb9⟩
      case measure => simp [intOf]; omega
    · obtain rfl : k = n := by omega
      have q3 : ((tot a : Int) == (tot a : Int)) = true := by simp
      obtain ⟨T, hT⟩ : ∃ T, T = tot a := ⟨_, rfl⟩
      obtain ⟨U, hU⟩ : ∃ U, U = sames a b := ⟨_, rfl⟩
      have HT := Lib.hid hT
      have HU := Lib.hid hU
      rw [← hT] at q3
      clear hT hU
      go_wp2_with fail
      with_reducible refine (first_any wr (HR.out.below hbw)).mono ?_
      rintro e w6 ⟨rfl, hbn⟩
      have hb6 := hbw.trans (hbn.mono hbw.size)
      clear hbw hbn
      go_wp2_with fail
      with_reducible refine (stotal_f A a k c w6 (HR.out.below hb6) (HA.out _ hb6) HN.out HA0.out hnc (by have := HTA.out; omega)).mono ?_
      rw [← HT.out]
      rintro e w7 ⟨rfl, hbn⟩
      have hb7 := hb6.trans (hbn.mono hb6.size)
      clear hb6 hbn
      go_wp2_with fail
      with_reducible refine (rtotal_any A a k c w7 (HA.out _ hb7) HN.out (by have := HTA.out; omega)).mono ?_
      rw [← HT.out]
      rintro e w8 ⟨rfl, hbn⟩
      have hb8 := hb7.trans (hbn.mono hb7.size)
      clear hb7 hbn
      go_wp2_with fail
      with_reducible refine (ssame_f A B a b k m c d w8 (HR.out.below hb8) (HA.out _ hb8) (HB.out _ hb8) HN.out HM.out HA0.out HB0.out hnc hmd (by have := HTA.out; omega) (by have := HTB.out; omega) (by omega) (by omega)).mono ?_
      rw [← HU.out]
      rintro e w9 ⟨rfl, hbn⟩
      have hb9 := hb8.trans (hbn.mono hb8.size)
      clear hb8 hbn
      go_wp2_with fail
      with_reducible refine (rsame_any A B a b k m c d w9 (HA.out _ hb9) (HB.out _ hb9) HN.out HM.out (by omega)).mono ?_
      rw [← HU.out]
      rintro e w10 ⟨rfl, hbn⟩
      have hb10 := hb9.trans (hbn.mono hb9.size)
      clear hb9 hbn
      cases U
      all_goals
        go_wp2_with fail
        go_ret
        exact ⟨rfl, hb10⟩
theorem walk (i : Int) (A B : Option Addr) (a b : List Fld) (c d : Nat) (w : World) (hR : Rdy w) (hi : (Lit.int .i64 i).wf = true) (hA : AtF w w.heap.size A a) (hB : AtF w w.heap.size B b) (hA0 : A = none → c = 0) (hB0 : B = none → d = 0) (hnc : a.length ≤ c) (hmd : b.length ≤ d) (hao : ∀ f ∈ a, f.name.size ≤ maxLen ∧ f.value.size ≤ maxLen) (hbo : ∀ f ∈ b, f.name.size ≤ maxLen ∧ f.value.size ≤ maxLen) :
    Calls Try.prog 3 #[.int .i64 i, .slice A a.length c, .slice B b.length d] w (Yes w) := by
  have ok : ∀ l : List Fld, (∀ f ∈ l, f.name.size ≤ maxLen ∧ f.value.size ≤ maxLen) → ∀ f ∈ l, f.fit := fun l h f hf => by
    have := h f hf
    unfold maxLen at this
    exact ⟨by omega, by omega⟩
  cases ha : few a with
  | false => exact walk_not i A B a b _ _ c d w hR hA hB rfl rfl (ok a hao) (ok b hbo) (.inl ha)
  | true =>
    cases hb : few b with
    | false => exact walk_not i A B a b _ _ c d w hR hA hB rfl rfl (ok a hao) (ok b hbo) (.inr ⟨ha, hb⟩)
    | true => exact walk_few i A B a b _ _ c d w hR (bounds_i64 hi) hA hB rfl rfl hA0 hB0 hnc hmd ha hb
end statTells
end Go.Proofs.Ytcamcfecmjoniaa
