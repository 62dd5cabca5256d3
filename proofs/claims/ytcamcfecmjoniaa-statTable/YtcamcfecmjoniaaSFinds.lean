/- The walk of StatFinds. -/
import Derived.Test.YtcamcfecmjoniaaSFirst
namespace Go.Proofs.Ytcamcfecmjoniaa
open Go.RowKit St

theorem toList_data (s : ByteArray) : s.toList = s.data.toList := by
  obtain ⟨⟨l⟩⟩ := s
  exact ByteArray.toList_mk l
theorem bytes_inj {a b : ByteArray} (h : a.toList = b.toList) : a = b := by
  rw [toList_data, toList_data] at h
  obtain ⟨⟨l⟩⟩ := a
  obtain ⟨⟨m⟩⟩ := b
  simp at h
  rw [h]
/-- What is found is that one's. -/
theorem fnd_is (n v : List UInt8) : ∀ f i, ((fnd n v f i).1 = 0 ∨ (i < (fnd n v f i).1 ∧ (fnd n v f i).1 ≤ i + f ∧ (nm ((fnd n v f i).1 - 1)).toList = n ∧ (vl ((fnd n v f i).1 - 1)).toList = v ∧ i < (fnd n v f i).2 ∧ (fnd n v f i).2 ≤ (fnd n v f i).1)) ∧
    ((fnd n v f i).2 = 0 ∨ (i < (fnd n v f i).2 ∧ (fnd n v f i).2 ≤ i + f ∧ (nm ((fnd n v f i).2 - 1)).toList = n))
  | 0, i => ⟨.inl rfl, .inl rfl⟩
  | f + 1, i => by
    have ih := fnd_is n v f (i + 1)
    cases hN : (nm i).toList == n with
    | false =>
      have e : fnd n v (f + 1) i = fnd n v f (i + 1) := by rw [fnd, hN]; rfl
      rw [e]
      refine ⟨?_, ?_⟩
      · rcases ih.1 with h | ⟨h1, h2, h3, h4, h5, h6⟩
        · exact .inl h
        · exact .inr ⟨by omega, by omega, h3, h4, by omega, h6⟩
      · rcases ih.2 with h | ⟨h1, h2, h3⟩
        · exact .inl h
        · exact .inr ⟨by omega, by omega, h3⟩
    | true =>
      have hN' : (nm i).toList = n := by simpa using hN
      cases hV : (vl i).toList == v with
      | false =>
        have e : fnd n v (f + 1) i = ((fnd n v f (i + 1)).1, i + 1) := by rw [fnd, hN, hV]; rfl
        rw [e]
        refine ⟨?_, .inr ⟨by simp, by simp, by simpa using hN'⟩⟩
        rcases ih.1 with h | ⟨h1, h2, h3, h4, h5, h6⟩
        · exact .inl h
        · exact .inr ⟨by simp; omega, by simp; omega, h3, h4, by simp, by simp; omega⟩
      | true =>
        have hV' : (vl i).toList = v := by simpa using hV
        have e : fnd n v (f + 1) i = (i + 1, i + 1) := by rw [fnd, hN, hV]; rfl
        rw [e]
        exact ⟨.inr ⟨by simp, by simp, by simpa using hN', by simpa using hV', by simp, by simp⟩, .inr ⟨by simp, by simp, by simpa using hN'⟩⟩
/-- What is there is found, there or lower. -/
theorem fnd_low (n v : List UInt8) (j : Nat) (hn : (nm j).toList = n) : ∀ f i, i ≤ j → j < i + f → (1 ≤ (fnd n v f i).2 ∧ (fnd n v f i).2 ≤ j + 1) ∧ ((vl j).toList = v → 1 ≤ (fnd n v f i).1 ∧ (fnd n v f i).1 ≤ j + 1)
  | 0, i, h1, h2 => absurd h2 (by omega)
  | f + 1, i, h1, h2 => by
    by_cases hij : i = j
    · subst hij
      have hN : ((nm i).toList == n) = true := by simpa using hn
      cases hV : (vl i).toList == v with
      | false =>
        rw [fnd, hN, hV]
        refine ⟨by simp, fun h => ?_⟩
        rw [h] at hV
        simp at hV
      | true =>
        rw [fnd, hN, hV]
        simp
    · have ih := fnd_low n v j hn f (i + 1) (by omega) (by omega)
      cases hN : (nm i).toList == n with
      | false =>
        rw [fnd, hN]
        exact ih
      | true =>
        cases hV : (vl i).toList == v with
        | false =>
          rw [fnd, hN, hV]
          exact ⟨by simp; omega, ih.2⟩
        | true =>
          rw [fnd, hN, hV]
          exact ⟨by simp; omega, fun _ => by simp; omega⟩
theorem stg_in (k : Nat) (h1 : 1 ≤ k) (h2 : k ≤ 61) : stg (k : Int) = (⟨nm (k - 1), vl (k - 1), false⟩, true) := by rw [stg, if_pos (by omega), Int.toNat_natCast]
theorem stg_out (i : Int) (h : i < 1 ∨ 61 < i) : stg i = (⟨⟨#[]⟩, ⟨#[]⟩, false⟩, false) := by rw [stg, if_neg (by omega)]
/-- Each of the table is found where it is, or lower, alike. -/
theorem found_tab (k : Nat) (h1 : 1 ≤ k) (h2 : k ≤ 61) : ∃ b o : Nat, found (nm (k - 1)) (vl (k - 1)) = (b, o) ∧ 1 ≤ b ∧ b ≤ k ∧ 1 ≤ o ∧ o ≤ b ∧ stg (b : Int) = (⟨nm (k - 1), vl (k - 1), false⟩, true) := by
  have hl := fnd_low (nm (k - 1)).toList (vl (k - 1)).toList (k - 1) rfl 61 0 (by omega) (by omega)
  have hi := fnd_is (nm (k - 1)).toList (vl (k - 1)).toList 61 0
  have hf : found (nm (k - 1)) (vl (k - 1)) = fnd (nm (k - 1)).toList (vl (k - 1)).toList 61 0 := rfl
  have h3 := hl.2 rfl
  generalize fnd (nm (k - 1)).toList (vl (k - 1)).toList 61 0 = r at hl hi hf h3
  obtain ⟨b, o⟩ := r
  simp only at hl hi h3
  rcases hi.1 with h | ⟨_, h61, hN, hV, _, hob⟩
  · omega
  · refine ⟨b, o, hf, h3.1, by omega, hl.1.1, hob, ?_⟩
    rw [stg_in b h3.1 (by omega), bytes_inj hN, bytes_inj hV]
namespace statFinds
set_option maxRecDepth 100000 in
set_option maxHeartbeats 4000000 in
theorem walk_long (n v : ByteArray) (w : World) (hR : Rdy w) (hn : n.size ≤ 9223372036854775807) (hv : v.size ≤ 9223372036854775807) (hl : 1000 < n.size ∨ n.size ≤ 1000 ∧ 1000 < v.size) :
    Calls Try.prog 4 #[.string n, .string v] w (Yes w) := by
  have HR := Lib.hid hR
  clear hR
  rcases hl with hl | ⟨hl, hl2⟩
  · have q : decide ((1000 : Int) < (n.size : Int)) = true := decide_eq_true (by omega)
    have q' : (1000 : Int) < (n.size : Int) := by omega
    go_enter Try.func4, Try.ntmps4
    go_wp2_with fail
    with_reducible refine (first_any w HR.out).mono ?_
    rintro e w1 ⟨rfl, hb1⟩
    go_wp2_with fail
    with_reducible refine (first_any w1 (HR.out.below hb1)).mono ?_
    rintro e w2 ⟨rfl, hbn⟩
    have hb2 := hb1.trans (hbn.mono hb1.size)
    clear hb1 hbn
    go_wp2_with fail
    go_ret
    exact ⟨rfl, hb2⟩
  · have q : decide ((1000 : Int) < (n.size : Int)) = false := decide_eq_false (by omega)
    have q' : ¬ (1000 : Int) < (n.size : Int) := by omega
    have p : decide ((1000 : Int) < (v.size : Int)) = true := decide_eq_true (by omega)
    have p' : (1000 : Int) < (v.size : Int) := by omega
    go_enter Try.func4, Try.ntmps4
    go_wp2_with fail
    with_reducible refine (first_any w HR.out).mono ?_
    rintro e w1 ⟨rfl, hb1⟩
    go_wp2_with fail
    with_reducible refine (first_any w1 (HR.out.below hb1)).mono ?_
    rintro e w2 ⟨rfl, hbn⟩
    have hb2 := hb1.trans (hbn.mono hb1.size)
    clear hb1 hbn
    go_wp2_with fail
    go_ret
    exact ⟨rfl, hb2⟩
def FsR (w : World) (i : Value) (wr : World) : Prop := ∃ k : Nat, 1 ≤ k ∧ k ≤ 62 ∧ i = .int .i64 (k : Int) ∧ Below w.heap.size w wr
set_option maxRecDepth 100000 in
set_option maxHeartbeats 8000000 in
theorem walk_short (n v : ByteArray) (w : World) (hR : Rdy w) (hn : n.size ≤ 1000) (hv : v.size ≤ 1000) :
    Calls Try.prog 4 #[.string n, .string v] w (Yes w) := by
  have HR := Lib.hid hR
  have HN : Hid (n.size ≤ 140737488355328) := Lib.hid (by omega)
  have HV : Hid (v.size ≤ 140737488355328) := Lib.hid (by omega)
  have q : decide ((1000 : Int) < (n.size : Int)) = false := decide_eq_false (by omega)
  have q' : ¬ (1000 : Int) < (n.size : Int) := by omega
  have p : decide ((1000 : Int) < (v.size : Int)) = false := decide_eq_false (by omega)
  have p' : ¬ (1000 : Int) < (v.size : Int) := by omega
  clear hR
  go_enter Try.func4, Try.ntmps4
  go_wp2_with fail
  with_reducible refine (first_any w HR.out).mono ?_
  rintro e w1 ⟨rfl, hb1⟩
  go_wp2
  clear q q' p p'
  go_loopw [5, 6, 7, 8, 9, 10, 11] (fun i _ _ _ _ _ _ wr => FsR w i wr) (fun i _ _ _ _ _ _ _ => 62 - (intOf i).toNat)
  case atStart => exact ⟨1, by omega, by omega, rfl, hb1⟩
  case round =>
    clear hb1
    obtain ⟨k, hk1, hk2, rfl, hbw⟩ := hrel
    by_cases hlt : k ≤ 61
    · have ki : (k : Int) ≤ 61 := by omega
      obtain ⟨b, o, hf, hb1, hbk, ho1, hob, hsb⟩ := found_tab k hk1 hlt
      have hsk := stg_in k hk1 hlt
      obtain ⟨X, hX⟩ : ∃ X, X = nm (k - 1) := ⟨_, rfl⟩
      obtain ⟨Y, hY⟩ : ∃ Y, Y = vl (k - 1) := ⟨_, rfl⟩
      rw [← hX, ← hY] at hf hsb hsk
      have HXS : Hid (X.size ≤ 140737488355328) := Lib.hid (by
        have : ∀ i : Fin 61, (nm i.1).size ≤ 100 := by decide +kernel
        have := this ⟨k - 1, by omega⟩
        simp only at this
        rw [hX]
        omega)
      have HYS : Hid (Y.size ≤ 140737488355328) := Lib.hid (by
        have : ∀ i : Fin 61, (vl i.1).size ≤ 100 := by decide +kernel
        have := this ⟨k - 1, by omega⟩
        simp only at this
        rw [hY]
        omega)
      have hg := sget_f (k : Int) wr (HR.out.below hbw) (by unfold Rng; omega)
      rw [hsk] at hg
      have HG := Lib.hid hg
      have HF := Lib.hid hf
      have HSB := Lib.hid hsb
      have kb : (b : Int) ≤ (k : Int) := by omega
      have b1 : (1 : Int) ≤ (b : Int) := by omega
      have o1 : (1 : Int) ≤ (o : Int) := by omega
      have ob : (o : Int) ≤ (b : Int) := by omega
      clear hg hf hsb hsk hX hY
      go_wp2_with fail
      with_reducible refine (HG.out).mono ?_
      rintro e w4 ⟨rfl, hbn⟩
      have hb4 := hbw.trans (hbn.mono hbw.size)
      clear hbw hbn HG
      simp only []
      obtain ⟨g1, hg1⟩ : ∃ g, g = w4.heap.size := ⟨_, rfl⟩
      obtain ⟨wa, hwa⟩ : ∃ wa, wa = w4.alloc (.cells #[.string X, .string Y, .bool false] 26) := ⟨_, rfl⟩
      have hh : wa.heap[g1]? = some (.cells #[.string X, .string Y, .bool false] 26) := by rw [hwa, hg1]; exact heap_alloc_new w4 _
      have hlt1 : g1 < wa.heap.size := by rw [hwa, hg1]; simp
      have hba : Below w.heap.size w wa := by rw [hwa]; exact hb4.alloc hb4.size _
      have HC := Lib.hid (sfind_f X Y wa (HR.out.below hba) HXS.out HYS.out)
      rw [HF.out, hwa] at HC
      go_wp2_with fail
      with_reducible refine (HC.out).mono ?_
      rw [← hwa]
      rintro e w5 ⟨rfl, hb5⟩
      simp only []
      have hb6 := hba.trans (hb5.mono hba.size)
      have hg2 := sget_f (b : Int) w5 (HR.out.below hb6) (by unfold Rng; omega)
      rw [HSB.out] at hg2
      have HG2 := Lib.hid hg2
      clear hg2 HC
      go_wp2_with fail
      with_reducible refine (HG2.out).mono ?_
      rintro e w6 ⟨rfl, hb7⟩
      simp only []
      have hb8 := hb5.trans (hb7.mono hb5.size)
      have hb9 : Below wa.heap.size wa (w6.alloc (.cells #[.string X, .string Y, .bool false] 26)) := hb8.alloc hb8.size _
      have hbZ : Below w.heap.size w (w6.alloc (.cells #[.string X, .string Y, .bool false] 26)) := hba.trans (hb9.mono hba.size)
      have x0 : (w6.alloc (.cells #[.string X, .string Y, .bool false] 26)).cell? ⟨g1, 0, none⟩ = some (.string X) := (hb9.cell (p := ⟨g1, 0, none⟩) hlt1).trans (cell_of_row _ g1 0 _ 26 _ hh)
      have x1 : (w6.alloc (.cells #[.string X, .string Y, .bool false] 26)).cell? ⟨g1, 1, none⟩ = some (.string Y) := (hb9.cell (p := ⟨g1, 1, none⟩) hlt1).trans (cell_of_row _ g1 1 _ 26 _ hh)
      have x2 : (w6.alloc (.cells #[.string X, .string Y, .bool false] 26)).cell? ⟨g1, 2, none⟩ = some (.bool false) := (hb9.cell (p := ⟨g1, 2, none⟩) hlt1).trans (cell_of_row _ g1 2 _ 26 _ hh)
      have n0 : ¬ (b : Int) < 1 := by omega
      have n1 : ¬ (k : Int) < (b : Int) := by omega
      have n2 : ¬ (o : Int) < 1 := by omega
      have n3 : ¬ (b : Int) < (o : Int) := by omega
      rw [← hg1]
      clear hwa hg1 hh hlt1 hba hb5 hb6 hb7 hb8 hb9 hb4 HG2
      go_wp2
      go_roundw
      case rel => exact ⟨k + 1, by omega, by omega, by go_num, hbZ⟩
      case measure => simp [intOf]; omega
    · obtain rfl : k = 62 := by omega
      have hi := fnd_is n.toList v.toList 61 0
      have hff : found n v = fnd n.toList v.toList 61 0 := rfl
      generalize fnd n.toList v.toList 61 0 = r at hi hff
      obtain ⟨b, o⟩ := r
      simp only at hi
      have hb61 : b ≤ 61 := by rcases hi.1 with h | h <;> omega
      have ho61 : o ≤ 61 := by rcases hi.2 with h | h <;> omega
      obtain ⟨⟨G1, G2, G3⟩, gb, hG, hkG⟩ : ∃ (f : Fld) (x : Bool), stg (b : Int) = (f, x) ∧ (b = 0 ∧ x = false ∨ 0 < b ∧ x = true ∧ f.name = n ∧ f.value = v ∧ 0 < o) := by
        rcases hi.1 with h | h
        · exact ⟨_, _, stg_out _ (by omega), .inl ⟨h, rfl⟩⟩
        · exact ⟨_, _, stg_in b (by omega) (by omega), .inr ⟨by omega, rfl, bytes_inj h.2.2.1, bytes_inj h.2.2.2.1, by omega⟩⟩
      obtain ⟨⟨K1, K2, K3⟩, kb, hK, hkK⟩ : ∃ (f : Fld) (x : Bool), stg (o : Int) = (f, x) ∧ (o = 0 ∧ x = false ∨ 0 < o ∧ x = true ∧ f.name = n) := by
        rcases hi.2 with h | h
        · exact ⟨_, _, stg_out _ (by omega), .inl ⟨h, rfl⟩⟩
        · exact ⟨_, _, stg_in o (by omega) (by omega), .inr ⟨by omega, rfl, bytes_inj h.2.2⟩⟩
      simp only at hkG hkK
      have hfn := sfind_f n v wr (HR.out.below hbw) HN.out HV.out
      rw [hff] at hfn
      have HFN := Lib.hid hfn
      have HG := Lib.hid hG
      have HK := Lib.hid hK
      have HKG := Lib.hid hkG
      have HKK := Lib.hid hkK
      have HB : Hid (b ≤ 61) := Lib.hid hb61
      have HO : Hid (o ≤ 61) := Lib.hid ho61
      clear hfn hG hK hkG hkK hff hi hb61 ho61 hk1 hk2 hlt hn hv
      go_wp2_with fail
      with_reducible refine (HFN.out).mono ?_
      rintro e w2 ⟨rfl, hbn⟩
      have hb2 := hbw.trans (hbn.mono hbw.size)
      clear hbw hbn HFN
      simp only []
      have hg := sget_f (b : Int) w2 (HR.out.below hb2) (by have := HB.out; unfold Rng; omega)
      rw [HG.out] at hg
      have HGC := Lib.hid hg
      clear hg
      go_wp2_with fail
      with_reducible refine (HGC.out).mono ?_
      rintro e w3 ⟨rfl, hbn⟩
      have hb3 := hb2.trans (hbn.mono hb2.size)
      clear hb2 hbn HGC
      simp only []
      obtain ⟨g1, hg1⟩ : ∃ g, g = w3.heap.size := ⟨_, rfl⟩
      obtain ⟨wa, hwa⟩ : ∃ wa, wa = w3.alloc (.cells #[.string G1, .string G2, .bool G3] 26) := ⟨_, rfl⟩
      have hh : wa.heap[g1]? = some (.cells #[.string G1, .string G2, .bool G3] 26) := by rw [hwa, hg1]; exact heap_alloc_new w3 _
      have hlt1 : g1 < wa.heap.size := by rw [hwa, hg1]; simp
      have hba : Below w.heap.size w wa := by rw [hwa]; exact hb3.alloc hb3.size _
      have hg := sget_f (o : Int) wa (HR.out.below hba) (by have := HO.out; unfold Rng; omega)
      rw [HK.out, hwa] at hg
      have HGC := Lib.hid hg
      clear hg
      go_wp2_with fail
      with_reducible refine (HGC.out).mono ?_
      rw [← hwa]
      rintro e w4 ⟨rfl, hb4⟩
      simp only []
      obtain ⟨g2, hg2⟩ : ∃ g, g = w4.heap.size := ⟨_, rfl⟩
      obtain ⟨wb, hwb⟩ : ∃ wb, wb = w4.alloc (.cells #[.string K1, .string K2, .bool K3] 26) := ⟨_, rfl⟩
      have hh2 : wb.heap[g2]? = some (.cells #[.string K1, .string K2, .bool K3] 26) := by rw [hwb, hg2]; exact heap_alloc_new w4 _
      have hlt2 : g2 < wb.heap.size := by rw [hwb, hg2]; simp
      have hbb : Below wa.heap.size wa wb := by rw [hwb]; exact hb4.alloc hb4.size _
      have hbw : Below w.heap.size w wb := hba.trans (hbb.mono hba.size)
      have hg := sget_f 0 wb (HR.out.below hbw) (by unfold Rng; omega)
      rw [stg_out 0 (by omega), hwb] at hg
      have HGD := Lib.hid hg
      clear hg HGC
      rw [← hg1]
      go_wp2_with fail
      with_reducible refine (HGD.out).mono ?_
      rw [← hwb]
      rintro e w5 ⟨rfl, hb5⟩
      simp only []
      obtain ⟨wc, hwc⟩ : ∃ wc, wc = w5.alloc (.cells #[.string ⟨#[]⟩, .string ⟨#[]⟩, .bool false] 26) := ⟨_, rfl⟩
      have hbc : Below wb.heap.size wb wc := by rw [hwc]; exact hb5.alloc hb5.size _
      have hbx : Below w.heap.size w wc := hbw.trans (hbc.mono hbw.size)
      have hfi := first_any wc (HR.out.below hbx)
      rw [hwc] at hfi
      have HFI := Lib.hid hfi
      clear hfi HGD
      rw [← hg2]
      go_wp2_with fail
      with_reducible refine (HFI.out).mono ?_
      rw [← hwc]
      rintro e w6 ⟨rfl, hb6⟩
      have hbd := hbc.trans (hb6.mono hbc.size)
      have hbe := hbb.trans (hbd.mono hbb.size)
      have hbZ := hba.trans (hbe.mono hba.size)
      have x0 : w6.cell? ⟨g1, 0, none⟩ = some (.string G1) := (hbe.cell (p := ⟨g1, 0, none⟩) hlt1).trans (cell_of_row _ g1 0 _ 26 _ hh)
      have x1 : w6.cell? ⟨g1, 1, none⟩ = some (.string G2) := (hbe.cell (p := ⟨g1, 1, none⟩) hlt1).trans (cell_of_row _ g1 1 _ 26 _ hh)
      have y0 : w6.cell? ⟨g2, 0, none⟩ = some (.string K1) := (hbd.cell (p := ⟨g2, 0, none⟩) hlt2).trans (cell_of_row _ g2 0 _ 26 _ hh2)
      clear hwa hwb hwc hg1 hg2 hh hh2 hlt1 hlt2 hba hbb hbw hbc hbx hbd hbe hb3 hb4 hb5 hb6 HFI
      rcases HKG.out with ⟨rfl, rfl⟩ | ⟨hb0, rfl, rfl, rfl, ho0⟩
      · rcases HKK.out with ⟨rfl, rfl⟩ | ⟨ho0, rfl, rfl⟩
        · go_wp2_with fail
          go_ret
          exact ⟨rfl, hbZ⟩
        · have e1 : ((0 : Int) < (o : Int)) := by omega
          have e2 : ((o : Int) == 0) = false := by simp; omega
          go_wp2_with fail
          go_ret
          exact ⟨rfl, hbZ⟩
      · rcases HKK.out with ⟨rfl, rfl⟩ | ⟨ho0, rfl, rfl⟩
        · omega
        · have e1 : ((0 : Int) < (o : Int)) := by omega
          have e2 : ((o : Int) == 0) = false := by simp; omega
          have e3 : ((0 : Int) < (b : Int)) := by omega
          have e4 : ((b : Int) == 0) = false := by simp; omega
          go_wp2_with fail
          go_ret
          exact ⟨rfl, hbZ⟩
theorem walk (n v : ByteArray) (w : World) (hR : Rdy w) (hn : n.size ≤ maxLen) (hv : v.size ≤ maxLen) : Calls Try.prog 4 #[.string n, .string v] w (Yes w) := by
  unfold maxLen at hn hv
  rcases Nat.lt_or_ge 1000 n.size with h | h
  · exact walk_long n v w hR (by omega) (by omega) (.inl h)
  · rcases Nat.lt_or_ge 1000 v.size with h' | h'
    · exact walk_long n v w hR (by omega) (by omega) (.inr ⟨h, h'⟩)
    · exact walk_short n v w hR h h'
end statFinds
end Go.Proofs.Ytcamcfecmjoniaa
