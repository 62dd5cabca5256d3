/- The walk of StatTable. -/
import Derived.Test.YtcamcfecmjoniaaSFinds
namespace Go.Proofs.Ytcamcfecmjoniaa
open Go.RowKit St

/-- The lowest place (from 1) with the name that stands at place c (from 0). -/
def firsts : List Nat := [1, 2, 2, 4, 4, 6, 6, 8, 8, 8, 8, 8, 8, 8, 15, 16, 17, 18, 19, 20, 21, 22, 23, 24, 25, 26, 27, 28, 29, 30, 31, 32, 33, 34, 35, 36, 37, 38, 39, 40, 41, 42, 43, 44, 45, 46, 47, 48, 49, 50, 51, 52, 53, 54, 55, 56, 57, 58, 59, 60, 61]
set_option maxRecDepth 100000 in
theorem names_run : ∀ c : Fin 61, ∀ j : Fin 61, firsts.getD c.1 0 ≤ j.1 + 1 → j.1 ≤ c.1 → (nm j.1).data.toList = (nm c.1).data.toList := by decide +kernel
set_option maxRecDepth 100000 in
theorem names_low : ∀ c : Fin 61, ∀ j : Fin 61, j.1 + 1 < firsts.getD c.1 0 → (nm j.1).data.toList ≠ (nm c.1).data.toList := by decide +kernel
set_option maxRecDepth 100000 in
theorem names_form : ∀ c : Fin 61, 0 < (nm c.1).size ∧ (((nm c.1).data.toList.map UInt8.toNat).getD 0 0 = 58 ↔ c.1 < 14) ∧ ((nm c.1).data.toList.all fun x => !(decide (65 ≤ x.toNat) && decide (x.toNat ≤ 90))) = true ∧ (nm c.1).size ≤ 100 := by decide +kernel
theorem get_nat (s : ByteArray) (k : Nat) (h : k < s.size) : (s[k]'h).toNat = (s.data.toList.map UInt8.toNat).getD k 0 := by
  have h' : k < s.data.size := h
  rw [List.getD, List.getElem?_eq_getElem (by simpa using h')]
  simp
  rfl
/-- Between the lowest place of a name and one of its places stands that name. -/
theorem names_between (k o j : Nat) (h2 : k ≤ 61) (h : (nm (o - 1)).toList = (nm (k - 1)).toList) (ho : 1 ≤ o) (hoj : o ≤ j) (hj : j ≤ k) : nm (j - 1) = nm (k - 1) := by
  have h1 : firsts.getD (k - 1) 0 ≤ o := by
    rcases Nat.lt_or_ge o (firsts.getD (k - 1) 0) with hlt | hge
    · rw [toList_data, toList_data] at h
      exact absurd h (names_low ⟨k - 1, by omega⟩ ⟨o - 1, by omega⟩ (by simp only; omega))
    · exact hge
  have h3 := names_run ⟨k - 1, by omega⟩ ⟨j - 1, by omega⟩ (by simp only; omega) (by simp only; omega)
  simp only at h3
  exact bytes_inj (by rw [toList_data, toList_data, h3])
namespace statTable
set_option maxRecDepth 100000 in
set_option maxHeartbeats 4000000 in
theorem walk_out (i : Int) (w : World) (hR : Rdy w) (hi : Rng i) (ho : i < 1 ∨ 61 < i) : Calls Try.prog 6 #[.int .i64 i] w (Yes w) := by
  have HR := Lib.hid hR
  have HI := Lib.hid hi
  have hs := stg_out i ho
  have HS := Lib.hid hs
  clear hR hs hi
  by_cases h1 : i < 1
  all_goals
    have h2 : 61 < i ∨ i < 1 := by omega
    go_enter Try.func6, Try.ntmps6
    go_wp2_with fail
    with_reducible refine (first_any w HR.out).mono ?_
    rintro e w1 ⟨rfl, hb1⟩
    have hg := sget_f i w1 (HR.out.below hb1) HI.out
    rw [HS.out] at hg
    have HG := Lib.hid hg
    clear hg
    have h3 : ¬ i < 1 → 61 < i := by omega
    first
      | (have h4 : 61 < i := by omega
         clear h2 h3 ho
         go_wp2_with fail)
      | (clear h2 h3 ho
         go_wp2_with fail)
    with_reducible refine (HG.out).mono ?_
    rintro e w2 ⟨rfl, hbn⟩
    have hb2 := hb1.trans (hbn.mono hb1.size)
    clear hb1 hbn HG
    simp only []
    have hb3 := hb2.alloc hb2.size (.cells #[.string ⟨#[]⟩, .string ⟨#[]⟩, .bool false] 26)
    have HF := Lib.hid (first_any _ (HR.out.below hb3))
    go_wp2_with fail
    with_reducible refine (HF.out).mono ?_
    rintro e w3 ⟨rfl, hbn⟩
    have hb4 := hb3.trans (hbn.mono hb3.size)
    clear hb3 hbn HF
    go_wp2_with fail
    go_ret
    exact ⟨rfl, hb4⟩
def TbR (w wa : World) (o k : Nat) (i : Value) (wr : World) : Prop := ∃ j : Nat, o ≤ j ∧ j ≤ k + 1 ∧ i = .int .i64 (j : Int) ∧ Below w.heap.size w wr ∧ Below wa.heap.size wa wr
set_option maxRecDepth 100000 in
set_option maxHeartbeats 8000000 in
theorem walk_in (k : Nat) (w : World) (hR : Rdy w) (h1 : 1 ≤ k) (h2 : k ≤ 61) : Calls Try.prog 6 #[.int .i64 (k : Int)] w (Yes w) := by
  have HR := Lib.hid hR
  obtain ⟨hpos, hhead, hlow, hsz⟩ := names_form ⟨k - 1, by omega⟩
  simp only at hpos hhead hlow hsz
  have hsk := stg_in k h1 h2
  have hl := fnd_low (nm (k - 1)).toList (ByteArray.mk #[110, 111, 32, 115, 117, 99, 104, 32, 118, 97, 108, 117, 101]).toList (k - 1) rfl 61 0 (by omega) (by omega)
  have his := fnd_is (nm (k - 1)).toList (ByteArray.mk #[110, 111, 32, 115, 117, 99, 104, 32, 118, 97, 108, 117, 101]).toList 61 0
  have hff : found (nm (k - 1)) ⟨#[110, 111, 32, 115, 117, 99, 104, 32, 118, 97, 108, 117, 101]⟩ = fnd (nm (k - 1)).toList (ByteArray.mk #[110, 111, 32, 115, 117, 99, 104, 32, 118, 97, 108, 117, 101]).toList 61 0 := rfl
  generalize fnd (nm (k - 1)).toList (ByteArray.mk #[110, 111, 32, 115, 117, 99, 104, 32, 118, 97, 108, 117, 101]).toList 61 0 = r at hl his hff
  obtain ⟨b, o⟩ := r
  simp only at hl his
  have ho1 : 1 ≤ o := hl.1.1
  have hok : o ≤ k := by omega
  have HBT : Hid (∀ j, o ≤ j → j ≤ k → stg (j : Int) = (⟨nm (k - 1), vl (j - 1), false⟩, true)) := Lib.hid (fun j hj1 hj2 => by
    have hn : (nm (o - 1)).toList = (nm (k - 1)).toList := by
      rcases his.2 with h | h
      · omega
      · exact h.2.2
    rw [stg_in j (by omega) (by omega), names_between k o j h2 hn ho1 hj1 hj2])
  have hb61 : b ≤ 61 := by rcases his.1 with h | h <;> omega
  obtain ⟨X, hX⟩ : ∃ X, X = nm (k - 1) := ⟨_, rfl⟩
  obtain ⟨Y, hY⟩ : ∃ Y, Y = vl (k - 1) := ⟨_, rfl⟩
  rw [← hX] at hpos hhead hlow hsz hsk hff HBT
  rw [← hY] at hsk
  have HLOW : Hid (∀ j (h : j < X.size), ¬ (65 ≤ (X[j]'h).toNat ∧ (X[j]'h).toNat ≤ 90)) := Lib.hid (fun j h hc => by
    have hm : X[j]'h ∈ X.data.toList := by
      have h' : j < X.data.size := h
      have : X[j]'h = X.data[j]'h' := rfl
      rw [this]
      simp
    have := List.all_eq_true.1 hlow _ hm
    simp at this
    omega)
  obtain ⟨y0, hy0⟩ : ∃ y, y = (X[0]'hpos).toNat := ⟨_, rfl⟩
  have hy58 : y0 = 58 ↔ k ≤ 14 := by
    rw [hy0, get_nat]
    exact ⟨fun h => by have := hhead.1 h; omega, fun h => hhead.2 (by omega)⟩
  have hG0 : (X[0]'hpos).toNat = y0 := hy0.symm
  have hz0 : ((X.size : Int) == 0) = false := beq_eq_false_iff_ne.2 (by omega)
  have hp0 : (0 : Int) < (X.size : Int) := by omega
  have HSK := Lib.hid hsk
  have HFF := Lib.hid hff
  have HB : Hid (b ≤ 61) := Lib.hid hb61
  have k1 : ¬ (k : Int) < 1 := by omega
  have k2 : ¬ (61 : Int) < (k : Int) := by omega
  have hcmp : ((y0 : Int) == 58) = decide ((k : Int) ≤ 14) := by
    by_cases h : k ≤ 14
    · have e1 : y0 = 58 := hy58.2 h
      subst e1
      rw [decide_eq_true (by omega)]
      rfl
    · have e1 : ¬ y0 = 58 := fun e => h (hy58.1 e)
      rw [decide_eq_false (by omega), beq_eq_false_iff_ne.2 (by omega)]
  clear hR hl his hsk hff hX hY hlow hhead hy0 hy58 hb61
  go_enter Try.func6, Try.ntmps6
  go_wp2_with fail
  with_reducible refine (first_any w HR.out).mono ?_
  rintro e w1 ⟨rfl, hb1⟩
  have hg := sget_f (k : Int) w1 (HR.out.below hb1) (by unfold Rng; omega)
  rw [HSK.out] at hg
  have HG := Lib.hid hg
  clear hg
  go_wp2_with fail
  with_reducible refine (HG.out).mono ?_
  rintro e w3 ⟨rfl, hbn⟩
  have hb3 := hb1.trans (hbn.mono hb1.size)
  clear hb1 hbn HG
  simp only []
  obtain ⟨g1, hg1⟩ : ∃ g, g = w3.heap.size := ⟨_, rfl⟩
  obtain ⟨wa, hwa⟩ : ∃ wa, wa = w3.alloc (.cells #[.string X, .string Y, .bool false] 26) := ⟨_, rfl⟩
  have hh : wa.heap[g1]? = some (.cells #[.string X, .string Y, .bool false] 26) := by rw [hwa, hg1]; exact heap_alloc_new w3 _
  have hlt1 : g1 < wa.heap.size := by rw [hwa, hg1]; simp
  have hba : Below w.heap.size w wa := by rw [hwa]; exact hb3.alloc hb3.size _
  have x0 : wa.cell? ⟨g1, 0, none⟩ = some (.string X) := cell_of_row _ g1 0 _ 26 _ hh
  have HC := Lib.hid (sfind_f X ⟨#[110, 111, 32, 115, 117, 99, 104, 32, 118, 97, 108, 117, 101]⟩ wa (HR.out.below hba) (by omega) (by decide))
  rw [HFF.out] at HC
  rw [hwa] at x0 HC
  rw [hg1] at x0
  go_wp2
  go_loop [7] (fun i => ∃ j : Nat, j ≤ X.size ∧ i = .int .i64 (j : Int)) (fun i => X.size - (intOf i).toNat)
  case atStart => exact ⟨0, Nat.zero_le _, rfl⟩
  case round =>
    obtain ⟨j, hj, rfl⟩ := hrel
    by_cases hlt : j < X.size
    · have ji : (j : Int) < (X.size : Int) := by omega
      have hnl := HLOW.out j hlt
      obtain ⟨y, hy⟩ : ∃ y, y = (X[j]'hlt).toNat := ⟨_, rfl⟩
      rw [← hy] at hnl
      have hG : (X[j]'hlt).toNat = y := hy.symm
      clear hy
      by_cases h65 : 65 ≤ y
      · have p1 : (65 : Int) ≤ (y : Int) := by omega
        have p2 : ¬ (y : Int) ≤ 90 := by omega
        clear hnl
        go_wp2
        go_round
        case rel => exact ⟨j + 1, by omega, by go_num⟩
        case measure => simp [intOf]; omega
      · have p1 : ¬ (65 : Int) ≤ (y : Int) := by omega
        clear hnl
        go_wp2
        go_round
        case rel => exact ⟨j + 1, by omega, by go_num⟩
        case measure => simp [intOf]; omega
    · obtain rfl : j = X.size := by omega
      go_wp2_with fail
      with_reducible refine (HC.out).mono ?_
      rw [← hwa]
      rintro e w5 ⟨rfl, hb5⟩
      simp only []
      have hb6 := hba.trans (hb5.mono hba.size)
      clear x0
      have hr0 : TbR w wa o k (.int .i64 (o : Int)) w5 := ⟨o, Nat.le_refl _, by omega, rfl, hb6, hb5⟩
      rw [← hg1]
      go_wp2
      go_loopw [10, 11, 12] (fun i _ _ wr => TbR w wa o k i wr) (fun i _ _ _ => k + 1 - (intOf i).toNat)
      case atStart => exact hr0
      case round =>
        clear hr0 hb5 hb6 HC
        obtain ⟨j, hj1, hj2, rfl, hbw, hbx⟩ := hrel
        by_cases hjk : j ≤ k
        · have ji : (j : Int) ≤ (k : Int) := by omega
          have hg := sget_f (j : Int) wr (HR.out.below hbw) (by unfold Rng; omega)
          rw [HBT.out j hj1 hjk] at hg
          have HG := Lib.hid hg
          generalize vl (j - 1) = V at HG
          clear hg
          go_wp2_with fail
          with_reducible refine (HG.out).mono ?_
          rintro e w6 ⟨rfl, hb7⟩
          simp only []
          have hb8 := hbx.trans (hb7.mono hbx.size)
          have hb9 : Below wa.heap.size wa (w6.alloc (.cells #[.string X, .string V, .bool false] 26)) := hb8.alloc hb8.size _
          have hbZ : Below w.heap.size w (w6.alloc (.cells #[.string X, .string V, .bool false] 26)) := hba.trans (hb9.mono hba.size)
          have x0 : (w6.alloc (.cells #[.string X, .string V, .bool false] 26)).cell? ⟨g1, 0, none⟩ = some (.string X) := (hb9.cell (p := ⟨g1, 0, none⟩) hlt1).trans (cell_of_row _ g1 0 _ 26 _ hh)
          have HH := Lib.hid hh
          have HWA := Lib.hid hwa
          have HG1 := Lib.hid hg1
          clear hh hwa hg1 hb7 hb8 HG
          go_wp2
          go_roundw
          case rel => exact ⟨j + 1, by omega, by omega, by go_num, hbZ, hb9⟩
          case measure => simp [intOf]; omega
        · have ji : ¬ (j : Int) ≤ (k : Int) := by omega
          have oi : (1 : Int) ≤ (o : Int) := by omega
          have oj : (o : Int) ≤ (k : Int) := by omega
          go_wp2_with fail
          with_reducible refine (first_any wr (HR.out.below hbw)).mono ?_
          rintro e w7 ⟨rfl, hbn⟩
          have hbZ := hbw.trans (hbn.mono hbw.size)
          clear hbw hbn hbx
          go_wp2_with fail
          go_ret
          exact ⟨rfl, hbZ⟩
theorem walk (i : Int) (w : World) (hR : Rdy w) (hi : (Lit.int .i64 i).wf = true) : Calls Try.prog 6 #[.int .i64 i] w (Yes w) := by
  by_cases h : 1 ≤ i ∧ i ≤ 61
  · obtain ⟨k, rfl⟩ : ∃ k : Nat, i = (k : Int) := ⟨i.toNat, by omega⟩
    exact walk_in k w hR (by omega) (by omega)
  · exact walk_out i w hR (bounds_i64 hi) (by omega)
end statTable
end Go.Proofs.Ytcamcfecmjoniaa
