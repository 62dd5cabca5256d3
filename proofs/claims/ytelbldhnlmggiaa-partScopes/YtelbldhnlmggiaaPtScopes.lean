/- The walk of PartScopes. -/
import Derived.Test.YtelbldhnlmggiaaPtFew
import Derived.Test.YtelbldhnlmggiaaPtKeep
import Derived.Deep.DeepCutAuto
namespace Go.Proofs.Ytelbldhnlmggiaa
open Go.RowKit Fr

namespace partScopes
def FtR (w : World) (i : Value) (wr : World) : Prop := ∃ k : Nat, k ≤ 10 ∧ i = .int .i64 (k : Int) ∧ Below w.heap.size w wr
set_option maxRecDepth 100000 in
set_option maxHeartbeats 4000000 in
theorem walk_out (stream kind flags : Int) (A : Option Addr) (n c : Nat) (w : World) (h : 200 < n ∨ stream < 1 ∨ 2147483647 < stream ∨ flags < 0 ∨ 255 < flags) : Calls Try.prog 5 #[.int .i64 stream, .int .i64 kind, .int .i64 flags, .slice A n c] w (YesP w) := by
  have HFST := Lib.hid fun (W : World) => first11_any W
  rcases (show (200 : Int) < (n : Int) ∨ (¬ (200 : Int) < (n : Int) ∧ stream < 1) ∨ (¬ (200 : Int) < (n : Int) ∧ ¬ stream < 1 ∧ 2147483647 < stream) ∨ (¬ (200 : Int) < (n : Int) ∧ ¬ stream < 1 ∧ ¬ 2147483647 < stream ∧ flags < 0) ∨ (¬ (200 : Int) < (n : Int) ∧ ¬ stream < 1 ∧ ¬ 2147483647 < stream ∧ ¬ flags < 0 ∧ 255 < flags) by omega) with h1 | ⟨h1, h2⟩ | ⟨h1, h2, h3⟩ | ⟨h1, h2, h3, h4⟩ | ⟨h1, h2, h3, h4, h5⟩
  all_goals
    clear h
    go_enter Try.func5, Try.ntmps5
    go_wp2_with fail
    with_reducible refine (HFST.out w).mono ?_
    rintro e w1 ⟨rfl, hb1⟩
    have HB1 := Lib.hid hb1
    have HF2 := Lib.hid (HFST.out w1)
    clear hb1
    go_wp2_with fail
    with_reducible refine (HF2.out).mono ?_
    rintro e w3 ⟨rfl, hb3⟩
    have HZ := Lib.hid (HB1.out.trans (hb3.mono HB1.out.size))
    clear hb3 HF2
    go_wp2
    go_ret
    exact ⟨rfl, HZ.out⟩
set_option maxRecDepth 100000 in
set_option maxHeartbeats 16000000 in
theorem walk_in (stream kind flags : Int) (A : Option Addr) (b : List Nat) (n c : Nat) (w : World) (hA : At .u8 w w.heap.size A b) (hb : ∀ x ∈ b, x < 256) (hl : b.length = n) (hc : A = none → c = 0) (hcl : n ≤ c) (h1 : ¬ 200 < n) (h2 : 1 ≤ stream) (h3 : stream ≤ 2147483647) (h4 : 0 ≤ flags) (h5 : flags ≤ 255) : Calls Try.prog 5 #[.int .i64 stream, .int .i64 kind, .int .i64 flags, .slice A n c] w (YesP w) := by
  have HFST := Lib.hid fun (W : World) => first11_any W
  have HRD : Hid (∀ (k s : Int) (R : Prt × Flt) (W : World), Below w.heap.size w W → 0 ≤ k → k ≤ 255 → 0 ≤ s → s ≤ stream → Fr.read ⟨k, flags, s, b⟩ = R → Calls Try.prog 9 #[.agg #[.int .i64 k, .int .i64 flags, .int .i64 s, .slice A n c]] W (PtPost W R)) := Lib.hid (fun k s R W hB a1 a2 a3 a4 hR => pread_is (hA.up hB) hb hl hc hcl (by omega) (by omega) hR)
  have HS : Hid (stream ≠ 0 ∧ 0 ≤ stream) := Lib.hid (by omega)
  have g1 : ¬ (200 : Int) < (n : Int) := by omega
  have g2 : ¬ stream < 1 := by omega
  have g3 : ¬ 2147483647 < stream := by omega
  have g4 : ¬ flags < 0 := by omega
  have g5 : ¬ 255 < flags := by omega
  clear hA hb hl hc hcl h1 h2 h3 h4 h5
  go_enter Try.func5, Try.ntmps5
  go_wp2_with fail
  with_reducible refine (HFST.out w).mono ?_
  rintro e w1 ⟨rfl, hb1⟩
  have HB1 := Lib.hid hb1
  clear hb1
  go_wp2
  clear g1 g2 g3 g4 g5
  go_loopw [9] (fun i wr => FtR w i wr) (fun i _ => 10 - (intOf i).toNat)
  case atStart => exact ⟨0, Nat.zero_le _, rfl, HB1.out⟩
  case round =>
    obtain ⟨k, hk, rfl, hbw⟩ := hrel
    have HBW := Lib.hid hbw
    clear hbw
    rcases (show k = 0 ∨ k = 1 ∨ k = 2 ∨ k = 3 ∨ k = 4 ∨ k = 5 ∨ k = 6 ∨ k = 7 ∨ k = 8 ∨ k = 9 ∨ k = 10 by omega) with rfl | rfl | rfl | rfl | rfl | rfl | rfl | rfl | rfl | rfl | rfl
    · have HR := Lib.hid (HRD.out 0 0 (wrong 1 true) wr HBW.out (by omega) (by omega) (by omega) HS.out.2 (by simp [Fr.read, padded]))
      clear HRD hk
      go_wp2_with fail
      with_reducible refine (HR.out).mono ?_
      rintro e w3 ⟨A3, c3, B3, d3, rfl, _, _, _, _, _, _, _, _, hb3⟩
      have HB3 := Lib.hid (HBW.out.trans (hb3.mono HBW.out.size))
      clear hb3 HR
      simp only [wrong, prt, flt, noPrt, List.length_nil]
      go_wp2
      go_roundw
      case rel => exact ⟨1, by omega, rfl, (HB3.out.alloc HB3.out.size _).alloc (by have := HB3.out.size; simp; omega) _⟩
      case measure => simp [intOf]
    · have HR := Lib.hid (HRD.out 1 0 (wrong 1 true) wr HBW.out (by omega) (by omega) (by omega) HS.out.2 (by simp [Fr.read, padded]))
      clear HRD hk
      go_wp2_with fail
      with_reducible refine (HR.out).mono ?_
      rintro e w3 ⟨A3, c3, B3, d3, rfl, _, _, _, _, _, _, _, _, hb3⟩
      have HB3 := Lib.hid (HBW.out.trans (hb3.mono HBW.out.size))
      clear hb3 HR
      simp only [wrong, prt, flt, noPrt, List.length_nil]
      go_wp2
      go_roundw
      case rel => exact ⟨2, by omega, rfl, (HB3.out.alloc HB3.out.size _).alloc (by have := HB3.out.size; simp; omega) _⟩
      case measure => simp [intOf]
    · have HR := Lib.hid (HRD.out 2 0 (wrong 1 true) wr HBW.out (by omega) (by omega) (by omega) HS.out.2 (by simp [Fr.read]))
      clear HRD hk
      go_wp2_with fail
      with_reducible refine (HR.out).mono ?_
      rintro e w3 ⟨A3, c3, B3, d3, rfl, _, _, _, _, _, _, _, _, hb3⟩
      have HB3 := Lib.hid (HBW.out.trans (hb3.mono HBW.out.size))
      clear hb3 HR
      simp only [wrong, prt, flt, noPrt, List.length_nil]
      go_wp2
      go_roundw
      case rel => exact ⟨3, by omega, rfl, (HB3.out.alloc HB3.out.size _).alloc (by have := HB3.out.size; simp; omega) _⟩
      case measure => simp [intOf]
    · have HR := Lib.hid (HRD.out 3 0 (wrong 1 true) wr HBW.out (by omega) (by omega) (by omega) HS.out.2 (by simp [Fr.read]))
      clear HRD hk
      go_wp2_with fail
      with_reducible refine (HR.out).mono ?_
      rintro e w3 ⟨A3, c3, B3, d3, rfl, _, _, _, _, _, _, _, _, hb3⟩
      have HB3 := Lib.hid (HBW.out.trans (hb3.mono HBW.out.size))
      clear hb3 HR
      simp only [wrong, prt, flt, noPrt, List.length_nil]
      go_wp2
      go_roundw
      case rel => exact ⟨4, by omega, rfl, (HB3.out.alloc HB3.out.size _).alloc (by have := HB3.out.size; simp; omega) _⟩
      case measure => simp [intOf]
    · have HR := Lib.hid (HRD.out 4 stream (wrong 1 true) wr HBW.out (by omega) (by omega) HS.out.2 (Int.le_refl _) (by have := HS.out.1; simp [Fr.read, this]))
      clear HRD hk
      go_wp2_with fail
      with_reducible refine (HR.out).mono ?_
      rintro e w3 ⟨A3, c3, B3, d3, rfl, _, _, _, _, _, _, _, _, hb3⟩
      have HB3 := Lib.hid (HBW.out.trans (hb3.mono HBW.out.size))
      clear hb3 HR
      simp only [wrong, prt, flt, noPrt, List.length_nil]
      go_wp2
      go_roundw
      case rel => exact ⟨5, by omega, rfl, (HB3.out.alloc HB3.out.size _).alloc (by have := HB3.out.size; simp; omega) _⟩
      case measure => simp [intOf]
    · have HR := Lib.hid (HRD.out 5 0 (wrong 1 true) wr HBW.out (by omega) (by omega) (by omega) HS.out.2 (by simp [Fr.read]))
      clear HRD hk
      go_wp2_with fail
      with_reducible refine (HR.out).mono ?_
      rintro e w3 ⟨A3, c3, B3, d3, rfl, _, _, _, _, _, _, _, _, hb3⟩
      have HB3 := Lib.hid (HBW.out.trans (hb3.mono HBW.out.size))
      clear hb3 HR
      simp only [wrong, prt, flt, noPrt, List.length_nil]
      go_wp2
      go_roundw
      case rel => exact ⟨6, by omega, rfl, (HB3.out.alloc HB3.out.size _).alloc (by have := HB3.out.size; simp; omega) _⟩
      case measure => simp [intOf]
    · have HR := Lib.hid (HRD.out 6 stream (wrong 1 true) wr HBW.out (by omega) (by omega) HS.out.2 (Int.le_refl _) (by have := HS.out.1; simp [Fr.read, this]))
      clear HRD hk
      go_wp2_with fail
      with_reducible refine (HR.out).mono ?_
      rintro e w3 ⟨A3, c3, B3, d3, rfl, _, _, _, _, _, _, _, _, hb3⟩
      have HB3 := Lib.hid (HBW.out.trans (hb3.mono HBW.out.size))
      clear hb3 HR
      simp only [wrong, prt, flt, noPrt, List.length_nil]
      go_wp2
      go_roundw
      case rel => exact ⟨7, by omega, rfl, (HB3.out.alloc HB3.out.size _).alloc (by have := HB3.out.size; simp; omega) _⟩
      case measure => simp [intOf]
    · have HR := Lib.hid (HRD.out 7 stream (wrong 1 true) wr HBW.out (by omega) (by omega) HS.out.2 (Int.le_refl _) (by have := HS.out.1; simp [Fr.read, this]))
      clear HRD hk
      go_wp2_with fail
      with_reducible refine (HR.out).mono ?_
      rintro e w3 ⟨A3, c3, B3, d3, rfl, _, _, _, _, _, _, _, _, hb3⟩
      have HB3 := Lib.hid (HBW.out.trans (hb3.mono HBW.out.size))
      clear hb3 HR
      simp only [wrong, prt, flt, noPrt, List.length_nil]
      go_wp2
      go_roundw
      case rel => exact ⟨8, by omega, rfl, (HB3.out.alloc HB3.out.size _).alloc (by have := HB3.out.size; simp; omega) _⟩
      case measure => simp [intOf]
    · have HR := Lib.hid (HRD.out 8 0 _ wr HBW.out (by omega) (by omega) (by omega) HS.out.2 rfl)
      clear HRD hk
      obtain ⟨R, hR⟩ : ∃ R, R = Fr.read ⟨8, flags, 0, b⟩ := ⟨_, rfl⟩
      rw [← hR] at HR
      clear hR
      obtain ⟨⟨D, pad, code, last, step, sets, e1, e2, e3⟩, ⟨bad, conn, fc⟩⟩ := R
      go_wp2_with fail
      with_reducible refine (HR.out).mono ?_
      rintro e w3 ⟨A3, c3, B3, d3, rfl, _, _, _, _, _, _, _, _, hb3⟩
      have HB3 := Lib.hid (HBW.out.trans (hb3.mono HBW.out.size))
      clear hb3 HR
      simp only [prt, flt]
      go_wp2
      go_roundw
      case rel => exact ⟨9, by omega, rfl, (HB3.out.alloc HB3.out.size _).alloc (by have := HB3.out.size; simp; omega) _⟩
      case measure => simp [intOf]
    · have HR := Lib.hid (HRD.out 9 0 (wrong 1 true) wr HBW.out (by omega) (by omega) (by omega) HS.out.2 (by simp [Fr.read]))
      clear HRD hk
      go_wp2_with fail
      with_reducible refine (HR.out).mono ?_
      rintro e w3 ⟨A3, c3, B3, d3, rfl, _, _, _, _, _, _, _, _, hb3⟩
      have HB3 := Lib.hid (HBW.out.trans (hb3.mono HBW.out.size))
      clear hb3 HR
      simp only [wrong, prt, flt, noPrt, List.length_nil]
      go_wp2
      go_roundw
      case rel => exact ⟨10, by omega, rfl, (HB3.out.alloc HB3.out.size _).alloc (by have := HB3.out.size; simp; omega) _⟩
      case measure => simp [intOf]
    · clear hk
      by_cases hk1 : kind < 10 ∨ 255 < kind
      · have HF9 := Lib.hid (HFST.out wr)
        clear HRD
        rcases (show kind < 10 ∨ (¬ kind < 10 ∧ 255 < kind) by omega) with q1 | ⟨q1, q2⟩
        all_goals
          clear hk1
          go_wp2_with fail
          with_reducible refine (HF9.out).mono ?_
          rintro e w3 ⟨rfl, hb3⟩
          have HZ := Lib.hid (HBW.out.trans (hb3.mono HBW.out.size))
          clear hb3 HF9
          go_wp2
          go_ret
          exact ⟨rfl, HZ.out⟩
      · have q1 : ¬ kind < 10 := by omega
        have q2 : ¬ 255 < kind := by omega
        have HR := Lib.hid (HRD.out kind stream (noPrt, noFlt) wr HBW.out (by omega) (by omega) HS.out.2 (Int.le_refl _) (read_other kind flags stream b (by omega)))
        clear HRD hk1
        go_wp2_with fail
        with_reducible refine (HR.out).mono ?_
        rintro e w3 ⟨A3, c3, B3, d3, rfl, _, _, _, _, _, _, _, _, hb3⟩
        have HB3 := Lib.hid (HBW.out.trans (hb3.mono HBW.out.size))
        clear hb3 HR
        simp only [prt, flt, noPrt, noFlt, List.length_nil]
        go_upto_region 17 with fail
        obtain ⟨w4, hw4⟩ : ∃ w4, w4 = (w3.alloc (.cells #[.slice A3 0 c3, .int .i64 0, .int .i64 0, .int .i64 0, .int .i64 0, .slice B3 0 d3, .bool false, .bool false, .bool false] 28)).alloc (.cells #[.bool false, .bool false, .int .i64 0] 30) := ⟨_, rfl⟩
        obtain ⟨hp4, hf4, hb4, hs4⟩ := kept_spec w3 (.slice A3 0 c3) (.int .i64 0) (.int .i64 0) (.int .i64 0) (.int .i64 0) (.slice B3 0 d3) (.bool false) (.bool false) (.bool false) (.bool false) (.bool false) (.int .i64 0)
        rw [← show w4 = kept w3 _ _ _ _ _ _ _ _ _ _ _ _ from hw4] at hp4 hf4 hb4 hs4
        have e4 : ((0 : Nat) : Int) = 0 := rfl
        simp only [e4]
        rw [← hw4]
        obtain ⟨g, hg⟩ : ∃ g, g = w3.heap.size := ⟨_, rfl⟩
        rw [← hg] at hp4 hf4 ⊢
        have HB4 := Lib.hid (HB3.out.trans (hb4.mono HB3.out.size))
        have HP4 := Lib.hid hp4
        have HF4 := Lib.hid hf4
        have HF9 := Lib.hid (HFST.out w4)
        clear hw4 hp4 hf4 hb4 hs4 hg
        go_wp2_with fail
        with_reducible refine (HF9.out).mono ?_
        rintro e w5 ⟨rfl, hb5⟩
        have hp5 := (hb5.block g (lt_of_heapK HP4.out)).trans HP4.out
        have hf5 := (hb5.block (g + 1) (lt_of_heapK HF4.out)).trans HF4.out
        have a0 : w5.cell? ⟨g, 0, none⟩ = some (.slice A3 0 c3) := cell_of_row _ _ 0 _ 28 _ hp5
        have a5 : w5.cell? ⟨g, 5, none⟩ = some (.slice B3 0 d3) := cell_of_row _ _ 5 _ 28 _ hp5
        have b0 : w5.cell? ⟨g + 1, 0, none⟩ = some (.bool false) := cell_of_row _ _ 0 _ 30 _ hf5
        have HZ := Lib.hid (HB4.out.trans (hb5.mono HB4.out.size))
        clear hp5 hf5 hb5 HF9
        go_wp2
        go_ret
        exact ⟨rfl, HZ.out⟩
theorem walk_any (stream kind flags : Int) (A : Option Addr) (b : List Nat) (n c : Nat) (w : World) (hA : At .u8 w w.heap.size A b) (hb : ∀ x ∈ b, x < 256) (hl : b.length = n) (hc : A = none → c = 0) (hcl : n ≤ c) : Calls Try.prog 5 #[.int .i64 stream, .int .i64 kind, .int .i64 flags, .slice A n c] w (YesP w) := by
  by_cases h : 200 < n ∨ stream < 1 ∨ 2147483647 < stream ∨ flags < 0 ∨ 255 < flags
  · exact walk_out stream kind flags A n c w h
  · exact walk_in stream kind flags A b n c w hA hb hl hc hcl (by omega) (by omega) (by omega) (by omega) (by omega)
end partScopes
end Go.Proofs.Ytelbldhnlmggiaa
