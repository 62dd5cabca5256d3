/-
  For every slice of bytes b, every int at and every byte c: wlvlaw2.B64Signs answers true: Encode's text has the alphabet's signs alone and at most two pads at its end, and a byte that is neither makes it no text.
  No condition.
-/
import Derived.Test.YtidajbmbadgnmaaIn
import Derived.RegionTactic
namespace Go.Proofs.Ytidajbmbadgnmaa.b64Signs
open Go.ChangeShapes Go.WideShapes Go.ChangeAt Go.RowKit Bm

set_option maxRecDepth 100000 in
set_option maxHeartbeats 1000000 in
theorem walk_long (A : Option Addr) (l : List UInt8) (c : Nat) (at_ : Int) (b : UInt8) (w : World) (hl : 1000 < l.length ∨ l.length = 0 ∨ at_ < 0) :
    Calls Try.prog 6 #[.slice A l.length c, .int .i64 at_, .int .u8 (b.toNat : Int)] w fun e w' => e = .returned (.bool true) ∧ Below w.heap.size w w' := by
  by_cases h1 : 1000 < l.length
  · have h2 : decide ((1000 : Int) < (l.length : Int)) = true := by simp; omega
    clear hl
    go_enter Try.func6, Try.ntmps6
    go_wp2_with fail
    refine (first_any _).mono ?_
    rintro e w1 ⟨rfl, hb1⟩
    go_wp2_with fail
    refine (first_any _).mono ?_
    rintro e w2 ⟨rfl, hb2⟩
    go_wp2_with fail
    go_ret
    exact ⟨rfl, hb1.trans (hb2.mono hb1.size)⟩
  · have h2 : decide ((1000 : Int) < (l.length : Int)) = false := by simp; omega
    by_cases h0 : l.length = 0
    · have h3 : ((l.length : Int) == 0) = true := by rw [beq_iff_eq]; omega
      clear hl h0 h1
      go_enter Try.func6, Try.ntmps6
      go_wp2_with fail
      refine (first_any _).mono ?_
      rintro e w1 ⟨rfl, hb1⟩
      go_wp2_with fail
      refine (first_any _).mono ?_
      rintro e w2 ⟨rfl, hb2⟩
      go_wp2_with fail
      go_ret
      exact ⟨rfl, hb1.trans (hb2.mono hb1.size)⟩
    · have h3 : ((l.length : Int) == 0) = false := by rw [beq_eq_false_iff_ne]; omega
      have h4 : at_ < 0 := by omega
      have h5 : decide (at_ < 0) = true := by simp; omega
      clear hl h0 h1
      go_enter Try.func6, Try.ntmps6
      go_wp2_with fail
      refine (first_any _).mono ?_
      rintro e w1 ⟨rfl, hb1⟩
      go_wp2_with fail
      refine (first_any _).mono ?_
      rintro e w2 ⟨rfl, hb2⟩
      go_wp2_with fail
      go_ret
      exact ⟨rfl, hb1.trans (hb2.mono hb1.size)⟩

theorem sign_cases (x : UInt8) (h : isSign x = true) : (65 ≤ x.toNat ∧ x.toNat ≤ 90) ∨ (97 ≤ x.toNat ∧ x.toNat ≤ 122) ∨ (48 ≤ x.toNat ∧ x.toNat ≤ 57) ∨ x.toNat = 43 ∨ x.toNat = 47 := by
  simp only [isSign, Bool.or_eq_true, Bool.and_eq_true, decide_eq_true_eq, UInt8.le_iff_toNat_le, beq_iff_eq] at h
  have e1 : x = 43 → x.toNat = 43 := by rintro rfl; rfl
  have e2 : x = 47 → x.toNat = 47 := by rintro rfl; rfl
  rcases h with (((h | h) | h) | h) | h
  · exact .inl h
  · exact .inr (.inl h)
  · exact .inr (.inr (.inl h))
  · exact .inr (.inr (.inr (.inl (e1 h))))
  · exact .inr (.inr (.inr (.inr (e2 h))))
theorem at_cases (l : List UInt8) (k : Nat) (h : k < (str (enc l)).size) :
    ((65 ≤ (str (enc l))[k].toNat ∧ (str (enc l))[k].toNat ≤ 90) ∨ (97 ≤ (str (enc l))[k].toNat ∧ (str (enc l))[k].toNat ≤ 122) ∨ (48 ≤ (str (enc l))[k].toNat ∧ (str (enc l))[k].toNat ≤ 57) ∨ (str (enc l))[k].toNat = 43 ∨ (str (enc l))[k].toNat = 47) ∨
      ((str (enc l))[k].toNat = 61 ∧ (str (enc l)).size ≤ k + 2) := by
  have hz := str_size (enc l)
  have hg : (enc l)[k]? = some (str (enc l))[k] := by
    have := byte_at (str (enc l)) k h
    rw [str_list] at this
    exact this
  rcases enc_sign l _ (List.mem_of_getElem? hg) with hs | hs
  · exact .inl (sign_cases _ hs)
  · by_cases hk : k + 2 < (enc l).length
    · exact .inl (sign_cases _ (enc_early l k hk _ hg))
    · exact .inr ⟨by rw [hs]; rfl, by omega⟩

/-- '[]byte(s)': a new block whose first cells are the bytes; none of them is frozen. -/
theorem run_bytes (w : World) (t : List UInt8) : ∃ cap W, (convert 9 22 (.string (str t))).run Try.prog w = .ok (.slice (some ⟨w.heap.size, 0, none⟩) (str t).size cap) W ∧ (str t).size ≤ cap ∧
    Below w.heap.size w W ∧ w.heap.size < W.heap.size ∧ (∀ i (h : i < t.length), W.cell? ⟨w.heap.size, i, none⟩ = some (.int .u8 (t[i].toNat : Int))) ∧ (∀ i, i < t.length → W.frozen? ⟨w.heap.size, i, none⟩ = false) := by
  have hr := run_bytes_of_string (P := Try.prog) w 9 22 5 (str t) Try.underlying9 Try.underlying22 Try.underlying5
  have hge := grownCap_ge w (str t).size 0 5
  refine ⟨_, _, hr, hge, ?_, ?_, ?_, ?_⟩
  · exact ((Below.refl _ _).drew).alloc (Nat.le_refl _) _
  · show w.heap.size < (w.drew.alloc _).heap.size
    simp
  · intro i hi
    rw [cell_of_row _ w.heap.size i _ 5 _ (heap_alloc_new w.drew _)]
    simp [bytesRow, str, Array.getElem?_append_left, hi]
  · intro i hi
    have hh := heap_alloc_new w.drew (.cells (bytesRow (str t) (grownCap w (str t).size 0 5)) 5 ((bytesRow (str t) (grownCap w (str t).size 0 5)).size, (bytesRow (str t) (grownCap w (str t).size 0 5)).size + 1))
    have hsz : t.length ≤ (bytesRow (str t) (grownCap w (str t).size 0 5)).size := by simp [bytesRow, str]
    change (w.drew.alloc _).heap[w.heap.size]? = _ at hh
    simp only [World.frozen?, hh]
    simp
    omega

theorem after_store {w2 W : World} {g j : Nat} {t : List UInt8} (V : Value) (x : UInt8) (O : Obj) (hV : V = .int .u8 (x.toNat : Int)) (hg : g = w2.heap.size) (hb : Below w2.heap.size w2 W) (hgW : g < W.heap.size)
    (hc : ∀ i (h : i < t.length), W.cell? ⟨g, i, none⟩ = some (.int .u8 (t[i].toNat : Int))) (hj : j < t.length) :
    Has ((W.setCell ⟨g, j, none⟩ V).alloc O).drew ((W.setCell ⟨g, j, none⟩ V).alloc O).drew.heap.size (some ⟨g, 0, none⟩) (t.set j x) ∧ Below w2.heap.size w2 ((W.setCell ⟨g, j, none⟩ V).alloc O).drew := by
  have hsz : (W.setCell ⟨g, j, none⟩ V).heap.size = W.heap.size := by simp [World.setCell]
  constructor
  · intro _
    refine ⟨g, 0, rfl, ?_, fun i hi => ?_⟩
    · show g < ((W.setCell ⟨g, j, none⟩ V).alloc O).heap.size
      simp
      omega
    · have hi' : i < t.length := by simpa using hi
      show ((W.setCell ⟨g, j, none⟩ V).alloc O).cell? ⟨g, 0 + i, none⟩ = _
      rw [Nat.zero_add, World.cell?_alloc_lt _ _ ⟨g, i, none⟩ (by rw [hsz]; exact hgW)]
      by_cases hij : i = j
      · subst hij
        rw [List.getElem_set_self, World.cell?_setCell_same' W _ _ (by rw [hc i hi']; rfl), hV]
      · rw [List.getElem_set_ne (by omega), World.cell?_setCell_other W _ _ _ (by intro e; injection e with _ e; exact hij e.symm), hc i hi']
  · refine Below.drew (Below.alloc (Below.setCell hb ?_ _) ?_ _)
    · show w2.heap.size ≤ g; omega
    · rw [hsz]; exact hb.size

set_option maxRecDepth 100000 in
set_option maxHeartbeats 4000000 in
theorem walk_short (A : Option Addr) (l : List UInt8) (c : Nat) (at_ : Int) (b : UInt8) (w : World) (h : Has w w.heap.size A l) (hl : l.length ≤ 1000) (h0 : 0 < l.length) (hat : 0 ≤ at_) :
    Calls Try.prog 6 #[.slice A l.length c, .int .i64 at_, .int .u8 (b.toNat : Int)] w fun e w' => e = .returned (.bool true) ∧ Below w.heap.size w w' := by
  have q1 : decide ((1000 : Int) < (l.length : Int)) = false := by simp; omega
  have q2 : ((l.length : Int) == 0) = false := by rw [beq_eq_false_iff_ne]; omega
  have q3 : decide (at_ < 0) = false := by simp; omega
  have HZ := Lib.hid (str_size (enc l))
  have HL := Lib.hid (enc_len l)
  have hz1 : (str (enc l)).size ≤ 1400 := by have := HZ.out; have := HL.out; omega
  have hz2 : 0 < (str (enc l)).size := by have := HZ.out; have := HL.out; omega
  have HC := Lib.hid (at_cases l)
  have q4 : (((str (enc l)).size : Int) % 4 == 0) = true := by rw [beq_iff_eq]; have := HZ.out; have := HL.out; omega
  go_enter Try.func6, Try.ntmps6
  go_wp2_with fail
  refine (first_any _).mono ?_
  rintro e w1 ⟨rfl, hb1⟩
  have h1 := (h.below hb1 (Nat.le_refl _)).more hb1.size
  go_wp2_with fail
  refine (encode_any A l c w1 h1 (by omega)).mono ?_
  rintro e w2 ⟨rfl, hb2⟩
  have hb02 := hb1.trans (hb2.mono hb1.size)
  clear h h1 hb1 hb2
  go_wp2
  go_loop [8] (fun i => ∃ k : Nat, k ≤ (str (enc l)).size ∧ i = .int .i64 k) (fun i => (str (enc l)).size - (intOf i).toNat)
  case atStart => exact ⟨0, Nat.zero_le _, rfl⟩
  case round =>
    obtain ⟨k, hk, rfl⟩ := hrel
    by_cases hlt : k < (str (enc l)).size
    · rcases HC.out k hlt with (⟨u1, u2⟩ | ⟨u1, u2⟩ | ⟨u1, u2⟩ | u1 | u1) | ⟨u1, u2⟩
      all_goals
        go_wp2
        go_round
        case rel => exact ⟨k + 1, by omega, by go_num⟩
        case measure => simp [intOf]; omega
    · obtain ⟨cap, W, hrun, hcap, hbW, hgW, hcW, hfW⟩ := run_bytes w2 (enc l)
      obtain ⟨j, hj⟩ : ∃ j : Nat, at_ % ((str (enc l)).size : Int) = (j : Int) := ⟨(at_ % ((str (enc l)).size : Int)).toNat, by
        have := Int.emod_nonneg at_ (show ((str (enc l)).size : Int) ≠ 0 by omega)
        omega⟩
      have hjl : j < (enc l).length := by
        have := Int.emod_lt_of_pos at_ (show (0 : Int) < ((str (enc l)).size : Int) by omega)
        have := HZ.out
        omega
      have hjs : j < (str (enc l)).size := by have := HZ.out; omega
      have hj2 : at_.tmod ((str (enc l)).size : Int) = (j : Int) := by rw [Int.tmod_eq_emod_of_nonneg hat]; exact hj
      have hc1 := hcW j hjl
      have hf1 := hfW j hjl
      have HCW := Lib.hid hcW
      have HFW := Lib.hid hfW
      clear hcW hfW
      obtain ⟨g, hg⟩ : ∃ g, g = w2.heap.size := ⟨_, rfl⟩
      rw [← hg] at hrun hgW hc1 hf1 HCW HFW
      have HG := Lib.hid hg
      clear hg
      obtain ⟨q, hq⟩ : ∃ q : Nat, (b.toNat : Int) % 6 = (q : Int) := ⟨b.toNat % 6, by omega⟩
      have hq2 : (b.toNat : Int).tmod 6 = (q : Int) := by rw [Int.tmod_eq_emod_of_nonneg (by omega)]; exact hq
      have hq6 : q < 6 := by omega
      rcases (show q = 0 ∨ q = 1 ∨ q = 2 ∨ q = 3 ∨ q = 4 ∨ q = 5 by omega) with rfl | rfl | rfl | rfl | rfl | rfl
      · go_wp2
        go_region
        have hst := after_store (.int .u8 32) 32 (.cells #[.int .u8 32, .int .u8 10, .int .u8 45, .int .u8 95, .int .u8 0, .int .u8 255] 5) rfl HG.out hbW hgW HCW.out hjl
        have hfo : dec (str ((enc l).set j 32)).data.toList = none := by
          rw [str_list]
          exact dec_foreign _ 32 (List.mem_set hjl _) (by decide) (by decide)
        generalize ((W.setCell ⟨g, j, none⟩ (.int .u8 32)).alloc (.cells #[.int .u8 32, .int .u8 10, .int .u8 45, .int .u8 95, .int .u8 0, .int .u8 255] 5)).drew = W5 at hst ⊢
        obtain ⟨hH, hB5⟩ := hst
        have hcv := run_str W5 _ (some ⟨g, 0, none⟩) ((enc l).set j 32) cap hH
        rw [List.length_set, ← HZ.out] at hcv
        have hsz : (str ((enc l).set j 32)).size ≤ 10000 := by rw [str_size, List.length_set]; have := HZ.out; omega
        have HF := Lib.hid hfo
        clear hH hfo hrun hbW hgW hc1 hf1 HCW HFW hj hj2 hq hq2
        go_wp2_with fail
        with_reducible refine (decode_no (str ((enc l).set j 32)) W5 hsz HF.out).mono ?_
        rintro e w6 ⟨rfl, hb6⟩
        have hb56 := hB5.trans (hb6.mono hB5.size)
        clear hcv
        go_wp2_with fail
        refine (first_any _).mono ?_
        rintro e w7 ⟨rfl, hb7⟩
        go_wp2_with fail
        go_ret
        exact ⟨rfl, hb02.trans ((hb56.trans (hb7.mono hb56.size)).mono hb02.size)⟩
      · go_wp2
        go_region
        have hst := after_store (.int .u8 10) 10 (.cells #[.int .u8 32, .int .u8 10, .int .u8 45, .int .u8 95, .int .u8 0, .int .u8 255] 5) rfl HG.out hbW hgW HCW.out hjl
        have hfo : dec (str ((enc l).set j 10)).data.toList = none := by
          rw [str_list]
          exact dec_foreign _ 10 (List.mem_set hjl _) (by decide) (by decide)
        generalize ((W.setCell ⟨g, j, none⟩ (.int .u8 10)).alloc (.cells #[.int .u8 32, .int .u8 10, .int .u8 45, .int .u8 95, .int .u8 0, .int .u8 255] 5)).drew = W5 at hst ⊢
        obtain ⟨hH, hB5⟩ := hst
        have hcv := run_str W5 _ (some ⟨g, 0, none⟩) ((enc l).set j 10) cap hH
        rw [List.length_set, ← HZ.out] at hcv
        have hsz : (str ((enc l).set j 10)).size ≤ 10000 := by rw [str_size, List.length_set]; have := HZ.out; omega
        have HF := Lib.hid hfo
        clear hH hfo hrun hbW hgW hc1 hf1 HCW HFW hj hj2 hq hq2
        go_wp2_with fail
        with_reducible refine (decode_no (str ((enc l).set j 10)) W5 hsz HF.out).mono ?_
        rintro e w6 ⟨rfl, hb6⟩
        have hb56 := hB5.trans (hb6.mono hB5.size)
        clear hcv
        go_wp2_with fail
        refine (first_any _).mono ?_
        rintro e w7 ⟨rfl, hb7⟩
        go_wp2_with fail
        go_ret
        exact ⟨rfl, hb02.trans ((hb56.trans (hb7.mono hb56.size)).mono hb02.size)⟩
      · go_wp2
        go_region
        have hst := after_store (.int .u8 45) 45 (.cells #[.int .u8 32, .int .u8 10, .int .u8 45, .int .u8 95, .int .u8 0, .int .u8 255] 5) rfl HG.out hbW hgW HCW.out hjl
        have hfo : dec (str ((enc l).set j 45)).data.toList = none := by
          rw [str_list]
          exact dec_foreign _ 45 (List.mem_set hjl _) (by decide) (by decide)
        generalize ((W.setCell ⟨g, j, none⟩ (.int .u8 45)).alloc (.cells #[.int .u8 32, .int .u8 10, .int .u8 45, .int .u8 95, .int .u8 0, .int .u8 255] 5)).drew = W5 at hst ⊢
        obtain ⟨hH, hB5⟩ := hst
        have hcv := run_str W5 _ (some ⟨g, 0, none⟩) ((enc l).set j 45) cap hH
        rw [List.length_set, ← HZ.out] at hcv
        have hsz : (str ((enc l).set j 45)).size ≤ 10000 := by rw [str_size, List.length_set]; have := HZ.out; omega
        have HF := Lib.hid hfo
        clear hH hfo hrun hbW hgW hc1 hf1 HCW HFW hj hj2 hq hq2
        go_wp2_with fail
        with_reducible refine (decode_no (str ((enc l).set j 45)) W5 hsz HF.out).mono ?_
        rintro e w6 ⟨rfl, hb6⟩
        have hb56 := hB5.trans (hb6.mono hB5.size)
        clear hcv
        go_wp2_with fail
        refine (first_any _).mono ?_
        rintro e w7 ⟨rfl, hb7⟩
        go_wp2_with fail
        go_ret
        exact ⟨rfl, hb02.trans ((hb56.trans (hb7.mono hb56.size)).mono hb02.size)⟩
      · go_wp2
        go_region
        have hst := after_store (.int .u8 95) 95 (.cells #[.int .u8 32, .int .u8 10, .int .u8 45, .int .u8 95, .int .u8 0, .int .u8 255] 5) rfl HG.out hbW hgW HCW.out hjl
        have hfo : dec (str ((enc l).set j 95)).data.toList = none := by
          rw [str_list]
          exact dec_foreign _ 95 (List.mem_set hjl _) (by decide) (by decide)
        generalize ((W.setCell ⟨g, j, none⟩ (.int .u8 95)).alloc (.cells #[.int .u8 32, .int .u8 10, .int .u8 45, .int .u8 95, .int .u8 0, .int .u8 255] 5)).drew = W5 at hst ⊢
        obtain ⟨hH, hB5⟩ := hst
        have hcv := run_str W5 _ (some ⟨g, 0, none⟩) ((enc l).set j 95) cap hH
        rw [List.length_set, ← HZ.out] at hcv
        have hsz : (str ((enc l).set j 95)).size ≤ 10000 := by rw [str_size, List.length_set]; have := HZ.out; omega
        have HF := Lib.hid hfo
        clear hH hfo hrun hbW hgW hc1 hf1 HCW HFW hj hj2 hq hq2
        go_wp2_with fail
        with_reducible refine (decode_no (str ((enc l).set j 95)) W5 hsz HF.out).mono ?_
        rintro e w6 ⟨rfl, hb6⟩
        have hb56 := hB5.trans (hb6.mono hB5.size)
        clear hcv
        go_wp2_with fail
        refine (first_any _).mono ?_
        rintro e w7 ⟨rfl, hb7⟩
        go_wp2_with fail
        go_ret
        exact ⟨rfl, hb02.trans ((hb56.trans (hb7.mono hb56.size)).mono hb02.size)⟩
      · go_wp2
        go_region
        have hst := after_store (.int .u8 0) 0 (.cells #[.int .u8 32, .int .u8 10, .int .u8 45, .int .u8 95, .int .u8 0, .int .u8 255] 5) rfl HG.out hbW hgW HCW.out hjl
        have hfo : dec (str ((enc l).set j 0)).data.toList = none := by
          rw [str_list]
          exact dec_foreign _ 0 (List.mem_set hjl _) (by decide) (by decide)
        generalize ((W.setCell ⟨g, j, none⟩ (.int .u8 0)).alloc (.cells #[.int .u8 32, .int .u8 10, .int .u8 45, .int .u8 95, .int .u8 0, .int .u8 255] 5)).drew = W5 at hst ⊢
        obtain ⟨hH, hB5⟩ := hst
        have hcv := run_str W5 _ (some ⟨g, 0, none⟩) ((enc l).set j 0) cap hH
        rw [List.length_set, ← HZ.out] at hcv
        have hsz : (str ((enc l).set j 0)).size ≤ 10000 := by rw [str_size, List.length_set]; have := HZ.out; omega
        have HF := Lib.hid hfo
        clear hH hfo hrun hbW hgW hc1 hf1 HCW HFW hj hj2 hq hq2
        go_wp2_with fail
        with_reducible refine (decode_no (str ((enc l).set j 0)) W5 hsz HF.out).mono ?_
        rintro e w6 ⟨rfl, hb6⟩
        have hb56 := hB5.trans (hb6.mono hB5.size)
        clear hcv
        go_wp2_with fail
        refine (first_any _).mono ?_
        rintro e w7 ⟨rfl, hb7⟩
        go_wp2_with fail
        go_ret
        exact ⟨rfl, hb02.trans ((hb56.trans (hb7.mono hb56.size)).mono hb02.size)⟩
      · go_wp2
        go_region
        have hst := after_store (.int .u8 255) 255 (.cells #[.int .u8 32, .int .u8 10, .int .u8 45, .int .u8 95, .int .u8 0, .int .u8 255] 5) rfl HG.out hbW hgW HCW.out hjl
        have hfo : dec (str ((enc l).set j 255)).data.toList = none := by
          rw [str_list]
          exact dec_foreign _ 255 (List.mem_set hjl _) (by decide) (by decide)
        generalize ((W.setCell ⟨g, j, none⟩ (.int .u8 255)).alloc (.cells #[.int .u8 32, .int .u8 10, .int .u8 45, .int .u8 95, .int .u8 0, .int .u8 255] 5)).drew = W5 at hst ⊢
        obtain ⟨hH, hB5⟩ := hst
        have hcv := run_str W5 _ (some ⟨g, 0, none⟩) ((enc l).set j 255) cap hH
        rw [List.length_set, ← HZ.out] at hcv
        have hsz : (str ((enc l).set j 255)).size ≤ 10000 := by rw [str_size, List.length_set]; have := HZ.out; omega
        have HF := Lib.hid hfo
        clear hH hfo hrun hbW hgW hc1 hf1 HCW HFW hj hj2 hq hq2
        go_wp2_with fail
        with_reducible refine (decode_no (str ((enc l).set j 255)) W5 hsz HF.out).mono ?_
        rintro e w6 ⟨rfl, hb6⟩
        have hb56 := hB5.trans (hb6.mono hB5.size)
        clear hcv
        go_wp2_with fail
        refine (first_any _).mono ?_
        rintro e w7 ⟨rfl, hb7⟩
        go_wp2_with fail
        go_ret
        exact ⟨rfl, hb02.trans ((hb56.trans (hb7.mono hb56.size)).mono hb02.size)⟩

theorem walk (A : Option Addr) (l : List UInt8) (c : Nat) (at_ b : Int) (w : World) (h : Has w w.heap.size A l) (hb : (Lit.int .u8 b).wf = true) :
    Calls Try.prog 6 #[.slice A l.length c, .int .i64 at_, .int .u8 b] w fun e w' => e = .returned (.bool true) ∧ Below w.heap.size w w' := by
  obtain ⟨x, rfl⟩ : ∃ x : UInt8, b = (x.toNat : Int) := by
    have := bounds_u8 hb
    exact ⟨UInt8.ofNat b.toNat, by rw [toNat_ofNat (by omega)]; omega⟩
  by_cases hl : 1000 < l.length ∨ l.length = 0 ∨ at_ < 0
  · exact walk_long A l c at_ x w hl
  · exact walk_short A l c at_ x w h (by omega) (by omega) (by omega)

/-! ### THE ROW's STEP: WRITTEN OUT: LEAVE IT -/
set_option maxRecDepth 100000 in
theorem lifted (os : Os) (started : os.Started) (H : Type) (enc : TypeId × Value → H) :
    ReturnsInHanded {} Try.checked os 6 .any (Rows.b64SignsSpec.pre6 enc Try.prog Try.f6 Rows.b64SignsRow.domain false) (Rows.b64SignsSpec.post enc Try.prog Try.f6 false true false false) := by
  refine returnsInHanded_of_change (C := Try.checked) own started (by kernel_rfl) Try.func6
    (ChangeSpec.witness6 (enc := enc) (C := Try.checked) false ⟨#[], #[.slice none 0 0, .int .i64 0, .int .u8 0], []⟩ 8 (by kernel_rfl) (by kernel_rfl) (by kernel_rfl) (by kernel_rfl)) ?_
  intro W base args ds gs before hval0 hW hcnd _
  have hval : ∀ (j : Nat) t v, Try.f6.params[j]? = some t → args[j]? = some v → Value.okWide Try.prog W .any base t v := hval0
  have hW' := hW
  obtain ⟨p, q, hA0, hV, rfl, hfz, hnd⟩ := hW
  have hA : DataW.TrodAll enc Try.prog W 0 (fun _ => true) true Try.f6.params.toList args.toList ds p := hA0
  rw [Try.params6] at hA hval
  obtain ⟨v0, vs0, d0, ds0, p0, q0, hargs, rfl, rfl, h0, r0⟩ := trodAll_cons hA
  obtain ⟨v1, vs1, d1, ds1, p1, q1, rfl, rfl, rfl, h1, r1⟩ := trodAll_cons r0
  obtain ⟨v2, vs2, d2, ds2, p2, q2, rfl, rfl, rfl, h2, r2⟩ := trodAll_cons r1
  obtain ⟨rfl, rfl, rfl⟩ := trodAll_nil r2
  obtain rfl : args = #[v0, v1, v2] := by cases args; simp_all
  obtain ⟨rfl, rfl⟩ := trodVars_none hV
  obtain ⟨a0, len0, cap0, rfl⟩ := okWide_slice Try.underlying22 (hval 0 22 v0 rfl rfl)
  have k0 := h0
  have lt0 : ∀ x ∈ p0, x.block < W.heap.size := by obtain ⟨m, hm⟩ := k0; exact DataW.trod_lt m _ _ _ hm
  obtain ⟨l0, rfl, _, _, w0⟩ := opened h0
  obtain ⟨a1, rfl, rfl, rfl, w1⟩ := open_int Try.underlying3 (hval 1 3 v1 rfl rfl) h1
  obtain ⟨a2, rfl, rfl, rfl, w2⟩ := open_int Try.underlying5 (hval 2 5 v2 rfl rfl) h2
  clear hA0 hval0
  refine (walk a0 l0 cap0 a1 a2 W w0 w2).mono fun e W' ⟨he, bel⟩ => ?_
  subst he
  exact ⟨_, rfl, _, _, _, [], _, [], hW', trodAll_mk1 (shut_bool Try.underlying4 _), (trodAll_cons_mk (Below.trod laidOut (by kernel_rfl) (of_decide_eq_true (by kernel_rfl)) k0 bel lt0) (trodAll_cons_mk (shut_int Try.underlying3 w1) (trodAll_cons_mk (shut_int Try.underlying5 w2) trodAll_mk0))), rfl, bel.frame _, fun h => by cases h⟩

theorem over : Rows.b64SignsRow.holds Try.pinned (OpenSpec.ofChange Rows.b64SignsSpec) :=
  OpenClaim.holds_of_wide 6 Try.f6 rfl rfl rfl rfl rfl rfl rfl ⟨rfl, rfl, rfl, rfl, rfl⟩ rfl rfl rfl rfl rfl (by kernel_rfl) Try.func6 (by kernel_rfl)
    (of_decide_eq_true (by kernel_rfl)) (by unfold Func.isWrapper; first | (rw [if_pos (by decide +kernel)]; kernel_rfl) | (rw [if_neg (by decide +kernel)]; exact ⟨rfl, rfl⟩))
    (fun os started H enc _ => lifted os started H enc)

end Go.Proofs.Ytidajbmbadgnmaa.b64Signs
namespace Go.Proofs.Ytidajbmbadgnmaa
theorem b64Signs_holds : Rows.B64SignsSaid := b64Signs.over
#print axioms b64Signs_holds
end Go.Proofs.Ytidajbmbadgnmaa
