/- The walk of DynOut. -/
import Derived.Test.YtjohchedckmadaaDFinds
namespace Go.Proofs.Ytjohchedckmadaa
open Go.RowKit

def nmB : ByteArray := ⟨#[110, 97, 109, 101]⟩
def vlB (i : Nat) : ByteArray := ⟨#[118, 97, 108, UInt8.ofNat i]⟩
/-- The i-th field of forty bytes. -/
def vf (i : Nat) : Fld := ⟨nmB, vlB i, false⟩
/-- So many of them, the newest first. -/
def vs : Nat → List Fld
  | 0 => []
  | n + 1 => vf n :: vs n
theorem vs_len : ∀ n, (vs n).length = n
  | 0 => rfl
  | n + 1 => by rw [vs, List.length_cons, vs_len n]
theorem vs_get : ∀ (n j : Nat) (h : j < (vs n).length), (vs n)[j] = vf (n - 1 - j)
  | 0, j, h => by simp [vs] at h
  | n + 1, 0, h => by simp [vs]
  | n + 1, j + 1, h => by
    have := vs_get n j (by simpa [vs] using h)
    simp only [vs, List.getElem_cons_succ]
    rw [this]
    congr 1
    omega
theorem vs_size : ∀ n, ∀ f ∈ vs n, fsize f = 40
  | 0, f, h => by simp [vs] at h
  | n + 1, f, h => by
    rw [vs, List.mem_cons] at h
    rcases h with rfl | h
    · rfl
    · exact vs_size n f h
theorem fit_forty : ∀ (l : List Fld) (m : Nat), (∀ f ∈ l, fsize f = 40) → fitL m l = l.take (m / 40)
  | [], m, _ => by simp [fitL]
  | f :: r, m, h => by
    have h1 := h f (by simp)
    rw [fitL, h1]
    split
    · rw [fit_forty r (m - 40) (fun g hg => h g (by simp [hg])), show m / 40 = (m - 40) / 40 + 1 by omega, List.take_succ_cons]
    · rw [show m / 40 = 0 by omega, List.take_zero]
theorem add_forty (k room : Nat) : addL (40 * room) (vf k) ((vs k).take room) = (vs (k + 1)).take room := by
  have hk : kept (vf k) = vf k := rfl
  rw [addL, hk, fit_forty _ _ (fun f hf => by
    rw [List.mem_cons] at hf
    rcases hf with rfl | hf
    · rfl
    · exact vs_size k f (List.mem_of_mem_take hf)), show 40 * room / 40 = room by omega, vs]
  rcases room with _ | r
  · rfl
  · rw [List.take_succ_cons, List.take_succ_cons, List.take_take]
    congr 2
    omega
theorem limit_forty (n room less : Nat) (h : less ≤ room) : fitL (40 * less) ((vs n).take room) = (vs n).take less := by
  rw [fit_forty _ _ (fun f hf => vs_size n f (List.mem_of_mem_take hf)), show 40 * less / 40 = less by omega, List.take_take, Nat.min_eq_left h]
theorem limit_all (n less : Nat) (h : less ≤ 30) : fitL 4096 ((vs n).take less) = (vs n).take less := by
  rw [fit_forty _ _ (fun f hf => vs_size n f (List.mem_of_mem_take hf)), List.take_take, show min (4096 / 40) less = less by omega]
theorem big_out (m : Nat) (f : Fld) (l : List Fld) (h : m < fsize f) : addL m f l = [] := by
  rw [addL, fitL, if_neg (by rw [kept_size]; omega)]
/-- The four bytes, as a string. -/
theorem conv_val (w : World) (i : Nat) : (convert 48 9 (.slice (some ⟨w.heap.size, 0, none⟩) 4 4)).run Try.prog (w.alloc (.cells #[.int .u8 118, .int .u8 97, .int .u8 108, .int .u8 (i : Int)] 5)) = .ok (.string (vlB i)) (w.alloc (.cells #[.int .u8 118, .int .u8 97, .int .u8 108, .int .u8 (i : Int)] 5)) := by
  have hl := run_loadCells_list (P := Try.prog) (w := w.alloc (.cells #[.int .u8 118, .int .u8 97, .int .u8 108, .int .u8 (i : Int)] 5)) ⟨w.heap.size, 0, none⟩ (([118, 97, 108, (i : Int)] : List Int).map (Value.int .u8)) (fun j v hj => by
    rw [show (⟨w.heap.size, 0, none⟩ : Addr).add j = ⟨w.heap.size, j, none⟩ by simp [Addr.add]; omega]
    refine (cell_of_row (w.alloc (.cells #[.int .u8 118, .int .u8 97, .int .u8 108, .int .u8 (i : Int)] 5)) w.heap.size j _ 5 _ (heap_alloc_new w _)).trans ?_
    simpa using hj)
  exact (run_convert_bytes_string _ 48 9 5 _ 4 4 Try.underlying48 Try.underlying5 Try.underlying9).trans (run_bytesToString _ ⟨w.heap.size, 0, none⟩ 4 4 [118, 97, 108, (i : Int)] hl)
namespace dynOut
set_option maxRecDepth 100000 in
set_option maxHeartbeats 4000000 in
theorem walk_not (n room less : Int) (w : World) (hR : Rdy w) (ho : ¬ (0 ≤ n ∧ n ≤ 30 ∧ 0 ≤ room ∧ room ≤ 30 ∧ 0 ≤ less ∧ less ≤ room)) :
    Calls Try.prog 6 #[.int .i64 n, .int .i64 room, .int .i64 less] w (Yes w) := by
  have HR := Lib.hid fun (w' : World) (hb : Below w.heap.size w w') => hR.below hb
  have HFI := Lib.hid (first_any w hR)
  clear hR
  have key : n < 0 ∨ (¬ n < 0 ∧ 30 < n) ∨ (¬ n < 0 ∧ ¬ 30 < n ∧ room < 0) ∨ (¬ n < 0 ∧ ¬ 30 < n ∧ ¬ room < 0 ∧ 30 < room) ∨ (¬ n < 0 ∧ ¬ 30 < n ∧ ¬ room < 0 ∧ ¬ 30 < room ∧ less < 0) ∨ (¬ n < 0 ∧ ¬ 30 < n ∧ ¬ room < 0 ∧ ¬ 30 < room ∧ ¬ less < 0 ∧ room < less) := by omega
  clear ho
  rcases key with h1 | ⟨h1, h2⟩ | ⟨h1, h2, h3⟩ | ⟨h1, h2, h3, h4⟩ | ⟨h1, h2, h3, h4, h5⟩ | ⟨h1, h2, h3, h4, h5, h6⟩
  all_goals
    go_enter Try.func6, Try.ntmps6
    go_wp2_with fail
    with_reducible refine (HFI.out).mono ?_
    rintro e w1 ⟨rfl, hb1⟩
    have HF2 := Lib.hid (first_any w1 (HR.out _ hb1))
    go_wp2_with fail
    with_reducible refine (HF2.out).mono ?_
    rintro e w4 ⟨rfl, hbn⟩
    have hb4 := hb1.trans (hbn.mono hb1.size)
    go_wp2_with fail
    go_ret
    exact ⟨rfl, hb4⟩
def OtA (w : World) (n room p : Nat) (i : Value) (wr : World) : Prop := ∃ k, k ≤ n ∧ i = .int .i64 (k : Int) ∧ Has w p (40 * room) ((vs k).take room) wr
def OtB (w : World) (n less p : Nat) (i : Value) (wr : World) : Prop := ∃ k, k ≤ min less n ∧ i = .int .i64 ((k + 1 : Nat) : Int) ∧ Has w p 4096 ((vs n).take less) wr
set_option maxRecDepth 100000 in
set_option maxHeartbeats 8000000 in
theorem walk_in (n room less : Nat) (w : World) (hR : Rdy w) (hn : n ≤ 30) (hr : room ≤ 30) (hl : less ≤ room) :
    Calls Try.prog 6 #[.int .i64 (n : Int), .int .i64 (room : Int), .int .i64 (less : Int)] w (Yes w) := by
  have HR := Lib.hid fun (w' : World) (hb : Below w.heap.size w w') => hR.below hb
  have HFI := Lib.hid (first_any w hR)
  clear hR
  go_enter Try.func6, Try.ntmps6
  go_wp2_with fail
  with_reducible refine (HFI.out).mono ?_
  rintro e w1 ⟨rfl, hb1⟩
  obtain ⟨M, hM⟩ : ∃ M, M = 40 * room := ⟨_, rfl⟩
  have eM : (40 : Int) * (room : Int) = (M : Int) := by omega
  have hMb : M ≤ 1200 := by omega
  have HNW := Lib.hid (Has.new (m := M) (HR.out _ hb1) hb1 (by omega) (M : Int) rfl)
  have HMM := Lib.hid hM
  clear hb1 HFI hM
  go_wp2_with fail
  with_reducible refine (HNW.out).mono ?_
  rintro e w2 ⟨p, rfl, hH⟩
  have hr0 : OtA w n room p (.int .i64 0) w2 := ⟨0, Nat.zero_le _, rfl, by rw [← HMM.out, show vs 0 = [] from rfl, List.take_nil]; exact hH⟩
  clear HNW hH
  go_wp2
  go_loopw [9] (fun i wr => OtA w n room p i wr) (fun i _ => n - (intOf i).toNat)
  case atStart => exact hr0
  case round =>
    clear hr0
    obtain ⟨k, hk, rfl, hH⟩ := hrel
    by_cases hlt : k < n
    · have ki : (k : Int) < (n : Int) := by omega
      have kw : IntKind.u8.wrap (k : Int) = (k : Int) := by rw [IntKind.wrap_u8']; omega
      have hcv := conv_val wr k
      have hba : Below wr.heap.size wr (wr.alloc (.cells #[.int .u8 118, .int .u8 97, .int .u8 108, .int .u8 (k : Int)] 5)) := (Below.refl _ _).alloc (Nat.le_refl _) _
      have hH2 := hH.quiet hba
      have HADD := hH2.add (HR.out _ hH2.below) (vf k) (by rw [vs_size (k + 1) (vf k) (by simp [vs])]; omega)
      rw [add_forty] at HADD
      rw [show (vf k).name = ⟨#[110, 97, 109, 101]⟩ from rfl, show (vf k).value = vlB k from rfl, show (vf k).never = false from rfl] at HADD
      have HADD := Lib.hid HADD
      generalize vlB k = Y at hcv HADD
      clear hH hba hH2
      go_wp2_with fail
      with_reducible refine (HADD.out).mono ?_
      rintro e w4 ⟨rfl, hH4⟩
      clear HADD hcv
      go_wp2
      go_roundw
      case rel => exact ⟨k + 1, by omega, by go_num, hH4⟩
      case measure => simp [intOf]; omega
    · obtain rfl : k = n := by omega
      have ki : ¬ (k : Int) < (k : Int) := by omega
      have HLN := hH.len (HR.out _ hH.below)
      rw [List.length_take, vs_len] at HLN
      obtain ⟨mn, hmn⟩ : ∃ mn, mn = min room k := ⟨_, rfl⟩
      rw [← hmn] at HLN
      replace HLN := Lib.hid HLN
      have HMN := Lib.hid hmn
      have emn : (if room < k then (room : Int) else (k : Int)) = (mn : Int) := by split <;> omega
      clear hH hmn
      go_wp2_with fail
      with_reducible refine (HLN.out).mono ?_
      rintro e w3 ⟨rfl, hH3, _⟩
      have tmn : ((mn : Int) != (mn : Int)) = false := by simp
      obtain ⟨M2, hM2⟩ : ∃ M, M = 40 * less := ⟨_, rfl⟩
      have eM2 : (40 : Int) * (less : Int) = (M2 : Int) := by omega
      have hM2b : M2 ≤ 1200 := by omega
      have HLM := hH3.limit (HR.out _ hH3.below) M2 (by omega) (M2 : Int) rfl
      rw [hM2, limit_forty k room less hl, ← hM2] at HLM
      replace HLM := Lib.hid HLM
      clear hM2 HLN hH3
      go_wp2_with fail
      with_reducible refine (HLM.out).mono ?_
      rintro e w4 ⟨rfl, hH4⟩
      have HLN := hH4.len (HR.out _ hH4.below)
      rw [List.length_take, vs_len] at HLN
      obtain ⟨q, hq⟩ : ∃ q, q = min less k := ⟨_, rfl⟩
      rw [← hq] at HLN
      replace HLN := Lib.hid HLN
      have HQ := Lib.hid hq
      have eq : (if less < k then (less : Int) else (k : Int)) = (q : Int) := by split <;> omega
      have tq : ((q : Int) != (q : Int)) = false := by simp
      have hqb : q ≤ 30 := by omega
      clear HLM hH4 hq
      go_wp2_with fail
      with_reducible refine (HLN.out).mono ?_
      rintro e w5 ⟨rfl, hH5, _⟩
      have HLM := hH5.limit (HR.out _ hH5.below) 4096 (by omega) 4096 rfl
      rw [limit_all k less (by omega)] at HLM
      replace HLM := Lib.hid HLM
      clear HLN hH5
      go_wp2_with fail
      with_reducible refine (HLM.out).mono ?_
      rintro e w6 ⟨rfl, hH6⟩
      have HLN := hH6.len (HR.out _ hH6.below)
      rw [List.length_take, vs_len, ← HQ.out] at HLN
      replace HLN := Lib.hid HLN
      clear HLM hH6
      go_wp2_with fail
      with_reducible refine (HLN.out).mono ?_
      rintro e w7 ⟨rfl, hH7, _⟩
      have hr1 : OtB w k less p (.int .i64 1) w7 := ⟨0, Nat.zero_le _, rfl, hH7⟩
      clear HLN hH7
      go_wp2
      go_loopw [11, 12, 13] (fun i _ _ wr => OtB w k less p i wr) (fun i _ _ _ => 31 - (intOf i).toNat)
      case atStart => exact hr1
      case round =>
        clear hr1
        obtain ⟨j, hj, rfl, hH⟩ := hrel
        by_cases hlt2 : j < q
        · obtain ⟨J, hJ⟩ : ∃ J, J = j + 1 := ⟨_, rfl⟩
          rw [show ((j + 1 : Nat) : Int) = (J : Int) by omega]
          have ji : (J : Int) ≤ (q : Int) := by omega
          have hgt := hH.get (HR.out _ hH.below) (J : Int) (by unfold Rng; omega)
          have hlen : ((vs k).take less).length = q := by rw [List.length_take, vs_len, HQ.out]
          rw [getL_in _ J (by omega) (by omega)] at hgt
          have hel : ((vs k).take less)[J - 1]'(by omega) = vf (k - J) := by
            rw [List.getElem_take, vs_get]
            congr 1
            omega
          rw [hel] at hgt
          obtain ⟨V, hV⟩ : ∃ V, V = k - J := ⟨_, rfl⟩
          have hJk : J ≤ k := by have := HQ.out; omega
          have eV : (k : Int) - (J : Int) = (V : Int) := by omega
          obtain ⟨Y, hYe⟩ : ∃ Y, Y = vlB V := ⟨_, rfl⟩
          have hbs : 3 < Y.size := by rw [hYe]; show 3 < 4; omega
          have hY4 : Y.size = 4 := by rw [hYe]; rfl
          have hV30 : V ≤ 30 := by omega
          have hG : (Y[3]'hbs).toNat = V := by
            subst hYe
            show (UInt8.ofNat V).toNat = V
            rw [UInt8.toNat_ofNat']
            omega
          rw [← hV] at hgt
          rw [show (vf V).name = ⟨#[110, 97, 109, 101]⟩ from rfl, show (vf V).value = vlB V from rfl, show (vf V).never = false from rfl, ← hYe] at hgt
          have tV : ((V : Int) != (V : Int)) = false := by simp
          replace hgt := Lib.hid hgt
          have HJ := Lib.hid hJ
          clear hH hlen hel hV hJ hYe
          go_wp2_with fail
          with_reducible refine (hgt.out).mono ?_
          rintro e w8 ⟨rfl, hH8, _⟩
          have hba : Below w8.heap.size w8 (w8.alloc (.cells #[.string ⟨#[110, 97, 109, 101]⟩, .string Y, .bool false] 33)) := (Below.refl _ _).alloc (Nat.le_refl _) _
          have hH9 := hH8.quiet hba
          clear hH8 hba hgt
          go_wp2
          go_roundw
          case rel => exact ⟨j + 1, by have := HQ.out; have := HJ.out; omega, by have := HJ.out; go_num, hH9⟩
          case measure => simp [intOf]; omega
        · obtain rfl : j = q := by have := HQ.out; omega
          have ji : ¬ ((j + 1 : Nat) : Int) ≤ (j : Int) := by omega
          obtain ⟨i0, hi0, hz0, hz1, hz2⟩ := info_parts infoU8
          go_wp2_with (at_make; refine wpList_make_full _ rfl _ _ 48 rfl wr.heap.size 5 i0 _ 1 Try.underlying48 hi0 hz0 hz1 _ _ _ _ 4096 rfl rfl (by omega) (by omega) (by rw [hz2]; omega) (by unfold maxLen; omega) (Nat.le_refl _) ?_; intro w9 hown9 hg9; rw [show (Value.int .u8 0).cells = #[Value.int .u8 0] from rfl, toList_madeCells_one] at hown9; obtain ⟨Z, hZ, hcv⟩ := conv_zero w9 _ _ _ hown9)
          have hH9 := hH.quiet ((Below.refl wr.heap.size wr).grown hg9 (Nat.le_refl _) (fun k hk => by cases hk))
          have hfz : fsize ⟨Z, ⟨#[]⟩, false⟩ = 4128 := by unfold fsize; rw [hZ]; rfl
          have HADD := hH9.add (HR.out _ hH9.below) ⟨Z, ⟨#[]⟩, false⟩ (by omega)
          rw [big_out _ _ _ (by omega)] at HADD
          replace HADD := Lib.hid HADD
          clear hcv hZ hfz hown9 hg9 hH hi0 hz0 hz1 hz2 hH9
          with_reducible refine (HADD.out).mono ?_
          rintro e w4 ⟨rfl, hH4⟩
          have HF1 := Lib.hid (first_any w4 (HR.out _ hH4.below))
          clear HADD
          go_wp2_with fail
          with_reducible refine (HF1.out).mono ?_
          rintro e w7 ⟨rfl, hb7⟩
          have hH7 := hH4.quiet hb7
          have HL1 := Lib.hid (hH7.len (HR.out _ hH7.below))
          clear HF1 hb7 hH4
          go_wp2_with fail
          with_reducible refine (HL1.out).mono ?_
          rintro e w8 ⟨rfl, hH8, _⟩
          have HS1 := Lib.hid (hH8.size (HR.out _ hH8.below))
          clear HL1 hH7
          go_wp2_with fail
          with_reducible refine (HS1.out).mono ?_
          rintro e w10 ⟨rfl, hHZ, _⟩
          have hZ := hHZ.below
          clear HS1 hH8 hHZ
          rw [show tot [] = 0 from rfl]
          go_wp2_with fail
          go_ret
          exact ⟨rfl, hZ⟩
theorem walk (n room less : Int) (w : World) (hR : Rdy w) : Calls Try.prog 6 #[.int .i64 n, .int .i64 room, .int .i64 less] w (Yes w) := by
  by_cases ho : 0 ≤ n ∧ n ≤ 30 ∧ 0 ≤ room ∧ room ≤ 30 ∧ 0 ≤ less ∧ less ≤ room
  · obtain ⟨n', rfl⟩ : ∃ v : Nat, n = (v : Int) := ⟨n.toNat, by omega⟩
    obtain ⟨r', rfl⟩ : ∃ v : Nat, room = (v : Int) := ⟨room.toNat, by omega⟩
    obtain ⟨l', rfl⟩ : ∃ v : Nat, less = (v : Int) := ⟨less.toNat, by omega⟩
    exact walk_in n' r' l' w hR (by omega) (by omega) (by omega)
  · exact walk_not n room less w hR ho
end dynOut
end Go.Proofs.Ytjohchedckmadaa
