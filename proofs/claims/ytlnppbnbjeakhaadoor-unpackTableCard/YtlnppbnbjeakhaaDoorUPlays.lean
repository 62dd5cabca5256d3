/- The walk of UnpackPlays. -/
import Derived.Test.YtlnppbnbjeakhaaDoorUTwo
namespace Go.Proofs.YtlnppbnbjeakhaaDoor
open Go.RowKit

theorem ugo_len (b : List Nat) (room : Int) : ∀ (f k lims : Nat) (out : List Fld) (m : Nat) (L : List Fld), (ugo b room f k lims out m L).out.length ≤ out.length + f
  | 0, _, _, out, _, _ => by rw [ugo]; simp
  | f + 1, k, lims, out, m, L => by
    rw [ugo]
    split
    · split
      · simp
      · split
        · split
          · have := ugo_len b room f (uone b k m L).next (lims + 1) out (uone b k m L).most (uone b k m L).tab
            omega
          · simp
        · have := ugo_len b room f (uone b k m L).next lims (out ++ [(uone b k m L).fld]) (uone b k m L).most (uone b k m L).tab
          rw [List.length_append] at this
          simp at this
          omega
    · split
      · simp
      · simp
theorem udec_len (b : List Nat) (room : Int) (d : Bool) (m : Nat) (L : List Fld) : (udec b room d m L).out.length ≤ b.length + 1 := by
  rw [udec]
  split
  · simp
  · have := ugo_len b room (b.length + 1) 0 0 [] m L
    simpa using this
namespace unpackPlays
def SuR (w : World) (l : List Sl) (n i : Value) (wr : World) : Prop := ∃ k : Nat, k ≤ l.length ∧ k ≤ 50 ∧ i = .int .i64 (k : Int) ∧ n = .int .i64 ((sumL (l.take k) : Nat) : Int) ∧ Below w.heap.size w wr
def PyR (w : World) (n p t r q : Nat) (i : Value) (wr : World) : Prop := ∃ k N m L d, k ≤ n ∧ i = .int .i64 (k : Int) ∧ TwoU w p t r q N m m L L d d wr
set_option maxRecDepth 100000 in
set_option maxHeartbeats 8000000 in
theorem walk_any (A : Option Addr) (l : List Sl) (n c : Nat) (room : Int) (w : World) (hR : Rdy w) (hA : AtL w w.heap.size A l) (hl : l.length = n) (hr : Rng room) :
    Calls Tryd.prog 3 #[.slice A n c, .int .i64 room] w (Yes w) := by
  have HR := Lib.hid fun (w' : World) (hb : Below w.heap.size w w') => hR.below hb
  have HFI := Lib.hid (first_any w hR)
  have HA := Lib.hid hA
  have HL := Lib.hid hl
  have HRM := Lib.hid hr
  clear hR hA hl hr
  go_enter Tryd.func3, Tryd.ntmps3
  go_wp2_with fail
  with_reducible refine (HFI.out).mono ?_
  rintro e w1 ⟨rfl, hb1⟩
  have hr0 : SuR w l (.int .i64 0) (.int .i64 0) w1 := ⟨0, Nat.zero_le _, by omega, rfl, rfl, hb1⟩
  clear hb1 HFI
  go_wp2
  go_loopw [5, 6] (fun n i wr => SuR w l n i wr) (fun _ i _ => 50 - (intOf i).toNat)
  case atStart => exact hr0
  case round =>
    clear hr0
    obtain ⟨k, hk, hk2, rfl, rfl, hbw⟩ := hrel
    have hsb := sumL_le (l.take k)
    rw [List.length_take] at hsb
    obtain ⟨T, hT⟩ : ∃ T, T = sumL (l.take k) := ⟨_, rfl⟩
    rw [← hT] at hsb ⊢
    have HT := Lib.hid hT
    have hTb : T ≤ 1000050 := by omega
    clear hT hsb
    rw [HL.out] at hk
    by_cases hlt : k < n
    · by_cases h50 : k < 50
      · have ki : (k : Int) < (n : Int) := by omega
        have ki2 : (k : Int) < 50 := by omega
        have ki2d : decide ((k : Int) < 50) = true := decide_eq_true ki2
        have hkl : k < l.length := by have := HL.out; omega
        obtain ⟨b, o, rfl, hb, hc⟩ := HA.out (fun h => by rw [h] at hkl; simp at hkl)
        have cx := (hbw.cell (p := ⟨b, o + k, none⟩) hb).trans (hc k hkl).1
        obtain ⟨s, hs⟩ : ∃ s, s = l[k] := ⟨_, rfl⟩
        have HNX : Hid (sumL (l.take (k + 1)) = T + min s.bytes.length 20001) := Lib.hid (by rw [sumL_next l k hkl, ← HT.out, hs])
        rw [← hs] at cx
        obtain ⟨ad, bs, cp⟩ := s
        simp only [] at cx HNX
        obtain ⟨z, hz⟩ : ∃ z, z = min bs.length 20001 := ⟨_, rfl⟩
        rw [← hz] at HNX
        obtain ⟨x, hx⟩ : ∃ x, x = bs.length := ⟨_, rfl⟩
        rw [← hx] at cx hz
        have ez : (if 20001 < x then (20001 : Int) else (x : Int)) = (z : Int) := by split <;> omega
        have hzb : z ≤ 20001 := by omega
        clear hc hkl hs hz hx
        go_wp2
        go_roundw
        case rel => exact ⟨k + 1, by rw [HL.out]; omega, by omega, by go_num, by rw [HNX.out]; go_num, hbw⟩
        case measure => simp [intOf]; omega
      · obtain rfl : k = 50 := by omega
        have ki2 : ¬ (50 : Int) < 50 := by omega
        have n50 : (50 : Int) < (n : Int) := by omega
        have HF2 := Lib.hid (first_any wr (HR.out _ hbw))
        go_wp2_with fail
        with_reducible refine (HF2.out).mono ?_
        rintro e w2 ⟨rfl, hb2⟩
        have hZ := hbw.trans (hb2.mono hbw.size)
        go_wp2_with fail
        go_ret
        exact ⟨rfl, hZ⟩
    · obtain rfl : k = n := by omega
      have ki : ¬ (k : Int) < (k : Int) := by omega
      have n50 : ¬ (50 : Int) < (k : Int) := by omega
      by_cases hbig : 20000 < T
      · have hb2 : (20000 : Int) < (T : Int) := by omega
        have HF2 := Lib.hid (first_any wr (HR.out _ hbw))
        go_wp2_with fail
        with_reducible refine (HF2.out).mono ?_
        rintro e w2 ⟨rfl, hb2⟩
        have hZ := hbw.trans (hb2.mono hbw.size)
        go_wp2_with fail
        go_ret
        exact ⟨rfl, hZ⟩
      · have hb2 : ¬ (20000 : Int) < (T : Int) := by omega
        have HSM : Hid (∀ s ∈ l, s.bytes.length ≤ 20000) := Lib.hid (fun s hs => by
          have := sumL_mem hs
          have hTT := HT.out
          rw [List.take_of_length_le (by have := HL.out; omega)] at hTT
          omega)
        have HN := Lib.hid (HasU.new (HR.out _ hbw) hbw)
        clear hTb HT hbig
        go_wp2_with fail
        with_reducible refine (HN.out).mono ?_
        rintro e w2 ⟨p, t, rfl, hU, hb2'⟩
        have HRN := Lib.hid (runew_any w2)
        have hb3 := hU.below
        clear HN
        go_wp2_with fail
        with_reducible refine (HRN.out).mono ?_
        rintro e w3 ⟨r, q, T2, rfl, hRD, hT2, hb4⟩
        have hr1 : PyR w k p t r q (.int .i64 0) w3 := by
          obtain ⟨S, h1, h2, _, h4⟩ := hU
          refine ⟨0, w3.heap.size, 4096, [], false, Nat.zero_le _, rfl, S, T2, h1.quiet hb4, hRD, h2, fun x hx => Nat.le_trans hb3.size (hT2 x hx), fun x hx ht => ?_, fun x hx => hRD.low x hx, h4.trans (hb4.mono h4.size)⟩
          have := h1.low x hx
          have := hT2 x ht
          omega
        clear HRN hU hb2' hb3 hRD hT2 hb4 hbw
        go_wp2
        go_loopw [9, 10, 11, 12, 13] (fun i _ _ _ _ wr => PyR w k p t r q i wr) (fun i _ _ _ _ _ => k - (intOf i).toNat)
        case atStart => exact hr1
        case round =>
          clear hr1
          obtain ⟨j, N, m, L, d, hj, rfl, hH⟩ := hrel
          by_cases hlt2 : j < k
          · have ji : (j : Int) < (k : Int) := by omega
            have hjl : j < l.length := by have := HL.out; omega
            obtain ⟨b, o, rfl, hb, hc⟩ := HA.out (fun h => by rw [h] at hjl; simp at hjl)
            have HCX := Lib.hid fun (W : World) (hB : Below w.heap.size w W) => (hB.cell (p := ⟨b, o + j, none⟩) hb).trans (hc j hjl).1
            have hsok := (hc j hjl).2
            obtain ⟨s, hs⟩ : ∃ s, s = l[j] := ⟨_, rfl⟩
            have hsm := HSM.out s (by rw [hs]; exact List.getElem_mem _)
            rw [← hs] at HCX hsok
            have HDA := hH.decA (HR.out _ hH.below) s hsok (Nat.le_trans hsm (by decide)) room HRM.out
            obtain ⟨D, hD⟩ : ∃ D, D = udec s.bytes room d m L := ⟨_, rfl⟩
            rw [← hD] at HDA
            have HDD := Lib.hid hD
            have HSK := Lib.hid (show s.ok w w.heap.size ∧ s.bytes.length ≤ 20000 from ⟨hsok, hsm⟩)
            have HBB := Lib.hid fun (W : World) (h : TwoU w p t r q wr.heap.size D.most m D.tab L D.dead d W) (A2 : Option Addr) (hA2 : AtF W W.heap.size A2 D.out) (hn2 : ∀ b o s, A2 = some ⟨b, o, s⟩ → wr.heap.size ≤ b) => h.decB s HSK.out.1 (Nat.le_trans HSK.out.2 (by decide)) room A2 D.out hA2 hn2
            rw [← HDD.out] at HBB
            have cx := HCX.out wr hH.below
            obtain ⟨ad, bs, cp⟩ := s
            simp only [] at cx HDA HBB HCX
            obtain ⟨D1, D2, D3, D4, D5⟩ := D
            simp only [] at HDA HBB
            replace HDA := Lib.hid HDA
            clear hc hjl hs hsok hsm hD hH
            go_wp2_with fail
            with_reducible refine (HDA.out).mono ?_
            rintro e w4 ⟨A4, c4, rfl, hH4, hat4, hn4⟩
            have HDB := Lib.hid (HBB.out w4 hH4 A4 hat4 hn4)
            clear cx HDA
            have cx := HCX.out w4 hH4.below
            clear hH4 hat4 hn4
            go_wp2_with fail
            with_reducible refine (HDB.out).mono ?_
            rintro e w5 ⟨A5, c5, rfl, hH5, hat5, hat4⟩
            clear cx HDB
            have hln : D1.length ≤ 20001 := by
              have h1 := udec_len bs room d m L
              have h2 := HDD.out
              have h3 := HSK.out.2
              rw [← h2] at h1
              have h4 : D1.length ≤ bs.length + 1 := h1
              have h5 : bs.length ≤ 20000 := h3
              omega
            obtain ⟨S5, hU5⟩ := hH5.ud
            obtain ⟨T5, hR5⟩ := hH5.rd
            have x0 := hR5.cell0
            have x1 := hR5.cell1
            have hfit := hR5.fits
            have hrl : r < w5.heap.size := World.block_lt_of_cell? _ _ x0
            have HX0 := Lib.hid fun (W : World) (hB : Below w5.heap.size w5 W) => (hB.cell (p := ⟨r, 0, none⟩) hrl).trans x0
            have HX1 := Lib.hid fun (W : World) (hB : Below w5.heap.size w5 W) => (hB.cell (p := ⟨r, 1, none⟩) hrl).trans x1
            have hbw5 := hH5.below
            have hrd := fun (W : World) (hB : Below w5.heap.size w5 W) => HR.out W (hbw5.trans (hB.mono hbw5.size))
            have H1 := Lib.hid fun (W : World) (hB : Below w5.heap.size w5 W) => rexact_same A4 A5 D1 D1.length c4 c5 W (hat4.up hB) (hat5.up hB) rfl (by omega)
            have H2 := Lib.hid fun (W : World) (hB : Below w5.heap.size w5 W) => udead_f W (hrd W hB) S5 p t D4 D5 D3 (hU5.quiet hB)
            have H3 := Lib.hid fun (W : World) (hB : Below w5.heap.size w5 W) => utab_f W (hrd W hB) S5 p t D4 D5 D3 (hU5.quiet hB)
            have H4 := Lib.hid fun (h0 : D3 = false) (W : World) (hB : Below w5.heap.size w5 W) => (show Calls Tryd.prog 15 #[.pointer (some ⟨t, 0, none⟩), .pointer (some ⟨q, 0, none⟩)] W (BoolPost W true) by
              obtain ⟨S6, m6, L6, hD6, he6⟩ := (hU5.quiet hB).dt
              obtain ⟨e1, e2⟩ := he6 h0
              rw [e1, e2] at hD6
              obtain ⟨T6, _, hT6, _⟩ := hR5.quiet hB
              exact usame_any W S6 T6 t q D4 D5 (hrd W hB) hD6 hT6 (by omega))
            have HTW := Lib.hid hH5
            have hbd : Below w5.heap.size w5 w5.drew := (Below.refl _ _).drew
            have t1 : ((D2 : Int) != (D2 : Int)) = false := by simp
            obtain ⟨ln, hln2⟩ : ∃ x, x = D1.length := ⟨_, rfl⟩
            rw [← hln2] at H1 ⊢
            clear hln hln2 hU5 hR5 hfit hrl hrd hbw5 hat4 hat5 hH5
            cases D3 with
            | false =>
              go_wp2
              go_region_held3 (fun w' => w'.cell? ⟨r, 0, none⟩ = some (.pointer (some ⟨q, 0, none⟩)) ∧ w'.cell? ⟨r, 1, none⟩ = some (.bool false))
                (first
                  | exact ⟨x0, x1⟩
                  | exact ⟨HX0.out _ hb9, HX1.out _ hb9⟩
                  | exact ⟨HX0.out _ hb8, HX1.out _ hb8⟩
                  | exact ⟨HX0.out _ hb7, HX1.out _ hb7⟩
                  | exact ⟨HX0.out _ hb6, HX1.out _ hb6⟩)
                (first
                  | ((with_reducible refine (H1.out _ hbd).mono ?_); rintro e w6 ⟨rfl, hb6'⟩; have hb6 := hbd.trans (hb6'.mono hbd.size))
                  | ((with_reducible refine (H2.out _ hb6).mono ?_); rintro e w7 ⟨rfl, hb7'⟩; have hb7 := hb6.trans (hb7'.mono hb6.size))
                  | ((with_reducible refine (H3.out _ hb7).mono ?_); rintro e w8 ⟨rfl, hb8'⟩; have hb8 := hb7.trans (hb8'.mono hb7.size))
                  | ((with_reducible refine (H4.out (by trivial) _ hb8).mono ?_); rintro e w9 ⟨rfl, hb9'⟩; have hb9 := hb8.trans (hb9'.mono hb8.size)))
              have hZ := HTW.out.quiet hb9
              clear x0 x1 hbd hb6 hb6' hb7 hb7' hb8 hb8' hb9 hb9' H1 H2 H3 H4 HTW
              go_wp2
              go_roundw
              case rel => exact ⟨j + 1, _, _, _, _, by omega, by go_num, hZ⟩
              case measure => simp [intOf]; omega
            | true =>
              go_wp2
              refine wp_region_held_drew (S := fun w' => w'.cell? ⟨r, 0, none⟩ = some (.pointer (some ⟨q, 0, none⟩)) ∧ w'.cell? ⟨r, 1, none⟩ = some (.bool true)) (by kernel_rfl) ⟨x0, x1⟩ (fun hHeld => ?_)
              refine wpAnyH_take (i := 0) (v := ?_) rfl (by kernel_rfl) (by kernel_rfl) (by kernel_rfl) (fun _ _ _ h => h) (Or.inl ⟨by rfl, ?_⟩) hHeld ?_
              rotate_left
              · intro w hSw
                try dsimp only at hSw
                go_simp
                try with_reducible rfl
              change wpAnyH _ _ _ _ _ _ _ (Act.put _ (some 72) _) _
              simp only [Act.put, List.setIfInBounds_toArray, List.set_cons_zero, List.set_cons_succ]
              refine wpAnyH_take (i := 1) (v := ?_) rfl (by kernel_rfl) (by kernel_rfl) (by kernel_rfl) (fun _ _ _ h => h) (Or.inl ⟨by rfl, ?_⟩) hHeld ?_
              rotate_left
              · intro w hSw
                try dsimp only at hSw
                go_simp
                try with_reducible rfl
              change wpAnyH _ _ _ _ _ _ _ (Act.put _ (some 73) _) _
              simp only [Act.put, List.setIfInBounds_toArray, List.set_cons_zero, List.set_cons_succ]
              refine wpAnyH_take (i := 2) (v := ?_) rfl (by kernel_rfl) (by kernel_rfl) (by kernel_rfl) (fun _ _ _ h => h) (Or.inl ⟨by rfl, ?_⟩) hHeld ?_
              rotate_left
              · intro w hSw
                try dsimp only at hSw
                go_simp
                try with_reducible rfl
              change wpAnyH _ _ _ _ _ _ _ (Act.put _ (some 74) _) _
              simp only [Act.put, List.setIfInBounds_toArray, List.set_cons_zero, List.set_cons_succ]
              refine wpAnyH_take (i := 3) (v := ?_) rfl (by kernel_rfl) (by kernel_rfl) (by kernel_rfl) (fun _ _ _ h => h) (Or.inl ⟨by rfl, ?_⟩) hHeld ?_
              rotate_left
              · intro w hSw
                try dsimp only at hSw
                go_simp
                try with_reducible rfl
              change wpAnyH _ _ _ _ _ _ _ (Act.put _ (some 75) _) _
              simp only [Act.put, List.setIfInBounds_toArray, List.set_cons_zero, List.set_cons_succ]
              refine wpAnyH_take (i := 4) (v := ?_) rfl (by kernel_rfl) (by kernel_rfl) (by kernel_rfl) (fun _ _ _ h => h) (Or.inl ⟨by rfl, ?_⟩) hHeld ?_
              rotate_left
              · intro w hSw
                try dsimp only at hSw
                go_simp
                try with_reducible rfl
              change wpAnyH _ _ _ _ _ _ _ (Act.put _ (some 76) _) _
              simp only [Act.put, List.setIfInBounds_toArray, List.set_cons_zero, List.set_cons_succ]
              refine wpAnyH_take (i := 5) (v := ?_) rfl (by kernel_rfl) (by kernel_rfl) (by kernel_rfl) (fun _ _ _ h => h) (Or.inl ⟨by rfl, ?_⟩) hHeld ?_
              rotate_left
              · intro w hSw
                try dsimp only at hSw
                go_simp
                try with_reducible rfl
              change wpAnyH _ _ _ _ _ _ _ (Act.put _ (some 77) _) _
              simp only [Act.put, List.setIfInBounds_toArray, List.set_cons_zero, List.set_cons_succ]
              refine wpAnyH_ready (rs := [6]) (by kernel_rfl) (by simp) ?_
              refine AllReadyH.cons rfl (fun K hK => ?_) AllReadyH.nil
              go_simp
              with_reducible refine (H1.out _ hbd).mono ?_
              rintro e w6 ⟨rfl, hb6'⟩
              have hb6 := hbd.trans (hb6'.mono hbd.size)
              refine hK.out _ _ ⟨HX0.out _ hb6, HX1.out _ hb6⟩ (fun hHeld => ?_)
              clear hK K
              refine wpAnyH_take (i := 7) (v := ?_) rfl (by kernel_rfl) (by kernel_rfl) (by kernel_rfl) (fun _ _ _ h => h) (Or.inl ⟨by rfl, ?_⟩) hHeld ?_
              rotate_left
              · intro w hSw
                try dsimp only at hSw
                go_simp
                try with_reducible rfl
              change wpAnyH _ _ _ _ _ _ _ (Act.put _ (some 79) _) _
              simp only [Act.put, List.setIfInBounds_toArray, List.set_cons_zero, List.set_cons_succ]
              refine wpAnyH_take (i := 8) (v := ?_) rfl (by kernel_rfl) (by kernel_rfl) (by kernel_rfl) (fun _ _ _ h => h) (Or.inl ⟨by rfl, ?_⟩) hHeld ?_
              rotate_left
              · intro w hSw
                try dsimp only at hSw
                go_simp
                try with_reducible rfl
              change wpAnyH _ _ _ _ _ _ _ (Act.put _ (some 80) _) _
              simp only [Act.put, List.setIfInBounds_toArray, List.set_cons_zero, List.set_cons_succ]
              refine wpAnyH_take (i := 9) (v := ?_) rfl (by kernel_rfl) (by kernel_rfl) (by kernel_rfl) (fun _ _ _ h => h) (Or.inl ⟨by rfl, ?_⟩) hHeld ?_
              rotate_left
              · intro w hSw
                try dsimp only at hSw
                go_simp
                try with_reducible rfl
              change wpAnyH _ _ _ _ _ _ _ (Act.put _ (some 81) _) _
              simp only [Act.put, List.setIfInBounds_toArray, List.set_cons_zero, List.set_cons_succ]
              refine wpAnyH_take (i := 10) (v := ?_) rfl (by kernel_rfl) (by kernel_rfl) (by kernel_rfl) (fun _ _ _ h => h) (Or.inl ⟨by rfl, ?_⟩) hHeld ?_
              rotate_left
              · intro w hSw
                try dsimp only at hSw
                go_simp
                try with_reducible rfl
              change wpAnyH _ _ _ _ _ _ _ (Act.put _ (some 82) _) _
              simp only [Act.put, List.setIfInBounds_toArray, List.set_cons_zero, List.set_cons_succ]
              refine wpAnyH_take (i := 12) (v := ?_) rfl (by kernel_rfl) (by kernel_rfl) (by kernel_rfl) (fun _ _ _ h => h) (Or.inl ⟨by rfl, ?_⟩) hHeld ?_
              rotate_left
              · intro w hSw
                try dsimp only at hSw
                go_simp
                try with_reducible rfl
              change wpAnyH _ _ _ _ _ _ _ (Act.put _ (some 84) _) _
              simp only [Act.put, List.setIfInBounds_toArray, List.set_cons_zero, List.set_cons_succ]
              refine wpAnyH_take (i := 13) (v := ?_) rfl (by kernel_rfl) (by kernel_rfl) (by kernel_rfl) (fun _ _ _ h => h) (Or.inl ⟨by rfl, ?_⟩) hHeld ?_
              rotate_left
              · intro w hSw
                try dsimp only at hSw
                go_simp
                try with_reducible rfl
              change wpAnyH _ _ _ _ _ _ _ (Act.put _ (some 85) _) _
              simp only [Act.put, List.setIfInBounds_toArray, List.set_cons_zero, List.set_cons_succ]
              refine wpAnyH_take (i := 14) (v := ?_) rfl (by kernel_rfl) (by kernel_rfl) (by kernel_rfl) (fun _ _ _ h => h) (Or.inl ⟨by rfl, ?_⟩) hHeld ?_
              rotate_left
              · intro w hSw
                try dsimp only at hSw
                go_simp
                try with_reducible rfl
              change wpAnyH _ _ _ _ _ _ _ (Act.put _ (some 86) _) _
              simp only [Act.put, List.setIfInBounds_toArray, List.set_cons_zero, List.set_cons_succ]
              refine wpAnyH_take (i := 15) (v := ?_) rfl (by kernel_rfl) (by kernel_rfl) (by kernel_rfl) (fun _ _ _ h => h) (Or.inl ⟨by rfl, ?_⟩) hHeld ?_
              rotate_left
              · intro w hSw
                try dsimp only at hSw
                go_simp
                try with_reducible rfl
              change wpAnyH _ _ _ _ _ _ _ (Act.put _ (some 87) _) _
              simp only [Act.put, List.setIfInBounds_toArray, List.set_cons_zero, List.set_cons_succ]
              refine wpAnyH_ready (rs := [11]) (by kernel_rfl) (by simp) ?_
              refine AllReadyH.cons rfl (fun K hK => ?_) AllReadyH.nil
              go_simp
              with_reducible refine (H2.out _ hb6).mono ?_
              rintro e w7 ⟨rfl, hb7'⟩
              have hb7 := hb6.trans (hb7'.mono hb6.size)
              refine hK.out _ _ ⟨HX0.out _ hb7, HX1.out _ hb7⟩ (fun hHeld => ?_)
              clear hK K
              refine wpAnyH_take (i := 16) (v := ?_) rfl (by kernel_rfl) (by kernel_rfl) (by kernel_rfl) (fun _ _ _ h => h) (Or.inl ⟨by rfl, ?_⟩) hHeld ?_
              rotate_left
              · intro w hSw
                try dsimp only at hSw
                go_simp
                try with_reducible rfl
              change wpAnyH _ _ _ _ _ _ _ (Act.put _ (some 88) _) _
              simp only [Act.put, List.setIfInBounds_toArray, List.set_cons_zero, List.set_cons_succ]
              refine wpAnyH_take (i := 17) (v := ?_) rfl (by kernel_rfl) (by kernel_rfl) (by kernel_rfl) (fun _ _ _ h => h) (Or.inl ⟨by rfl, ?_⟩) hHeld ?_
              rotate_left
              · intro w hSw
                try dsimp only at hSw
                go_simp
                try with_reducible rfl
              change wpAnyH _ _ _ _ _ _ _ (Act.put _ (some 89) _) _
              simp only [Act.put, List.setIfInBounds_toArray, List.set_cons_zero, List.set_cons_succ]
              refine wpAnyH_take (i := 18) (v := ?_) rfl (by kernel_rfl) (by kernel_rfl) (by kernel_rfl) (fun _ _ _ h => h) (Or.inl ⟨by rfl, ?_⟩) hHeld ?_
              rotate_left
              · intro w hSw
                try dsimp only at hSw
                go_simp
                try with_reducible rfl
              change wpAnyH _ _ _ _ _ _ _ (Act.put _ (some 90) _) _
              simp only [Act.put, List.setIfInBounds_toArray, List.set_cons_zero, List.set_cons_succ]
              refine wpAnyH_take (i := 19) (v := ?_) rfl (by kernel_rfl) (by kernel_rfl) (by kernel_rfl) (fun _ _ _ h => h) (Or.inl ⟨by rfl, ?_⟩) hHeld ?_
              rotate_left
              · intro w hSw
                try dsimp only at hSw
                go_simp
                try with_reducible rfl
              change wpAnyH _ _ _ _ _ _ _ (Act.put _ (some 91) _) _
              simp only [Act.put, List.setIfInBounds_toArray, List.set_cons_zero, List.set_cons_succ]
              refine wpAnyH_take (i := 20) (v := ?_) rfl (by kernel_rfl) (by kernel_rfl) (by kernel_rfl) (fun _ _ _ h => h) (Or.inl ⟨by rfl, ?_⟩) hHeld ?_
              rotate_left
              · intro w hSw
                try dsimp only at hSw
                go_simp
                try with_reducible rfl
              change wpAnyH _ _ _ _ _ _ _ (Act.put _ (some 92) _) _
              simp only [Act.put, List.setIfInBounds_toArray, List.set_cons_zero, List.set_cons_succ]
              refine wpAnyH_take (i := 21) (v := ?_) rfl (by kernel_rfl) (by kernel_rfl) (by kernel_rfl) (fun _ _ _ h => h) (Or.inl ⟨by rfl, ?_⟩) hHeld ?_
              rotate_left
              · intro w hSw
                try dsimp only at hSw
                go_simp
                try with_reducible rfl
              change wpAnyH _ _ _ _ _ _ _ (Act.put _ (some 93) _) _
              simp only [Act.put, List.setIfInBounds_toArray, List.set_cons_zero, List.set_cons_succ]
              refine wpAnyH_take (i := 22) (v := ?_) rfl (by kernel_rfl) (by kernel_rfl) (by kernel_rfl) (fun _ _ _ h => h) (Or.inl ⟨by rfl, ?_⟩) hHeld ?_
              rotate_left
              · intro w hSw
                try dsimp only at hSw
                go_simp
                try with_reducible rfl
              change wpAnyH _ _ _ _ _ _ _ (Act.put _ (some 94) _) _
              simp only [Act.put, List.setIfInBounds_toArray, List.set_cons_zero, List.set_cons_succ]
              refine wpAnyH_take (i := 23) (v := ?_) rfl (by kernel_rfl) (by kernel_rfl) (by kernel_rfl) (fun _ _ _ h => h) (Or.inl ⟨by rfl, ?_⟩) hHeld ?_
              rotate_left
              · intro w hSw
                try dsimp only at hSw
                go_simp
                try with_reducible rfl
              change wpAnyH _ _ _ _ _ _ _ (Act.put _ (some 95) _) _
              simp only [Act.put, List.setIfInBounds_toArray, List.set_cons_zero, List.set_cons_succ]
              refine wpAnyH_take (i := 24) (v := ?_) rfl (by kernel_rfl) (by kernel_rfl) (by kernel_rfl) (fun _ _ _ h => h) (Or.inl ⟨by rfl, ?_⟩) hHeld ?_
              rotate_left
              · intro w hSw
                try dsimp only at hSw
                go_simp
                try with_reducible rfl
              change wpAnyH _ _ _ _ _ _ _ (Act.put _ (some 96) _) _
              simp only [Act.put, List.setIfInBounds_toArray, List.set_cons_zero, List.set_cons_succ]
              refine wpAnyH_take (i := 25) (v := undef) rfl (by kernel_rfl) (by kernel_rfl) (by kernel_rfl) (fun _ _ _ h => h) (Or.inr ⟨by rfl, rfl⟩) hHeld ?_
              change wpAnyH _ _ _ _ _ _ _ (Act.put _ (some 97) _) _
              simp only [Act.put, List.setIfInBounds_toArray, List.set_cons_zero, List.set_cons_succ]
              refine wpAnyH_take (i := 26) (v := undef) rfl (by kernel_rfl) (by kernel_rfl) (by kernel_rfl) (fun _ _ _ h => h) (Or.inr ⟨by rfl, rfl⟩) hHeld ?_
              change wpAnyH _ _ _ _ _ _ _ (Act.put _ (some 98) _) _
              simp only [Act.put, List.setIfInBounds_toArray, List.set_cons_zero, List.set_cons_succ]
              refine wpAnyH_take (i := 27) (v := undef) rfl (by kernel_rfl) (by kernel_rfl) (by kernel_rfl) (fun _ _ _ h => h) (Or.inr ⟨by rfl, rfl⟩) hHeld ?_
              change wpAnyH _ _ _ _ _ _ _ (Act.put _ (some 99) _) _
              simp only [Act.put, List.setIfInBounds_toArray, List.set_cons_zero, List.set_cons_succ]
              refine wpAnyH_take (i := 28) (v := undef) rfl (by kernel_rfl) (by kernel_rfl) (by kernel_rfl) (fun _ _ _ h => h) (Or.inr ⟨by rfl, rfl⟩) hHeld ?_
              change wpAnyH _ _ _ _ _ _ _ (Act.put _ (some 100) _) _
              simp only [Act.put, List.setIfInBounds_toArray, List.set_cons_zero, List.set_cons_succ]
              refine wpAnyH_take (i := 29) (v := undef) rfl (by kernel_rfl) (by kernel_rfl) (by kernel_rfl) (fun _ _ _ h => h) (Or.inr ⟨by rfl, rfl⟩) hHeld ?_
              change wpAnyH _ _ _ _ _ _ _ (Act.put _ (some 101) _) _
              simp only [Act.put, List.setIfInBounds_toArray, List.set_cons_zero, List.set_cons_succ]
              refine wpAnyH_take (i := 30) (v := undef) rfl (by kernel_rfl) (by kernel_rfl) (by kernel_rfl) (fun _ _ _ h => h) (Or.inr ⟨by rfl, rfl⟩) hHeld ?_
              change wpAnyH _ _ _ _ _ _ _ (Act.put _ (some 102) _) _
              simp only [Act.put, List.setIfInBounds_toArray, List.set_cons_zero, List.set_cons_succ]
              refine wpAnyH_take (i := 31) (v := undef) rfl (by kernel_rfl) (by kernel_rfl) (by kernel_rfl) (fun _ _ _ h => h) (Or.inr ⟨by rfl, rfl⟩) hHeld ?_
              change wpAnyH _ _ _ _ _ _ _ (Act.put _ (some 103) _) _
              simp only [Act.put, List.setIfInBounds_toArray, List.set_cons_zero, List.set_cons_succ]
              refine wpAnyH_take (i := 32) (v := undef) rfl (by kernel_rfl) (by kernel_rfl) (by kernel_rfl) (fun _ _ _ h => h) (Or.inr ⟨by rfl, rfl⟩) hHeld ?_
              change wpAnyH _ _ _ _ _ _ _ (Act.put _ (some 104) _) _
              simp only [Act.put, List.setIfInBounds_toArray, List.set_cons_zero, List.set_cons_succ]
              refine wpAnyH_take (i := 33) (v := ?_) rfl (by kernel_rfl) (by kernel_rfl) (by kernel_rfl) (fun _ _ _ h => h) (Or.inl ⟨by rfl, ?_⟩) hHeld ?_
              rotate_left
              · intro w hSw
                try dsimp only at hSw
                go_simp
                try with_reducible rfl
              change wpAnyH _ _ _ _ _ _ _ (Act.put _ (some 105) _) _
              simp only [Act.put, List.setIfInBounds_toArray, List.set_cons_zero, List.set_cons_succ]
              refine wpAnyH_take (i := 34) (v := ?_) rfl (by kernel_rfl) (by kernel_rfl) (by kernel_rfl) (fun _ _ _ h => h) (Or.inl ⟨by rfl, ?_⟩) hHeld ?_
              rotate_left
              · intro w hSw
                try dsimp only at hSw
                go_simp
                try with_reducible rfl
              change wpAnyH _ _ _ _ _ _ _ (Act.put _ (some 106) _) _
              simp only [Act.put, List.setIfInBounds_toArray, List.set_cons_zero, List.set_cons_succ]
              refine wpAnyH_done (by kernel_rfl) ?_ _
              have hZ := HTW.out.quiet hb7
              clear x0 x1 hbd hb6 hb6' hb7 hb7' H1 H2 H3 H4 HTW
              go_wp2
              go_roundw
              case rel => exact ⟨j + 1, _, _, _, _, by omega, by go_num, hZ⟩
              case measure => simp [intOf]; omega
          · obtain rfl : j = k := by omega
            have ji : ¬ (j : Int) < (j : Int) := by omega
            have HF2 := Lib.hid (first_any wr (HR.out _ hH.below))
            have hbw := hH.below
            clear hH
            go_wp2_with fail
            with_reducible refine (HF2.out).mono ?_
            rintro e w2 ⟨rfl, hb2⟩
            have hZ := hbw.trans (hb2.mono hbw.size)
            go_wp2_with fail
            go_ret
            exact ⟨rfl, hZ⟩
end unpackPlays
end Go.Proofs.YtlnppbnbjeakhaaDoor
