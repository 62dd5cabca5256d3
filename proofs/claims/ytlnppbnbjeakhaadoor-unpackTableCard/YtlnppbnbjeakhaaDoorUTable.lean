/- The walk of UnpackTable. -/
import Derived.Test.YtlnppbnbjeakhaaDoorUTabTwo
import Derived.Test.YtlnppbnbjeakhaaDoorUPlays
import Derived.Test.YtlnppbnbjeakhaaDoorURTot
namespace Go.Proofs.YtlnppbnbjeakhaaDoor
open Go.RowKit

namespace unpackTable
def SuR (w : World) (l : List Sl) (n i : Value) (wr : World) : Prop := ∃ k : Nat, k ≤ l.length ∧ k ≤ 50 ∧ i = .int .i64 (k : Int) ∧ n = .int .i64 ((sumL (l.take k) : Nat) : Int) ∧ Below w.heap.size w wr
def PtR (w : World) (n p t r q : Nat) (i : Value) (wr : World) : Prop := ∃ k N m L d, k ≤ n ∧ i = .int .i64 (k : Int) ∧ TwoP w p t r q N m m L L d d wr
set_option maxRecDepth 100000 in
set_option maxHeartbeats 8000000 in
theorem walk_any (A : Option Addr) (l : List Sl) (n c : Nat) (room : Int) (w : World) (hR : Rdy w) (hA : AtL w w.heap.size A l) (hl : l.length = n) (hr : Rng room) :
    Calls Tryd.prog 4 #[.slice A n c, .int .i64 room] w (Yes w) := by
  have HR := Lib.hid fun (w' : World) (hb : Below w.heap.size w w') => hR.below hb
  have HFI := Lib.hid (first_any w hR)
  have HA := Lib.hid hA
  have HL := Lib.hid hl
  have HRM := Lib.hid hr
  clear hR hA hl hr
  go_enter Tryd.func4, Tryd.ntmps4
  go_wp2_with fail
  with_reducible refine (HFI.out).mono ?_
  rintro e w1 ⟨rfl, hb1⟩
  have hr0 : SuR w l (.int .i64 0) (.int .i64 0) w1 := ⟨0, Nat.zero_le _, by omega, rfl, rfl, hb1⟩
  clear hb1 HFI
  go_wp2
  go_loopw [5, 6] (fun n i wr => SuR w l n i wr) (fun _ i _ => 50 - (intOf i).toNat)
  case atStart => exact hr0
  case round =>
    clear hr0
    obtain ⟨k, hk, hk2, rfl, rfl, hbw⟩ := hrel
    have hsb := sumL_le (l.take k)
    rw [List.length_take] at hsb
    obtain ⟨T, hT⟩ : ∃ T, T = sumL (l.take k) := ⟨_, rfl⟩
    rw [← hT] at hsb ⊢
    have HT := Lib.hid hT
    have hTb : T ≤ 1000050 := by omega
    clear hT hsb
    rw [HL.out] at hk
    by_cases hlt : k < n
    · by_cases h50 : k < 50
      · have ki : (k : Int) < (n : Int) := by omega
        have ki2 : (k : Int) < 50 := by omega
        have ki2d : decide ((k : Int) < 50) = true := decide_eq_true ki2
        have hkl : k < l.length := by have := HL.out; omega
        obtain ⟨b, o, rfl, hb, hc⟩ := HA.out (fun h => by rw [h] at hkl; simp at hkl)
        have cx := (hbw.cell (p := ⟨b, o + k, none⟩) hb).trans (hc k hkl).1
        obtain ⟨s, hs⟩ : ∃ s, s = l[k] := ⟨_, rfl⟩
        have HNX : Hid (sumL (l.take (k + 1)) = T + min s.bytes.length 20001) := Lib.hid (by rw [sumL_next l k hkl, ← HT.out, hs])
        rw [← hs] at cx
        obtain ⟨ad, bs, cp⟩ := s
        simp only [] at cx HNX
        obtain ⟨z, hz⟩ : ∃ z, z = min bs.length 20001 := ⟨_, rfl⟩
        rw [← hz] at HNX
        obtain ⟨x, hx⟩ : ∃ x, x = bs.length := ⟨_, rfl⟩
        rw [← hx] at cx hz
        have ez : (if 20001 < x then (20001 : Int) else (x : Int)) = (z : Int) := by split <;> omega
        have hzb : z ≤ 20001 := by omega
        clear hc hkl hs hz hx
        go_wp2
        go_roundw
        case rel => exact ⟨k + 1, by rw [HL.out]; omega, by omega, by go_num, by rw [HNX.out]; go_num, hbw⟩
        case measure => simp [intOf]; omega
      · obtain rfl : k = 50 := by omega
        have ki2 : ¬ (50 : Int) < 50 := by omega
        have n50 : (50 : Int) < (n : Int) := by omega
        have HF2 := Lib.hid (first_any wr (HR.out _ hbw))
        go_wp2_with fail
        with_reducible refine (HF2.out).mono ?_
        rintro e w2 ⟨rfl, hb2⟩
        have hZ := hbw.trans (hb2.mono hbw.size)
        go_wp2_with fail
        go_ret
        exact ⟨rfl, hZ⟩
    · obtain rfl : k = n := by omega
      have ki : ¬ (k : Int) < (k : Int) := by omega
      have n50 : ¬ (50 : Int) < (k : Int) := by omega
      by_cases hbig : 20000 < T
      · have hb2 : (20000 : Int) < (T : Int) := by omega
        have HF2 := Lib.hid (first_any wr (HR.out _ hbw))
        go_wp2_with fail
        with_reducible refine (HF2.out).mono ?_
        rintro e w2 ⟨rfl, hb2⟩
        have hZ := hbw.trans (hb2.mono hbw.size)
        go_wp2_with fail
        go_ret
        exact ⟨rfl, hZ⟩
      · have hb2 : ¬ (20000 : Int) < (T : Int) := by omega
        by_cases hrm : room < 0
        · have HF2 := Lib.hid (first_any wr (HR.out _ hbw))
          go_wp2_with fail
          with_reducible refine (HF2.out).mono ?_
          rintro e w2 ⟨rfl, hb2⟩
          have hZ := hbw.trans (hb2.mono hbw.size)
          go_wp2_with fail
          go_ret
          exact ⟨rfl, hZ⟩
        have HSM : Hid (∀ s ∈ l, s.bytes.length ≤ 20000) := Lib.hid (fun s hs => by
          have := sumL_mem hs
          have hTT := HT.out
          rw [List.take_of_length_le (by have := HL.out; omega)] at hTT
          omega)
        have HN := Lib.hid (HasU.new (HR.out _ hbw) hbw)
        clear hTb HT hbig
        go_wp2_with fail
        with_reducible refine (HN.out).mono ?_
        rintro e w2 ⟨p, t, rfl, hU, hb2'⟩
        have HN2 := Lib.hid (unew_f w2 (HR.out _ hU.below))
        have hb3 := hU.below
        clear HN
        go_wp2_with fail
        with_reducible refine (HN2.out).mono ?_
        rintro e w3 ⟨r, q, T2, rfl, hRD, hT2, hb4⟩
        have hr1 : PtR w k p t r q (.int .i64 0) w3 := by
          obtain ⟨S, h1, h2, _, h4⟩ := hU
          refine ⟨0, w3.heap.size, 4096, [], false, Nat.zero_le _, rfl, S, T2, h1.quiet hb4, hRD, h2, fun x hx => Nat.le_trans hb3.size (hT2 x hx), fun x hx ht => ?_, fun x hx => hRD.low x hx, h4.trans (hb4.mono h4.size)⟩
          have := h1.low x hx
          have := hT2 x ht
          omega
        clear HN2 hU hb2' hb3 hRD hT2 hb4 hbw
        go_wp2
        go_loopw [9, 10, 11, 12, 13, 14, 15] (fun i _ _ _ _ _ _ wr => PtR w k p t r q i wr) (fun i _ _ _ _ _ _ _ => k - (intOf i).toNat)
        case atStart => exact hr1
        case round =>
          clear hr1
          obtain ⟨j, N, m, L, d, hj, rfl, hH⟩ := hrel
          by_cases hlt2 : j < k
          · have ji : (j : Int) < (k : Int) := by omega
            have hjl : j < l.length := by have := HL.out; omega
            obtain ⟨b, o, rfl, hb, hc⟩ := HA.out (fun h => by rw [h] at hjl; simp at hjl)
            have HCX := Lib.hid fun (W : World) (hB : Below w.heap.size w W) => (hB.cell (p := ⟨b, o + j, none⟩) hb).trans (hc j hjl).1
            have hsok := (hc j hjl).2
            obtain ⟨s, hs⟩ : ∃ s, s = l[j] := ⟨_, rfl⟩
            have hsm := HSM.out s (by rw [hs]; exact List.getElem_mem _)
            rw [← hs] at HCX hsok
            obtain ⟨U0, hU0⟩ := hH.one
            have HD0 := Lib.hid (udead_f wr (HR.out _ hH.below) U0 p t m L d hU0)
            have HFT : Hid (d = false → tot L ≤ m ∧ m ≤ 4096) := Lib.hid (fun hd => by
              obtain ⟨_, m', L', _, h1, h2, h3⟩ := hH.tabA
              obtain ⟨rfl, rfl⟩ := h3 hd
              exact ⟨h1, h2⟩)
            have HH := Lib.hid hH
            have HSK := Lib.hid (show s.ok w w.heap.size ∧ s.bytes.length ≤ 20000 from ⟨hsok, hsm⟩)
            clear hc hjl hs hsok hsm hH hU0
            go_wp2_with fail
            with_reducible refine (HD0.out).mono ?_
            rintro e w3' ⟨rfl, hb3'⟩
            have hH := HH.out.quiet hb3'
            clear HH HD0 hb3'
            have HDA := hH.decA (HR.out _ hH.below) s HSK.out.1 (Nat.le_trans HSK.out.2 (by decide)) room HRM.out
            have HBB := Lib.hid fun (m' : Nat) (L' : List Fld) (d' : Bool) (W : World) (h : TwoP w p t r q w3'.heap.size m' m L' L d' d W) (l2 : List Fld) (A2 : Option Addr) (hA2 : AtF W W.heap.size A2 l2) (hn2 : ∀ b o s, A2 = some ⟨b, o, s⟩ → w3'.heap.size ≤ b) => h.decB (HR.out _ h.below) s HSK.out.1 (Nat.le_trans HSK.out.2 (by decide)) 2147483647 (by unfold Rng; omega) A2 l2 hA2 hn2
            obtain ⟨D, hD⟩ : ∃ D, D = udec s.bytes room d m L := ⟨_, rfl⟩
            obtain ⟨E, hE⟩ : ∃ E, E = udec s.bytes 2147483647 d m L := ⟨_, rfl⟩
            rw [← hD] at HDA
            rw [← hE] at HBB
            have HRM2 : Hid ((D.dead = E.dead ∧ D.most = E.most ∧ D.tab = E.tab) ∧ ((d = true ∧ D.err = 5 ∧ E.err = 5 ∧ D.out = [] ∧ E.out = [] ∧ D.dead = true) ∨ (d = false ∧ D.dead = true ∧ D.err = 2 ∧ E.err = 2 ∧ D.out = [] ∧ E.out = []) ∨ (d = false ∧ D.dead = false ∧ E.err = 0 ∧ tot E.out ≤ 1000000000 ∧ ((D.err = 3 ∧ D.out = [] ∧ room < (tot E.out : Int)) ∨ (D.err = 0 ∧ D.out = E.out ∧ (tot E.out : Int) ≤ room))))) := Lib.hid (by
              cases d with
              | true => rw [hD, hE, udec, udec]; simp
              | false =>
                obtain ⟨f1, f2⟩ := HFT.out rfl
                obtain ⟨e1, e2, e3, h⟩ := udec_room s.bytes room m L f1 f2 HSK.out.2
                rw [← hD, ← hE] at h e1 e2 e3
                refine ⟨⟨e1, e2, e3⟩, .inr ?_⟩
                rcases h with h | h
                · exact .inl ⟨rfl, h⟩
                · exact .inr ⟨rfl, h⟩)
            have HLN : Hid (E.out.length ≤ 20001) := Lib.hid (by
              have h1 := udec_len s.bytes 2147483647 d m L
              have h3 := HSK.out.2
              rw [← hE] at h1
              omega)
            have cx := HCX.out w3' hH.below
            obtain ⟨ad, bs, cp⟩ := s
            simp only [] at cx HDA HBB HCX
            obtain ⟨D1, D2, D3, D4, D5⟩ := D
            obtain ⟨E1, E2, E3, E4, E5⟩ := E
            simp only [] at HDA HBB HRM2 HLN
            replace HDA := Lib.hid HDA
            clear hD hE hH
            go_wp2_with fail
            with_reducible refine (HDA.out).mono ?_
            rintro e w4 ⟨A4, c4, rfl, hH4, hat4, hn4⟩
            have HDB := Lib.hid (HBB.out _ _ _ w4 hH4 D1 A4 hat4 hn4)
            clear cx HDA HBB
            have cx := HCX.out w4 hH4.below
            clear hH4 hat4 hn4
            go_wp2_with fail
            with_reducible refine (HDB.out).mono ?_
            rintro e w5 ⟨A5, c5, rfl, hH5, hat5, hat4⟩
            clear cx HDB
            obtain ⟨⟨q1, q2, q3⟩, hcase⟩ := HRM2.out
            subst q1 q2 q3
            have hln := HLN.out
            have hbw5 := hH5.below
            have hrd := fun (W : World) (hB : Below w5.heap.size w5 W) => HR.out W (hbw5.trans (hB.mono hbw5.size))
            obtain ⟨S5, hU5⟩ := hH5.one
            obtain ⟨S6, hU6⟩ := hH5.two
            obtain ⟨S7, m7, L7, hT7, f71, f72, f73⟩ := hH5.tabA
            obtain ⟨S8, m8, L8, hT8, f81, f82, f83⟩ := hH5.tabB
            have HTA := Lib.hid fun (W : World) (hB : Below w5.heap.size w5 W) => utab_f W (hrd W hB) S5 p t _ _ _ (hU5.quiet hB)
            have HTB := Lib.hid fun (W : World) (hB : Below w5.heap.size w5 W) => utab_f W (hrd W hB) S6 r q _ _ _ (hU6.quiet hB)
            have HDA2 := Lib.hid fun (W : World) (hB : Below w5.heap.size w5 W) => udead_f W (hrd W hB) S5 p t _ _ _ (hU5.quiet hB)
            have HDB2 := Lib.hid fun (W : World) (hB : Below w5.heap.size w5 W) => udead_f W (hrd W hB) S6 r q _ _ _ (hU6.quiet hB)
            have HKA := fun (W : World) (hB : Below w5.heap.size w5 W) => hT7.keep (S' := fun _ => False) (Keeps.of_below hB) (fun _ _ h => h)
            have HKB := fun (W : World) (hB : Below w5.heap.size w5 W) => hT8.keep (S' := fun _ => False) (Keeps.of_below hB) (fun _ _ h => h)
            obtain ⟨s7, hs7⟩ : ∃ x, x = tot L7 := ⟨_, rfl⟩
            obtain ⟨s8, hs8⟩ : ∃ x, x = tot L8 := ⟨_, rfl⟩
            obtain ⟨n7, hn7⟩ : ∃ x, x = L7.length := ⟨_, rfl⟩
            obtain ⟨n8, hn8⟩ : ∃ x, x = L8.length := ⟨_, rfl⟩
            have p7 := tot_pos L7
            have p8 := tot_pos L8
            have hsa := fun (W : World) (hB : Below w5.heap.size w5 W) => dsize_f W S7 t m7 L7 (hrd W hB) (HKA W hB)
            have hsb := fun (W : World) (hB : Below w5.heap.size w5 W) => dsize_f W S8 q m8 L8 (hrd W hB) (HKB W hB)
            have hla := fun (W : World) (hB : Below w5.heap.size w5 W) => dlen_f W S7 t m7 L7 (hrd W hB) (HKA W hB)
            have hlb := fun (W : World) (hB : Below w5.heap.size w5 W) => dlen_f W S8 q m8 L8 (hrd W hB) (HKB W hB)
            have HMA := Lib.hid fun (W : World) (hB : Below w5.heap.size w5 W) => dmost_f W S7 t m7 L7 (hrd W hB) (HKA W hB)
            have HEQ : Hid (D3 = false → s7 = s8 ∧ n7 = n8) := Lib.hid (fun hd => by
              obtain ⟨rfl, rfl⟩ := f73 hd
              obtain ⟨rfl, rfl⟩ := f83 hd
              omega)
            rw [← hs7] at hsa f71 p7
            rw [← hs8] at hsb f81 p8
            rw [← hn7] at hla p7
            rw [← hn8] at hlb p8
            have HSA := Lib.hid hsa
            have HSB := Lib.hid hsb
            have HLA := Lib.hid hla
            have HLB := Lib.hid hlb
            have c71 : ¬ (m7 : Int) < (s7 : Int) := by omega
            have c72 : ¬ (4096 : Int) < (m7 : Int) := by omega
            have s7b : s7 ≤ 4096 := by omega
            have s8b : s8 ≤ 4096 := by omega
            have n7b : n7 ≤ 4096 := by omega
            have n8b : n8 ≤ 4096 := by omega
            have HTW := Lib.hid hH5
            have hb5 := Below.refl w5.heap.size w5
            clear hsa hsb hla hlb f71 f72 f73 f81 f82 f83 hs7 hs8 hn7 hn8 p7 p8 HKA HKB hT7 hT8 hU5 hU6 hbw5 hH5 HRM2 HLN
            rcases hcase with ⟨rfl, rfl, rfl, rfl, rfl, rfl⟩ | ⟨rfl, rfl, rfl, rfl, rfl, rfl⟩ | ⟨rfl, rfl, rfl, hto, hcase⟩
            · have HEX := Lib.hid fun (W : World) (hB : Below w5.heap.size w5 W) => rexact_same A4 A5 [] 0 c4 c5 W (hat4.up hB) (hat5.up hB) rfl (by omega)
              have HTO : True := trivial
              clear hat4 hat5 hrd hln
              simp only [List.length_nil]
              go_wp2_with fail
              with_reducible refine (HTA.out _ hb5).mono ?_
              rintro e w6 ⟨rfl, hb6'⟩
              have hb6 := hb5.trans (hb6'.mono hb5.size)
              clear hb6' hb5
              go_wp2_with fail
              with_reducible refine (HTB.out _ hb6).mono ?_
              rintro e w7 ⟨rfl, hb7'⟩
              have hb7 := hb6.trans (hb7'.mono hb6.size)
              clear hb7' hb6
              go_wp2_with fail
              with_reducible refine (HDA2.out _ hb7).mono ?_
              rintro e w8 ⟨rfl, hb8'⟩
              have hb8 := hb7.trans (hb8'.mono hb7.size)
              clear hb8' hb7
              go_wp2_with fail
              with_reducible refine (HDB2.out _ hb8).mono ?_
              rintro e w9 ⟨rfl, hb9'⟩
              have hb9 := hb8.trans (hb9'.mono hb8.size)
              clear hb9' hb8
              go_wp2_with fail
              with_reducible refine (HDA2.out _ hb9).mono ?_
              rintro e w10 ⟨rfl, hb10'⟩
              have hb10 := hb9.trans (hb10'.mono hb9.size)
              clear hb10' hb9
              go_wp2_with fail
              with_reducible refine (HTA.out _ hb10).mono ?_
              rintro e w11 ⟨rfl, hb11'⟩
              have hb11 := hb10.trans (hb11'.mono hb10.size)
              clear hb11' hb10
              go_wp2_with fail
              with_reducible refine (HSA.out _ hb11).mono ?_
              rintro e w12 ⟨rfl, hb12'⟩
              have hb12 := hb11.trans (hb12'.mono hb11.size)
              clear hb12' hb11
              go_wp2_with fail
              with_reducible refine (HTA.out _ hb12).mono ?_
              rintro e w13 ⟨rfl, hb13'⟩
              have hb13 := hb12.trans (hb13'.mono hb12.size)
              clear hb13' hb12
              go_wp2_with fail
              with_reducible refine (HMA.out _ hb13).mono ?_
              rintro e w14 ⟨rfl, hb14'⟩
              have hb14 := hb13.trans (hb14'.mono hb13.size)
              clear hb14' hb13
              go_wp2_with fail
              with_reducible refine (HTA.out _ hb14).mono ?_
              rintro e w15 ⟨rfl, hb15'⟩
              have hb15 := hb14.trans (hb15'.mono hb14.size)
              clear hb15' hb14
              go_wp2_with fail
              with_reducible refine (HMA.out _ hb15).mono ?_
              rintro e w16 ⟨rfl, hb16'⟩
              have hb16 := hb15.trans (hb16'.mono hb15.size)
              clear hb16' hb15
              go_wp2_with fail
              with_reducible refine (HEX.out _ hb16).mono ?_
              rintro e w17 ⟨rfl, hb17'⟩
              have hb17 := hb16.trans (hb17'.mono hb16.size)
              clear hb17' hb16
              go_wp2_with fail
              with_reducible refine (HDA2.out _ hb17).mono ?_
              rintro e w18 ⟨rfl, hb18'⟩
              have hb18 := hb17.trans (hb18'.mono hb17.size)
              clear hb18' hb17
              have hZ := HTW.out.quiet hb18
              clear HTW HTA HTB HDA2 HDB2 HSA HSB HMA HLA HLB HEX HTO hb18
              go_wp2
              go_roundw
              case rel => exact ⟨j + 1, _, _, _, _, by omega, by go_num, hZ⟩
              case measure => simp [intOf]; omega
            · have HEX := Lib.hid fun (W : World) (hB : Below w5.heap.size w5 W) => rexact_same A4 A5 [] 0 c4 c5 W (hat4.up hB) (hat5.up hB) rfl (by omega)
              have HTO : True := trivial
              clear hat4 hat5 hrd hln
              simp only [List.length_nil]
              go_wp2_with fail
              with_reducible refine (HTA.out _ hb5).mono ?_
              rintro e w6 ⟨rfl, hb6'⟩
              have hb6 := hb5.trans (hb6'.mono hb5.size)
              clear hb6' hb5
              go_wp2_with fail
              with_reducible refine (HTB.out _ hb6).mono ?_
              rintro e w7 ⟨rfl, hb7'⟩
              have hb7 := hb6.trans (hb7'.mono hb6.size)
              clear hb7' hb6
              go_wp2_with fail
              with_reducible refine (HDA2.out _ hb7).mono ?_
              rintro e w8 ⟨rfl, hb8'⟩
              have hb8 := hb7.trans (hb8'.mono hb7.size)
              clear hb8' hb7
              go_wp2_with fail
              with_reducible refine (HDB2.out _ hb8).mono ?_
              rintro e w9 ⟨rfl, hb9'⟩
              have hb9 := hb8.trans (hb9'.mono hb8.size)
              clear hb9' hb8
              go_wp2_with fail
              with_reducible refine (HTA.out _ hb9).mono ?_
              rintro e w10 ⟨rfl, hb10'⟩
              have hb10 := hb9.trans (hb10'.mono hb9.size)
              clear hb10' hb9
              go_wp2_with fail
              with_reducible refine (HSA.out _ hb10).mono ?_
              rintro e w11 ⟨rfl, hb11'⟩
              have hb11 := hb10.trans (hb11'.mono hb10.size)
              clear hb11' hb10
              go_wp2_with fail
              with_reducible refine (HTA.out _ hb11).mono ?_
              rintro e w12 ⟨rfl, hb12'⟩
              have hb12 := hb11.trans (hb12'.mono hb11.size)
              clear hb12' hb11
              go_wp2_with fail
              with_reducible refine (HMA.out _ hb12).mono ?_
              rintro e w13 ⟨rfl, hb13'⟩
              have hb13 := hb12.trans (hb13'.mono hb12.size)
              clear hb13' hb12
              go_wp2_with fail
              with_reducible refine (HTA.out _ hb13).mono ?_
              rintro e w14 ⟨rfl, hb14'⟩
              have hb14 := hb13.trans (hb14'.mono hb13.size)
              clear hb14' hb13
              go_wp2_with fail
              with_reducible refine (HMA.out _ hb14).mono ?_
              rintro e w15 ⟨rfl, hb15'⟩
              have hb15 := hb14.trans (hb15'.mono hb14.size)
              clear hb15' hb14
              go_wp2_with fail
              with_reducible refine (HEX.out _ hb15).mono ?_
              rintro e w16 ⟨rfl, hb16'⟩
              have hb16 := hb15.trans (hb16'.mono hb15.size)
              clear hb16' hb15
              go_wp2_with fail
              with_reducible refine (HDA2.out _ hb16).mono ?_
              rintro e w17 ⟨rfl, hb17'⟩
              have hb17 := hb16.trans (hb17'.mono hb16.size)
              clear hb17' hb16
              have hZ := HTW.out.quiet hb17
              clear HTW HTA HTB HDA2 HDB2 HSA HSB HMA HLA HLB HEX HTO hb17
              go_wp2
              go_roundw
              case rel => exact ⟨j + 1, _, _, _, _, by omega, by go_num, hZ⟩
              case measure => simp [intOf]; omega
            · obtain ⟨rfl, rfl⟩ := HEQ.out rfl
              have t7 : ((s7 : Int) != (s7 : Int)) = false := by simp
              have t8 : ((n7 : Int) != (n7 : Int)) = false := by simp
              rcases hcase with ⟨rfl, rfl, hlong⟩ | ⟨rfl, rfl, hfit⟩
              · have HEX : True := trivial
                have HTO := Lib.hid fun (W : World) (hB : Below w5.heap.size w5 W) => rtotal_big A5 E1 E1.length c5 W (hat5.up hB) rfl hto
                obtain ⟨tq, hto2⟩ : ∃ x, x = tot E1 := ⟨_, rfl⟩
                rw [← hto2] at HTO hlong hto
                obtain ⟨ln, hln2⟩ : ∃ x, x = E1.length := ⟨_, rfl⟩
                rw [← hln2] at HTO hln ⊢
                have c9 : ¬ (tq : Int) ≤ room := by omega
                clear hat4 hat5 hrd hto2 hln2
                simp only [List.length_nil]
                go_wp2_with fail
                with_reducible refine (HTA.out _ hb5).mono ?_
                rintro e w6 ⟨rfl, hb6'⟩
                have hb6 := hb5.trans (hb6'.mono hb5.size)
                clear hb6' hb5
                go_wp2_with fail
                with_reducible refine (HTB.out _ hb6).mono ?_
                rintro e w7 ⟨rfl, hb7'⟩
                have hb7 := hb6.trans (hb7'.mono hb6.size)
                clear hb7' hb6
                go_wp2_with fail
                with_reducible refine (HDA2.out _ hb7).mono ?_
                rintro e w8 ⟨rfl, hb8'⟩
                have hb8 := hb7.trans (hb8'.mono hb7.size)
                clear hb8' hb7
                go_wp2_with fail
                with_reducible refine (HDB2.out _ hb8).mono ?_
                rintro e w9 ⟨rfl, hb9'⟩
                have hb9 := hb8.trans (hb9'.mono hb8.size)
                clear hb9' hb8
                go_wp2_with fail
                with_reducible refine (HTA.out _ hb9).mono ?_
                rintro e w10 ⟨rfl, hb10'⟩
                have hb10 := hb9.trans (hb10'.mono hb9.size)
                clear hb10' hb9
                go_wp2_with fail
                with_reducible refine (HSA.out _ hb10).mono ?_
                rintro e w11 ⟨rfl, hb11'⟩
                have hb11 := hb10.trans (hb11'.mono hb10.size)
                clear hb11' hb10
                go_wp2_with fail
                with_reducible refine (HTA.out _ hb11).mono ?_
                rintro e w12 ⟨rfl, hb12'⟩
                have hb12 := hb11.trans (hb12'.mono hb11.size)
                clear hb12' hb11
                go_wp2_with fail
                with_reducible refine (HMA.out _ hb12).mono ?_
                rintro e w13 ⟨rfl, hb13'⟩
                have hb13 := hb12.trans (hb13'.mono hb12.size)
                clear hb13' hb12
                go_wp2_with fail
                with_reducible refine (HTA.out _ hb13).mono ?_
                rintro e w14 ⟨rfl, hb14'⟩
                have hb14 := hb13.trans (hb14'.mono hb13.size)
                clear hb14' hb13
                go_wp2_with fail
                with_reducible refine (HMA.out _ hb14).mono ?_
                rintro e w15 ⟨rfl, hb15'⟩
                have hb15 := hb14.trans (hb15'.mono hb14.size)
                clear hb15' hb14
                go_wp2_with fail
                with_reducible refine (HTO.out _ hb15).mono ?_
                rintro e w16 ⟨rfl, hb16'⟩
                have hb16 := hb15.trans (hb16'.mono hb15.size)
                clear hb16' hb15
                go_wp2_with fail
                with_reducible refine (HDA2.out _ hb16).mono ?_
                rintro e w17 ⟨rfl, hb17'⟩
                have hb17 := hb16.trans (hb17'.mono hb16.size)
                clear hb17' hb16
                go_wp2_with fail
                with_reducible refine (HTA.out _ hb17).mono ?_
                rintro e w18 ⟨rfl, hb18'⟩
                have hb18 := hb17.trans (hb18'.mono hb17.size)
                clear hb18' hb17
                go_wp2_with fail
                with_reducible refine (HSA.out _ hb18).mono ?_
                rintro e w19 ⟨rfl, hb19'⟩
                have hb19 := hb18.trans (hb19'.mono hb18.size)
                clear hb19' hb18
                go_wp2_with fail
                with_reducible refine (HTB.out _ hb19).mono ?_
                rintro e w20 ⟨rfl, hb20'⟩
                have hb20 := hb19.trans (hb20'.mono hb19.size)
                clear hb20' hb19
                go_wp2_with fail
                with_reducible refine (HSB.out _ hb20).mono ?_
                rintro e w21 ⟨rfl, hb21'⟩
                have hb21 := hb20.trans (hb21'.mono hb20.size)
                clear hb21' hb20
                go_wp2_with fail
                with_reducible refine (HTA.out _ hb21).mono ?_
                rintro e w22 ⟨rfl, hb22'⟩
                have hb22 := hb21.trans (hb22'.mono hb21.size)
                clear hb22' hb21
                go_wp2_with fail
                with_reducible refine (HLA.out _ hb22).mono ?_
                rintro e w23 ⟨rfl, hb23'⟩
                have hb23 := hb22.trans (hb23'.mono hb22.size)
                clear hb23' hb22
                go_wp2_with fail
                with_reducible refine (HTB.out _ hb23).mono ?_
                rintro e w24 ⟨rfl, hb24'⟩
                have hb24 := hb23.trans (hb24'.mono hb23.size)
                clear hb24' hb23
                go_wp2_with fail
                with_reducible refine (HLB.out _ hb24).mono ?_
                rintro e w25 ⟨rfl, hb25'⟩
                have hb25 := hb24.trans (hb25'.mono hb24.size)
                clear hb25' hb24
                have hZ := HTW.out.quiet hb25
                clear HTW HTA HTB HDA2 HDB2 HSA HSB HMA HLA HLB HEX HTO hb25
                go_wp2
                go_roundw
                case rel => exact ⟨j + 1, _, _, _, _, by omega, by go_num, hZ⟩
                case measure => simp [intOf]; omega
              · have HEX := Lib.hid fun (W : World) (hB : Below w5.heap.size w5 W) => rexact_same A4 A5 D1 D1.length c4 c5 W (hat4.up hB) (hat5.up hB) rfl (by omega)
                have HTO := Lib.hid fun (W : World) (hB : Below w5.heap.size w5 W) => rtotal_big A4 D1 D1.length c4 W (hat4.up hB) rfl hto
                obtain ⟨tq, hto2⟩ : ∃ x, x = tot D1 := ⟨_, rfl⟩
                rw [← hto2] at HTO hfit hto
                obtain ⟨ln, hln2⟩ : ∃ x, x = D1.length := ⟨_, rfl⟩
                rw [← hln2] at HTO HEX hln ⊢
                have c9 : ¬ room < (tq : Int) := by omega
                clear hat4 hat5 hrd hto2 hln2
                go_wp2_with fail
                with_reducible refine (HTA.out _ hb5).mono ?_
                rintro e w6 ⟨rfl, hb6'⟩
                have hb6 := hb5.trans (hb6'.mono hb5.size)
                clear hb6' hb5
                go_wp2_with fail
                with_reducible refine (HTB.out _ hb6).mono ?_
                rintro e w7 ⟨rfl, hb7'⟩
                have hb7 := hb6.trans (hb7'.mono hb6.size)
                clear hb7' hb6
                go_wp2_with fail
                with_reducible refine (HDA2.out _ hb7).mono ?_
                rintro e w8 ⟨rfl, hb8'⟩
                have hb8 := hb7.trans (hb8'.mono hb7.size)
                clear hb8' hb7
                go_wp2_with fail
                with_reducible refine (HDB2.out _ hb8).mono ?_
                rintro e w9 ⟨rfl, hb9'⟩
                have hb9 := hb8.trans (hb9'.mono hb8.size)
                clear hb9' hb8
                go_wp2_with fail
                with_reducible refine (HTA.out _ hb9).mono ?_
                rintro e w10 ⟨rfl, hb10'⟩
                have hb10 := hb9.trans (hb10'.mono hb9.size)
                clear hb10' hb9
                go_wp2_with fail
                with_reducible refine (HSA.out _ hb10).mono ?_
                rintro e w11 ⟨rfl, hb11'⟩
                have hb11 := hb10.trans (hb11'.mono hb10.size)
                clear hb11' hb10
                go_wp2_with fail
                with_reducible refine (HTA.out _ hb11).mono ?_
                rintro e w12 ⟨rfl, hb12'⟩
                have hb12 := hb11.trans (hb12'.mono hb11.size)
                clear hb12' hb11
                go_wp2_with fail
                with_reducible refine (HMA.out _ hb12).mono ?_
                rintro e w13 ⟨rfl, hb13'⟩
                have hb13 := hb12.trans (hb13'.mono hb12.size)
                clear hb13' hb12
                go_wp2_with fail
                with_reducible refine (HTA.out _ hb13).mono ?_
                rintro e w14 ⟨rfl, hb14'⟩
                have hb14 := hb13.trans (hb14'.mono hb13.size)
                clear hb14' hb13
                go_wp2_with fail
                with_reducible refine (HMA.out _ hb14).mono ?_
                rintro e w15 ⟨rfl, hb15'⟩
                have hb15 := hb14.trans (hb15'.mono hb14.size)
                clear hb15' hb14
                go_wp2_with fail
                with_reducible refine (HEX.out _ hb15).mono ?_
                rintro e w16 ⟨rfl, hb16'⟩
                have hb16 := hb15.trans (hb16'.mono hb15.size)
                clear hb16' hb15
                go_wp2_with fail
                with_reducible refine (HTO.out _ hb16).mono ?_
                rintro e w17 ⟨rfl, hb17'⟩
                have hb17 := hb16.trans (hb17'.mono hb16.size)
                clear hb17' hb16
                go_wp2_with fail
                with_reducible refine (HDA2.out _ hb17).mono ?_
                rintro e w18 ⟨rfl, hb18'⟩
                have hb18 := hb17.trans (hb18'.mono hb17.size)
                clear hb18' hb17
                go_wp2_with fail
                with_reducible refine (HTA.out _ hb18).mono ?_
                rintro e w19 ⟨rfl, hb19'⟩
                have hb19 := hb18.trans (hb19'.mono hb18.size)
                clear hb19' hb18
                go_wp2_with fail
                with_reducible refine (HSA.out _ hb19).mono ?_
                rintro e w20 ⟨rfl, hb20'⟩
                have hb20 := hb19.trans (hb20'.mono hb19.size)
                clear hb20' hb19
                go_wp2_with fail
                with_reducible refine (HTB.out _ hb20).mono ?_
                rintro e w21 ⟨rfl, hb21'⟩
                have hb21 := hb20.trans (hb21'.mono hb20.size)
                clear hb21' hb20
                go_wp2_with fail
                with_reducible refine (HSB.out _ hb21).mono ?_
                rintro e w22 ⟨rfl, hb22'⟩
                have hb22 := hb21.trans (hb22'.mono hb21.size)
                clear hb22' hb21
                go_wp2_with fail
                with_reducible refine (HTA.out _ hb22).mono ?_
                rintro e w23 ⟨rfl, hb23'⟩
                have hb23 := hb22.trans (hb23'.mono hb22.size)
                clear hb23' hb22
                go_wp2_with fail
                with_reducible refine (HLA.out _ hb23).mono ?_
                rintro e w24 ⟨rfl, hb24'⟩
                have hb24 := hb23.trans (hb24'.mono hb23.size)
                clear hb24' hb23
                go_wp2_with fail
                with_reducible refine (HTB.out _ hb24).mono ?_
                rintro e w25 ⟨rfl, hb25'⟩
                have hb25 := hb24.trans (hb25'.mono hb24.size)
                clear hb25' hb24
                go_wp2_with fail
                with_reducible refine (HLB.out _ hb25).mono ?_
                rintro e w26 ⟨rfl, hb26'⟩
                have hb26 := hb25.trans (hb26'.mono hb25.size)
                clear hb26' hb25
                have hZ := HTW.out.quiet hb26
                clear HTW HTA HTB HDA2 HDB2 HSA HSB HMA HLA HLB HEX HTO hb26
                go_wp2
                go_roundw
                case rel => exact ⟨j + 1, _, _, _, _, by omega, by go_num, hZ⟩
                case measure => simp [intOf]; omega
          · obtain rfl : j = k := by omega
            have ji : ¬ (j : Int) < (j : Int) := by omega
            have HF2 := Lib.hid (first_any wr (HR.out _ hH.below))
            have hbw := hH.below
            clear hH
            go_wp2_with fail
            with_reducible refine (HF2.out).mono ?_
            rintro e w2 ⟨rfl, hb2⟩
            have hZ := hbw.trans (hb2.mono hbw.size)
            go_wp2_with fail
            go_ret
            exact ⟨rfl, hZ⟩
end unpackTable
end Go.Proofs.YtlnppbnbjeakhaaDoor
