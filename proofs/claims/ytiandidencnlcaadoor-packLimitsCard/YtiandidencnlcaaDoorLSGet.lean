/- The landed text: a string, and the rest behind it. -/
import Derived.Test.YtiandidencnlcaaDoorHDecode
import Derived.Test.YtiandidencnlcaaDoorHJump
import Derived.Test.YtiandidencnlcaaDoorSFind
import Derived.Test.YtiandidencnlcaaDoorDGetL
import Derived.Test.YtiandidencnlcaaDoorPGetD
namespace Go.Proofs.YtiandidencnlcaaDoor
open Go.RowKit

theorem At.pre {w : World} {B q : Nat} {A : Option Addr} {l : List Nat} (h : At .u8 w B A l) : At .u8 w B A (l.take q) := fun hne => by
  obtain ⟨b, o, rfl, hB, hc⟩ := h (by rintro rfl; simp at hne)
  refine ⟨b, o, rfl, hB, fun i hi => ?_⟩
  have hi' : i < l.length := by simp at hi; omega
  rw [List.getElem_take]
  exact hc i hi'
/-- What text hands back of the block b from k on, which lies at A, n bytes. -/
def TrPost (w : World) (A : Option Addr) (n c k : Nat) (T : List Nat × Nat × Bool) (e : Ending) (w' : World) : Prop :=
  ∃ s A' n' c', e = .returned (.tuple #[.string s, .slice A' n' c', .bool T.2.2]) ∧ (T.2.2 = true → s = str T.1 ∧ n' = n - (T.2.1 - k) ∧ Cut A c A' c' (T.2.1 - k) n) ∧ Below w.heap.size w w'
set_option maxRecDepth 100000 in
set_option maxHeartbeats 8000000 in
theorem utext_f (A : Option Addr) (b : List Nat) (n c k : Nat) (w : World) (hR : Rdy w) (hA : At .u8 w w.heap.size A (b.drop k)) (hb : ∀ x ∈ b, x < 256) (hl : b.length - k = n) (hA0 : A = none → c = 0) (hnc : n ≤ c) (hn : n ≤ 100000) :
    Calls Tryd.prog 72 #[.slice A n c] w (TrPost w A n c k (utext b k)) := by
  obtain ⟨G, hG⟩ : ∃ G, G = Pn.getI (b.drop k) 7 := ⟨_, rfl⟩
  have hld : (b.drop k).length = n := by rw [List.length_drop]; exact hl
  have hbd : ∀ x ∈ b.drop k, x < 256 := fun x hx => hb x (List.mem_of_mem_drop hx)
  have HN := unum_f A (b.drop k) n c 7 w hR hA hbd hld hA0 hnc hn (by omega) (by omega)
  rw [show ((7 : Nat) : Int) = 7 from rfl, ← hG] at HN
  have HT : Hid (k < b.length → utext b k = utextG b k G.1 G.2.1 G.2.2) := Lib.hid (fun h => by rw [utext, if_neg (by omega), hG])
  have HT0 : Hid (b.length ≤ k → utext b k = ([], 0, false)) := Lib.hid (fun h => by rw [utext, if_pos h])
  have HG0 : Hid (b.length ≤ k → G.2.2 ≠ 0) := Lib.hid (fun h => by
    rw [hG, List.drop_of_length_le h]
    decide)
  obtain ⟨m, u, e⟩ := G
  simp only [] at HT HG0
  have HU : Hid (e = 0 → 1 ≤ u ∧ u ≤ n ∧ m ≤ 2147483647) := Lib.hid (fun he => by
    subst he
    have := get_used (b.drop k) 7 m u (by omega) (by omega) hG.symm
    omega)
  replace HN := Lib.hid HN
  have HA := Lib.hid hA
  have HB := Lib.hid hb
  have HL := Lib.hid hl
  have HR := Lib.hid hR
  have HA0 := Lib.hid hA0
  have HNO : Hid (∀ (w' : World) (s : ByteArray) (A' : Option Addr) (n' c' : Nat), (utext b k).2.2 = false → Below w.heap.size w w' → TrPost w A n c k (utext b k) (.returned (.tuple #[.string s, .slice A' n' c', .bool false])) w') := Lib.hid (fun w' s A' n' c' h hB => ⟨s, A', n', c', by rw [h], fun h2 => (Bool.noConfusion (h.symm.trans h2)), hB⟩)
  clear hA hb hl hG hld hbd hR hA0
  by_cases he : e = 0
  · obtain ⟨hu1, hu2, hm⟩ := HU.out he
    subst he
    have hkb : k < b.length := by
      rcases Nat.lt_or_ge k b.length with h | h
      · exact h
      · exact absurd rfl (HG0.out h)
    have HT1 := Lib.hid (HT.out hkb)
    have HKB := Lib.hid hkb
    clear HT HT0 HG0 hkb
    obtain ⟨v, hv⟩ : ∃ v, v = n - u := ⟨_, rfl⟩
    replace HN : Hid (Calls Tryd.prog 59 #[.slice A n c, .int .i64 7] w (fun e1 w' => ∃ A' c', e1 = .returned (.tuple #[.int .i64 (m : Int), .slice A' v c', .bool true]) ∧ Cut A c A' c' u n ∧ Below w.heap.size w w')) := by rw [hv]; exact HN
    have HV := Lib.hid hv
    clear hv
    by_cases hbig : 16384 < m
    · have HF : Hid ((utext b k).2.2 = false) := Lib.hid (by rw [HT1.out, utextG, if_pos (.inr (.inl hbig))])
      have q1 : (16384 : Int) < (m : Int) := by omega
      have q2 : decide ((16384 : Int) < (m : Int)) = true := decide_eq_true q1
      go_enter Tryd.func72, Tryd.ntmps72
      go_wp2_with fail
      with_reducible refine (HN.out).mono ?_
      rintro e w1 ⟨A1, c1, rfl, hC, hb1⟩
      simp only []
      clear hC
      go_wp2
      go_ret3
      exact HNO.out _ _ _ _ _ HF.out hb1
    · have p1 : ¬ (16384 : Int) < (m : Int) := by omega
      have p2 : decide ((16384 : Int) < (m : Int)) = false := decide_eq_false p1
      by_cases hlong : v < m
      · have HF : Hid ((utext b k).2.2 = false) := Lib.hid (by rw [HT1.out, utextG, if_pos (.inr (.inr (by have := HV.out; have := HL.out; omega)))])
        have q1 : (v : Int) < (m : Int) := by omega
        have q2 : decide ((v : Int) < (m : Int)) = true := decide_eq_true q1
        go_enter Tryd.func72, Tryd.ntmps72
        go_wp2_with fail
        with_reducible refine (HN.out).mono ?_
        rintro e w1 ⟨A1, c1, rfl, hC, hb1⟩
        simp only []
        clear hC
        go_wp2
        go_ret3
        exact HNO.out _ _ _ _ _ HF.out hb1
      · have q1 : ¬ (v : Int) < (m : Int) := by omega
        have q2 : decide ((v : Int) < (m : Int)) = false := decide_eq_false q1
        obtain ⟨raw, hraw⟩ : ∃ raw, raw = (b.drop (k + u)).take m := ⟨_, rfl⟩
        have hrl : raw.length = m := by rw [hraw, List.length_take, List.length_drop]; have := HV.out; have := HL.out; omega
        obtain ⟨t, ht⟩ : ∃ t, t = k + u + m := ⟨_, rfl⟩
        have htn : t - k = u + m := by omega
        have HRB : Hid (∀ x ∈ raw, x < 256) := Lib.hid (fun x hx => HB.out x (by rw [hraw] at hx; exact List.mem_of_mem_drop (List.mem_of_mem_take hx)))
        obtain ⟨bk, o, rfl, hbk, hc⟩ := HA.out.pos (by rw [List.length_drop]; have := HKB.out; omega)
        obtain ⟨y, hy⟩ : ∃ y, y = b.getD k 0 := ⟨_, rfl⟩
        have hkl : 0 < (b.drop k).length := by rw [List.length_drop]; have := HKB.out; omega
        have hy1 : (b.drop k)[0] = y := by rw [hy, List.getElem_drop, List.getD, List.getElem?_eq_getElem (by have := HKB.out; omega)]; rfl
        have hy2 : y < 256 := by rw [← hy1]; exact HB.out _ (List.mem_of_mem_drop (List.getElem_mem _))
        have HCY := Lib.hid fun (W : World) (hB : Below w.heap.size w W) => (show W.cell? ⟨bk, o, none⟩ = some (.int .u8 (y : Int)) by
          have := (hB.cell (p := ⟨bk, o + 0, none⟩) hbk).trans (hc 0 hkl)
          rw [hy1] at this
          exact this)
        have HT2 : Hid (utext b k = if y < 128 then (raw, t, true) else ((Hf.dec raw 16384).1, t, decide ((Hf.dec raw 16384).2 = 0))) := Lib.hid (by
          rw [HT1.out, utextG, if_neg (by have := HV.out; have := HL.out; omega), ← hraw, ← ht, ← hy])
        have HTN := Lib.hid htn
        have HRL := Lib.hid hrl
        have HRAW := Lib.hid hraw
        have HNN : Hid (n - (u + m) = v - m) := Lib.hid (by have := HV.out; omega)
        have n0 : (0 : Int) < (n : Int) := by omega
        have hmv : m ≤ v := by omega
        have hvm : (v : Int) - (m : Int) = ((v - m : Nat) : Int) := by omega
        clear ht hraw hrl hc hkl hy hy1 HT1 HU htn
        have HPRE : Hid (∀ (A1 : Option Addr) (c1 : Nat), Cut (some ⟨bk, o, none⟩) c A1 c1 u n → (m ≤ c1) ∧ (∀ W : World, Below w.heap.size w W → At .u8 W W.heap.size A1 raw) ∧ Cut (some ⟨bk, o, none⟩) c (cutAt A1 c1 m) (c1 - m) (u + m) n ∧ (A1 = none → c1 = 0)) := Lib.hid (fun A1 c1 hC => by
          have h1 := hC.cap
          have hmc : m ≤ c1 := by have := HV.out; omega
          refine ⟨hmc, fun W hB => ?_, hC.trans (Cut.one A1 (by omega)), fun h => ?_⟩
          · have := (hC.at' W (b.drop k) (by rw [List.length_drop]; exact HL.out) (HA.out.up hB)).pre (q := m)
            rw [List.drop_drop, ← HRAW.out] at this
            exact this
          · exact hC.nil HA0.out h)
        by_cases hy128 : y < 128
        · have dy : (y : Int) < 128 := by omega
          have dy2 : decide ((y : Int) < 128) = true := decide_eq_true dy
          have HFIN : Hid (∀ (w' : World) (A1 : Option Addr) (c1 : Nat), Cut (some ⟨bk, o, none⟩) c A1 c1 u n → Below w.heap.size w w' → TrPost w (some ⟨bk, o, none⟩) n c k (utext b k) (.returned (.tuple #[.string (str raw), .slice (cutAt A1 c1 m) (v - m) (c1 - m), .bool true])) w') := Lib.hid (fun w' A1 c1 hC hB => by
            rw [HT2.out, if_pos hy128]
            refine ⟨_, _, _, _, rfl, fun _ => ⟨rfl, ?_, ?_⟩, hB⟩
            · simp only []
              rw [HTN.out, HNN.out]
            · simp only []
              rw [HTN.out]
              exact ((HPRE.out A1 c1 hC).2.2.1))
          clear hbk hy128
          go_enter Tryd.func72, Tryd.ntmps72
          go_wp2_with fail
          with_reducible refine (HN.out).mono ?_
          rintro e w1 ⟨A1, c1, rfl, hC, hb1⟩
          simp only []
          obtain ⟨hmc, hra, _, _⟩ := HPRE.out A1 c1 hC
          have s2 : (if c1 = m then A1 else Option.map (fun x => x.add m) A1) = cutAt A1 c1 m := rfl
          have hbd := hb1.drew
          have hfin := Lib.hid (HFIN.out w1.drew A1 c1 hC hbd)
          have cy := HCY.out w1.drew hbd
          have hcv := run_str w1.drew _ _ raw c1 (hra w1.drew hbd)
          rw [HRL.out] at hcv
          clear hC hra HN
          go_wp2
          go_region
          go_wp2
          go_ret3
          exact hfin.out
        · have dy : ¬ (y : Int) < 128 := by omega
          have dy2 : decide ((y : Int) < 128) = false := decide_eq_false dy
          obtain ⟨Q, hQ⟩ : ∃ Q, Q = Hf.dec raw 16384 := ⟨_, rfl⟩
          rw [← hQ] at HT2
          obtain ⟨out, er⟩ := Q
          have HDC : Hid (∀ (W : World) (A3 : Option Addr) (c3 : Nat), Below w.heap.size w W → At .u8 W W.heap.size A3 raw → (A3 = none → c3 = 0) → m ≤ c3 → Calls Tryd.prog 81 #[.slice A3 m c3, .int .i64 16384] W (DecPost W (out, er))) := Lib.hid (fun W A3 c3 hB hat hA3 hc3 => by
            rw [hQ]
            exact dec_f A3 raw m c3 16384 W (HR.out.below hB) hat HRB.out HRL.out hA3 hc3 (by omega))
          obtain ⟨z, hz⟩ : ∃ z, z = decide (er = 0) := ⟨_, rfl⟩
          have qe : ((er : Int) == 0) = z := by
            rw [hz]
            by_cases h : er = 0
            · subst h; rfl
            · rw [decide_eq_false h]; simp; omega
          have HFIN : Hid (∀ (w' : World) (A1 : Option Addr) (c1 : Nat), Cut (some ⟨bk, o, none⟩) c A1 c1 u n → Below w.heap.size w w' → TrPost w (some ⟨bk, o, none⟩) n c k (utext b k) (.returned (.tuple #[.string (str out), .slice (cutAt A1 c1 m) (v - m) (c1 - m), .bool z])) w') := Lib.hid (fun w' A1 c1 hC hB => by
            rw [HT2.out, if_neg hy128, hz]
            refine ⟨_, _, _, _, rfl, fun _ => ⟨rfl, ?_, ?_⟩, hB⟩
            · simp only []
              rw [HTN.out, HNN.out]
            · simp only []
              rw [HTN.out]
              exact ((HPRE.out A1 c1 hC).2.2.1))
          clear hbk hy128 hQ hz
          go_enter Tryd.func72, Tryd.ntmps72
          go_wp2_with fail
          with_reducible refine (HN.out).mono ?_
          rintro e w1 ⟨A1, c1, rfl, hC, hb1⟩
          simp only []
          obtain ⟨hmc, hra, _, hz0⟩ := HPRE.out A1 c1 hC
          have s2 : (if c1 = m then A1 else Option.map (fun x => x.add m) A1) = cutAt A1 c1 m := rfl
          have hbd := hb1.drew
          have cy := HCY.out w1.drew hbd
          have hdc := Lib.hid (HDC.out w1.drew A1 c1 hbd (hra w1.drew hbd) hz0 hmc)
          have hfin := Lib.hid (fun (w' : World) (hB : Below w1.drew.heap.size w1.drew w') => HFIN.out w' A1 c1 hC (hbd.trans (hB.mono hbd.size)))
          clear hC hra HN hz0
          go_wp2
          go_region
          go_wp2_with fail
          with_reducible refine (hdc.out).mono ?_
          rintro e w2 ⟨A4, c4, rfl, hat4, _, hb2⟩
          simp only [] at hat4 ⊢
          have hcv := run_str w2 _ A4 out c4 hat4
          have hfin2 := Lib.hid (hfin.out w2 hb2)
          clear hat4 hb2 cy
          go_wp2
          go_ret3
          exact hfin2.out
  · have qz : decide (e = 0) = false := decide_eq_false he
    have HF : Hid ((utext b k).2.2 = false) := Lib.hid (by
      rcases Nat.lt_or_ge k b.length with h | h
      · rw [HT.out h, utextG, if_pos (.inl he)]
      · rw [HT0.out h])
    replace HN : Hid (Calls Tryd.prog 59 #[.slice A n c, .int .i64 7] w (fun e1 w' => ∃ A' c', e1 = .returned (.tuple #[.int .i64 (m : Int), .slice A' (n - u) c', .bool false]) ∧ Cut A c A' c' u n ∧ Below w.heap.size w w')) := by rw [← qz]; exact HN
    clear HT HT0 HG0 HU he qz
    go_enter Tryd.func72, Tryd.ntmps72
    go_wp2_with fail
    with_reducible refine (HN.out).mono ?_
    rintro e w1 ⟨A1, c1, rfl, hC, hb1⟩
    simp only []
    clear hC
    go_wp2
    go_ret3
    exact HNO.out _ _ _ _ _ HF.out hb1
end Go.Proofs.YtiandidencnlcaaDoor
/- The landed Get. -/
namespace Go.Proofs.YtiandidencnlcaaDoor
open Go.RowKit St
set_option maxRecDepth 100000 in
set_option maxHeartbeats 4000000 in
theorem get_s (i : Int) (w : World) (hi : -9223372036854775808 ≤ i ∧ i ≤ 9223372036854775807) : Calls Tryd.prog 74 #[.int .i64 i] w (StPost w (stg i)) := by
  have hb0 : Below w.heap.size w (w.alloc (.cells #[.string ⟨#[]⟩, .string ⟨#[]⟩, .bool false] 52)) := (Below.refl _ _).alloc (Nat.le_refl _) _
  obtain ⟨g0, hg0⟩ : ∃ g, g = w.heap.size := ⟨_, rfl⟩
  have hlt0 : g0 < (w.alloc (.cells #[.string ⟨#[]⟩, .string ⟨#[]⟩, .bool false] 52)).heap.size := by rw [hg0]; simp
  by_cases h12 : i < 1 ∨ 61 < i
  · have HS : Hid (stg i = (⟨⟨#[]⟩, ⟨#[]⟩, false⟩, false)) := Lib.hid (by rw [stg, if_neg (by omega)])
    have HB := Lib.hid hb0
    clear hb0 hlt0 hg0
    rcases h12 with h1 | h2
    · go_enter Tryd.func74, Tryd.ntmps74
      go_wp2
      refine bodyPost_ret (v := .tuple #[.agg #[.string ⟨#[]⟩, .string ⟨#[]⟩, .bool false], .bool false]) (by simp [results, Tryd.results74, go_sem]) rfl ⟨?_, HB.out⟩
      rw [HS.out]
    · have h1 : ¬ i < 1 := by omega
      go_enter Tryd.func74, Tryd.ntmps74
      go_wp2
      refine bodyPost_ret (v := .tuple #[.agg #[.string ⟨#[]⟩, .string ⟨#[]⟩, .bool false], .bool false]) (by simp [results, Tryd.results74, go_sem]) rfl ⟨?_, HB.out⟩
      rw [HS.out]
  · obtain ⟨j, rfl⟩ : ∃ v : Nat, i = (v : Int) := ⟨i.toNat, by omega⟩
    have j1 : ¬ (j : Int) < 1 := by omega
    have j2 : ¬ (61 : Int) < (j : Int) := by omega
    obtain ⟨I, hI⟩ : ∃ I, I = j - 1 := ⟨_, rfl⟩
    have e1 : (j : Int) - 1 = (I : Int) := by omega
    have HS : Hid (stg (j : Int) = (⟨nm I, vl I, false⟩, true)) := Lib.hid (by rw [stg, if_pos (by omega), Int.toNat_natCast, ← hI])
    have hI61 : I < 61 := by omega
    have HI := Lib.hid hI
    clear hI h12
    go_enter Tryd.func74, Tryd.ntmps74
    go_wp2_with fail
    with_reducible refine (table_any _).mono ?_
    rintro e w2 ⟨T, rfl, hT, hb2⟩
    have hix := tab_index I hI61 w2
    rw [← hT] at hix
    obtain ⟨X, hX⟩ : ∃ X, X = nm I := ⟨_, rfl⟩
    obtain ⟨Y, hY⟩ : ∃ Y, Y = vl I := ⟨_, rfl⟩
    rw [← hX, ← hY] at hix HS
    have hh : w2.heap[g0]? = some (.cells #[.string ⟨#[]⟩, .string ⟨#[]⟩, .bool false] 52) := by
      rw [hb2.block g0 hlt0, hg0]
      exact heap_alloc_new w _
    have q0 : w2.cell? ⟨g0, 0, none⟩ = some (.string ⟨#[]⟩) := cell_of_row _ g0 0 _ 52 _ hh
    have q1 : w2.cell? ⟨g0, 1, none⟩ = some (.string ⟨#[]⟩) := cell_of_row _ g0 1 _ 52 _ hh
    have q2 : w2.cell? ⟨g0, 2, none⟩ = some (.bool false) := cell_of_row _ g0 2 _ 52 _ hh
    have f0 : w2.frozen? ⟨g0, 0, none⟩ = false := frozen_of_row w2 g0 0 _ 52 hh
    have f1 : w2.frozen? ⟨g0, 1, none⟩ = false := frozen_of_row w2 g0 1 _ 52 hh
    have f2 : w2.frozen? ⟨g0, 2, none⟩ = false := frozen_of_row w2 g0 2 _ 52 hh
    have hb3 := hb0.trans (hb2.mono hb0.size)
    have hgB : w.heap.size ≤ g0 := by omega
    have hg2 : g0 < w2.heap.size := by have := hb2.size; omega
    rw [← hg0]
    have HG0 := Lib.hid hg0
    have hs2 := ((hb3.setCell (p := ⟨g0, 0, none⟩) hgB (.string X)).setCell (p := ⟨g0, 1, none⟩) hgB (.string Y)).setCell (p := ⟨g0, 2, none⟩) hgB (.bool false)
    clear hh hb2 hb0 hlt0 hg0 hT hX hY hb3
    go_wp2
    refine bodyPost_ret (v := .tuple #[.agg #[.string X, .string Y, .bool false], .bool true]) (by simp [results, Tryd.results74, go_sem, q0, q1, q2]) rfl ⟨?_, hs2⟩
    rw [HS.out]
theorem sget_f (i : Int) (w : World) (_ : Rdy w) (hi : Rng i) : Calls Tryd.prog 74 #[.int .i64 i] w (StPost w (stg i)) := get_s i w hi
end Go.Proofs.YtiandidencnlcaaDoor
