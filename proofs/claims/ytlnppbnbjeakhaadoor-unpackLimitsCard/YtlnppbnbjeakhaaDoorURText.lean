/- Contract of the reference's text. -/
import Derived.Test.YtlnppbnbjeakhaaDoorUNoNev
import Derived.Test.YtlnppbnbjeakhaaDoorPGet
import Derived.Test.YtlnppbnbjeakhaaDoorHDec
import Derived.Test.YtlnppbnbjeakhaaDoorLUNum
namespace Go.Proofs.YtlnppbnbjeakhaaDoor
open Go.RowKit

def TxPost (w : World) (s : List Nat × Nat × Bool) (e : Ending) (w' : World) : Prop := e = .returned (.tuple #[.string (str s.1), .int .i64 ((s.2.1 : Nat) : Int), .bool s.2.2]) ∧ Below w.heap.size w w'
set_option maxRecDepth 100000 in
theorem rtext_out (A : Option Addr) (b : List Nat) (n c k : Nat) (w : World) (hl : b.length = n) (hk : k = n) :
    Calls Tryd.prog 46 #[.slice A n c, .int .i64 (k : Int)] w (TxPost w (utext b k)) := by
  have HT : Hid (utext b k = ([], 0, false)) := Lib.hid (by rw [utext, if_pos (by omega)])
  have d : decide ((n : Int) ≤ (k : Int)) = true := decide_eq_true (by omega)
  have d' : (n : Int) ≤ (k : Int) := by omega
  clear hl hk
  go_enter Tryd.func46, Tryd.ntmps46
  go_wp2
  go_ret3
  rw [HT.out]
  exact ⟨rfl, Below.refl _ _⟩
set_option maxRecDepth 100000 in
set_option maxHeartbeats 8000000 in
theorem rtext_in (A : Option Addr) (b : List Nat) (n c k : Nat) (w : World) (hA : At .u8 w w.heap.size A b) (hb : ∀ x ∈ b, x < 256) (hl : b.length = n) (hnc : n ≤ c) (hn : n ≤ 100000) (hk : k < n) :
    Calls Tryd.prog 46 #[.slice A n c, .int .i64 (k : Int)] w (TxPost w (utext b k)) := by
  obtain ⟨G, hG⟩ : ∃ G, G = Pn.getI (b.drop k) 7 := ⟨_, rfl⟩
  have HT : Hid (utext b k = utextG b k G.1 G.2.1 G.2.2) := Lib.hid (by rw [utext, if_neg (by omega), hG])
  obtain ⟨r, hr⟩ : ∃ r, r = n - k := ⟨_, rfl⟩
  obtain ⟨A2, hA2⟩ : ∃ A2, A2 = cutAt A c k := ⟨_, rfl⟩
  have hsl := fun (W : World) => slice_l A n c k r W (by omega) hr.symm
  rw [← hA2] at hsl
  have HGET := rget_any A2 (b.drop k) r (c - k) 7 w (by rw [hA2]; exact hA.drop (by omega)) (fun x hx => hb x (List.mem_of_mem_drop hx)) (by rw [List.length_drop]; omega) (by omega)
  rw [← hG] at HGET
  obtain ⟨m, u, e⟩ := G
  simp only [] at HT
  have HU : Hid (e = 0 → 1 ≤ u ∧ u ≤ r ∧ m ≤ 2147483647) := Lib.hid (fun he => by
    subst he
    have := get_used (b.drop k) 7 m u (by omega) (by omega) hG.symm
    rw [List.length_drop] at this
    omega)
  replace HGET := Lib.hid HGET
  have HA := Lib.hid hA
  have HB := Lib.hid hb
  have HL := Lib.hid hl
  have d : ¬ (n : Int) ≤ (k : Int) := by omega
  have HR := Lib.hid hr
  have e16 : (c : Int) - (k : Int) = ((c - k : Nat) : Int) := by omega
  clear hA hb hl hG hA2 hr
  by_cases he : e = 0
  · obtain ⟨hu1, hu2, hm⟩ := HU.out he
    subst he
    by_cases hbig : 16384 < m
    · have HT2 : Hid (utext b k = ([], 0, false)) := Lib.hid (by rw [HT.out, utextG, if_pos (.inr (.inl hbig))])
      go_enter Tryd.func46, Tryd.ntmps46
      go_wp2_with fail
      with_reducible refine (HGET.out).mono ?_
      rintro e w1 ⟨rfl, hb1⟩
      simp only []
      go_wp2
      go_ret3
      rw [HT2.out]
      exact ⟨rfl, hb1⟩
    · obtain ⟨v, hv⟩ : ∃ v, v = r - u := ⟨_, rfl⟩
      have er : (n : Int) - (k : Int) = (r : Int) := by have := HR.out; omega
      have ev : (r : Int) - (u : Int) = (v : Int) := by omega
      have HV := Lib.hid hv
      clear hv e16
      by_cases hlong : v < m
      · have HT2 : Hid (utext b k = ([], 0, false)) := Lib.hid (by rw [HT.out, utextG, if_pos (.inr (.inr (by rw [HL.out]; have := HV.out; have := HR.out; omega)))])
        have hlt : (v : Int) < (m : Int) := by omega
        go_enter Tryd.func46, Tryd.ntmps46
        go_wp2_with fail
        with_reducible refine (HGET.out).mono ?_
        rintro e w1 ⟨rfl, hb1⟩
        simp only []
        go_wp2
        go_ret3
        rw [HT2.out]
        exact ⟨rfl, hb1⟩
      · have hlt : ¬ (v : Int) < (m : Int) := by omega
        obtain ⟨s, hs⟩ : ∃ s, s = k + u := ⟨_, rfl⟩
        obtain ⟨t, ht⟩ : ∃ t, t = s + m := ⟨_, rfl⟩
        have es : (k : Int) + (u : Int) = (s : Int) := by omega
        have et : (s : Int) + (m : Int) = (t : Int) := by omega
        have htn : t ≤ n := by have := HV.out; have := HR.out; omega
        obtain ⟨A3, hA3⟩ : ∃ A3, A3 = cutAt A c s := ⟨_, rfl⟩
        have hsl2 := fun (W : World) => slice_lh A n c s t m W (by omega) (by omega) (by omega)
        rw [← hA3] at hsl2
        obtain ⟨raw, hraw⟩ : ∃ raw, raw = (b.drop s).take m := ⟨_, rfl⟩
        have hrl : raw.length = m := by rw [hraw, List.length_take, List.length_drop, HL.out]; omega
        have HRA := Lib.hid fun (W : World) (hB : Below w.heap.size w W) => (show At .u8 W W.heap.size A3 raw by rw [hA3, hraw]; exact (HA.out.up hB).mid (by have := HL.out; omega))
        have HRB : Hid (∀ x ∈ raw, x < 256) := Lib.hid (fun x hx => HB.out x (by rw [hraw] at hx; exact List.mem_of_mem_drop (List.mem_of_mem_take hx)))
        obtain ⟨bk, o, rfl, hbk, hc⟩ := HA.out.pos (by have := HL.out; omega)
        have hkl : k < b.length := by have := HL.out; omega
        obtain ⟨y, hy⟩ : ∃ y, y = b[k] := ⟨_, rfl⟩
        have hy2 : y < 256 := by rw [hy]; exact HB.out _ (List.getElem_mem _)
        have HCY := Lib.hid fun (W : World) (hB : Below w.heap.size w W) => (show W.cell? ⟨bk, o + k, none⟩ = some (.int .u8 (y : Int)) by rw [hy]; exact (hB.cell (p := ⟨bk, o + k, none⟩) hbk).trans (hc k hkl))
        have HT2 : Hid (utext b k = if y < 128 then (raw, t, true) else ((Hf.dec raw 16384).1, t, decide ((Hf.dec raw 16384).2 = 0))) := Lib.hid (by
          rw [HT.out, utextG, if_neg (by have := HV.out; have := HR.out; have := HL.out; omega), ← hs, ← ht, ← hraw, List.getD, List.getElem?_eq_getElem hkl, hy]
          rfl)
        have hti : (t : Int) ≤ (c : Int) := by omega
        have hst : (s : Int) ≤ (t : Int) := by omega
        have ki : (k : Int) < (n : Int) := by omega
        have HRL := Lib.hid hrl
        clear hs ht hraw hrl hA3 hc hkl hy HA HT HV HR
        by_cases hy128 : y < 128
        · have dy : (y : Int) < 128 := by omega
          have dy2 : decide ((y : Int) < 128) = true := decide_eq_true dy
          go_enter Tryd.func46, Tryd.ntmps46
          go_wp2_with fail
          with_reducible refine (HGET.out).mono ?_
          rintro e w1 ⟨rfl, hb1⟩
          simp only []
          have cy := HCY.out w1 hb1
          have hcv := run_str w1 _ A3 raw (c - s) (HRA.out w1 hb1)
          rw [HRL.out] at hcv
          go_wp2
          go_ret3
          rw [HT2.out, if_pos hy128]
          exact ⟨rfl, hb1⟩
        · have dy : ¬ (y : Int) < 128 := by omega
          have dy2 : decide ((y : Int) < 128) = false := decide_eq_false dy
          obtain ⟨Q, hQ⟩ : ∃ Q, Q = Hf.dec raw 16384 := ⟨_, rfl⟩
          have HDC := fun (W : World) (hB : Below w.heap.size w W) => rdec_any A3 raw m (c - s) 16384 W (HRA.out W hB) HRB.out HRL.out (by omega)
          rw [← hQ] at HDC HT2
          obtain ⟨out, er2⟩ := Q
          replace HDC := Lib.hid HDC
          clear hQ
          go_enter Tryd.func46, Tryd.ntmps46
          go_wp2_with fail
          with_reducible refine (HGET.out).mono ?_
          rintro e w1 ⟨rfl, hb1⟩
          simp only []
          have cy := HCY.out w1 hb1
          go_wp2_with fail
          with_reducible refine (HDC.out w1 hb1).mono ?_
          rintro e w2 ⟨A4, c4, rfl, hat4, _, hb2'⟩
          have hb2 := hb1.trans (hb2'.mono hb1.size)
          simp only [] at hat4 ⊢
          have hcv := run_str w2 _ A4 out c4 hat4
          clear cy hb2' hat4
          have HT3 : Hid (utext b k = (out, t, decide (er2 = 0))) := Lib.hid (by rw [HT2.out, if_neg hy128])
          cases er2 with
          | zero =>
            go_wp2
            go_ret3
            rw [HT3.out]
            exact ⟨rfl, hb2⟩
          | succ x =>
            obtain ⟨z, hz⟩ : ∃ z, z = x + 1 := ⟨_, rfl⟩
            rw [← hz] at HT3 ⊢
            have qz : ((z : Int) == 0) = false := by simp; omega
            have qd : decide (z = 0) = false := decide_eq_false (by omega)
            rw [qd] at HT3
            clear hz qd
            go_wp2
            go_ret3
            rw [HT3.out]
            exact ⟨rfl, hb2⟩
  · have HT2 : Hid (utext b k = ([], 0, false)) := Lib.hid (by rw [HT.out, utextG, if_pos (.inl he)])
    have qe : ((e : Int) != 0) = true := by simp; omega
    go_enter Tryd.func46, Tryd.ntmps46
    go_wp2_with fail
    with_reducible refine (HGET.out).mono ?_
    rintro e w1 ⟨rfl, hb1⟩
    simp only []
    go_wp2
    go_ret3
    rw [HT2.out]
    exact ⟨rfl, hb1⟩
/-- The reference's text. -/
theorem rtext_any (A : Option Addr) (b : List Nat) (n c k : Nat) (w : World) (hA : At .u8 w w.heap.size A b) (hb : ∀ x ∈ b, x < 256) (hl : b.length = n) (hnc : n ≤ c) (hn : n ≤ 100000) (hk : k ≤ n) :
    Calls Tryd.prog 46 #[.slice A n c, .int .i64 (k : Int)] w (TxPost w (utext b k)) := by
  rcases Nat.lt_or_ge k n with h | h
  · exact rtext_in A b n c k w hA hb hl hnc hn h
  · exact rtext_out A b n c k w hl (by omega)
end Go.Proofs.YtlnppbnbjeakhaaDoor
