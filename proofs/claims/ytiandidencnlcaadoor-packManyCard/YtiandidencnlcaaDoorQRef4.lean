/- Contract of Encode of the document's encoder. -/
import Derived.Test.YtiandidencnlcaaDoorQRef3
import Derived.Test.YtiandidencnlcaaDoorHAux
import Derived.Test.YtiandidencnlcaaDoorLAppW
namespace Go.Proofs.YtiandidencnlcaaDoor
open Go.RowKit

/-- What a block hands back: bytes in new memory, what went wrong; the encoder then. -/
def EnPost (S : Nat → Prop) (w : World) (p q : Nat) (r : List Nat × Nat × EncS) (e : Ending) (w' : World) : Prop :=
  ∃ S' A c, e = .returned (.tuple #[.slice A r.1.length c, .int .i64 ((r.2.1 : Nat) : Int)]) ∧ RE w' S' p q r.2.2 ∧ (∀ x, S' x → S x ∨ w.heap.size ≤ x) ∧ Keeps S w w' ∧ At .u8 w' w'.heap.size A r.1 ∧ (A = none → c = 0) ∧ r.1.length ≤ c ∧ (∀ b o s, A = some ⟨b, o, s⟩ → w.heap.size ≤ b ∧ ¬ S' b)
/-- Behind k fields: the row of bytes, the encoder's table. -/
def EnR (S : Nat → Prop) (w : World) (p q : Nat) (s : EncS) (Z : List Nat) (l : List Fld) (out i : Value) (wr : World) : Prop :=
  ∃ k S', k ≤ l.length ∧ i = .int .i64 (k : Int) ∧ RE wr S' p q ⟨s.most, (pall s.most s.tab (l.take k)).2, s.told, s.least, s.set⟩ ∧ (∀ x, S' x → S x ∨ w.heap.size ≤ x) ∧ Keeps S w wr ∧
    wr.ownsRow w.heap.size 5 1 out (Z ++ (pall s.most s.tab (l.take k)).1).length (cn .u8 (Z ++ (pall s.most s.tab (l.take k)).1)) ∧ (∀ x, out.ownBlock = some x → ¬ S' x)
theorem AtF.keepsB {S : Nat → Prop} {wr w' : World} {A : Option Addr} {l : List Fld} (h : AtF wr wr.heap.size A l) (hk : Keeps S wr w') (hn : l ≠ [] → ∀ a, A = some a → ¬ S a.block) : AtF w' w'.heap.size A l := fun hl => by
  obtain ⟨b, o, e, hB, hc⟩ := h hl
  have hn' := hn hl _ e
  refine ⟨b, o, e, Nat.lt_of_lt_of_le hB hk.size, fun i hi => ?_⟩
  obtain ⟨c0, c1, c2⟩ := hc i hi
  exact ⟨(hk.cell (p := ⟨b, o + i * 3, none⟩) hB hn').trans c0, (hk.cell (p := ⟨b, o + i * 3 + 1, none⟩) hB hn').trans c1, (hk.cell (p := ⟨b, o + i * 3 + 2, none⟩) hB hn').trans c2⟩
theorem allFit_take {l : List Fld} (k : Nat) (hk : k < l.length) (h : ¬ (l[k].name.size ≤ 16384 ∧ l[k].value.size ≤ 16384)) : allFit l = false := by
  cases hx : allFit l with
  | false => rfl
  | true => exact absurd (allFit_iff.1 hx l[k] (List.getElem_mem hk)) h
theorem lims_is (M : Nat) (T : List Fld) (tl ls : Nat) (st : Bool) : EncS.lims ⟨M, T, tl, ls, st⟩ = (if (st && decide (ls < M)) then Pn.put 32 5 ls else []) ++ (if (st && (decide (ls < M) || decide (M ≠ tl))) then Pn.put 32 5 M else []) := by
  cases st with
  | false => simp [EncS.lims]
  | true =>
    by_cases c1 : ls < M
    · simp [EncS.lims, c1]
    · by_cases c2 : M = tl
      · subst c2
        simp [EncS.lims, c1]
      · simp [EncS.lims, c1, c2]
theorem own_nil (w : World) (B : Nat) : w.ownsRow B 5 1 (.slice none 0 0) ([] : List Nat).length (cn .u8 []) := World.ownsRow_nil _ _ _ _
set_option maxRecDepth 100000 in
set_option maxHeartbeats 8000000 in
theorem rqenc_any (A : Option Addr) (l : List Fld) (n c : Nat) (w : World) (S : Nat → Prop) (p q : Nat) (s : EncS) (h : RE w S p q s) (hA : AtF w w.heap.size A l) (hl : l.length = n) (hAS : l ≠ [] → ∀ a, A = some a → ¬ S a.block) (ht : tot l ≤ 100000) :
    Calls Tryd.prog 15 #[.pointer (some ⟨p, 0, none⟩), .slice A n c] w (EnPost S w p q (s.enc l)) := by
  have hn : n ≤ 3200 := by have := tot_pos l; omega
  obtain ⟨M, T, tl, ls, st⟩ := s
  have hbd := h.bounds
  simp only [] at hbd
  have HRE := Lib.hid h
  have HA := Lib.hid hA
  have HL := Lib.hid hl
  have HAS := Lib.hid hAS
  have HT := Lib.hid ht
  clear h hA hl hAS ht
  go_enter Tryd.func15, Tryd.ntmps15
  go_wp2
  go_loop [6] (fun i => ∃ k : Nat, k ≤ n ∧ i = .int .i64 (k : Int) ∧ ∀ f ∈ l.take k, f.fits) (fun i => n - (intOf i).toNat)
  case atStart => exact ⟨0, Nat.zero_le _, rfl, fun f hf => by simp at hf⟩
  case round =>
    obtain ⟨k, hk, rfl, hfit⟩ := hrel
    have HFIT := Lib.hid hfit
    clear hfit
    by_cases hlt : k < n
    · have hkl : k < l.length := by have := HL.out; omega
      obtain ⟨b, o, rfl, hb, hc⟩ := HA.out.pos (by omega)
      obtain ⟨c0, c1, c2⟩ := hc k hkl
      have HOKF : Hid (fsize l[k] ≤ 100000) := Lib.hid (Nat.le_trans (fsize_le (List.getElem_mem hkl)) HT.out)
      have HNF : Hid (¬ (l[k].name.size ≤ 16384 ∧ l[k].value.size ≤ 16384) → allFit l = false) := Lib.hid (allFit_take k hkl)
      have HTK : Hid (l.take (k + 1) = l.take k ++ [l[k]]) := Lib.hid (List.take_succ_eq_append_getElem hkl)
      obtain ⟨f, hf⟩ : ∃ f, f = l[k] := ⟨_, rfl⟩
      rw [← hf] at c0 c1 HOKF HNF HTK
      obtain ⟨X, Y, Z⟩ := f
      simp only [] at c0 c1 HNF
      obtain ⟨xn, hxn⟩ : ∃ n, n = X.size := ⟨_, rfl⟩
      obtain ⟨yn, hyn⟩ : ∃ n, n = Y.size := ⟨_, rfl⟩
      have sx : X.size = xn := hxn.symm
      have sy : Y.size = yn := hyn.symm
      have HSX := Lib.hid sx
      have HSY := Lib.hid sy
      have hbx : xn ≤ 100000 ∧ yn ≤ 100000 := by have := HOKF.out; unfold fsize at this; simp only [] at this; omega
      have ki : (k : Int) < (n : Int) := by omega
      clear hf hc hxn hyn c2 hkl hb
      by_cases hx1 : xn ≤ 16384
      · have dx : ¬ (16384 : Int) < (xn : Int) := by omega
        by_cases hy1 : yn ≤ 16384
        · have dy : ¬ (16384 : Int) < (yn : Int) := by omega
          go_wp2
          go_round
          case rel =>
            refine ⟨k + 1, by omega, by go_num, fun f hf => ?_⟩
            rw [HTK.out, List.mem_append, List.mem_singleton] at hf
            rcases hf with hf | rfl
            · exact HFIT.out f hf
            · exact ⟨by rw [HSX.out]; exact hx1, by rw [HSY.out]; exact hy1⟩
          case measure => simp [intOf]; omega
        · have dy : (16384 : Int) < (yn : Int) := by omega
          have HE : Hid (EncS.enc ⟨M, T, tl, ls, st⟩ l = ([], 3, ⟨M, T, tl, ls, st⟩)) := Lib.hid (by rw [EncS.enc, HNF.out (by rw [HSY.out]; omega)]; rfl)
          go_wp2
          go_ret2
          rw [HE.out]
          exact ⟨S, none, 0, rfl, HRE.out, fun _ hx => .inl hx, Keeps.refl _ _, at_nil _ _ _ _, fun _ => rfl, Nat.le_refl _, fun b o s e => by cases e⟩
      · have dx : (16384 : Int) < (xn : Int) := by omega
        have HE : Hid (EncS.enc ⟨M, T, tl, ls, st⟩ l = ([], 3, ⟨M, T, tl, ls, st⟩)) := Lib.hid (by rw [EncS.enc, HNF.out (by rw [HSX.out]; omega)]; rfl)
        go_wp2
        go_ret2
        rw [HE.out]
        exact ⟨S, none, 0, rfl, HRE.out, fun _ hx => .inl hx, Keeps.refl _ _, at_nil _ _ _ _, fun _ => rfl, Nat.le_refl _, fun b o s e => by cases e⟩
    · obtain rfl : k = n := by omega
      have hall : ∀ f ∈ l, f.fits := by
        have := HFIT.out
        rwa [List.take_of_length_le (by have := HL.out; omega)] at this
      have HALL := Lib.hid hall
      obtain ⟨D1, hD1⟩ : ∃ D, D = (st && decide (ls < M)) := ⟨_, rfl⟩
      obtain ⟨D2, hD2⟩ : ∃ D, D = (st && (decide (ls < M) || decide (M ≠ tl))) := ⟨_, rfl⟩
      obtain ⟨Z1, hZ1⟩ : ∃ Z, Z = (if D1 then Pn.put 32 5 ls else []) := ⟨_, rfl⟩
      obtain ⟨Z, hZ⟩ : ∃ Z, Z = Z1 ++ (if D2 then Pn.put 32 5 M else []) := ⟨_, rfl⟩
      have HLM : Hid (EncS.lims ⟨M, T, tl, ls, st⟩ = Z) := Lib.hid (by rw [hZ, hZ1, hD1, hD2]; exact lims_is M T tl ls st)
      have hZl : Z.length ≤ 12 := by rw [← HLM.out]; exact lims_len _ hbd.2.2.2 hbd.2.1
      have hZ1l : Z1.length ≤ 6 := by
        rw [hZ1]
        split
        · exact Pn.put_six 32 5 ls (by omega)
        · simp
      have HE : Hid (EncS.enc ⟨M, T, tl, ls, st⟩ l = (Z ++ (pall M T l).1, 0, ⟨M, (pall M T l).2, M, ls, false⟩)) := Lib.hid (by rw [EncS.enc, allFit_iff.2 hall, HLM.out]; rfl)
      have HPL : Hid (∀ j, (pall M T (l.take j)).1.length ≤ 100000) := Lib.hid (fun j => by
        have h1 := pall_len M (l.take j) T hbd.1 hbd.2.1 (fun f hf => hall f (List.mem_of_mem_take hf))
        have h2 := tot_le l j
        have := HT.out
        omega)
      have HD1 := Lib.hid hD1
      have HD2 := Lib.hid hD2
      have HZ1 := Lib.hid hZ1
      have HZ := Lib.hid hZ
      have ki : ¬ (k : Int) < (k : Int) := by omega
      have x0 : w.cell? ⟨p, 0, none⟩ = some (.pointer (some ⟨q, 0, none⟩)) := HRE.out.c0
      have x2 : w.cell? ⟨p, 2, none⟩ = some (.int .i64 (ls : Int)) := HRE.out.c2
      have x3 : w.cell? ⟨p, 3, none⟩ = some (.bool st) := HRE.out.c3
      have y0 : w.cell? ⟨q, 0, none⟩ = some (.int .i64 (M : Int)) := HRE.out.m0
      have hLS : ls ≤ 4096 := hbd.2.2.2
      have hMM : M ≤ 4096 := hbd.2.1
      clear hall HFIT hD1 hD2 hZ1 hZ
      -- the least
      go_upto_region 7 with fail
      go_cut [52] (fun x wx => x = .bool D1 ∧ ∃ j, wx = w.drewN j)
      case first =>
        cases st with
        | false =>
          go_quiet (fail)
          go_wp2
          go_meet
          case rel => exact ⟨by rw [HD1.out]; rfl, nq, rfl⟩
        | true =>
          by_cases c1 : (ls : Int) < (M : Int)
          · go_quiet (fail)
            go_wp2
            go_meet
            case rel => exact ⟨by rw [HD1.out, decide_eq_true (by omega)]; rfl, nq, rfl⟩
          · go_quiet (fail)
            go_wp2
            go_meet
            case rel => exact ⟨by rw [HD1.out, decide_eq_false (by omega)]; rfl, nq, rfl⟩
      case rest =>
      obtain ⟨e1, j1, e2⟩ := hcut
      subst e1
      have hb1 : Below w.heap.size w wc := by rw [e2]; exact below_drewN (Below.refl _ _) j1
      clear e2
      obtain ⟨w1, hw1⟩ : ∃ w1, w1 = wc := ⟨_, rfl⟩
      subst hw1
      have HB1 := Lib.hid hb1
      have z2 : w1.cell? ⟨p, 2, none⟩ = some (.int .i64 (ls : Int)) := (HRE.out.quiet hb1).c2
      clear x0 x2 x3 y0 hb1
      go_upto_if 52 with fail
      go_cut [7, 8, 9] (fun x _ _ wx => Row w.heap.size w Z1 x wx)
      case first =>
        cases hc1 : D1 with
        | false =>
          have HZZ : Hid (Z1 = []) := Lib.hid (by rw [HZ1.out, hc1]; rfl)
          go_wp2
          go_meet
          case rel =>
            rw [HZZ.out]
            exact ⟨own_nil _ _, HB1.out⟩
        | true =>
          have HZZ : Hid (Z1 = Pn.put 32 5 ls) := Lib.hid (by rw [HZ1.out, hc1]; rfl)
          have hp := rput_row 32 5 ls w1 (by omega) (by omega) (by omega) (by omega)
          rw [show ((32 : Nat) : Int) = 32 from rfl, show ((5 : Nat) : Int) = 5 from rfl, ← HZZ.out] at hp
          have HPT := Lib.hid hp
          clear hp
          go_wp2_with fail
          with_reducible refine (HPT.out).mono ?_
          rintro e w2 ⟨v2, rfl, hr2⟩
          obtain ⟨A2, c2, rfl, hat2, hn2, hc2⟩ := hr2.at
          have HB2 := Lib.hid (HB1.out.trans (hr2.2.mono HB1.out.size))
          have HAT2 := Lib.hid hat2
          clear hr2 hat2 HPT z2
          go_wp2_with (at_builtin; refine wpList_append_at rfl (.tmp 61) (.tmp 62) rfl w.heap.size _ [] rfl (own_nil _ _) A2 Z1 _ c2 rfl rfl hn2 _ HAT2.out (by simp only [List.length_nil]; omega) (HB2.out.size) ?_; intro v3 w3 hown3 hg3; rw [List.nil_append] at hown3; have HO3 := Lib.hid hown3; have HB3 := Lib.hid (HB2.out.grown hg3 HB2.out.size (own_block (own_nil w2 w.heap.size))); obtain ⟨A3, c3, rfl⟩ := own_shape hown3; clear hown3 hg3)
          go_meet
          case rel => exact ⟨HO3.out, HB3.out⟩
      case rest =>
      obtain ⟨hown1, hb2⟩ := hcut
      obtain ⟨w2, hw2⟩ : ∃ w2, w2 = wc := ⟨_, rfl⟩
      subst hw2
      obtain ⟨A1, cp1, rfl⟩ := own_shape hown1
      have HO1 := Lib.hid hown1
      have HB2 := Lib.hid hb2
      have hre2 := HRE.out.quiet hb2
      have x0 : w2.cell? ⟨p, 0, none⟩ = some (.pointer (some ⟨q, 0, none⟩)) := hre2.c0
      have x1 : w2.cell? ⟨p, 1, none⟩ = some (.int .i64 (tl : Int)) := hre2.c1
      have x2 : w2.cell? ⟨p, 2, none⟩ = some (.int .i64 (ls : Int)) := hre2.c2
      have x3 : w2.cell? ⟨p, 3, none⟩ = some (.bool st) := hre2.c3
      have y0 : w2.cell? ⟨q, 0, none⟩ = some (.int .i64 (M : Int)) := hre2.m0
      clear z2 hre2 hown1 hb2 HB1
      -- the one that holds
      go_upto_region 10 with fail
      go_cut [95] (fun x wx => x = .bool D2 ∧ ∃ j, wx = w2.drewN j)
      case first =>
        cases st with
        | false =>
          go_quiet (fail)
          go_wp2
          go_meet
          case rel => exact ⟨by rw [HD2.out]; rfl, nq, rfl⟩
        | true =>
          by_cases c1 : (ls : Int) < (M : Int)
          · go_quiet (fail)
            go_wp2
            go_meet
            case rel => exact ⟨by rw [HD2.out, decide_eq_true (show ls < M by omega)]; rfl, nq, rfl⟩
          · by_cases c2 : M = tl
            · have q2 : ((M : Int) != (tl : Int)) = false := by rw [c2]; simp
              have HC2 := Lib.hid c2
              clear c2
              go_quiet (fail)
              go_wp2
              go_meet
              case rel => exact ⟨by rw [HD2.out, decide_eq_false (show ¬ ls < M by omega), decide_eq_false (fun h => h HC2.out)]; rfl, nq, rfl⟩
            · have q2 : ((M : Int) != (tl : Int)) = true := by simp; omega
              have HC2 := Lib.hid c2
              clear c2
              go_quiet (fail)
              go_wp2
              go_meet
              case rel => exact ⟨by rw [HD2.out, decide_eq_false (show ¬ ls < M by omega), decide_eq_true HC2.out]; rfl, nq, rfl⟩
      case rest =>
      obtain ⟨e1, j2, e2⟩ := hcut
      subst e1
      have hb3 : Below w2.heap.size w2 wc := by rw [e2]; exact below_drewN (Below.refl _ _) j2
      clear e2
      obtain ⟨w3, hw3⟩ : ∃ w3, w3 = wc := ⟨_, rfl⟩
      subst hw3
      have HO3 := Lib.hid (own_keep HO1.out hb3)
      have hb4 := HB2.out.trans (hb3.mono HB2.out.size)
      have HB3 := Lib.hid hb4
      have z0 : w3.cell? ⟨p, 0, none⟩ = some (.pointer (some ⟨q, 0, none⟩)) := (HRE.out.quiet hb4).c0
      have z1 : w3.cell? ⟨q, 0, none⟩ = some (.int .i64 (M : Int)) := (HRE.out.quiet hb4).m0
      clear x0 x1 x2 x3 y0 hb3 hb4 HO1 HB2
      go_upto_if 95 with fail
      go_cut [7, 10, 11] (fun x _ _ wx => Row w.heap.size w Z x wx)
      case first =>
        cases hc2 : D2 with
        | false =>
          have HZZ : Hid (Z = Z1) := Lib.hid (by rw [HZ.out, hc2]; simp)
          go_wp2
          go_meet
          case rel =>
            rw [HZZ.out]
            exact ⟨HO3.out, HB3.out⟩
        | true =>
          obtain ⟨Y, hY⟩ : ∃ Y, Y = Pn.put 32 5 M := ⟨_, rfl⟩
          have HZZ : Hid (Z = Z1 ++ Y) := Lib.hid (by rw [HZ.out, hc2, hY]; rfl)
          have hYl : Y.length ≤ 6 := by rw [hY]; exact Pn.put_six 32 5 M (by omega)
          have hp := rput_row 32 5 M w3 (by omega) (by omega) (by omega) (by omega)
          rw [show ((32 : Nat) : Int) = 32 from rfl, show ((5 : Nat) : Int) = 5 from rfl, ← hY] at hp
          have HPT := Lib.hid hp
          clear hp hY
          go_wp2_with fail
          with_reducible refine (HPT.out).mono ?_
          rintro e w4 ⟨v4, rfl, hr4⟩
          obtain ⟨A4, c4, rfl, hat4, hn4, hc4⟩ := hr4.at
          have HO4 := Lib.hid (own_keep HO3.out hr4.2)
          have HB4 := Lib.hid (HB3.out.trans (hr4.2.mono HB3.out.size))
          have HAT4 := Lib.hid hat4
          clear hr4 hat4 HPT z0 z1
          go_wp2_with (at_builtin; refine wpList_append_at rfl (.tmp 107) (.tmp 108) rfl w.heap.size _ Z1 rfl HO4.out A4 Y _ c4 rfl rfl hn4 _ HAT4.out (by omega) (HB4.out.size) ?_; intro v5 w5 hown5 hg5; rw [← HZZ.out] at hown5; have HO5 := Lib.hid hown5; have HB5 := Lib.hid (HB4.out.grown hg5 HB4.out.size (own_block HO4.out)); obtain ⟨A5, c5, rfl⟩ := own_shape hown5; clear hown5 hg5)
          go_meet
          case rel => exact ⟨HO5.out, HB5.out⟩
      case rest =>
      obtain ⟨hownZ, hb5⟩ := hcut
      obtain ⟨w4, hw4⟩ : ∃ w4, w4 = wc := ⟨_, rfl⟩
      subst hw4
      have hre4 := HRE.out.quiet hb5
      have x0 : w4.cell? ⟨p, 0, none⟩ = some (.pointer (some ⟨q, 0, none⟩)) := hre4.c0
      have x1 : w4.cell? ⟨p, 1, none⟩ = some (.int .i64 (tl : Int)) := hre4.c1
      have f1 := hre4.fz 1
      have y0 : w4.cell? ⟨q, 0, none⟩ = some (.int .i64 (M : Int)) := hre4.m0
      obtain ⟨hs1, hk1⟩ := hre4.set1 M hMM
      simp only [] at hs1
      have x3 : (w4.setCell ⟨p, 1, none⟩ (.int .i64 (M : Int))).cell? ⟨p, 3, none⟩ = some (.bool st) := hs1.c3
      have f3 := hs1.fz 3
      obtain ⟨hs3, hk3⟩ := hs1.set3 false
      simp only [] at hs3
      have hK5 : Keeps S w ((w4.setCell ⟨p, 1, none⟩ (.int .i64 (M : Int))).setCell ⟨p, 3, none⟩ (.bool false)) := ((Keeps.of_below hb5).trans hk1 (fun x hx _ => hx)).trans hk3 (fun x hx _ => hx)
      obtain ⟨AZ, cZ, rfl⟩ := own_shape hownZ
      have hnS : ∀ x, (Value.slice AZ Z.length cZ).ownBlock = some x → ¬ S x := fun x hx hs => by
        have h1 := (hownZ.lt x hx).1
        have h2 := HRE.out.low x hs
        omega
      have hrow5 : ((w4.setCell ⟨p, 1, none⟩ (.int .i64 (M : Int))).setCell ⟨p, 3, none⟩ (.bool false)).ownsRow w.heap.size 5 1 (.slice AZ Z.length cZ) Z.length (cn .u8 Z) := row_keeps (row_keeps hownZ hk1 hnS) hk3 hnS
      have hr0 : EnR S w p q ⟨M, T, M, ls, false⟩ Z l (.slice AZ Z.length cZ) (.int .i64 0) ((w4.setCell ⟨p, 1, none⟩ (.int .i64 (M : Int))).setCell ⟨p, 3, none⟩ (.bool false)) := ⟨0, S, Nat.zero_le _, rfl, hs3, fun _ hx => .inl hx, hK5, by simpa [pall] using hrow5, hnS⟩
      have HR0 := Lib.hid hr0
      clear hre4 hs1 hk1 hs3 hk3 hK5 hownZ hb5 hnS hrow5 hr0 HO3 HB3 z0 z1
      go_wp2
      go_loopw [7, 12] (fun out i wr => EnR S w p q ⟨M, T, M, ls, false⟩ Z l out i wr) (fun _ i _ => k - (intOf i).toNat)
      case atStart => exact HR0.out
      case round =>
        clear x0 x1 f1 y0 x3 f3 HR0
        obtain ⟨j, S', hj, rfl, hRE, hS', hK, hown, hnS⟩ := hrel
        simp only [] at hRE hown
        obtain ⟨Tj, hTj⟩ : ∃ X, X = (pall M T (l.take j)).2 := ⟨_, rfl⟩
        obtain ⟨W, hW⟩ : ∃ X, X = Z ++ (pall M T (l.take j)).1 := ⟨_, rfl⟩
        rw [← hTj] at hRE
        rw [← hW] at hown
        have hWl : W.length ≤ 100012 := by rw [hW, List.length_append]; have := HPL.out j; omega
        obtain ⟨AW, cW, rfl⟩ := own_shape hown
        have HTJ := Lib.hid hTj
        have HW := Lib.hid hW
        clear hTj hW
        by_cases hjk : j < k
        · have hjl : j < l.length := by have := HL.out; omega
          have hAr := HA.out.keepsB hK HAS.out
          obtain ⟨b, o, rfl, hb, hc⟩ := hAr.pos (by omega)
          obtain ⟨c0, c1, c2⟩ := hc j hjl
          have HNX : Hid (pall M T (l.take (j + 1)) = ((pall M T (l.take j)).1 ++ (pfld M Tj l[j]).1, (pfld M Tj l[j]).2)) := Lib.hid (by rw [pall_next M T l j hjl, HTJ.out])
          have HNL := Lib.hid (HPL.out (j + 1))
          have hfit := HALL.out l[j] (List.getElem_mem hjl)
          obtain ⟨f, hf⟩ : ∃ f, f = l[j] := ⟨_, rfl⟩
          rw [← hf] at c0 c1 c2 HNX hfit
          have HFL := rqfield_any f wr S' p q ⟨M, Tj, M, ls, false⟩ hRE hfit
          simp only [] at HFL
          obtain ⟨Bj, hBj⟩ : ∃ X, X = (pfld M Tj f).1 := ⟨_, rfl⟩
          obtain ⟨Tn, hTn⟩ : ∃ X, X = (pfld M Tj f).2 := ⟨_, rfl⟩
          rw [← hBj, ← hTn] at HFL HNX
          have hBl : Bj.length ≤ 100000 := by
            have := HNL.out
            rw [HNX.out, List.length_append] at this
            omega
          replace HFL := Lib.hid HFL
          have HOW := Lib.hid hown
          have HNS := Lib.hid hnS
          have HK := Lib.hid hK
          have HS' := Lib.hid hS'
          have HLOW := Lib.hid hRE.low
          have jk : (j : Int) < (k : Int) := by omega
          clear hf hc hBj hTn hfit hAr hown hnS hK hS' hRE hjl hb
          go_wp2_with fail
          with_reducible refine (HFL.out).mono ?_
          rintro e w8 ⟨A8, c8, rfl, hat8, hn8, hc8, S8, hre8, hS8, hK8⟩
          have HO8 := Lib.hid (row_keeps HOW.out hK8 HNS.out)
          have HAT8 := Lib.hid hat8
          have HRE8 := Lib.hid hre8
          have HS8 := Lib.hid hS8
          have HK8 := Lib.hid hK8
          have HSZ : Hid (w.heap.size ≤ w8.heap.size) := Lib.hid (Nat.le_trans HK.out.size hK8.size)
          clear hat8 hre8 hS8 hK8 c0 c1 c2 HFL
          go_wp2_with (at_builtin; refine wpList_append_aw rfl (.tmp 129) (.tmp 135) rfl w.heap.size _ W rfl HO8.out A8 Bj _ c8 rfl rfl hn8 _ HAT8.out (by omega) (HSZ.out) ?_; intro v9 w9 hown9 hg9 hwh9; have HO9 := Lib.hid hown9; have HG9 := Lib.hid hg9; have HWH := Lib.hid hwh9; obtain ⟨A9, c9, rfl⟩ := own_shape hown9; clear hown9 hg9 hwh9)
          go_roundw
          case rel =>
            have hout : ∀ x, (Value.slice AW W.length cW).ownBlock = some x → ¬ S8 x := fun x hx hs => by
              rcases HS8.out x hs with h1 | h1
              · exact HNS.out x hx h1
              · have := (HOW.out.lt x hx).2
                omega
            have hk9 : Keeps (fun x => (Value.slice AW W.length cW).ownBlock = some x) w8 w9 := ⟨HG9.out.os, HG9.out.tape, HG9.out.output, HG9.out.size, fun y hy hn => HG9.out.block y hy (fun e => hn e.symm)⟩
            refine ⟨j + 1, S8, by have := HL.out; omega, by go_num, ?_, fun x hx => ?_, ?_, ?_, fun x hx hs => ?_⟩
            · rw [HNX.out]
              exact HRE8.out.keep hk9 (fun x hx e => hout x e hx)
            · rcases HS8.out x hx with h1 | h1
              · exact HS'.out x h1
              · exact .inr (Nat.le_trans HK.out.size h1)
            · refine (HK.out.trans HK8.out (fun x hx hlt => ?_)).trans hk9 (fun x hx hlt => ?_)
              · rcases HS'.out x hx with h1 | h1
                · exact h1
                · omega
              · have := (HOW.out.lt x hx).1
                omega
            · rw [HNX.out]
              simp only []
              rw [← List.append_assoc, ← HW.out]
              have := HO9.out
              rw [List.length_append] at this ⊢
              exact this
            · rcases HWH.out x (by rw [List.length_append]; exact hx) with h1 | h1
              · exact hout x h1 hs
              · have := HRE8.out.low x hs
                omega
          case measure => simp [intOf]; omega
        · obtain rfl : j = k := by have := HL.out; omega
          have et : l.take j = l := List.take_of_length_le (by have := HL.out; omega)
          have HFIN : Hid (EnPost S w p q (Z ++ (pall M T l).1, 0, ⟨M, (pall M T l).2, M, ls, false⟩) (.returned (.tuple #[.slice AW W.length cW, .int .i64 0])) wr) := Lib.hid (by
            have eW : W = Z ++ (pall M T l).1 := by rw [HW.out, et]
            have eT : Tj = (pall M T l).2 := by rw [HTJ.out, et]
            rw [← eW, ← eT]
            refine ⟨S', AW, cW, rfl, hRE, hS', hK, At.of_own hown, own_none hown, own_cap hown, fun b o s e => ?_⟩
            subst e
            exact ⟨(hown.lt b rfl).1, hnS b rfl⟩)
          have jk : ¬ (j : Int) < (j : Int) := by omega
          clear hRE hS' hK hown hnS
          go_wp2
          go_ret2
          rw [HE.out]
          exact HFIN.out
end Go.Proofs.YtiandidencnlcaaDoor
