/- Contract of the program's mix: one block. -/
import Derived.Test.YthaecckneblecaaDoorS2
namespace Go.Proofs.YthaecckneblecaaDoor
open Go.RowKit Sh

/-- The table of the rounds' words lies in block 0. -/
def Tab (w : World) : Prop := ∀ i (h : i < K64.length), w.cell? ⟨0, i, none⟩ = some (.int .u32 (K64[i] : Int))
theorem Tab.pos {w : World} (h : Tab w) : 0 < w.heap.size := World.block_lt_of_cell? w ⟨0, 0, none⟩ (h 0 (by rw [K64_len]; omega))
theorem Tab.below {w w' : World} (h : Tab w) (hb : Below w.heap.size w w') : Tab w' := fun i hi => (hb.cell (p := ⟨0, i, none⟩) h.pos).trans (h i hi)
theorem Tab.drewN {w : World} (h : Tab w) (n : Nat) : Tab (w.drewN n) := h
theorem turned_at (x i j k T : Nat) (i' j' k' : Int) (w : World) (e1 : i' = (i : Int)) (e2 : j' = (j : Int)) (e3 : k' = (k : Int)) (hx : x < 4294967296) (hi0 : 1 ≤ i) (hi : i ≤ 31) (hj0 : 1 ≤ j) (hj : j ≤ 31) (hk0 : 1 ≤ k) (hk : k ≤ 31) (hT : T = rot x i ^^^ rot x j ^^^ rot x k) :
    Calls Tryd.prog 26 #[.int .u32 x, .int .i64 i', .int .i64 j', .int .i64 k'] w fun e w' => e = .returned (.int .u32 (T : Int)) ∧ w' = w := by
  subst e1 e2 e3
  exact turned_any x i j k T w hx hi0 hi hj0 hj hk0 hk hT
/-- What stands through mix's loop. -/
structure Mx (w : World) (h W : List Nat) (gw : Nat) (wr : World) : Prop where
  bh : Bk wr w.heap.size 31 h
  br : Bk wr (w.heap.size + 1) 31 (List.replicate 8 0)
  bw : Bk wr gw 38 W
  bl : Below w.heap.size w wr
theorem Mx.drewN {w wr : World} {h W : List Nat} {gw : Nat} (f : Mx w h W gw wr) (n : Nat) : Mx w h W gw (wr.drewN n) := ⟨f.bh, f.br, f.bw, below_drewN f.bl n⟩
theorem Mx.drew {w wr : World} {h W : List Nat} {gw : Nat} (f : Mx w h W gw wr) : Mx w h W gw wr.drew := ⟨f.bh, f.br, f.bw, f.bl.drew⟩
def MxR (w : World) (h W : List Nat) (gw : Nat) (a b c d e f g k i : Value) (wr : World) : Prop :=
  ∃ n v0 v1 v2 v3 v4 v5 v6 v7 : Nat, n ≤ 64 ∧ i = .int .i64 n ∧ a = .int .u32 v0 ∧ b = .int .u32 v1 ∧ c = .int .u32 v2 ∧ d = .int .u32 v3 ∧ e = .int .u32 v4 ∧ f = .int .u32 v5 ∧ g = .int .u32 v6 ∧ k = .int .u32 v7 ∧
    vS K64 W h n = [v0, v1, v2, v3, v4, v5, v6, v7] ∧ Mx w h W gw wr
set_option maxRecDepth 100000 in
set_option maxHeartbeats 16000000 in
theorem mix_any (h m : List Nat) (A : Option Addr) (c : Nat) (w : World) (hA : At .u8 w w.heap.size A m) (hm : ∀ x ∈ m, x < 256) (hml : m.length = 64) (hh : h.length = 8) (wh : Wd h) (hT : Tab w) :
    Calls Tryd.prog 21 #[.agg (cn .u32 h).toArray, .slice A 64 c] w fun e w' => e = .returned (.agg (cn .u32 (blk K64 h m)).toArray) ∧ Below w.heap.size w w' := by
  have hHc := agg_cells h
  have HT := Lib.hid hT
  have hpos := hT.pos
  have HML := Lib.hid hml
  have HM := Lib.hid hm
  have HH := Lib.hid hh
  have HA := Lib.hid hA
  have HWH := Lib.hid wh
  clear hT hml hm hh hA wh
  go_enter Tryd.func21, Tryd.ntmps21
  go_wp2_with fail
  clear hHc
  have hA2 : At .u8 ((w.alloc (.cells (cn .u32 h).toArray 31)).alloc (.cells (cn .u32 (List.replicate 8 0)).toArray 31)) ((w.alloc (.cells (cn .u32 h).toArray 31)).alloc (.cells (cn .u32 (List.replicate 8 0)).toArray 31)).heap.size A m :=
    (HA.out.below (((Below.refl _ _).alloc (Nat.le_refl _) _).alloc (by simp) _) (Nat.le_refl _)).more (by simp; omega)
  have hb1 : Bk ((w.alloc (.cells (cn .u32 h).toArray 31)).alloc (.cells (cn .u32 (List.replicate 8 0)).toArray 31)) w.heap.size 31 h := (Bk.new w _ h).alloc _ (by simp)
  have hb2 : Bk ((w.alloc (.cells (cn .u32 h).toArray 31)).alloc (.cells (cn .u32 (List.replicate 8 0)).toArray 31)) (w.heap.size + 1) 31 (List.replicate 8 0) := by
    have := Bk.new (w.alloc (.cells (cn .u32 h).toArray 31)) 31 (List.replicate 8 0)
    simpa using this
  have hb3 : Below w.heap.size w ((w.alloc (.cells (cn .u32 h).toArray 31)).alloc (.cells (cn .u32 (List.replicate 8 0)).toArray 31)) := ((Below.refl _ _).alloc (Nat.le_refl _) _).alloc (by simp) _
  have hsz : ((w.alloc (.cells (cn .u32 h).toArray 31)).alloc (.cells (cn .u32 (List.replicate 8 0)).toArray 31)).heap.size = w.heap.size + 1 + 1 := by simp
  change Calls _ _ _ ((w.alloc (.cells (cn .u32 h).toArray 31)).alloc (.cells (cn .u32 (List.replicate 8 0)).toArray 31)) _
  generalize (w.alloc (.cells (cn .u32 h).toArray 31)).alloc (.cells (cn .u32 (List.replicate 8 0)).toArray 31) = w2 at hA2 hb1 hb2 hb3 hsz ⊢
  refine (schedule_any m A c w2 hA2 HM.out HML.out).mono ?_
  rintro e w3 ⟨rfl, hb4⟩
  have hx1 := hb1.below hb4 (by omega)
  have hx2 := hb2.below hb4 (by omega)
  have hx3 := hb3.trans (hb4.mono (by omega))
  have hz3 : w.heap.size + 1 < w3.heap.size := by have := hb4.size; omega
  obtain ⟨W, hW⟩ : ∃ W, W = wS m 64 := ⟨_, rfl⟩
  rw [← hW]
  have HWL : Hid (W.length = 64) := Lib.hid (by rw [hW]; exact wS_len m 64)
  have HWW : Hid (Wd W) := Lib.hid (by rw [hW]; exact wS_wd m HM.out 64)
  have HW := Lib.hid hW
  clear hW hA2 hb1 hb2 hb3 hb4 hsz
  have hx4 := Lib.hid (Bk.new w3 38 (List.replicate 64 0))
  go_wp2_with (first | (refine wpList_store_row rfl 38 (.tmp 5) (.tmp 20) rfl w3.heap.size (cn .u32 W).toArray rfl rfl 38 _ hx4.out (by rw [size64]; simp [cn, HWL.out]) (by simp [cn, HWL.out]) (cn_all _ _) ?_))
  have hM : Mx w h W w3.heap.size ((w3.alloc (.cells (cn .u32 (List.replicate 64 0)).toArray 38)).setRow w3.heap.size (cn .u32 W).toArray) :=
    ⟨(hx1.alloc _ (by omega)).farRow (by omega) _, (hx2.alloc _ (by omega)).farRow (by omega) _, hx4.out.setRow W, below_setRow (hx3.alloc hx3.size _) hx3.size _⟩
  change Code.wp _ _ _ _ ((w3.alloc (.cells (cn .u32 (List.replicate 64 0)).toArray 38)).setRow w3.heap.size (cn .u32 W).toArray)
  generalize (w3.alloc (.cells (cn .u32 (List.replicate 64 0)).toArray 38)).setRow w3.heap.size (cn .u32 W).toArray = w4 at hM ⊢
  clear hx1 hx2 hx3 hx4
  generalize w3.heap.size = gw at hM hz3 ⊢
  obtain ⟨z0, z1, z2, z3, z4, z5, z6, z7, h8⟩ := list8 h HH.out
  have c0 : w4.cell? ⟨w.heap.size, 0, none⟩ = some (.int .u32 (z0 : Int)) := by rw [hM.bh.cell 0 (by rw [h8]; simp)]; simp [h8]
  have c1 : w4.cell? ⟨w.heap.size, 1, none⟩ = some (.int .u32 (z1 : Int)) := by rw [hM.bh.cell 1 (by rw [h8]; simp)]; simp [h8]
  have c2 : w4.cell? ⟨w.heap.size, 2, none⟩ = some (.int .u32 (z2 : Int)) := by rw [hM.bh.cell 2 (by rw [h8]; simp)]; simp [h8]
  have c3 : w4.cell? ⟨w.heap.size, 3, none⟩ = some (.int .u32 (z3 : Int)) := by rw [hM.bh.cell 3 (by rw [h8]; simp)]; simp [h8]
  have c4 : w4.cell? ⟨w.heap.size, 4, none⟩ = some (.int .u32 (z4 : Int)) := by rw [hM.bh.cell 4 (by rw [h8]; simp)]; simp [h8]
  have c5 : w4.cell? ⟨w.heap.size, 5, none⟩ = some (.int .u32 (z5 : Int)) := by rw [hM.bh.cell 5 (by rw [h8]; simp)]; simp [h8]
  have c6 : w4.cell? ⟨w.heap.size, 6, none⟩ = some (.int .u32 (z6 : Int)) := by rw [hM.bh.cell 6 (by rw [h8]; simp)]; simp [h8]
  have c7 : w4.cell? ⟨w.heap.size, 7, none⟩ = some (.int .u32 (z7 : Int)) := by rw [hM.bh.cell 7 (by rw [h8]; simp)]; simp [h8]
  have H8 := Lib.hid h8
  have HMX := Lib.hid hM
  clear h8 hM
  go_wp2
  go_quiet (fail)
  go_wp2
  have c4' : (w4.drewN nq).cell? ⟨w.heap.size, 4, none⟩ = some (.int .u32 (z4 : Int)) := c4
  have c5' : (w4.drewN nq).cell? ⟨w.heap.size, 5, none⟩ = some (.int .u32 (z5 : Int)) := c5
  have c6' : (w4.drewN nq).cell? ⟨w.heap.size, 6, none⟩ = some (.int .u32 (z6 : Int)) := c6
  have c7' : (w4.drewN nq).cell? ⟨w.heap.size, 7, none⟩ = some (.int .u32 (z7 : Int)) := c7
  have HM2 : Hid (Mx w h W gw (w4.drewN nq)) := Lib.hid (HMX.out.drewN nq)
  clear c0 c1 c2 c3 c4 c5 c6 c7 HMX
  generalize w4.drewN nq = w5 at c4' c5' c6' c7' HM2 ⊢
  go_quiet (fail)
  go_wp2
  have hM3 : Mx w h W gw (w5.drewN nq) := HM2.out.drewN nq
  clear c4' c5' c6' c7' HM2
  generalize w5.drewN nq = w6 at hM3 ⊢
  go_loopw [6, 7, 8, 9, 10, 11, 12, 13, 37] (fun a b c d e f g k i wr => MxR w h W gw a b c d e f g k i wr) (fun _ _ _ _ _ _ _ _ i _ => 64 - (intOf i).toNat)
  case atStart => exact ⟨0, z0, z1, z2, z3, z4, z5, z6, z7, by omega, rfl, rfl, rfl, rfl, rfl, rfl, rfl, rfl, rfl, H8.out, hM3⟩
  case round =>
    clear hM3
    obtain ⟨n, v0, v1, v2, v3, v4, v5, v6, v7, hn, rfl, rfl, rfl, rfl, rfl, rfl, rfl, rfl, rfl, hv, hM⟩ := hrel
    have hvw := vS_wd K64 W h HWH.out n
    have b0 : v0 < 4294967296 := hvw v0 (by rw [hv]; simp)
    have b1 : v1 < 4294967296 := hvw v1 (by rw [hv]; simp)
    have b2 : v2 < 4294967296 := hvw v2 (by rw [hv]; simp)
    have b3 : v3 < 4294967296 := hvw v3 (by rw [hv]; simp)
    have b4 : v4 < 4294967296 := hvw v4 (by rw [hv]; simp)
    have b5 : v5 < 4294967296 := hvw v5 (by rw [hv]; simp)
    have b6 : v6 < 4294967296 := hvw v6 (by rw [hv]; simp)
    have b7 : v7 < 4294967296 := hvw v7 (by rw [hv]; simp)
    have HV := Lib.hid hv
    clear hv hvw
    by_cases hlt : n < 64
    · obtain ⟨ki, hki⟩ : ∃ x, x = K64.getD n 0 := ⟨_, rfl⟩
      obtain ⟨wi, hwi⟩ : ∃ x, x = W.getD n 0 := ⟨_, rfl⟩
      have hkl : n < K64.length := by rw [K64_len]; exact hlt
      have hwl : n < W.length := by have := HWL.out; omega
      have ck : wr.cell? ⟨0, n, none⟩ = some (.int .u32 (ki : Int)) := by rw [hM.bl.cell (p := ⟨0, n, none⟩) hpos, HT.out n hkl, hki]; simp [List.getD, hkl]
      have cw : wr.cell? ⟨gw, n, none⟩ = some (.int .u32 (wi : Int)) := by rw [hM.bw.cell n hwl, hwi]; simp [List.getD, hwl]
      have HKI := Lib.hid hki
      have HWI := Lib.hid hwi
      have HF := Lib.hid hM
      clear hki hwi hM hkl hwl
      obtain ⟨S, hS⟩ : ∃ a, a = t1 v4 := ⟨_, rfl⟩
      obtain ⟨Z, hZ⟩ : ∃ a, a = t0 v0 := ⟨_, rfl⟩
      have T1 := Lib.hid fun w => turned_at v4 6 11 25 S 6 11 25 w rfl rfl rfl b4 (by omega) (by omega) (by omega) (by omega) (by omega) (by omega) (by rw [hS, t1])
      have T0 := Lib.hid fun w => turned_at v0 2 13 22 Z 2 13 22 w rfl rfl rfl b0 (by omega) (by omega) (by omega) (by omega) (by omega) (by omega) (by rw [hZ, t0])
      obtain ⟨c1n, hc1n⟩ : ∃ a, a = v4 &&& v5 := ⟨_, rfl⟩
      obtain ⟨ne, hne⟩ : ∃ a, a = 4294967295 - v4 := ⟨_, rfl⟩
      obtain ⟨c2n, hc2n⟩ : ∃ a, a = ne &&& v6 := ⟨_, rfl⟩
      obtain ⟨C, hC⟩ : ∃ a, a = c1n ^^^ c2n := ⟨_, rfl⟩
      obtain ⟨p1, hp1⟩ : ∃ a, a = (v7 + S) % 4294967296 := ⟨_, rfl⟩
      obtain ⟨p2, hp2⟩ : ∃ a, a = (p1 + C) % 4294967296 := ⟨_, rfl⟩
      obtain ⟨p3, hp3⟩ : ∃ a, a = (p2 + ki) % 4294967296 := ⟨_, rfl⟩
      obtain ⟨p4, hp4⟩ : ∃ a, a = (p3 + wi) % 4294967296 := ⟨_, rfl⟩
      obtain ⟨m1, hm1⟩ : ∃ a, a = v0 &&& v1 := ⟨_, rfl⟩
      obtain ⟨m2, hm2⟩ : ∃ a, a = v0 &&& v2 := ⟨_, rfl⟩
      obtain ⟨m3, hm3⟩ : ∃ a, a = m1 ^^^ m2 := ⟨_, rfl⟩
      obtain ⟨m4, hm4⟩ : ∃ a, a = v1 &&& v2 := ⟨_, rfl⟩
      obtain ⟨MJ, hMJ⟩ : ∃ a, a = m3 ^^^ m4 := ⟨_, rfl⟩
      obtain ⟨y, hy⟩ : ∃ a, a = (Z + MJ) % 4294967296 := ⟨_, rfl⟩
      obtain ⟨n0, hn0⟩ : ∃ a, a = (p4 + y) % 4294967296 := ⟨_, rfl⟩
      obtain ⟨n4, hn4⟩ : ∃ a, a = (v3 + p4) % 4294967296 := ⟨_, rfl⟩
      have lc1n : c1n < 4294967296 := by rw [hc1n]; exact and_lt b5
      have lc2n : c2n < 4294967296 := by rw [hc2n]; exact and_lt b6
      have lm1 : m1 < 4294967296 := by rw [hm1]; exact and_lt b1
      have lm2 : m2 < 4294967296 := by rw [hm2]; exact and_lt b2
      have lm3 : m3 < 4294967296 := by rw [hm3]; exact xor_lt lm1 lm2
      have lm4 : m4 < 4294967296 := by rw [hm4]; exact and_lt b2
      have lne : ne < 4294967296 := by omega
      have xC := xor_rule lc1n lc2n hC
      have xm3 := xor_rule lm1 lm2 hm3
      have xMJ := xor_rule lm3 lm4 hMJ
      have yc1n := and_rule b4 b5 hc1n
      have yc2n := and_rule lne b6 hc2n
      have ym1 := and_rule b0 b1 hm1
      have ym2 := and_rule b0 b2 hm2
      have ym4 := and_rule b1 b2 hm4
      have up1 := add_rule hp1
      have up1' := add_rule' hp1
      have up2 := add_rule hp2
      have up2' := add_rule' hp2
      have up3 := add_rule hp3
      have up3' := add_rule' hp3
      have up4 := add_rule hp4
      have up4' := add_rule' hp4
      have uy := add_rule hy
      have uy' := add_rule' hy
      have un0 := add_rule hn0
      have un0' := add_rule' hn0
      have un4 := add_rule hn4
      have un4' := add_rule' hn4
      have HX : Hid (rd ki wi [v0, v1, v2, v3, v4, v5, v6, v7] = [n0, v0, v1, v2, n4, v4, v5, v6]) := by
        apply Lib.hid
        simp only [rd, List.getD_cons_zero, List.getD_cons_succ]
        rw [ch, mj, ← hS, ← hne, ← hc1n, ← hc2n, ← hC, ← hZ, ← hm1, ← hm2, ← hm3, ← hm4, ← hMJ]
        congr 1
        · omega
        · congr 4
          omega
      have xne := not_rule b4 hne
      clear hS hZ hp1 hc1n hc2n hC hp2 hp3 hp4 hm1 hm2 hm3 hm4 hMJ hy hn0 hn4 hne
      have i4 : (n : Int) < 64 := by omega
      go_wp2
      refine wp_region_still_lit (by kernel_rfl) (by kernel_rfl) ?_
      repeat still_step
      still_call (T1.out _)
      repeat still_step
      refine wpStill_nil ?_
      have HF' : Hid (Mx w h W gw wr.drew) := Lib.hid HF.out.drew
      clear HF ck cw
      change Exit.then _ _ _ _ wr.drew
      generalize wr.drew = w8 at HF' ⊢
      go_wp2_with fail
      with_reducible refine (T0.out _).mono ?_
      rintro e w9 ⟨rfl, rfl⟩
      go_wp2
      go_roundw
      case rel =>
        refine ⟨n + 1, n0, v0, v1, v2, n4, v4, v5, v6, by omega, by go_num, rfl, rfl, rfl, rfl, rfl, rfl, rfl, rfl, ?_, HF'.out⟩
        rw [vS_succ, ← HKI.out, ← HWI.out, HV.out, HX.out]
      case measure => simp [intOf]; omega
    · have hn64 : n = 64 := by omega
      rw [show ((n : Nat) : Int) = 64 by omega]
      subst hn64
      have c0 : wr.cell? ⟨w.heap.size, 0, none⟩ = some (.int .u32 (z0 : Int)) := by rw [hM.bh.cell 0 (by rw [H8.out]; simp)]; simp [H8.out]
      have c1 : wr.cell? ⟨w.heap.size, 1, none⟩ = some (.int .u32 (z1 : Int)) := by rw [hM.bh.cell 1 (by rw [H8.out]; simp)]; simp [H8.out]
      have c2 : wr.cell? ⟨w.heap.size, 2, none⟩ = some (.int .u32 (z2 : Int)) := by rw [hM.bh.cell 2 (by rw [H8.out]; simp)]; simp [H8.out]
      have c3 : wr.cell? ⟨w.heap.size, 3, none⟩ = some (.int .u32 (z3 : Int)) := by rw [hM.bh.cell 3 (by rw [H8.out]; simp)]; simp [H8.out]
      have c4 : wr.cell? ⟨w.heap.size, 4, none⟩ = some (.int .u32 (z4 : Int)) := by rw [hM.bh.cell 4 (by rw [H8.out]; simp)]; simp [H8.out]
      have c5 : wr.cell? ⟨w.heap.size, 5, none⟩ = some (.int .u32 (z5 : Int)) := by rw [hM.bh.cell 5 (by rw [H8.out]; simp)]; simp [H8.out]
      have c6 : wr.cell? ⟨w.heap.size, 6, none⟩ = some (.int .u32 (z6 : Int)) := by rw [hM.bh.cell 6 (by rw [H8.out]; simp)]; simp [H8.out]
      have c7 : wr.cell? ⟨w.heap.size, 7, none⟩ = some (.int .u32 (z7 : Int)) := by rw [hM.bh.cell 7 (by rw [H8.out]; simp)]; simp [H8.out]
      obtain ⟨s0, hs0⟩ : ∃ a, a = (z0 + v0) % 4294967296 := ⟨_, rfl⟩
      have us0 := add_rule hs0
      have us0' := add_rule' hs0
      obtain ⟨s1, hs1⟩ : ∃ a, a = (z1 + v1) % 4294967296 := ⟨_, rfl⟩
      have us1 := add_rule hs1
      have us1' := add_rule' hs1
      obtain ⟨s2, hs2⟩ : ∃ a, a = (z2 + v2) % 4294967296 := ⟨_, rfl⟩
      have us2 := add_rule hs2
      have us2' := add_rule' hs2
      obtain ⟨s3, hs3⟩ : ∃ a, a = (z3 + v3) % 4294967296 := ⟨_, rfl⟩
      have us3 := add_rule hs3
      have us3' := add_rule' hs3
      obtain ⟨s4, hs4⟩ : ∃ a, a = (z4 + v4) % 4294967296 := ⟨_, rfl⟩
      have us4 := add_rule hs4
      have us4' := add_rule' hs4
      obtain ⟨s5, hs5⟩ : ∃ a, a = (z5 + v5) % 4294967296 := ⟨_, rfl⟩
      have us5 := add_rule hs5
      have us5' := add_rule' hs5
      obtain ⟨s6, hs6⟩ : ∃ a, a = (z6 + v6) % 4294967296 := ⟨_, rfl⟩
      have us6 := add_rule hs6
      have us6' := add_rule' hs6
      obtain ⟨s7, hs7⟩ : ∃ a, a = (z7 + v7) % 4294967296 := ⟨_, rfl⟩
      have us7 := add_rule hs7
      have us7' := add_rule' hs7
      have HS : Hid (blk K64 h m = [s0, s1, s2, s3, s4, s5, s6, s7]) := by
        apply Lib.hid
        rw [blk, ← HW.out, HV.out, H8.out, hs0, hs1, hs2, hs3, hs4, hs5, hs6, hs7]
        rfl
      have hbr := Lib.hid hM.br
      have hbl := Lib.hid hM.bl
      clear hs0 hs1 hs2 hs3 hs4 hs5 hs6 hs7 hM
      go_wp2_with (first | (refine wpList_store_row rfl 31 (.tmp 4) (.tmp 122) rfl (w.heap.size + 1) (cn .u32 [s0, s1, s2, s3, s4, s5, s6, s7]).toArray rfl rfl 31 _ hbr.out (by rw [size8]; rfl) (by simp [cn]) (cn_all _ _) ?_))
      refine bodyPost_ret (results_cell_row Tryd.results21 _ _ (w.heap.size + 1) 31 _ (0, 0) _ rfl (hbr.out.setRow [s0, s1, s2, s3, s4, s5, s6, s7]) Tryd.underlying31 rfl (by rw [size8]; rfl)) rfl ⟨?_, below_setRow hbl.out (by omega) _⟩
      rw [HS.out]
end Go.Proofs.YthaecckneblecaaDoor
