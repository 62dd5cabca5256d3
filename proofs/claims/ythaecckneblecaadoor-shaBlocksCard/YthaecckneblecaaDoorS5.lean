/- Contract of the program's mixAll: block after block. -/
import Derived.Test.YthaecckneblecaaDoorS3
import Derived.Test.YthaecckneblecaaDoorS4
namespace Go.Proofs.YthaecckneblecaaDoor
open Go.RowKit Sh

theorem At.part {w w' : World} {B C q : Nat} {ab ao : Nat} {m : List Nat} (h : At .u8 w B (some ⟨ab, ao, none⟩) m) (hb : Below C w w') (hC : B ≤ C) : At .u8 w' w'.heap.size (some ⟨ab, ao + q, none⟩) ((m.drop q).take 64) := fun hne => by
  have hm : m ≠ [] := by rintro rfl; simp at hne
  obtain ⟨b, o, e, hB, hc⟩ := h hm
  injection e with e
  injection e with e1 e2
  subst e1 e2
  refine ⟨ab, ao + q, rfl, ?_, fun i hi => ?_⟩
  · have hi0 : 0 < m.length := List.length_pos_iff.2 hm
    have h0 := (hb.cell (p := ⟨ab, ao + 0, none⟩) (by show ab < C; omega)).trans (hc 0 hi0)
    exact World.block_lt_of_cell? w' _ h0
  · have hi' : q + i < m.length := by simp at hi; omega
    rw [show ao + q + i = ao + (q + i) by omega, hb.cell (p := ⟨ab, ao + (q + i), none⟩) (by show ab < C; omega), hc (q + i) hi']
    simp
/-- What stands through mixAll's loop. -/
structure Ma (w : World) (H : List Nat) (wr : World) : Prop where
  bh : Bk wr w.heap.size 31 H
  br : Bk wr (w.heap.size + 1) 31 (List.replicate 8 0)
  bl : Below w.heap.size w wr
  sz : w.heap.size + 1 < wr.heap.size
theorem Ma.drew {w wr : World} {H : List Nat} (f : Ma w H wr) : Ma w H wr.drew := ⟨f.bh, f.br, f.bl.drew, f.sz⟩
theorem Ma.call {w wr w' : World} {H : List Nat} (f : Ma w H wr) (hb : Below wr.heap.size wr w') : Ma w H w' :=
  ⟨f.bh.below hb (by have := f.sz; omega), f.br.below hb f.sz, f.bl.trans (hb.mono f.bl.size), Nat.lt_of_lt_of_le f.sz hb.size⟩
theorem Ma.row {w wr : World} {H : List Nat} (f : Ma w H wr) (H' : List Nat) : Ma w H' (wr.setRow w.heap.size (cn .u32 H').toArray) :=
  ⟨f.bh.setRow H', f.br.farRow (by omega) _, below_setRow f.bl (Nat.le_refl _) _, by have := f.sz; simpa [World.setRow] using this⟩
def MaR (w : World) (h m : List Nat) (i : Value) (wr : World) : Prop := ∃ t q : Nat, q = 64 * t ∧ q ≤ m.length ∧ i = .int .i64 q ∧ Ma w (hB K64 h m t) wr
set_option maxRecDepth 100000 in
set_option maxHeartbeats 4000000 in
theorem mixAll_any (h m : List Nat) (A : Option Addr) (n c : Nat) (w : World) (hA : At .u8 w w.heap.size A m) (hm : ∀ x ∈ m, x < 256) (hml : m.length = n) (h64 : n % 64 = 0) (hn : n ≤ 100000) (hnc : n ≤ c) (hh : h.length = 8) (wh : Wd h) (hT : Tab w) :
    Calls Tryd.prog 15 #[.agg (cn .u32 h).toArray, .slice A n c] w fun e w' => e = .returned (.agg (cn .u32 (hB K64 h m (n / 64))).toArray) ∧ Below w.heap.size w w' := by
  have hHc := agg_cells h
  have HT := Lib.hid hT
  have HML := Lib.hid hml
  have H64 := Lib.hid h64
  have HM := Lib.hid hm
  have HH := Lib.hid hh
  have HA := Lib.hid hA
  have HWH := Lib.hid wh
  clear hT hml h64 hm hh hA wh
  go_enter Tryd.func15, Tryd.ntmps15
  go_wp2
  clear hHc
  have h4 : Ma w h ((w.alloc (.cells (cn .u32 h).toArray 31)).alloc (.cells (cn .u32 (List.replicate 8 0)).toArray 31)) :=
    ⟨(Bk.new w _ h).alloc _ (by simp), by
      have := Bk.new (w.alloc (.cells (cn .u32 h).toArray 31)) 31 (List.replicate 8 0)
      simpa using this, ((Below.refl _ _).alloc (Nat.le_refl _) _).alloc (by simp) _, by simp⟩
  change Code.wp _ _ _ _ ((w.alloc (.cells (cn .u32 h).toArray 31)).alloc (.cells (cn .u32 (List.replicate 8 0)).toArray 31))
  generalize (w.alloc (.cells (cn .u32 h).toArray 31)).alloc (.cells (cn .u32 (List.replicate 8 0)).toArray 31) = w4 at h4 ⊢
  go_loopw [5] (fun i wr => MaR w h m i wr) (fun i _ => n - (intOf i).toNat)
  case atStart => exact ⟨0, 0, rfl, Nat.zero_le _, rfl, h4⟩
  case round =>
    clear h4
    obtain ⟨t, q, hq, hqm, rfl, hM⟩ := hrel
    have hqn : q ≤ n := by have := HML.out; omega
    have hHl : (hB K64 h m t).length = 8 := hB_len _ _ _ HH.out t
    by_cases hlt : q + 64 ≤ n
    · obtain ⟨ab, ao, rfl, hab, _⟩ := HA.out.pos (by have := HML.out; omega)
      obtain ⟨P, hP⟩ : ∃ P, P = (m.drop q).take 64 := ⟨_, rfl⟩
      have hPl : P.length = 64 := by rw [hP]; simp; have := HML.out; omega
      have hPb : ∀ x ∈ P, x < 256 := by rw [hP]; exact fun x hx => HM.out x (List.mem_of_mem_drop (List.mem_of_mem_take hx))
      have hMd := hM.drew
      have hAd : At .u8 wr.drew wr.drew.heap.size (some ⟨ab, ao + q, none⟩) P := by rw [hP]; exact HA.out.part hMd.bl (Nat.le_refl _)
      have HCC := Lib.hid (mix_any (hB K64 h m t) P (some ⟨ab, ao + q, none⟩) (c - q) wr.drew hAd hPb hPl hHl (hB_wd _ _ _ HWH.out t) (HT.out.below hMd.bl))
      have HP := Lib.hid hP
      have HQ := Lib.hid hq
      have LD := Lib.hid (load8 hMd.bh hHl)
      have HMD := Lib.hid hMd
      have HHL := Lib.hid hHl
      obtain ⟨q2, hq2⟩ : ∃ q2, q2 = q + 64 := ⟨_, rfl⟩
      have w64 : IntKind.i64.wrap ((q : Int) + 64) = (q2 : Int) := by rw [IntWalk.i64_in _ (by omega)]; omega
      have l0 : (q : Int) + 64 ≤ (n : Int) := by omega
      have l1 : q ≤ q2 := by omega
      have l2 : q2 ≤ c := by omega
      have e64 : q2 - q = 64 := by omega
      have l4 : (q : Int) ≤ (q2 : Int) := by omega
      have l5 : (q2 : Int) ≤ (c : Int) := by omega
      have l3 : ¬ c = q := by omega
      clear hq2 hP hPl hPb hMd hAd hq hM hHl
      go_wp2
      refine wp_region_still_tail 6 (by kernel_rfl) (by kernel_rfl) ?_
      simp only [List.take_succ_cons, List.take_zero, List.drop_succ_cons, List.drop_zero]
      refine wpStill_load rfl 31 _ rfl w.heap.size rfl _ LD.out ?_
      repeat still_step
      refine wpStill_nil ?_
      change wpList _ _ _ _ _ wr.drew
      go_wp2_with fail
      with_reducible refine (HCC.out).mono ?_
      rintro e w6 ⟨rfl, hb6⟩
      have hM6 := Lib.hid (HMD.out.call hb6)
      clear HMD HCC LD hb6
      go_wp2_with (first | (refine wpList_store_row rfl 31 (.tmp 2) (.tmp 19) rfl w.heap.size (cn .u32 (blk K64 (hB K64 h m t) P)).toArray rfl rfl 31 _ hM6.out.bh (by rw [size8]; simp [cn, blk_len, HHL.out]) (by simp [cn, HHL.out, blk_len]) (cn_all _ _) ?_))
      go_roundw
      case rel =>
        refine ⟨t + 1, q + 64, by have := HQ.out; omega, by have := HML.out; omega, by go_num, ?_⟩
        rw [hB_succ, ← HQ.out, ← HP.out]
        exact hM6.out.row _
      case measure => simp [intOf]; omega
    · obtain rfl : q = n := by have := H64.out; omega
      have ht : q / 64 = t := by omega
      have l0 : (q : Int) < (q : Int) + 64 := by omega
      obtain ⟨H, hH⟩ : ∃ H, H = hB K64 h m t := ⟨_, rfl⟩
      rw [← hH] at hM hHl
      have HE : Hid (hB K64 h m (q / 64) = H) := Lib.hid (by rw [ht, hH])
      have HHL := Lib.hid hHl
      have HMD := Lib.hid hM
      clear hH hM ht hq hHl
      go_wp2_with (first
        | (refine wpList_load_row rfl 31 (.tmp 2) rfl w.heap.size rfl 31 _ (0, 0) _ HMD.out.bh Tryd.underlying31 rfl (by rw [size8]; simp [cn, HHL.out]) ?_)
        | (refine wpList_store_row rfl 31 (.tmp 4) (.tmp 20) rfl (w.heap.size + 1) (cn .u32 H).toArray rfl rfl 31 _ HMD.out.br (by rw [size8]; simp [cn, HHL.out]) (by simp [cn, HHL.out]) (cn_all _ _) ?_))
      refine bodyPost_ret (results_cell_row Tryd.results15 _ _ (w.heap.size + 1) 31 _ (0, 0) _ rfl (HMD.out.br.setRow H) Tryd.underlying31 rfl (by rw [size8]; simp [cn, HHL.out])) rfl ⟨?_, below_setRow HMD.out.bl (by omega) _⟩
      rw [HE.out]
end Go.Proofs.YthaecckneblecaaDoor
