/- The landed part's Settings. -/
import Derived.Test.YtelbldhnlmggiaaPLMake
namespace Go.Proofs.Ytelbldhnlmggiaa
open Go.RowKit Fr

theorem setsB_app : ∀ a b : List (Int × Int), setsB (a ++ b) = setsB a ++ setsB b
  | [], b => rfl
  | s :: r, b => by simp only [List.cons_append, setsB, setsB_app r b, List.append_assoc]
/-- Behind k settings. -/
def SeR (w1 : World) (g : Nat) (l : List (Int × Int)) (v i : Value) (wr : World) : Prop :=
  ∃ k, k ≤ l.length ∧ i = .int .i64 (k : Int) ∧ wr.ownsRow (g + 1) 5 1 v (6 * k) (cn .u8 (setsB (l.take k))) ∧ Below (g + 1) w1 wr ∧ g + 1 ≤ wr.heap.size
set_option maxRecDepth 100000 in
set_option maxHeartbeats 8000000 in
theorem psettings_f (A : Option Addr) (l : List (Int × Int)) (n c : Nat) (w : World) (hA : AtS w w.heap.size A l) (hl : l.length = n) (hs : ∀ s ∈ l, setOk s) (hn : n ≤ 200) : Calls Try.prog 12 #[.slice A n c, .bool false] w (FrPost w ⟨4, 0, 0, setsB l⟩) := by
  obtain ⟨w1, hw1⟩ : ∃ w1, w1 = w.alloc (.cells #[.int .i64 0, .int .i64 0, .int .i64 0, .slice none 0 0] 34) := ⟨_, rfl⟩
  obtain ⟨g, hg⟩ : ∃ g, g = w.heap.size := ⟨_, rfl⟩
  obtain ⟨T1, hb1, hs1⟩ := fzero w
  rw [← hw1, ← hg] at T1
  rw [← hw1] at hb1 hs1
  rw [← hg] at hs1
  have HW := Lib.hid hw1
  have HG := Lib.hid hg
  have HT := Lib.hid T1
  have HB1 := Lib.hid hb1
  have HS1 := Lib.hid hs1
  have HA := Lib.hid hA
  have HL := Lib.hid hl
  have HS := Lib.hid hs
  have HNN := Lib.hid hn
  obtain ⟨q, hq⟩ : ∃ q, q = 6 * n := ⟨_, rfl⟩
  have eq : (6 : Int) * (n : Int) = (q : Int) := by omega
  have wq : IntKind.i64.wrap (q : Int) = (q : Int) := i64_ofNat q (by omega)
  have HQ : Hid (q ≤ 2000) := Lib.hid (by omega)
  obtain ⟨i0, hi0, hz0, hz1, hz2⟩ := info_parts infoU8
  have HI := Lib.hid (And.intro hi0 (And.intro hz0 (And.intro hz1 hz2)))
  clear hw1 hg T1 hb1 hs1 hA hl hs hn hq hi0 hz0 hz1 hz2
  go_enter Try.func12, Try.ntmps12
  go_upto_region 1 with fail
  rw [← HW.out, ← HG.out]
  go_wp2_with (first
    | (at_make; refine wpList_make_own _ rfl _ _ 25 rfl (g + 1) 5 i0 _ 1 Try.underlying25 HI.out.1 HI.out.2.1 HI.out.2.2.1 _ _ _ q rfl rfl rfl (by have := HI.out.2.2.2; have := HQ.out; rw [HI.out.2.2.2]; omega) (by have := HQ.out; unfold maxLen; omega) (by have := HS1.out; omega) ?_
       intro w2 hown2 hg2
       have hb2 : Below (g + 1) w1 w2 := (Below.refl _ _).grown hg2 (by have := HS1.out; omega) (by simp)))
  have hsz2 : g + 1 ≤ w2.heap.size := by have := hb2.size; have := HS1.out; omega
  go_loopw [5, 14] (fun v i wr => SeR w1 g l v i wr) (fun _ i _ => n - (intOf i).toNat)
  case atStart =>
    refine ⟨0, Nat.zero_le _, rfl, ?_, hb2, hsz2⟩
    simpa [setsB, cn] using hown2
  case round =>
    obtain ⟨k, hk, rfl, hown, hbw, hszw⟩ := hrel
    clear hown2 hg2 hb2 hsz2
    by_cases hlt : k < n
    · have hkl : k < l.length := by have := HL.out; omega
      obtain ⟨b, o, rfl, hb, hc⟩ := HA.out.pos (by omega)
      obtain ⟨f, hf⟩ : ∃ f, f = l[k] := ⟨_, rfl⟩
      obtain ⟨c0, c1⟩ := hc k hkl
      rw [← hf] at c0 c1
      have hok : setOk f := by rw [hf]; exact HS.out _ (List.getElem_mem hkl)
      obtain ⟨fa, fb⟩ := f
      obtain ⟨X, rfl⟩ : ∃ X : Nat, fa = (X : Int) := ⟨fa.toNat, by have := hok.1; simp only [] at this; omega⟩
      obtain ⟨Y, rfl⟩ : ∃ Y : Nat, fb = (Y : Int) := ⟨fb.toNat, by have := hok.2.2.1; simp only [] at this; omega⟩
      simp only [] at c0 c1
      have hbb : Below w.heap.size w wr := HB1.out.trans (hbw.mono (by have := HG.out; omega))
      have d0 : wr.cell? ⟨b, o + k * 2, none⟩ = some (.int .i64 (X : Int)) := (hbb.cell (p := ⟨b, o + k * 2, none⟩) hb).trans c0
      have d1 : wr.cell? ⟨b, o + k * 2 + 1, none⟩ = some (.int .i64 (Y : Int)) := (hbb.cell (p := ⟨b, o + k * 2 + 1, none⟩) hb).trans c1
      have HNX : Hid (setsB (l.take (k + 1)) = setsB (l.take k) ++ num X 2 ++ num Y 4) := Lib.hid (by
        rw [take_succ l k hkl, ← hf, setsB_app, setsB, setsB, List.append_nil, Int.toNat_natCast, Int.toNat_natCast, List.append_assoc])
      have hX : X ≤ 65535 := by have := hok.2.1; simp only [] at this; omega
      obtain ⟨P1, hP1⟩ : ∃ P, P = X / 256 := ⟨_, rfl⟩
      obtain ⟨X1, hX1⟩ : ∃ x, x = P1 % 256 := ⟨_, rfl⟩
      obtain ⟨X0, hX0⟩ : ∃ x, x = X % 256 := ⟨_, rfl⟩
      have r1 : (X : Int) / 2 ^ 8 = (P1 : Int) := by rw [hP1]; simp
      have r1' : (X : Int) / 256 = (P1 : Int) := by rw [hP1]; simp
      have v1 : IntKind.u8.wrap (P1 : Int) = (X1 : Int) := by rw [u8_lowP, hX1]
      have v0 : IntKind.u8.wrap (X : Int) = (X0 : Int) := by rw [u8_lowP, hX0]
      have HN2 : Hid (num X 2 = [X1, X0]) := Lib.hid (by
        rw [hX1, hX0, hP1]
        simp [num])
      have ki : (k : Int) < (n : Int) := by omega
      have HBW := Lib.hid hbw
      have HSZ := Lib.hid hszw
      have hlk : (setsB (l.take k)).length = 6 * k := by rw [setsB_len, List.length_take]; omega
      have HLK := Lib.hid hlk
      obtain ⟨L0, hL0⟩ : ∃ L0, L0 = setsB (l.take k) := ⟨_, rfl⟩
      rw [← hL0] at HNX hown HLK
      obtain ⟨Av, cv, rfl⟩ := own_shape hown
      have HOWN := Lib.hid hown
      have HK : Hid (k < n) := Lib.hid hlt
      have hat := At.new (k := .u8) (wr.alloc (.cells #[.int .i64 (X : Int), .int .i64 (Y : Int)] 37)) [X1, X0] 5 (0, 0)
      rw [show (wr.alloc (.cells #[.int .i64 (X : Int), .int .i64 (Y : Int)] 37)).heap.size = wr.heap.size + 1 by simp] at hat
      have HAT := Lib.hid hat
      clear hat hc hkl hf c0 c1 hok hbb hX hP1 hX1 hX0 hown hlk hL0 hbw hszw hlt hk
      go_wp2_with (first
        | (at_builtin; refine wpList_append_at rfl (.tmp 18) (.tmp 26) rfl (g + 1) _ L0 rfl (by rw [HLK.out]; exact (HOWN.out.alloc _).alloc _) (some ⟨wr.heap.size + 1, 0, none⟩) [X1, X0] _ 2 rfl rfl (fun h => by cases h) _ HAT.out (by have := HLK.out; have := HK.out; have := HNN.out; simp; omega) (by have := HSZ.out; simp; omega) ?_
           intro v5 w5 hown5 hg5
           have hbk : ∀ j, (Value.slice Av (6 * k) cv).ownBlock = some j → j < wr.heap.size := fun j hj => (HOWN.out.lt j hj).2
           have d3 : w5.cell? ⟨wr.heap.size, 1, none⟩ = some (.int .i64 (Y : Int)) := by
             refine hg5.cell (a := ⟨wr.heap.size, 1, none⟩) ?_ (fun e => by have := hbk _ e.symm; simp only [] at this; omega)
             exact (((Below.refl _ _).alloc (Nat.le_refl _) _).cell (w := wr.alloc (.cells #[.int .i64 (X : Int), .int .i64 (Y : Int)] 37)) (p := ⟨wr.heap.size, 1, none⟩) (by simp)).trans (cell_of_row _ wr.heap.size 1 _ 37 _ (heap_alloc_new wr _))
           have hb5 : Below (g + 1) wr w5 := (((Below.refl (g + 1) wr).alloc HSZ.out _).alloc (by have := HSZ.out; simp; omega) _).grown hg5 (by have := HSZ.out; simp; omega) (own_block HOWN.out)))
      have hsz5 : g + 1 ≤ w5.heap.size := by have := hb5.size; have := HSZ.out; omega
      with_reducible refine (pput_any (g + 1) (L0 ++ [X1, X0]) v5 (6 * k + 2) Y w5 hsz5 (by have := HLK.out; simp; omega) (by have h := hown5; rw [show (L0 ++ [X1, X0]).length = 6 * k + 2 by have := HLK.out; simp; omega] at h; exact h) (by have := HK.out; have := HNN.out; omega)).mono ?_
      rintro e w6 ⟨v6, rfl, hown6, hb6⟩
      have HROW : Hid (SeR w1 g l v6 (.int .i64 ((k : Int) + 1)) w6) := Lib.hid ⟨k + 1, by have := HL.out; have := HK.out; omega, by rw [show ((k + 1 : Nat) : Int) = (k : Int) + 1 by omega], by rw [HNX.out, HN2.out]; exact hown6, (HBW.out.trans hb5).trans hb6, by have := hb6.size; omega⟩
      have wk1 : IntKind.i64.wrap ((k : Int) + 1) = (k : Int) + 1 := by
        have := i64_ofNat (k + 1) (by have := HK.out; have := HNN.out; omega)
        rwa [show ((k + 1 : Nat) : Int) = (k : Int) + 1 by omega] at this
      have HKN := Lib.hid (show n - (k + 1) < n - k by have := HK.out; omega)
      clear hown6 hb6 hown5 hg5 hbk d3 hb5 hsz5 d0 d1
      go_wp2
      go_roundw
      case rel => exact HROW.out
      case measure => simp [intOf]; have := HKN.out; omega
    · obtain rfl : k = n := by have := HL.out; omega
      have e : l.take k = l := List.take_of_length_le (by have := HL.out; omega)
      rw [e] at hown
      obtain ⟨Ax, cx, rfl⟩ := own_shape hown
      have ki : ¬ (k : Int) < (k : Int) := by omega
      have TT := (hbw.block g (by have := HS1.out; omega)).trans HT.out
      have r0 : wr.cell? ⟨g, 0, none⟩ = some (.int .i64 0) := cell_of_row _ g 0 _ 34 _ TT
      have f0 : wr.frozen? ⟨g, 0, none⟩ = false := frozen_of_row _ g 0 _ 34 TT
      have r1 : wr.cell? ⟨g, 1, none⟩ = some (.int .i64 0) := cell_of_row _ g 1 _ 34 _ TT
      have f1 : wr.frozen? ⟨g, 1, none⟩ = false := frozen_of_row _ g 1 _ 34 TT
      have r2 : wr.cell? ⟨g, 2, none⟩ = some (.int .i64 0) := cell_of_row _ g 2 _ 34 _ TT
      have f2 : wr.frozen? ⟨g, 2, none⟩ = false := frozen_of_row _ g 2 _ 34 TT
      have r3 : wr.cell? ⟨g, 3, none⟩ = some (.slice none 0 0) := cell_of_row _ g 3 _ 34 _ TT
      have f3 : wr.frozen? ⟨g, 3, none⟩ = false := frozen_of_row _ g 3 _ 34 TT
      have HN : Hid (FrPost w ⟨4, 0, 0, setsB l⟩ (.returned (.agg #[.int .i64 4, .int .i64 0, .int .i64 0, .slice Ax (6 * k) cx])) (stf wr g (.int .i64 4) (.int .i64 0) (.int .i64 0) (.slice Ax (6 * k) cx))) := Lib.hid (by
        have h := made_of (w := w) (f := ⟨4, 0, 0, setsB l⟩) (B := g + 1) HG.out (HB1.out.trans (hbw.mono (by have := HG.out; omega))) (by omega) (by simp only []; rw [setsB_len]; have := HL.out; omega) hown (.int .i64 4) (.int .i64 0) (.int .i64 0) (.slice Ax (6 * k) cx)
        have e2 : (setsB l).length = 6 * k := by rw [setsB_len]; have := HL.out; omega
        rw [frm, e2] at h
        exact h)
      have HPK : Hid (∀ W, Calls Try.prog 27 #[.bool false] W fun e w' => e = .returned (.int .i64 0) ∧ w' = W) := Lib.hid (fun W => packed_any false W)
      clear TT hown hbw hszw e
      go_wp2_with fail
      with_reducible refine (HPK.out _).mono ?_
      rintro e w6 ⟨rfl, rfl⟩
      go_wp2
      refine bodyPost_ret (v := .agg #[.int .i64 4, .int .i64 0, .int .i64 0, .slice Ax (6 * k) cx]) (by simp [results, Try.results12, go_sem, r0, r1, r2, r3]) rfl HN.out
end Go.Proofs.Ytelbldhnlmggiaa
