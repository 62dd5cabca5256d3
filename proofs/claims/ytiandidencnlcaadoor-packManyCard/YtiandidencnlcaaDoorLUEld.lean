/- read, at its label 5: a field. -/
import Derived.Test.YtiandidencnlcaaDoorLUBase
import Derived.Test.YtiandidencnlcaaDoorLURead2
import Derived.Test.YtiandidencnlcaaDoorLURead4
import Derived.Test.YtiandidencnlcaaDoorLDFind
import Derived.Test.YtiandidencnlcaaDoorLDAdd
import Derived.Test.YtiandidencnlcaaDoorUObj
import Derived.Test.YtiandidencnlcaaDoorLRowF
namespace Go.Proofs.YtiandidencnlcaaDoor
open Go.RowKit
set_option maxRecDepth 100000 in
set_option maxHeartbeats 8000000 in
theorem read_5 (w : World) (St : Nat → Prop) (p t g : Nat) (b : List Nat) (room : Int) (D : Blk) (E : REnv w St p t g b) : Passes w St p t g b room D 5 := by
  intro a wr hJ
  obtain ⟨x8, x10, x11, x14, A, n, c, T, ok, ⟨u, rfl⟩, hok, hno⟩ := hJ
  refine ⟨_, rfl, ?_⟩
  cases ok with
  | false =>
    obtain ⟨m, m3, L, L3, v, r, fd, HD, hD⟩ := hno rfl
    have hZZ := Lib.hid (hD.bad (m3 := m3) (L3 := L3))
    have HDD := Lib.hid HD
    clear hD HD hok hno
    go_wp2
    simp only [jumpsTo]
    go_ret2
    rw [HDD.out]
    exact hZZ.out
  | true =>
    obtain ⟨k, lims, f, m, out, r, L, fd, hRs, hk, hl, hT, hol, htk, hfd, hf, hgo, hr, hD⟩ := hok rfl
    obtain ⟨_, _, _, h3, h4, _, h6, _, h8, _⟩ := id hD
    obtain ⟨A8, c8, hv8, _, _⟩ := rowF_shape h4
    subst hv8
    obtain ⟨X, Y, Z⟩ := fd
    simp only [] at h6
    have hfs := hfd
    unfold fsize at hfs
    simp only [] at hfs
    obtain ⟨z, hz⟩ : ∃ z, z = fsize ⟨X, Y, Z⟩ := ⟨_, rfl⟩
    have hsz := ssize_f ⟨X, Y, Z⟩ wr (E.rdy.keep h3 E.free) ⟨by simp only []; omega, by simp only []; omega⟩
    rw [← hz] at hsz
    replace hsz := Lib.hid hsz
    have hzb : z ≤ 40000 := by omega
    have HZP : Hid (0 < z) := Lib.hid (by rw [hz]; unfold fsize; omega)
    have HTN : Hid (tot (out ++ [⟨X, Y, Z⟩]) = T + z) := Lib.hid (by rw [tot_app, hT, hz]; simp [tot])
    obtain ⟨T2, hT2⟩ : ∃ T2, T2 = T + z := ⟨_, rfl⟩
    have eT2 : (T : Int) + (z : Int) = (T2 : Int) := by omega
    have hlen := E.len
    have hT2b : T2 ≤ 40000 * 100000 := by omega
    have HT2b : Hid (T2 ≤ 40000 * k) := Lib.hid (by omega)
    rw [← hT2] at HTN
    have HT2 := Lib.hid hT2
    have y0 : wr.cell? ⟨g, 0, none⟩ = some (.string X) := cell_of_row _ g 0 _ 52 _ h6
    have y1 : wr.cell? ⟨g, 1, none⟩ = some (.string Y) := cell_of_row _ g 1 _ 52 _ h6
    have y2 : wr.cell? ⟨g, 2, none⟩ = some (.bool Z) := cell_of_row _ g 2 _ 52 _ h6
    have HCELL := Lib.hid (fun (w' : World) (hb : Below wr.heap.size wr w') => (hb.block g (lt_of_heap h6)).trans h6)
    have HGO := Lib.hid hgo
    have HRR := Lib.hid hr
    have HD := Lib.hid hD
    have HRS := Lib.hid hRs
    have HK := Lib.hid hk
    have HOL := Lib.hid hol
    have HF := Lib.hid hf
    clear hz hT2 hfs hfd hT htk hD hgo hr hRs h3 h4 h6 h8 hok hno hk hol hf
    go_wp2_with fail
    with_reducible refine (hsz.out).mono ?_
    rintro e w1 ⟨rfl, hb1⟩
    have hD1 := HD.out.quiet hb1
    have hh1 := HCELL.out w1 hb1
    have z0 : w1.cell? ⟨g, 0, none⟩ = some (.string X) := cell_of_row _ g 0 _ 52 _ hh1
    have z1 : w1.cell? ⟨g, 1, none⟩ = some (.string Y) := cell_of_row _ g 1 _ 52 _ hh1
    have z2 : w1.cell? ⟨g, 2, none⟩ = some (.bool Z) := cell_of_row _ g 2 _ 52 _ hh1
    have HD1 := Lib.hid hD1
    clear hh1 hb1 HCELL hsz y0 y1 y2 hD1
    by_cases hin : (T2 : Int) ≤ room
    · have p1 : decide ((T2 : Int) ≤ room) = true := decide_eq_true hin
      have hrr := HRR.out (by omega)
      subst hrr
      obtain ⟨_, _, _, g3, g4, _⟩ := id HD1.out
      have H4 := Lib.hid g4
      have H3 := Lib.hid g3.size
      have HAT : Hid (AtF (w1.alloc (.cells #[.string X, .string Y, .bool Z] 52)) (w1.alloc (.cells #[.string X, .string Y, .bool Z] 52)).heap.size (some ⟨w1.heap.size, 0, none⟩) [⟨X, Y, Z⟩]) := Lib.hid (fun _ => by
        refine ⟨w1.heap.size, 0, rfl, by simp, fun i hi => ?_⟩
        have hi0 : i = 0 := by simpa using hi
        subst hi0
        exact ⟨cell_of_row _ w1.heap.size 0 _ 52 _ (heap_alloc_new w1 _), cell_of_row _ w1.heap.size 1 _ 52 _ (heap_alloc_new w1 _), cell_of_row _ w1.heap.size 2 _ 52 _ (heap_alloc_new w1 _)⟩)
      have hrl : r.length < 100000 := by have := HOL.out; have := HK.out; omega
      clear g3 g4
      go_wp2_with (at_builtin; refine wpList_append_Fw rfl (.tmp 99) (.tmp 101) rfl w.heap.size _ r.length r rfl (H4.out.alloc _) ⟨w1.heap.size, 0, none⟩ [⟨X, Y, Z⟩] 1 1 rfl rfl _ HAT.out ?_ ?_ ?_; (rotate_right; intro v9 w9 hown9 hg9 hwh9))
      · have HDZ := Lib.hid (HD1.out.grown hg9 hown9 hwh9)
        clear hg9 hown9 hwh9 z0 z1 z2
        go_wp2
        go_step3
        refine ⟨⟨_, _, _, _, A, n, c, T2, 0, k, RFr.mk, lims, f, m, r ++ [⟨X, Y, Z⟩], r ++ [⟨X, Y, Z⟩], L, ⟨X, Y, Z⟩, HRS.out, HK.out, hl, ?_, HTN.out.symm, by have := HOL.out; simp; omega, by rw [HTN.out]; exact HT2b.out, HF.out, HGO.out, fun _ => rfl, HDZ.out⟩, by simp [Rμ, lenOf, okOf]⟩
        rw [limsLeft, HTN.out, if_neg (by have := HZP.out; have := HT2.out; omega)]
      all_goals first | omega | (have := H3.out; simp; omega) | simp
    · have p1 : decide ((T2 : Int) ≤ room) = false := decide_eq_false hin
      go_wp2
      go_step3
      refine ⟨⟨_, _, _, _, A, n, c, T2, 0, k, RFr.mk, lims, f, m, out ++ [⟨X, Y, Z⟩], r, L, ⟨X, Y, Z⟩, HRS.out, HK.out, hl, ?_, HTN.out.symm, by have := HOL.out; simp; omega, by rw [HTN.out]; exact HT2b.out, HF.out, HGO.out, fun h => absurd h (by omega), HD1.out⟩, by simp [Rμ, lenOf, okOf]⟩
      rw [limsLeft, HTN.out, if_neg (by have := HZP.out; have := HT2.out; omega)]
end Go.Proofs.YtiandidencnlcaaDoor
/- The landed read. -/
namespace Go.Proofs.YtiandidencnlcaaDoor
open Go.RowKit
theorem read_pass (w : World) (St : Nat → Prop) (p t g : Nat) (b : List Nat) (room : Int) (D : Blk) (E : REnv w St p t g b) (l : Nat) : Passes w St p t g b room D l := by
  match l with
  | 0 => exact read_0 w St p t g b room D E
  | 1 =>
    intro a wr hJ
    obtain ⟨rest, hf, hp⟩ := read_1 w St p t g b room D E a wr hJ
    exact ⟨_, hf, wp_seq (wp_skip hp)⟩
  | 2 => exact read_2 w St p t g b room D E
  | 3 => exact read_3 w St p t g b room D E
  | 4 => exact read_4 w St p t g b room D E
  | 5 => exact read_5 w St p t g b room D E
  | n + 6 => exact fun a wr hJ => absurd hJ (by simp [RJ])
set_option maxRecDepth 100000 in
set_option maxHeartbeats 4000000 in
theorem uread_f (A : Option Addr) (b : List Nat) (n c : Nat) (room : Int) (w : World) (St : Nat → Prop) (p t m : Nat) (L : List Fld) (E : REnv w St p t w.heap.size b) (hT : DT w St t m L) (hnf : NoNev L) (hA : At .u8 w w.heap.size A b) (hl : b.length = n) (hA0 : A = none → c = 0) (hnc : n ≤ c) (hAS : b ≠ [] → ∀ a, A = some a → ¬ St a.block) :
    Calls Tryd.prog 40 #[.pointer (some ⟨p, 0, none⟩), .slice A n c, .int .i64 room] w (RdPost w St t (udec b room false m L)) := by
  obtain ⟨D, hD⟩ : ∃ D, D = udec b room false m L := ⟨_, rfl⟩
  rw [← hD]
  obtain ⟨g, hg⟩ : ∃ g, g = w.heap.size := ⟨_, rfl⟩
  rw [← hg] at E
  have HPASS := Lib.hid (read_pass w St p t g b room D E)
  have HP1 := Lib.hid (read_1 w St p t g b room D E)
  have HRC : Hid (RC w St t g b room D A n c (.slice none 0 0) 0 2 0 (w.alloc (.cells #[.string ⟨#[]⟩, .string ⟨#[]⟩, .bool false] 52))) := Lib.hid (by
    have hb : Below w.heap.size w (w.alloc (.cells #[.string ⟨#[]⟩, .string ⟨#[]⟩, .bool false] 52)) := (Below.refl _ _).alloc (Nat.le_refl _) _
    refine ⟨0, b.length + 1, m, [], [], L, ⟨⟨#[]⟩, ⟨#[]⟩, false⟩, ⟨fun W hK => ?_, by omega, hnc, hA0⟩, Nat.zero_le _, by omega, rfl, rfl, Nat.le_refl _, by simp [tot], by omega, by rw [hD]; rfl, fun _ => rfl, St, hT.keep (S' := fun _ => False) (Keeps.of_below hb) (fun _ _ h => h), fun _ h => .inl h, Keeps.of_below hb, World.ownsRow_nil _ _ _ _, fun j hj => (by cases hj), (by rw [hg]; exact heap_alloc_new w _), fun hx => ?_, by omega, hnf⟩
    · rw [List.drop_zero]
      intro hne
      obtain ⟨bk, o, rfl, hbk, hc⟩ := hA hne
      refine ⟨bk, o, rfl, Nat.lt_of_lt_of_le hbk hK.size, fun i hi => ?_⟩
      exact (hK.cell (p := ⟨bk, o + i, none⟩) hbk (hAS hne ⟨bk, o, none⟩ rfl)).trans (hc i hi)
    · have := hT.low g hx
      omega)
  clear hD hT hnf hA hl hA0 hnc hAS E
  go_enter Tryd.func40, Tryd.ntmps40
  go_wp2
  refine wp_scope_many (RJ w St p t g b room D) Rμ ?_ (fun l a wr h => HPASS.out l a wr h)
  go_wp2
  rw [← hg]
  clear hg
  go_step3
  rename_i hK
  refine hK _ _ ?_
  obtain ⟨rest, hf, hp⟩ := HP1.out _ _ ⟨_, _, _, _, A, n, c, 0, 2, 0, RFr.mk, HRC.out⟩
  refine Code.wp_mono (jumpsTo_mono (fun l a w h => h.1)) (wp_of_label hf rfl hp)
end Go.Proofs.YtiandidencnlcaaDoor
/- The landed eldestFirst and refill: the table's fields taken out, and laid in again. -/
namespace Go.Proofs.YtiandidencnlcaaDoor
open Go.RowKit

def ErR (w : World) (L : List Fld) (v i : Value) (wr : World) : Prop := ∃ (k : Nat) (r : List Fld), k + r.length = L.length ∧ i = .int .i64 (k : Int) ∧ wr.ownsRow w.heap.size 52 3 v r.length (cF r) ∧ (∀ f ∈ r, fsize f ≤ 4096) ∧ Below w.heap.size w wr
/-- Some fields in new memory, none of them great. -/
def ElPost (w : World) (e : Ending) (w' : World) : Prop := ∃ A c r, e = .returned (.slice A r.length c) ∧ AtF w' w'.heap.size A r ∧ (∀ f ∈ r, fsize f ≤ 4096) ∧ r.length ≤ 128 ∧ r.length ≤ c ∧ (A = none → c = 0) ∧ (∀ b o s, A = some ⟨b, o, s⟩ → w.heap.size ≤ b ∧ b < w'.heap.size) ∧ Below w.heap.size w w'
set_option maxRecDepth 100000 in
set_option maxHeartbeats 4000000 in
theorem ueld_f (w : World) (hR : Rdy w) (S : Nat → Prop) (p m : Nat) (L : List Fld) (hT : DT w S p m L) : Calls Tryd.prog 39 #[.pointer (some ⟨p, 0, none⟩)] w (ElPost w) := by
  have hfit := hT.fits
  have htp := tot_pos L
  have hn128 : L.length ≤ 128 := by omega
  obtain ⟨n, hn⟩ : ∃ n, n = L.length := ⟨_, rfl⟩
  have HLEN : Hid (Calls Tryd.prog 23 #[.pointer (some ⟨p, 0, none⟩)] w (NumPost w n)) := Lib.hid (by rw [hn]; exact dlen_f w S p m L hR hT)
  have HGET : Hid (∀ (W : World) (k : Nat), Below w.heap.size w W → 1 ≤ k → k ≤ n → ∃ f : Fld, fsize f ≤ 4096 ∧ Calls Tryd.prog 26 #[.pointer (some ⟨p, 0, none⟩), .int .i64 (k : Int)] W (fun e w' => e = .returned (.tuple #[.agg #[.string f.name, .string f.value, .bool f.never], .bool true]) ∧ Below W.heap.size W w')) := Lib.hid (fun W k hB h1 h2 => by
    have hg := dget_f W S p m L (k : Int) (hR.below hB) (hT.keep (S' := fun _ => False) (Keeps.of_below hB) (fun _ _ h => h)) (by unfold Rng; omega)
    rw [getL, if_pos (by omega)] at hg
    refine ⟨_, ?_, hg⟩
    have hlt : (k : Int).toNat - 1 < L.length := by omega
    rw [List.getD, List.getElem?_eq_getElem hlt]
    have := fld_le (List.getElem_mem hlt)
    simp only [Option.getD_some]
    omega)
  have HN : Hid (n = L.length ∧ n ≤ 128) := Lib.hid ⟨hn, by omega⟩
  clear hT hR hfit htp hn hn128
  go_enter Tryd.func39, Tryd.ntmps39
  go_wp2_with fail
  with_reducible refine (HLEN.out).mono ?_
  rintro e w0 ⟨rfl, hb0⟩
  have HB0 := Lib.hid hb0
  clear hb0 HLEN
  go_wp2
  go_loopw [3, 4] (fun v i wr => ErR w L v i wr) (fun _ i _ => (intOf i).toNat)
  case atStart => exact ⟨n, [], by have := HN.out.1; simpa using this, rfl, World.ownsRow_nil _ _ _ _, fun f hf => by simp at hf, HB0.out⟩
  case round =>
    obtain ⟨k, r, hk, rfl, hown, hr, hbw⟩ := hrel
    obtain ⟨A3, c3, hv3, hc3, hA3⟩ := rowF_shape hown
    subst hv3
    obtain ⟨hn1, hn2⟩ := HN.out
    have hkn : k ≤ n := by omega
    have hrl : r.length ≤ 128 := by omega
    by_cases h0 : 0 < k
    · have ki : (0 : Int) < (k : Int) := by omega
      obtain ⟨f, hf, hget⟩ := HGET.out wr k hbw (by omega) (by omega)
      obtain ⟨X, Y, Z⟩ := f
      simp only [] at hget
      obtain ⟨k1, hk1⟩ : ∃ k1, k1 = k - 1 := ⟨_, rfl⟩
      have ek : (k : Int) - 1 = (k1 : Int) := by omega
      have HK1 := Lib.hid hk1
      have hk1b : k1 ≤ 128 := by omega
      have HGT := Lib.hid hget
      have HF := Lib.hid hf
      have HBW := Lib.hid hbw
      have HOWN := Lib.hid hown
      have HR := Lib.hid hr
      have HK := Lib.hid hk
      have HBB : Hid (w.heap.size ≤ wr.heap.size) := Lib.hid hbw.size
      clear hget hf hown hr hk1 hbw hn1 hn2 hk hkn
      go_wp2_with fail
      with_reducible refine (HGT.out).mono ?_
      rintro e w1 ⟨rfl, hb1⟩
      simp only []
      obtain ⟨w2, hw2⟩ : ∃ w2, w2 = w1.alloc (.cells #[.string X, .string Y, .bool Z] 52) := ⟨_, rfl⟩
      have hb2 : Below w.heap.size w w2 := by
        rw [hw2]
        have := HBW.out.trans (hb1.mono HBW.out.size)
        exact this.alloc this.size _
      have ho2 : w2.ownsRow w.heap.size 52 3 (.slice A3 r.length c3) r.length (cF r) := by rw [hw2]; exact (rowF_keep HOWN.out hb1).alloc _
      have HAT : Hid (AtF (w2.alloc (.cells #[.string X, .string Y, .bool Z] 52)) (w2.alloc (.cells #[.string X, .string Y, .bool Z] 52)).heap.size (some ⟨w2.heap.size, 0, none⟩) [⟨X, Y, Z⟩]) := Lib.hid (fun _ => by
        refine ⟨w2.heap.size, 0, rfl, by simp, fun i hi => ?_⟩
        have hi0 : i = 0 := by simpa using hi
        subst hi0
        exact ⟨cell_of_row _ w2.heap.size 0 _ 52 _ (heap_alloc_new w2 _), cell_of_row _ w2.heap.size 1 _ 52 _ (heap_alloc_new w2 _), cell_of_row _ w2.heap.size 2 _ 52 _ (heap_alloc_new w2 _)⟩)
      rw [hw2] at HAT
      rw [show (w1.alloc (.cells #[.string X, .string Y, .bool Z] 52)).heap.size = w1.heap.size + 1 by simp] at HAT
      have HO2 := Lib.hid ho2
      have HB2 := Lib.hid hb2
      have hsz : w.heap.size ≤ w1.heap.size := Nat.le_trans HBB.out hb1.size
      have HSZ := Lib.hid hsz
      rw [hw2] at HO2 HB2
      clear hb1 hb2 ho2 hw2 hsz HGT HBW HOWN
      go_wp2_with (at_builtin; refine wpList_append_F rfl (.tmp 19) (.tmp 21) rfl w.heap.size _ r rfl (HO2.out.alloc _) (some ⟨w1.heap.size + 1, 0, none⟩) [⟨X, Y, Z⟩] 1 1 rfl rfl (fun h => by cases h) _ HAT.out ?_ ?_ ?_; (rotate_right; intro v9 w9 hown9 hg9))
      · have hb9 := (HB2.out.alloc HB2.out.size _).grown hg9 (by have := HSZ.out; simp; omega) (rowF_block HO2.out)
        have HB9 := Lib.hid hb9
        have HO9 := Lib.hid hown9
        clear hg9 hb9 hown9
        go_wp2
        go_roundw
        case rel => exact ⟨k1, r ++ [⟨X, Y, Z⟩], by have := HK.out; have := HK1.out; simp; omega, by go_num, HO9.out, fun f hf => by
          rcases List.mem_append.1 hf with h | h
          · exact HR.out f h
          · rw [List.mem_singleton.1 h]; exact HF.out, HB9.out⟩
        case measure =>
          have := HK1.out
          simp [intOf]
          omega
      all_goals first | (simp; omega) | (have := HSZ.out; simp; omega) | simp
    · have ki : ¬ (0 : Int) < (k : Int) := by omega
      have HFIN : Hid (ElPost w (.returned (.slice A3 r.length c3)) wr) := Lib.hid ⟨A3, c3, r, rfl, AtF.of_own hown, hr, hrl, hc3, hA3, fun b o s e => by subst e; exact ⟨rowF_block hown b rfl, (hown.lt b rfl).2⟩, hbw⟩
      clear hown hr hbw hk hA3
      go_wp2
      go_ret
      exact HFIN.out
def RlR (w : World) (S : Nat → Prop) (p : Nat) (i : Value) (wr : World) : Prop := ∃ (k m : Nat) (L : List Fld), i = .int .i64 (k : Int) ∧ DPost S w p m L wr ∧ NoNev L
theorem DPost.then {S S1 : Nat → Prop} {w w1 w2 : World} {p m2 : Nat} {l2 : List Fld} (hS : ∀ x, S1 x → S x ∨ w.heap.size ≤ x) (hK : Keeps S w w1) (h : DPost S1 w1 p m2 l2 w2) : DPost S w p m2 l2 w2 := by
  obtain ⟨S2, h1, h2, h3⟩ := h
  refine ⟨S2, h1, fun x hx => ?_, hK.trans h3 (fun x hx hlt => ?_)⟩
  · rcases h2 x hx with h | h
    · exact hS x h
    · exact .inr (Nat.le_trans hK.size h)
  · rcases hS x hx with h | h
    · exact h
    · omega
theorem DPost.quiet {S : Nat → Prop} {w w1 w2 : World} {p m : Nat} {l : List Fld} (h : DPost S w p m l w1) (hb : Below w1.heap.size w1 w2) : DPost S w p m l w2 := by
  obtain ⟨S2, h1, h2, h3⟩ := h
  have hk : Keeps (fun _ => False) w1 w2 := Keeps.of_below hb
  exact ⟨S2, h1.keep hk (fun _ _ h => h), h2, h3.trans hk (fun _ h => h.elim)⟩
set_option maxRecDepth 100000 in
set_option maxHeartbeats 4000000 in
theorem urefill_f (w : World) (hR : Rdy w) (S : Nat → Prop) (hF : Free S) (p m k : Nat) (L : List Fld) (hT : DT w S p m L) (hnf : NoNev L) (hk : k ≤ 4096) (A : Option Addr) (c : Nat) (r : List Fld) (hA : AtF w w.heap.size A r) (hr : ∀ f ∈ r, fsize f ≤ 4096) (hAS : ∀ a, A = some a → ¬ S a.block) (hrl : r.length ≤ 128) :
    Calls Tryd.prog 41 #[.pointer (some ⟨p, 0, none⟩), .int .i64 (k : Int), .slice A r.length c] w (fun e w' => e = .returned (.tuple #[]) ∧ ∃ m2 L2, DPost S w p m2 L2 w' ∧ NoNev L2) := by
  have HL1 : Hid (Calls Tryd.prog 31 #[.pointer (some ⟨p, 0, none⟩), .int .i64 0] w fun e w' => e = .returned (.int .i64 0) ∧ DPost S w p 0 (fitL 0 L) w') := Lib.hid (dlimit_ok w S p m 0 L hR hT (by omega))
  have HL2 : Hid (∀ (W : World) (m1 : Nat) (L1 : List Fld), DPost S w p m1 L1 W → Calls Tryd.prog 31 #[.pointer (some ⟨p, 0, none⟩), .int .i64 (k : Int)] W fun e w' => e = .returned (.int .i64 0) ∧ DPost S w p k (fitL k L1) w') := Lib.hid (fun W m1 L1 hP => by
    obtain ⟨S2, h1, h2, h3⟩ := hP
    refine (dlimit_ok W S2 p m1 k L1 (hR.keep h3 hF) h1 hk).mono ?_
    rintro e w' ⟨rfl, hP⟩
    exact ⟨rfl, hP.then h2 h3⟩)
  have HADD : Hid (∀ (W : World) (m1 : Nat) (L1 : List Fld) (f : Fld), DPost S w p m1 L1 W → fsize f ≤ 4096 → Calls Tryd.prog 53 #[.pointer (some ⟨p, 0, none⟩), .agg #[.string f.name, .string f.value, .bool f.never]] W fun e w' => e = .returned (.tuple #[]) ∧ DPost S w p m1 (addL m1 f L1) w') := Lib.hid (fun W m1 L1 f hP hfs => by
    obtain ⟨S2, h1, h2, h3⟩ := hP
    refine (dadd_f W S2 p m1 L1 f (hR.keep h3 hF) h1 (by omega)).mono ?_
    rintro e w' ⟨rfl, hP⟩
    exact ⟨rfl, hP.then h2 h3⟩)
  obtain ⟨n, hn⟩ : ∃ n, n = r.length := ⟨_, rfl⟩
  rw [← hn] at hrl ⊢
  have HNF := Lib.hid hnf
  have HAT : Hid (∀ (W : World) (m1 i : Nat) (L1 : List Fld), DPost S w p m1 L1 W → i < n → ∃ (f : Fld) (b o : Nat), fsize f ≤ 4096 ∧ A = some ⟨b, o, none⟩ ∧ W.cell? ⟨b, o + i * 3, none⟩ = some (.string f.name) ∧ W.cell? ⟨b, o + i * 3 + 1, none⟩ = some (.string f.value) ∧ W.cell? ⟨b, o + i * 3 + 2, none⟩ = some (.bool f.never)) := Lib.hid (fun W m1 i L1 hP hi => by
    obtain ⟨S2, h1, h2, h3⟩ := hP
    obtain ⟨b, o, e, hb, hc⟩ := hA.pos (by omega)
    have hi2 : i < r.length := by omega
    obtain ⟨c0, c1, c2⟩ := hc i hi2
    have hSb : ¬ S b := hAS _ e
    exact ⟨r[i], b, o, hr _ (List.getElem_mem hi2), e, (h3.cell (p := ⟨b, o + i * 3, none⟩) hb hSb).trans c0, (h3.cell (p := ⟨b, o + i * 3 + 1, none⟩) hb hSb).trans c1, (h3.cell (p := ⟨b, o + i * 3 + 2, none⟩) hb hSb).trans c2⟩)
  clear hT hnf hA hr hAS hR hF hn
  go_enter Tryd.func41, Tryd.ntmps41
  go_wp2_with fail
  with_reducible refine (HL1.out).mono ?_
  rintro e w1 ⟨rfl, hP1⟩
  have HL := Lib.hid (HL2.out w1 0 _ hP1)
  clear HL1 hP1 HL2
  go_wp2_with fail
  with_reducible refine (HL.out).mono ?_
  rintro e w2 ⟨rfl, hP2⟩
  have HP2 := Lib.hid hP2
  clear HL hP2
  go_wp2
  go_loopw [15] (fun i wr => RlR w S p i wr) (fun i _ => n - (intOf i).toNat)
  case atStart => exact ⟨0, k, _, rfl, HP2.out, (HNF.out.fit 0).fit k⟩
  case round =>
    obtain ⟨i, m1, L1, rfl, hP, hnf1⟩ := hrel
    by_cases hlt : i < n
    · have ki : (i : Int) < (n : Int) := by omega
      obtain ⟨⟨X, Y, Z⟩, b, o, hfs, rfl, c0, c1, c2⟩ := HAT.out wr m1 i L1 hP hlt
      simp only [] at c0 c1 c2
      have HC := Lib.hid (HADD.out (wr.alloc (.cells #[.string X, .string Y, .bool Z] 52)) m1 L1 ⟨X, Y, Z⟩ (hP.quiet ((Below.refl _ _).alloc (Nat.le_refl _) _)) hfs)
      have HN1 := Lib.hid (hnf1.add m1 ⟨X, Y, Z⟩)
      clear hP hnf1 hfs
      go_wp2_with fail
      with_reducible refine (HC.out).mono ?_
      rintro e w3 ⟨rfl, hP3⟩
      have HP3 := Lib.hid hP3
      clear hP3 HC c0 c1 c2
      go_wp2
      go_roundw
      case rel => exact ⟨i + 1, m1, _, by go_num, HP3.out, HN1.out⟩
      case measure => simp [intOf]; omega
    · have ki : ¬ (i : Int) < (n : Int) := by omega
      have HF : Hid (∃ m2 L2, DPost S w p m2 L2 wr ∧ NoNev L2) := Lib.hid ⟨m1, L1, hP, hnf1⟩
      clear hP hnf1
      go_wp2
      go_end0
      exact ⟨rfl, HF.out⟩
end Go.Proofs.YtiandidencnlcaaDoor
