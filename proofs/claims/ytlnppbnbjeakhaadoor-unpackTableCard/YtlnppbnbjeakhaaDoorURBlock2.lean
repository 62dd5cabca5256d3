/- Contract of the reference's Decode: the walk. -/
import Derived.Test.YtlnppbnbjeakhaaDoorURBlock
namespace Go.Proofs.YtlnppbnbjeakhaaDoor
open Go.RowKit

def BkR (w : World) (S : Nat → Prop) (p q : Nat) (b : List Nat) (room : Int) (D : Blk) (v t l i : Value) (wr : World) : Prop :=
  ∃ (k lims m f : Nat) (out L : List Fld), k ≤ b.length ∧ lims ≤ 2 ∧ out.length ≤ k ∧ tot out ≤ 40000 * k ∧ i = .int .i64 (k : Int) ∧ l = .int .i64 (lims : Int) ∧ t = .int .i64 ((tot out : Nat) : Int) ∧ b.length - k < f ∧ ugo b room f k lims out m L = D ∧ Dc w S p q m L v out wr
set_option maxRecDepth 100000 in
theorem rudec_dead (A : Option Addr) (b : List Nat) (n c : Nat) (room : Int) (w : World) (S : Nat → Prop) (p q m : Nat) (L : List Fld) (hR : RD w S p q m L true) :
    Calls Tryd.prog 12 #[.pointer (some ⟨p, 0, none⟩), .slice A n c, .int .i64 room] w (BlPost S w p q (udec b room true m L)) := by
  have x1 := hR.cell1
  have HR := Lib.hid hR
  clear hR
  go_enter Tryd.func12, Tryd.ntmps12
  go_wp2
  go_ret2
  exact ⟨S, none, 0, rfl, HR.out, fun _ h => .inl h, Keeps.refl _ _, atF_nil _ _ _, fun _ => rfl, Nat.le_refl _, fun b o s h => by cases h⟩
set_option maxRecDepth 100000 in
set_option maxHeartbeats 8000000 in
theorem rudec_live (A : Option Addr) (b : List Nat) (n c : Nat) (room : Int) (w : World) (S : Nat → Prop) (p q m : Nat) (L : List Fld) (hR : RD w S p q m L false) (hA : At .u8 w w.heap.size A b) (hb : ∀ x ∈ b, x < 256) (hl : b.length = n) (hnc : n ≤ c) (hn : n ≤ 100000) (hAS : b ≠ [] → ∀ a, A = some a → ¬ S a.block) :
    Calls Tryd.prog 12 #[.pointer (some ⟨p, 0, none⟩), .slice A n c, .int .i64 room] w (BlPost S w p q (udec b room false m L)) := by
  obtain ⟨D, hD⟩ : ∃ D, D = udec b room false m L := ⟨_, rfl⟩
  rw [← hD]
  have x1 := hR.cell1
  have hr0 : BkR w S p q b room D (.slice none 0 0) (.int .i64 0) (.int .i64 0) (.int .i64 0) w := ⟨0, 0, m, b.length + 1, [], L, Nat.zero_le _, by omega, Nat.le_refl _, by simp [tot], rfl, rfl, rfl, by omega, by rw [hD]; rfl, ⟨S, hR, fun _ h => .inl h, Keeps.refl _ _, World.ownsRow_nil _ _ _ _, fun j hj => by cases hj⟩⟩
  have HA := Lib.hid fun (W : World) (hK : Keeps S w W) => (show At .u8 W W.heap.size A b from fun hne => by
    obtain ⟨bk, o, rfl, hbk, hc⟩ := hA hne
    refine ⟨bk, o, rfl, Nat.lt_of_lt_of_le hbk hK.size, fun i hi => ?_⟩
    exact (hK.cell (p := ⟨bk, o + i, none⟩) hbk (hAS hne ⟨bk, o, none⟩ rfl)).trans (hc i hi))
  have HB := Lib.hid hb
  have HL := Lib.hid hl
  clear hR hA hb hl hAS hD
  go_enter Tryd.func12, Tryd.ntmps12
  go_wp2
  clear x1
  go_loopw [8, 9, 10, 11, 12, 13, 14, 15] (fun v t l i _ _ _ _ wr => BkR w S p q b room D v t l i wr) (fun _ _ _ i _ _ _ _ _ => n - (intOf i).toNat)
  case atStart => exact hr0
  case round =>
    clear hr0
    obtain ⟨k, lims, m1, f, out, L1, hk, hlims, hok, htk, rfl, rfl, rfl, hf, hgo, hDc⟩ := hrel
    rw [HL.out] at hk hf
    obtain ⟨T, hT⟩ : ∃ T, T = tot out := ⟨_, rfl⟩
    rw [← hT] at htk ⊢
    have HT := Lib.hid hT
    clear hT
    by_cases hlt : k < n
    · have ki : (k : Int) < (n : Int) := by omega
      obtain ⟨f1, rfl⟩ : ∃ f1, f = f1 + 1 := ⟨f - 1, by omega⟩
      obtain ⟨S1, h1, h2, h3, h4, h5⟩ := id hDc
      have hone := rone_any A b n c k wr S1 p q m1 L1 false h1 (HA.out wr h3) HB.out HL.out hnc hn hlt
      have hnx := uone_next b k m1 L1 (by have := HL.out; omega)
      have hsz := uone_size b k m1 L1 (by have := h1.fits; omega)
      have HON := Lib.hid fun (w' : World) (r : Rep) (hP : RDPost S1 wr p q r.most r.tab false w') => Dc.one (out := out) (v := _) h2 h3 h4 h5 hP
      rw [ugo, if_pos (by have := HL.out; omega)] at hgo
      obtain ⟨R, hRe⟩ : ∃ R, R = uone b k m1 L1 := ⟨_, rfl⟩
      rw [← hRe] at hone hnx hsz hgo
      obtain ⟨⟨X, Y, Z⟩, nx, lim, ok, m2, L2⟩ := R
      simp only [] at hnx hsz hgo
      obtain ⟨A8, c8, hv8, _, _⟩ := rowF_shape h4
      subst hv8
      replace hone := Lib.hid hone
      have HGO := Lib.hid hgo
      have HSZ := Lib.hid hsz
      have HNX := Lib.hid hnx
      clear hRe h1 h2 h3 h4 h5 hgo hDc hsz hnx
      go_wp2_with fail
      with_reducible refine (hone.out).mono ?_
      rintro e w1 ⟨rfl, hP⟩
      simp only []
      have hDc1 := HON.out w1 _ hP
      simp only [] at hDc1
      obtain ⟨g, hg⟩ : ∃ g, g = w1.heap.size := ⟨_, rfl⟩
      have hba : Below w1.heap.size w1 (w1.alloc (.cells #[.string X, .string Y, .bool Z] 44)) := (Below.refl _ _).alloc (Nat.le_refl _) _
      have hDc2 := hDc1.quiet hba
      clear hone HON hDc1 hba hg
      cases ok with
      | false =>
        have HDD : Hid (D = ⟨[], 2, true, m2, L2⟩) := Lib.hid (by rw [← HGO.out, if_pos rfl])
        obtain ⟨S2, h1, _⟩ := id hDc2
        obtain ⟨_, hh, _⟩ := h1
        have fz : (w1.alloc (.cells #[.string X, .string Y, .bool Z] 44)).frozen? ⟨p, 1, none⟩ = false := frozen_of_row _ p 1 _ 36 hh
        have cz : (w1.alloc (.cells #[.string X, .string Y, .bool Z] 44)).cell? ⟨p, 1, none⟩ = some (.bool false) := cell_of_row _ p 1 _ 36 _ hh
        have hZZ := hDc2.dead
        clear hh hDc2
        go_wp2
        go_ret2
        rw [HDD.out]
        exact hZZ
      | true =>
        obtain ⟨hn1, hn2⟩ := HNX.out rfl
        rw [HL.out] at hn2
        cases lim with
        | true =>
          by_cases hc0 : T = 0 ∧ lims + 1 ≤ 2
          · have HNEXT : Hid (ugo b room f1 nx (lims + 1) out m2 L2 = D) := Lib.hid (by rw [← HGO.out, if_neg (by simp), if_pos rfl, if_pos (by rw [← HT.out]; exact hc0)])
            obtain ⟨rfl, hl2⟩ := hc0
            have q1 : (lims : Int) + 1 ≤ 2 := by omega
            go_wp2
            go_roundw
            case rel => exact ⟨nx, lims + 1, m2, f1, out, L2, by rw [HL.out]; exact hn2, hl2, by omega, by rw [← HT.out]; omega, rfl, by go_num, by rw [← HT.out], by rw [HL.out]; omega, HNEXT.out, hDc2⟩
            case measure => simp [intOf]; omega
          · have HDD : Hid (D = ⟨[], 2, true, m2, L2⟩) := Lib.hid (by rw [← HGO.out, if_neg (by simp), if_pos rfl, if_neg (by rw [← HT.out]; exact hc0)])
            obtain ⟨S2, h1, _⟩ := id hDc2
            obtain ⟨_, hh, _⟩ := h1
            have fz : (w1.alloc (.cells #[.string X, .string Y, .bool Z] 44)).frozen? ⟨p, 1, none⟩ = false := frozen_of_row _ p 1 _ 36 hh
            have cz : (w1.alloc (.cells #[.string X, .string Y, .bool Z] 44)).cell? ⟨p, 1, none⟩ = some (.bool false) := cell_of_row _ p 1 _ 36 _ hh
            have hZZ := hDc2.dead
            clear hh hDc2
            by_cases hT0 : T = 0
            · have q0 : ((T : Int) == 0) = true := by simp; omega
              have q1 : ¬ (lims : Int) + 1 ≤ 2 := by omega
              have q1d : decide ((lims : Int) + 1 ≤ 2) = false := decide_eq_false q1
              go_wp2
              go_ret2
              rw [HDD.out]
              exact hZZ
            · have q0 : ((T : Int) == 0) = false := by simp; omega
              go_wp2
              go_ret2
              rw [HDD.out]
              exact hZZ
        | false =>
          have HNEXT : Hid (ugo b room f1 nx lims (out ++ [⟨X, Y, Z⟩]) m2 L2 = D) := Lib.hid (by rw [← HGO.out, if_neg (by simp), if_neg (by simp)])
          have hfs := HSZ.out
          unfold fsize at hfs
          simp only [] at hfs
          obtain ⟨z, hz⟩ : ∃ z, z = fsize ⟨X, Y, Z⟩ := ⟨_, rfl⟩
          have hsz := rsize_any ⟨X, Y, Z⟩ (w1.alloc (.cells #[.string X, .string Y, .bool Z] 44)) ⟨by simp only []; omega, by simp only []; omega⟩
          rw [← hz] at hsz
          replace hsz := Lib.hid hsz
          have HZ : Hid (z = fsize ⟨X, Y, Z⟩ ∧ z ≤ 40000) := Lib.hid ⟨hz, by have := HSZ.out; omega⟩
          have HTN : Hid (tot (out ++ [⟨X, Y, Z⟩]) = T + z) := Lib.hid (by rw [tot_app, HT.out, hz]; simp [tot])
          have hzb : z ≤ 40000 := HZ.out.2
          obtain ⟨T2, hT2⟩ : ∃ T2, T2 = T + z := ⟨_, rfl⟩
          have eT2 : (T : Int) + (z : Int) = (T2 : Int) := by omega
          have hT2b : T2 ≤ 40000 * nx := by omega
          rw [← hT2] at HTN
          clear hz hT2 hfs
          go_wp2_with fail
          with_reducible refine (hsz.out).mono ?_
          rintro e w2 ⟨rfl, hb2⟩
          have hDc3 := hDc2.quiet hb2
          obtain ⟨g, hg⟩ : ∃ g, g = w1.heap.size := ⟨_, rfl⟩
          have hh : (w1.alloc (.cells #[.string X, .string Y, .bool Z] 44)).heap[g]? = some (.cells #[.string X, .string Y, .bool Z] 44) := by rw [hg]; exact heap_alloc_new w1 _
          have hgl : g < (w1.alloc (.cells #[.string X, .string Y, .bool Z] 44)).heap.size := by rw [hg]; simp
          have hh2 := (hb2.block g hgl).trans hh
          have y0 : w2.cell? ⟨g, 0, none⟩ = some (.string X) := cell_of_row _ g 0 _ 44 _ hh2
          have y1 : w2.cell? ⟨g, 1, none⟩ = some (.string Y) := cell_of_row _ g 1 _ 44 _ hh2
          have y2 : w2.cell? ⟨g, 2, none⟩ = some (.bool Z) := cell_of_row _ g 2 _ 44 _ hh2
          rw [← hg]
          have HAT : Hid (AtF (w2.alloc (.cells #[.string X, .string Y, .bool Z] 44)) (w2.alloc (.cells #[.string X, .string Y, .bool Z] 44)).heap.size (some ⟨w2.heap.size, 0, none⟩) [⟨X, Y, Z⟩]) := Lib.hid (fun _ => by
            refine ⟨w2.heap.size, 0, rfl, by simp, fun i hi => ?_⟩
            have hi0 : i = 0 := by simpa using hi
            subst hi0
            exact ⟨cell_of_row _ w2.heap.size 0 _ 44 _ (heap_alloc_new w2 _), cell_of_row _ w2.heap.size 1 _ 44 _ (heap_alloc_new w2 _), cell_of_row _ w2.heap.size 2 _ 44 _ (heap_alloc_new w2 _)⟩)
          obtain ⟨_, _, _, h3, h4, _⟩ := id hDc3
          have H4 := Lib.hid h4
          have H3 := Lib.hid h3.size
          have HDC := Lib.hid hDc3
          clear hg hh hgl hh2 hb2 hDc2 hDc3 h3 h4 hsz
          go_wp2_with (at_builtin; refine wpList_append_Fw rfl (.tmp 57) (.tmp 59) rfl w.heap.size _ out.length out rfl (H4.out.alloc _) ⟨w2.heap.size, 0, none⟩ [⟨X, Y, Z⟩] 1 1 rfl rfl _ HAT.out ?_ ?_ ?_; (rotate_right; intro v9 w9 hown9 hg9 hwh9))
          · have hDZ := HDC.out.grown hg9 hown9 hwh9
            clear hg9 hown9 hwh9 y0 y1 y2
            go_wp2
            go_roundw
            case rel => exact ⟨nx, lims, m2, f1, out ++ [⟨X, Y, Z⟩], L2, by rw [HL.out]; exact hn2, hlims, by simp; omega, by rw [HTN.out]; exact hT2b, rfl, rfl, by rw [HTN.out], by rw [HL.out]; omega, HNEXT.out, hDZ⟩
            case measure => simp [intOf]; omega
          all_goals first | omega | (have := H3.out; simp; omega) | simp
    · obtain rfl : k = n := by omega
      have ki : ¬ (k : Int) < (k : Int) := by omega
      obtain ⟨f1, rfl⟩ : ∃ f1, f = f1 + 1 := ⟨f - 1, by omega⟩
      rw [ugo, if_neg (by have := HL.out; omega), ← HT.out] at hgo
      obtain ⟨_, _, _, _, h4, _⟩ := id hDc
      obtain ⟨A8, c8, hv8, _, _⟩ := rowF_shape h4
      subst hv8
      clear h4
      by_cases hroom : room < (T : Int)
      · have HDD : Hid (D = ⟨[], 3, false, m1, L1⟩) := Lib.hid (by rw [← hgo, if_pos hroom])
        have hZZ := hDc.long
        clear hgo hDc
        go_wp2
        go_ret2
        rw [HDD.out]
        exact hZZ
      · have HDD : Hid (D = ⟨out, 0, false, m1, L1⟩) := Lib.hid (by rw [← hgo, if_neg hroom])
        have hZZ := hDc.done
        clear hgo hDc
        go_wp2
        go_ret2
        rw [HDD.out]
        exact hZZ
/-- The reference's Decode. -/
theorem rudec_any (A : Option Addr) (b : List Nat) (n c : Nat) (room : Int) (w : World) (S : Nat → Prop) (p q m : Nat) (L : List Fld) (dead : Bool) (hR : RD w S p q m L dead) (hA : At .u8 w w.heap.size A b) (hb : ∀ x ∈ b, x < 256) (hl : b.length = n) (hnc : n ≤ c) (hn : n ≤ 100000) (hAS : b ≠ [] → ∀ a, A = some a → ¬ S a.block) :
    Calls Tryd.prog 12 #[.pointer (some ⟨p, 0, none⟩), .slice A n c, .int .i64 room] w (BlPost S w p q (udec b room dead m L)) := by
  cases dead with
  | true => exact rudec_dead A b n c room w S p q m L hR
  | false => exact rudec_live A b n c room w S p q m L hR hA hb hl hnc hn hAS
end Go.Proofs.YtlnppbnbjeakhaaDoor
