/- The landed parser: Next. -/
import Derived.Test.YtegcloapadippaaLFNextA
import Derived.Test.YtegcloapadippaaPBits
import Derived.Laws.Bits128
namespace Go.Proofs.Ytegcloapadippaa
open Go.RowKit Fr

theorem val3 (a b c : Nat) : val [a, b, c] = (a * 256 + b) * 256 + c := by simp [val, vals]
theorem val4 (a b c d : Nat) : val [a, b, c, d] = ((a * 256 + b) * 256 + c) * 256 + d := by simp [val, vals]
theorem nine (L : List Nat) (h : 9 ≤ L.length) : ∃ a0 a1 a2 a3 a4 a5 a6 a7 a8 r, L = a0 :: a1 :: a2 :: a3 :: a4 :: a5 :: a6 :: a7 :: a8 :: r := by
  match L, h with
  | a0 :: a1 :: a2 :: a3 :: a4 :: a5 :: a6 :: a7 :: a8 :: r, _ => exact ⟨a0, a1, a2, a3, a4, a5, a6, a7, a8, r, rfl⟩
/-- Behind Next: nothing came. -/
theorem pn_none {w W : World} {S : Nat → Prop} {p r : Nat} {room : Int} {L : List Nat} {err : Nat} (h : PD w S p room L) (hn : next room L = (noFrm, err, L)) (hb : Below w.heap.size w W) (hr : w.heap.size ≤ r) :
    PNPost S w p room (next room L) (.returned (.tuple #[.agg #[.int .i64 0, .int .i64 0, .int .i64 0, .slice none 0 0], .int .i64 (err : Int)])) ((((W.setCell ⟨r, 0, none⟩ (.int .i64 0)).setCell ⟨r, 1, none⟩ (.int .i64 0)).setCell ⟨r, 2, none⟩ (.int .i64 0)).setCell ⟨r, 3, none⟩ (.slice none 0 0)) := by
  have hb2 : Below w.heap.size w ((((W.setCell ⟨r, 0, none⟩ (.int .i64 0)).setCell ⟨r, 1, none⟩ (.int .i64 0)).setCell ⟨r, 2, none⟩ (.int .i64 0)).setCell ⟨r, 3, none⟩ (.slice none 0 0)) := (((hb.setCell (p := ⟨r, 0, none⟩) hr _).setCell (p := ⟨r, 1, none⟩) hr _).setCell (p := ⟨r, 2, none⟩) hr _).setCell (p := ⟨r, 3, none⟩) hr _
  rw [hn]
  exact ⟨S, ⟨none, 0, rfl, at_nil _ _ _ _, fun _ => rfl, Nat.le_refl _, fun b o s e => by cases e⟩, h.quiet hb2, fun x hx => .inl hx, Keeps.of_below hb2⟩
/-- What holds at Next's label. -/
def NJ (w : World) (p r : Nat) (a : Act) (W : World) : Prop := NFr p r a ∧ Below w.heap.size w W ∧ W.heap[r]? = some (.cells #[.int .i64 0, .int .i64 0, .int .i64 0, .slice none 0 0] 30 (0, 0))
/-- Both blocks of a Next at work, r and r + 1: what comes out, the frame. -/
def NB (w : World) (r : Nat) (a b c d : Value) (W : World) : Prop := Below w.heap.size w W ∧ W.heap[r]? = some (.cells #[.int .i64 0, .int .i64 0, .int .i64 0, .slice none 0 0] 30 (0, 0)) ∧ W.heap[r + 1]? = some (.cells #[a, b, c, d] 30 (0, 0))
theorem NB.start (w : World) : NB w w.heap.size (.int .i64 0) (.int .i64 0) (.int .i64 0) (.slice none 0 0) ((w.alloc (.cells #[.int .i64 0, .int .i64 0, .int .i64 0, .slice none 0 0] 30)).alloc (.cells #[.int .i64 0, .int .i64 0, .int .i64 0, .slice none 0 0] 30)) := by
  have hb1 : Below w.heap.size w (w.alloc (.cells #[.int .i64 0, .int .i64 0, .int .i64 0, .slice none 0 0] 30)) := (Below.refl _ _).alloc (Nat.le_refl _) _
  have h1 := heap_alloc_new w (.cells #[.int .i64 0, .int .i64 0, .int .i64 0, .slice none 0 0] 30 (0, 0))
  have h2 := heap_alloc_new (w.alloc (.cells #[.int .i64 0, .int .i64 0, .int .i64 0, .slice none 0 0] 30)) (.cells #[.int .i64 0, .int .i64 0, .int .i64 0, .slice none 0 0] 30 (0, 0))
  refine ⟨hb1.alloc hb1.size _, (((Below.refl (w.alloc (.cells #[.int .i64 0, .int .i64 0, .int .i64 0, .slice none 0 0] 30)).heap.size (w.alloc (.cells #[.int .i64 0, .int .i64 0, .int .i64 0, .slice none 0 0] 30))).alloc (Nat.le_refl _) _).block w.heap.size (lt_of_heapF h1)).trans h1, ?_⟩
  have e : (w.alloc (.cells #[.int .i64 0, .int .i64 0, .int .i64 0, .slice none 0 0] 30)).heap.size = w.heap.size + 1 := by simp
  rw [← e]
  exact h2
theorem NB.drewN {w W : World} {r : Nat} {a b c d : Value} (h : NB w r a b c d W) (N : Nat) : NB w r a b c d (W.drewN N) := ⟨below_drewN h.1 _, h.2.1, h.2.2⟩
theorem NB.quiet {w W W' : World} {r : Nat} {a b c d : Value} (h : NB w r a b c d W) (hb : Below W.heap.size W W') : NB w r a b c d W' :=
  ⟨h.1.trans (hb.mono h.1.size), (hb.block r (lt_of_heapF h.2.1)).trans h.2.1, (hb.block (r + 1) (lt_of_heapF h.2.2)).trans h.2.2⟩
section
variable {w W : World} {r : Nat} {a b c d : Value} (h : NB w r a b c d W) (hr : w.heap.size ≤ r)
include h hr
theorem NB.far (i : Nat) (u : Value) : Below w.heap.size w (W.setCell ⟨r + 1, i, none⟩ u) ∧ (W.setCell ⟨r + 1, i, none⟩ u).heap[r]? = some (.cells #[.int .i64 0, .int .i64 0, .int .i64 0, .slice none 0 0] 30 (0, 0)) :=
  ⟨h.1.setCell (p := ⟨r + 1, i, none⟩) (show w.heap.size ≤ r + 1 by omega) _, (Below.heap_setCell W ⟨r + 1, i, none⟩ u r (show r ≠ r + 1 by omega)).trans h.2.1⟩
theorem NB.set0 (u : Value) : NB w r u b c d (W.setCell ⟨r + 1, 0, none⟩ u) :=
  ⟨(h.far hr 0 u).1, (h.far hr 0 u).2, by have := heap_setCell_same W (r + 1) 0 _ 30 u h.2.2; simpa using this⟩
theorem NB.set1 (u : Value) : NB w r a u c d (W.setCell ⟨r + 1, 1, none⟩ u) :=
  ⟨(h.far hr 1 u).1, (h.far hr 1 u).2, by have := heap_setCell_same W (r + 1) 1 _ 30 u h.2.2; simpa using this⟩
theorem NB.set2 (u : Value) : NB w r a b u d (W.setCell ⟨r + 1, 2, none⟩ u) :=
  ⟨(h.far hr 2 u).1, (h.far hr 2 u).2, by have := heap_setCell_same W (r + 1) 2 _ 30 u h.2.2; simpa using this⟩
theorem NB.set3 (u : Value) : NB w r a b c u (W.setCell ⟨r + 1, 3, none⟩ u) :=
  ⟨(h.far hr 3 u).1, (h.far hr 3 u).2, by have := heap_setCell_same W (r + 1) 3 _ 30 u h.2.2; simpa using this⟩
end
set_option maxRecDepth 100000 in
set_option maxHeartbeats 16000000 in
theorem fnext_f (w : World) (S : Nat → Prop) (p : Nat) (room : Int) (L : List Nat) (h : PD w S p room L) (hB : ∀ x ∈ L, x < 256) (hL : L.length ≤ 90000) : Calls Try.prog 17 #[.pointer (some ⟨p, 0, none⟩)] w (PNPost S w p room (next room L)) := by
  obtain ⟨v, G, gone, hh, ho, hG, hg, hvp, hS⟩ := id h
  have hp := lt_of_heapF hh
  have hGl : G.length = gone + L.length := by have := ho.1; simpa [cn] using this
  rw [← hGl] at ho
  obtain ⟨A, c, rfl⟩ := own_shape ho
  obtain ⟨m, hm⟩ : ∃ m, m = G.length := ⟨_, rfl⟩
  rw [← hm] at ho hh hvp hS
  have hmc := own_cap ho
  have hA0 := own_none ho
  obtain ⟨n, hn⟩ : ∃ n, n = L.length := ⟨_, rfl⟩
  obtain ⟨A1, hA1⟩ : ∃ A1, A1 = cutAt A c gone := ⟨_, rfl⟩
  obtain ⟨c1, hc1⟩ : ∃ c1, c1 = c - gone := ⟨_, rfl⟩
  have hsl := fun (W : World) => slice_l A m c gone n W (by omega) (by omega)
  rw [← hA1, ← hc1] at hsl
  have hAT : At .u8 w w.heap.size A1 L := by
    rw [hA1, ← hG]
    exact (At.of_own ho).drop (by omega)
  have hA10 : A1 = none → c1 = 0 := fun e => by rw [hA1] at e; rw [hc1]; exact cutAt_none hA0 e
  have hn1 : n ≤ c1 := by omega
  have HNO : Hid (∀ err, next room L = (noFrm, err, L) → ∀ W r, Below w.heap.size w W → w.heap.size ≤ r → PNPost S w p room (next room L) (.returned (.tuple #[.agg #[.int .i64 0, .int .i64 0, .int .i64 0, .slice none 0 0], .int .i64 (err : Int)])) ((((W.setCell ⟨r, 0, none⟩ (.int .i64 0)).setCell ⟨r, 1, none⟩ (.int .i64 0)).setCell ⟨r, 2, none⟩ (.int .i64 0)).setCell ⟨r, 3, none⟩ (.slice none 0 0))) := Lib.hid (fun err he W r hb hr => pn_none h he hb hr)
  have HC : Hid (∀ W, Below w.heap.size w W → W.cell? ⟨p, 0, none⟩ = some (.slice A m c) ∧ W.cell? ⟨p, 1, none⟩ = some (.int .i64 (gone : Int)) ∧ W.cell? ⟨p, 2, none⟩ = some (.int .i64 room)) := Lib.hid (fun W hb => ⟨(hb.cell (p := ⟨p, 0, none⟩) hp).trans (cell_of_row _ p 0 _ 49 _ hh), (hb.cell (p := ⟨p, 1, none⟩) hp).trans (cell_of_row _ p 1 _ 49 _ hh), (hb.cell (p := ⟨p, 2, none⟩) hp).trans (cell_of_row _ p 2 _ 49 _ hh)⟩)
  have i1 : (gone : Int) ≤ (m : Int) := by omega
  have i2 : (0 : Int) ≤ (gone : Int) := by omega
  obtain ⟨r, hr⟩ : ∃ r, r = w.heap.size := ⟨_, rfl⟩
  obtain ⟨w2, hw2⟩ : ∃ w2, w2 = (w.alloc (.cells #[.int .i64 0, .int .i64 0, .int .i64 0, .slice none 0 0] 30)).alloc (.cells #[.int .i64 0, .int .i64 0, .int .i64 0, .slice none 0 0] 30) := ⟨_, rfl⟩
  have hNB : NB w r (.int .i64 0) (.int .i64 0) (.int .i64 0) (.slice none 0 0) w2 := by rw [hw2, hr]; exact NB.start w
  obtain ⟨x0, x1, x2⟩ := HC.out w2 hNB.1
  have HR := Lib.hid hr
  have HW2 := Lib.hid hw2
  have HNB := Lib.hid hNB
  have HH := Lib.hid h
  have HN := Lib.hid hn
  have HBY := Lib.hid hB
  have HAT := Lib.hid hAT
  have HA10 := Lib.hid hA10
  have HN1 := Lib.hid hn1
  have HL : Hid (n ≤ 90000) := Lib.hid (by omega)
  have HLOW := Lib.hid h.low
  have hnl : n ≤ 90000 := by omega
  clear h hh ho hG hg hvp hS hp hGl hm hmc hA1 hc1 hL hw2 hr hNB hA0 hn hB hAT hA10
  by_cases h9 : n < 9
  · have k9 : (n : Int) < 9 := by omega
    have HFIN := Lib.hid (HNO.out 4 (by rw [next, if_pos (by rw [← HN.out]; exact h9)]))
    clear h9 HNO hn1
    go_enter Try.func17, Try.ntmps17
    go_wp2
    refine wp_scope_end 0 (NJ w p r) rfl ?_ ?_
    · rintro a W ⟨⟨u, rfl⟩, hb, hr⟩
      have HEND := Lib.hid (HFIN.out W r hb (Nat.le_of_eq HR.out.symm))
      have c0 := cell_of_row _ r 0 _ 30 _ hr
      have c1 := cell_of_row _ r 1 _ 30 _ hr
      have c2 := cell_of_row _ r 2 _ 30 _ hr
      have c3 := cell_of_row _ r 3 _ 30 _ hr
      have f0 := frozen_of_row _ r 0 _ 30 hr
      have f1 := frozen_of_row _ r 1 _ 30 hr
      have f2 := frozen_of_row _ r 2 _ 30 hr
      have f3 := frozen_of_row _ r 3 _ 30 hr
      clear hb hr HFIN x0 x1 x2
      go_wp2
      simp only [jumpsTo]
      refine bodyPost_ret (v := .tuple #[.agg #[.int .i64 0, .int .i64 0, .int .i64 0, .slice none 0 0], .int .i64 4]) (by simp [results, Try.results17, go_sem, c0, c1, c2, c3]) rfl HEND.out
    · go_wp2
      rw [← HW2.out, ← HR.out]
      go_quiet (fail)
      go_wp2
      go_step3
      exact ⟨rfl, NFr.mk, (HNB.out.drewN _).1, (HNB.out.drewN _).2.1⟩
  obtain ⟨k0, k1, k2, k3, k4, k5, k6, k7, k8, rest, hLL⟩ := nine L (by have := HN.out; omega)
  obtain ⟨b, o, rfl, hbl, hc⟩ := HAT.out.pos (by have := HN.out; omega)
  have hby : ∀ i (hi : i < L.length), L[i] < 256 := fun i hi => HBY.out _ (List.getElem_mem hi)
  have hln := HN.out
  have q0 : k0 < 256 := by have := hby 0 (by omega); simpa [hLL] using this
  have q1 : k1 < 256 := by have := hby 1 (by omega); simpa [hLL] using this
  have q2 : k2 < 256 := by have := hby 2 (by omega); simpa [hLL] using this
  have q3 : k3 < 256 := by have := hby 3 (by omega); simpa [hLL] using this
  have q4 : k4 < 256 := by have := hby 4 (by omega); simpa [hLL] using this
  have q5 : k5 < 256 := by have := hby 5 (by omega); simpa [hLL] using this
  have q6 : k6 < 256 := by have := hby 6 (by omega); simpa [hLL] using this
  have q7 : k7 < 256 := by have := hby 7 (by omega); simpa [hLL] using this
  have q8 : k8 < 256 := by have := hby 8 (by omega); simpa [hLL] using this
  have HB9 : Hid (∀ W, Below w.heap.size w W → W.cell? ⟨b, o, none⟩ = some (.int .u8 (k0 : Int)) ∧ W.cell? ⟨b, o + 1, none⟩ = some (.int .u8 (k1 : Int)) ∧ W.cell? ⟨b, o + 2, none⟩ = some (.int .u8 (k2 : Int)) ∧ W.cell? ⟨b, o + 3, none⟩ = some (.int .u8 (k3 : Int)) ∧ W.cell? ⟨b, o + 4, none⟩ = some (.int .u8 (k4 : Int)) ∧ W.cell? ⟨b, o + 5, none⟩ = some (.int .u8 (k5 : Int)) ∧ W.cell? ⟨b, o + 6, none⟩ = some (.int .u8 (k6 : Int)) ∧ W.cell? ⟨b, o + 7, none⟩ = some (.int .u8 (k7 : Int)) ∧ W.cell? ⟨b, o + 8, none⟩ = some (.int .u8 (k8 : Int))) := Lib.hid (fun W hb => by
    refine ⟨?_, ?_, ?_, ?_, ?_, ?_, ?_, ?_, ?_⟩
    · have := (hb.cell (p := ⟨b, o + 0, none⟩) hbl).trans (hc 0 (by omega)); simpa [hLL] using this
    · have := (hb.cell (p := ⟨b, o + 1, none⟩) hbl).trans (hc 1 (by omega)); simpa [hLL] using this
    · have := (hb.cell (p := ⟨b, o + 2, none⟩) hbl).trans (hc 2 (by omega)); simpa [hLL] using this
    · have := (hb.cell (p := ⟨b, o + 3, none⟩) hbl).trans (hc 3 (by omega)); simpa [hLL] using this
    · have := (hb.cell (p := ⟨b, o + 4, none⟩) hbl).trans (hc 4 (by omega)); simpa [hLL] using this
    · have := (hb.cell (p := ⟨b, o + 5, none⟩) hbl).trans (hc 5 (by omega)); simpa [hLL] using this
    · have := (hb.cell (p := ⟨b, o + 6, none⟩) hbl).trans (hc 6 (by omega)); simpa [hLL] using this
    · have := (hb.cell (p := ⟨b, o + 7, none⟩) hbl).trans (hc 7 (by omega)); simpa [hLL] using this
    · have := (hb.cell (p := ⟨b, o + 8, none⟩) hbl).trans (hc 8 (by omega)); simpa [hLL] using this)
  have e3 : L.take 3 = [k0, k1, k2] := by rw [hLL]; rfl
  have e5 : (L.drop 5).take 4 = [k5, k6, k7, k8] := by rw [hLL]; rfl
  have e4 : L.getD 3 0 = k3 ∧ L.getD 4 0 = k4 := by rw [hLL]; exact ⟨rfl, rfl⟩
  have HE : Hid (L.take 3 = [k0, k1, k2] ∧ (L.drop 5).take 4 = [k5, k6, k7, k8] ∧ L.getD 3 0 = k3 ∧ L.getD 4 0 = k4) := Lib.hid ⟨e3, e5, e4⟩
  clear hLL hc hby e3 e5 e4 hln
  have k9 : ¬ (n : Int) < 9 := by omega
  have n0 : (0 : Int) < (n : Int) := by omega
  have n1 : (1 : Int) < (n : Int) := by omega
  have n2 : (2 : Int) < (n : Int) := by omega
  -- the length
  obtain ⟨a0, ha0⟩ : ∃ a0, a0 = k0 * 65536 := ⟨_, rfl⟩
  obtain ⟨a1, ha1⟩ : ∃ a1, a1 = k1 * 256 := ⟨_, rfl⟩
  obtain ⟨a01, ha01⟩ : ∃ a01, a01 = a0 + a1 := ⟨_, rfl⟩
  obtain ⟨V, hV⟩ : ∃ V, V = a01 + k2 := ⟨_, rfl⟩
  have s0 : (k0 : Int) * 2 ^ 16 = (a0 : Int) := by rw [ha0]; simp
  have s0' : (k0 : Int) * 65536 = (a0 : Int) := by rw [ha0]; simp
  have s1 : (k1 : Int) * 2 ^ 8 = (a1 : Int) := by rw [ha1]; simp
  have s1' : (k1 : Int) * 256 = (a1 : Int) := by rw [ha1]; simp
  have o1 : bits BinOp.or IntKind.i64 (a0 : Int) (a1 : Int) = (a01 : Int) := by
    have := i64_or_nat a0 a1 (by omega) (by omega)
    rw [nat_join 16 a0 a1 (by omega) (by omega)] at this
    rw [ha01]
    exact this
  have o2 : bits BinOp.or IntKind.i64 (a01 : Int) (k2 : Int) = (V : Int) := by
    have := i64_or_nat a01 k2 (by omega) (by omega)
    rw [nat_join 8 a01 k2 (by omega) (by omega)] at this
    rw [hV]
    exact this
  have wk0 : IntKind.i64.wrap (k0 : Int) = (k0 : Int) := i64_ofNat k0 (by omega)
  have wk1 : IntKind.i64.wrap (k1 : Int) = (k1 : Int) := i64_ofNat k1 (by omega)
  have wk2 : IntKind.i64.wrap (k2 : Int) = (k2 : Int) := i64_ofNat k2 (by omega)
  have wa0 : IntKind.i64.wrap (a0 : Int) = (a0 : Int) := i64_ofNat a0 (by omega)
  have wa1 : IntKind.i64.wrap (a1 : Int) = (a1 : Int) := i64_ofNat a1 (by omega)
  have HV : Hid (val (L.take 3) = V) := Lib.hid (by rw [HE.out.1, val3]; omega)
  have hVb : V < 16777216 := by omega
  clear ha0 ha1 ha01 hV
  obtain ⟨y0, y1, y2, y3, y4, y5, y6, y7, y8⟩ := HB9.out w2 HNB.out.1
  by_cases hroom : room < (V : Int)
  · have HFIN := Lib.hid (HNO.out 3 (by rw [next, if_neg (by rw [← HN.out]; omega), HV.out, if_pos hroom]))
    have hr2 := HNB.out.2.1
    have c0 := cell_of_row _ r 0 _ 30 _ hr2
    have c1 := cell_of_row _ r 1 _ 30 _ hr2
    have c2 := cell_of_row _ r 2 _ 30 _ hr2
    have c3 := cell_of_row _ r 3 _ 30 _ hr2
    have f0 := frozen_of_row _ r 0 _ 30 hr2
    have f1 := frozen_of_row _ r 1 _ 30 hr2
    have f2 := frozen_of_row _ r 2 _ 30 hr2
    have f3 := frozen_of_row _ r 3 _ 30 hr2
    clear HNO hn1 h9 y3 y4 y5 y6 y7 y8 q3 q4 q5 q6 q7 q8 hr2
    go_enter Try.func17, Try.ntmps17
    go_wp2
    refine wp_scope_end 0 (fun _ _ => False) rfl (fun _ _ h => h.elim) ?_
    go_wp2
    rw [← HW2.out, ← HR.out]
    go_quiet (fail)
    go_wp2
    go_quiet (fail)
    go_wp2
    simp only [jumpsTo]
    refine bodyPost_ret (v := .tuple #[.agg #[.int .i64 0, .int .i64 0, .int .i64 0, .slice none 0 0], .int .i64 3]) (by simp [results, Try.results17, go_sem, c0, c1, c2, c3]) rfl (HFIN.out _ _ (HNB.out.drewN _).1 (Nat.le_of_eq HR.out.symm))
  -- the stream
  have n3 : (3 : Int) < (n : Int) := by omega
  have n4 : (4 : Int) < (n : Int) := by omega
  have n5 : (5 : Int) < (n : Int) := by omega
  have n6 : (6 : Int) < (n : Int) := by omega
  have n7 : (7 : Int) < (n : Int) := by omega
  have n8 : (8 : Int) < (n : Int) := by omega
  obtain ⟨b0, hb0⟩ : ∃ b0, b0 = k5 * 16777216 := ⟨_, rfl⟩
  obtain ⟨b1, hb1⟩ : ∃ b1, b1 = k6 * 65536 := ⟨_, rfl⟩
  obtain ⟨b2, hb2⟩ : ∃ b2, b2 = k7 * 256 := ⟨_, rfl⟩
  obtain ⟨b01, hb01⟩ : ∃ b01, b01 = b0 + b1 := ⟨_, rfl⟩
  obtain ⟨b02, hb02⟩ : ∃ b02, b02 = b01 + b2 := ⟨_, rfl⟩
  obtain ⟨Q, hQ⟩ : ∃ Q, Q = b02 + k8 := ⟨_, rfl⟩
  obtain ⟨T, hT⟩ : ∃ T, T = Q % 2147483648 := ⟨_, rfl⟩
  have t0 : (k5 : Int) * 2 ^ 24 = (b0 : Int) := by rw [hb0]; simp
  have t0' : (k5 : Int) * 16777216 = (b0 : Int) := by rw [hb0]; simp
  have t1 : (k6 : Int) * 2 ^ 16 = (b1 : Int) := by rw [hb1]; simp
  have t1' : (k6 : Int) * 65536 = (b1 : Int) := by rw [hb1]; simp
  have t2 : (k7 : Int) * 2 ^ 8 = (b2 : Int) := by rw [hb2]; simp
  have t2' : (k7 : Int) * 256 = (b2 : Int) := by rw [hb2]; simp
  have p1 : bits BinOp.or IntKind.i64 (b0 : Int) (b1 : Int) = (b01 : Int) := by
    have := i64_or_nat b0 b1 (by omega) (by omega)
    rw [nat_join 24 b0 b1 (by omega) (by omega)] at this
    rw [hb01]
    exact this
  have p2 : bits BinOp.or IntKind.i64 (b01 : Int) (b2 : Int) = (b02 : Int) := by
    have := i64_or_nat b01 b2 (by omega) (by omega)
    rw [nat_join 16 b01 b2 (by omega) (by omega)] at this
    rw [hb02]
    exact this
  have p3 : bits BinOp.or IntKind.i64 (b02 : Int) (k8 : Int) = (Q : Int) := by
    have := i64_or_nat b02 k8 (by omega) (by omega)
    rw [nat_join 8 b02 k8 (by omega) (by omega)] at this
    rw [hQ]
    exact this
  have p4 : bits BinOp.and IntKind.i64 (Q : Int) 2147483647 = (T : Int) := by rw [hT]; exact i64_and31 Q (by omega)
  have wk3 : IntKind.i64.wrap (k3 : Int) = (k3 : Int) := i64_ofNat k3 (by omega)
  have wk4 : IntKind.i64.wrap (k4 : Int) = (k4 : Int) := i64_ofNat k4 (by omega)
  have wk5 : IntKind.i64.wrap (k5 : Int) = (k5 : Int) := i64_ofNat k5 (by omega)
  have wk6 : IntKind.i64.wrap (k6 : Int) = (k6 : Int) := i64_ofNat k6 (by omega)
  have wk7 : IntKind.i64.wrap (k7 : Int) = (k7 : Int) := i64_ofNat k7 (by omega)
  have wk8 : IntKind.i64.wrap (k8 : Int) = (k8 : Int) := i64_ofNat k8 (by omega)
  have wb0 : IntKind.i64.wrap (b0 : Int) = (b0 : Int) := i64_ofNat b0 (by omega)
  have wb1 : IntKind.i64.wrap (b1 : Int) = (b1 : Int) := i64_ofNat b1 (by omega)
  have wb2 : IntKind.i64.wrap (b2 : Int) = (b2 : Int) := i64_ofNat b2 (by omega)
  have HT : Hid (((val ((L.drop 5).take 4) % 2147483648 : Nat) : Int) = (T : Int)) := Lib.hid (by
    have : Q = val ((L.drop 5).take 4) := by rw [HE.out.2.1, val4]; omega
    rw [← this, hT])
  clear hb0 hb1 hb2 hb01 hb02 hQ hT
  have HRW : Hid (w.heap.size ≤ r) := Lib.hid (Nat.le_of_eq HR.out.symm)
  have HK9 := Lib.hid k9
  have HRM := Lib.hid hroom
  obtain ⟨n9, hn9⟩ : ∃ n9, n9 = n - 9 := ⟨_, rfl⟩
  obtain ⟨c9, hc9⟩ : ∃ c9, c9 = c1 - 9 := ⟨_, rfl⟩
  obtain ⟨A9, hA9⟩ : ∃ A9, A9 = cutAt (some ⟨b, o, none⟩) c1 9 := ⟨_, rfl⟩
  have hsl9 := fun (W : World) => slice_l (some ⟨b, o, none⟩) n c1 9 n9 W (by omega) hn9.symm
  rw [← hA9, ← hc9, show ((9 : Nat) : Int) = 9 from rfl] at hsl9
  have i9 : (9 : Int) ≤ (n : Int) := by omega
  have HAT9 : Hid (∀ W, Below w.heap.size w W → At .u8 W W.heap.size A9 (L.drop 9)) := Lib.hid (fun W hb => by
    rw [hA9]
    exact (HAT.out.up hb).drop (by have := HN.out; omega))
  have HA90 : Hid (A9 = none → c9 = 0) := Lib.hid (fun e => by rw [hA9] at e; rw [hc9]; exact cutAt_none HA10.out e)
  have hn9c : n9 ≤ c9 := by omega
  have HN9 : Hid (n9 + 9 = n) := Lib.hid (by omega)
  have hn9b : n9 ≤ 90000 := by omega
  clear hn9 hc9 hA9 hn1
  clear y0 y1 y2 y3 y4 y5 y6 y7 y8
  go_enter Try.func17, Try.ntmps17
  go_wp2
  refine wp_scope_end 0 (fun a W => n9 < V ∧ NJ w p r a W) rfl ?_ ?_
  · rintro a W ⟨hs, ⟨u, rfl⟩, hb, hr⟩
    have HEND := Lib.hid (HNO.out 4 (by
      have h1 := HN.out
      have h2 := HN9.out
      have h3 := HRM.out
      rw [next, if_neg (by omega), HV.out, if_neg (by omega), if_pos (by omega)]) W r hb HRW.out)
    have c0 := cell_of_row _ r 0 _ 30 _ hr
    have c1 := cell_of_row _ r 1 _ 30 _ hr
    have c2 := cell_of_row _ r 2 _ 30 _ hr
    have c3 := cell_of_row _ r 3 _ 30 _ hr
    have f0 := frozen_of_row _ r 0 _ 30 hr
    have f1 := frozen_of_row _ r 1 _ 30 hr
    have f2 := frozen_of_row _ r 2 _ 30 hr
    have f3 := frozen_of_row _ r 3 _ 30 hr
    clear hb hr hs HNO x0 x1 x2
    go_wp2
    simp only [jumpsTo]
    refine bodyPost_ret (v := .tuple #[.agg #[.int .i64 0, .int .i64 0, .int .i64 0, .slice none 0 0], .int .i64 4]) (by simp [results, Try.results17, go_sem, c0, c1, c2, c3]) rfl HEND.out
  · go_wp2
    rw [← HW2.out, ← HR.out]
    go_quiet (fail)
    have hN3 := HNB.out.drewN nq
    obtain ⟨w3, hw3⟩ : ∃ w3, w3 = w2.drewN nq := ⟨_, rfl⟩
    rw [← hw3] at hN3 ⊢
    have HN3 := Lib.hid hN3
    obtain ⟨x0, x1, x2⟩ := HC.out w3 hN3.1
    obtain ⟨y0, y1, y2, y3, y4, y5, y6, y7, y8⟩ := HB9.out w3 hN3.1
    clear hw3 hN3 y3 y4 y5 y6 y7 y8
    go_wp2
    go_quiet (fail)
    have hN4 := HN3.out.drewN nq
    obtain ⟨w4, hw4⟩ : ∃ w4, w4 = w3.drewN nq := ⟨_, rfl⟩
    rw [← hw4] at hN4 ⊢
    obtain ⟨x0, x1, x2⟩ := HC.out w4 hN4.1
    obtain ⟨y0, y1, y2, y3, y4, y5, y6, y7, y8⟩ := HB9.out w4 hN4.1
    have HN4 := Lib.hid hN4
    have hD4 : NB w r (.int .i64 0) (.int .i64 0) (.int .i64 0) (.slice none 0 0) w4.drew := hN4.drewN 1
    have HS : Hid (∀ W a b' c d, NB w r a b' c d W → W.cell? ⟨b, o + 3, none⟩ = some (.int .u8 (k3 : Int)) ∧ W.cell? ⟨b, o + 4, none⟩ = some (.int .u8 (k4 : Int))) := Lib.hid (fun W _ _ _ _ hN => ⟨(HB9.out W hN.1).2.2.2.1, (HB9.out W hN.1).2.2.2.2.1⟩)
    have c0 : w4.cell? ⟨r + 1, 0, none⟩ = some (.int .i64 0) := cell_of_row _ (r + 1) 0 _ 30 _ hN4.2.2
    have f0 : w4.frozen? ⟨r + 1, 0, none⟩ = false := frozen_of_row _ (r + 1) 0 _ 30 hN4.2.2
    have c1 : w4.cell? ⟨r + 1, 1, none⟩ = some (.int .i64 0) := cell_of_row _ (r + 1) 1 _ 30 _ hN4.2.2
    have f1 : w4.frozen? ⟨r + 1, 1, none⟩ = false := frozen_of_row _ (r + 1) 1 _ 30 hN4.2.2
    have HD4 := Lib.hid hD4
    clear hw4 hN4 hD4 y0 y1 y2 y5 y6 y7 y8
    go_wp2
    go_region_held3 (fun w' => w'.cell? ⟨b, o + 3, none⟩ = some (.int .u8 (k3 : Int)) ∧ w'.cell? ⟨b, o + 4, none⟩ = some (.int .u8 (k4 : Int)))
      (first
        | exact HS.out _ _ _ _ _ HD4.out
        | exact HS.out _ _ _ _ _ (HD4.out.set0 HRW.out _)
        | exact HS.out _ _ _ _ _ (HD4.out.set1 HRW.out _)
        | exact HS.out _ _ _ _ _ ((HD4.out.set0 HRW.out _).set1 HRW.out _)
        | exact HS.out _ _ _ _ _ ((HD4.out.set1 HRW.out _).set0 HRW.out _))
      (fail)
    have hN5 : NB w r (.int .i64 (k3 : Int)) (.int .i64 (k4 : Int)) (.int .i64 0) (.slice none 0 0) ((w4.setCell ⟨r + 1, 0, none⟩ (.int .i64 (k3 : Int))).setCell ⟨r + 1, 1, none⟩ (.int .i64 (k4 : Int))).drew := ((HN4.out.set0 HRW.out _).set1 HRW.out _).drewN 1
    obtain ⟨w5, hw5⟩ : ∃ w5, w5 = ((w4.setCell ⟨r + 1, 0, none⟩ (.int .i64 (k3 : Int))).setCell ⟨r + 1, 1, none⟩ (.int .i64 (k4 : Int))).drew := ⟨_, rfl⟩
    rw [← hw5] at hN5 ⊢
    have HN5 := Lib.hid hN5
    obtain ⟨z0, z1, z2, z3, z4, y5, y6, y7, y8⟩ := HB9.out w5 hN5.1
    have HS5 : Hid (∀ W a b' c d, NB w r a b' c d W → W.cell? ⟨b, o + 5, none⟩ = some (.int .u8 (k5 : Int)) ∧ W.cell? ⟨b, o + 6, none⟩ = some (.int .u8 (k6 : Int)) ∧ W.cell? ⟨b, o + 7, none⟩ = some (.int .u8 (k7 : Int)) ∧ W.cell? ⟨b, o + 8, none⟩ = some (.int .u8 (k8 : Int))) := Lib.hid (fun W _ _ _ _ hN => (HB9.out W hN.1).2.2.2.2.2)
    have hD5 := hN5.drewN 1
    have HD5 := Lib.hid hD5
    have c2 : w5.cell? ⟨r + 1, 2, none⟩ = some (.int .i64 0) := cell_of_row _ (r + 1) 2 _ 30 _ hN5.2.2
    have f2 : w5.frozen? ⟨r + 1, 2, none⟩ = false := frozen_of_row _ (r + 1) 2 _ 30 hN5.2.2
    clear hw5 hN5 hD5 z0 z1 z2 z3 z4 y5 y6 y7 y8 HS HD4 HN4 HN3 x0 x1 x2 c0 c1 f0 f1
    go_wp2
    go_region_held3 (fun w' => w'.cell? ⟨b, o + 5, none⟩ = some (.int .u8 (k5 : Int)) ∧ w'.cell? ⟨b, o + 6, none⟩ = some (.int .u8 (k6 : Int)) ∧ w'.cell? ⟨b, o + 7, none⟩ = some (.int .u8 (k7 : Int)) ∧ w'.cell? ⟨b, o + 8, none⟩ = some (.int .u8 (k8 : Int)))
      (first
        | exact HS5.out _ _ _ _ _ HD5.out
        | exact HS5.out _ _ _ _ _ (HD5.out.set2 HRW.out _))
      (fail)
    have hN6 : NB w r (.int .i64 (k3 : Int)) (.int .i64 (k4 : Int)) (.int .i64 (T : Int)) (.slice none 0 0) (w5.setCell ⟨r + 1, 2, none⟩ (.int .i64 (T : Int))).drew := (HN5.out.set2 HRW.out _).drewN 1
    obtain ⟨w6, hw6⟩ : ∃ w6, w6 = (w5.setCell ⟨r + 1, 2, none⟩ (.int .i64 (T : Int))).drew := ⟨_, rfl⟩
    rw [← hw6] at hN6 ⊢
    have HN6 := Lib.hid hN6
    clear hw6 hN6 HS5 HD5 HN5 c2 f2
    by_cases hs : n9 < V
    · have ks : (n9 : Int) < (V : Int) := by omega
      have HSV := Lib.hid hs
      clear hs
      go_wp2
      go_step3
      exact ⟨rfl, HSV.out, NFr.mk, HN6.out.1, HN6.out.2.1⟩
    · have ks : ¬ (n9 : Int) < (V : Int) := by omega
      have hVn : V ≤ n9 := by omega
      obtain ⟨X, hX⟩ : ∃ X, X = (L.drop 9).take V := ⟨_, rfl⟩
      have hXl : X.length = V := by rw [hX, List.length_take, List.length_drop]; have := HN.out; have := HN9.out; omega
      obtain ⟨mV, hmV⟩ : ∃ mV, mV = 9 + V := ⟨_, rfl⟩
      have em : (9 : Int) + (V : Int) = (mV : Int) := by omega
      have wm : IntKind.i64.wrap (mV : Int) = (mV : Int) := i64_ofNat mV (by omega)
      obtain ⟨AV, hAV⟩ : ∃ AV, AV = cutAt A9 c9 0 := ⟨_, rfl⟩
      have hslV := fun (W : World) => slice_h A9 n9 c9 V W (by omega)
      rw [← hAV] at hslV
      have j0 : (0 : Int) ≤ (V : Int) := by omega
      have jc : (V : Int) ≤ (c9 : Int) := by omega
      have HCL : Hid (∀ W, Below w.heap.size w W → Calls Try.prog 23 #[.slice AV V c9] W (RowPost W.heap.size W X)) := Lib.hid (fun W hb => by
        rw [hAV, hX]
        exact bclone_any _ ((L.drop 9).take V) V c9 W ((HAT9.out W hb).take (by rw [List.length_drop]; have := HN.out; have := HN9.out; omega)) (by rw [← hX]; exact hXl) (fun h => by have := cutAt_none HA90.out h; omega) (by omega))
      have HDR : Hid (∀ W, Below w.heap.size w W → Calls Try.prog 24 #[.pointer (some ⟨p, 0, none⟩), .int .i64 (mV : Int)] W fun e w' => e = .returned (.tuple #[]) ∧ PPost S W p room (L.drop mV) w') := Lib.hid (fun W hb => fdrop_any W S p mV room L (HH.out.quiet hb) (by have := HN.out; have := HN9.out; omega) (by have := HN.out; have := HL.out; omega))
      have HNX : Hid (next room L = (⟨k3, k4, T, X⟩, 0, L.drop mV)) := Lib.hid (by
        have h1 := HN.out
        have h2 := HN9.out
        have h3 := HRM.out
        rw [next, if_neg (by omega), HV.out, if_neg (by omega), if_neg (by omega), HE.out.2.2.1, HE.out.2.2.2, HT.out, ← hX, ← hmV])
      have HXL := Lib.hid hXl
      clear hs hX hXl hmV hAV hn9c
      have HC6 := Lib.hid (HCL.out w6 HN6.out.1)
      clear HCL
      go_wp2_with fail
      with_reducible refine (HC6.out).mono ?_
      rintro e w7 ⟨v7, rfl, hr7⟩
      obtain ⟨Ax, cx, hvx⟩ := own_shape hr7.1
      rw [HXL.out] at hvx
      subst hvx
      have hN7 := HN6.out.quiet hr7.2
      have HR7 := Lib.hid hr7
      have HN7 := Lib.hid hN7
      have c3 : w7.cell? ⟨r + 1, 3, none⟩ = some (.slice none 0 0) := cell_of_row _ (r + 1) 3 _ 30 _ hN7.2.2
      have f3 : w7.frozen? ⟨r + 1, 3, none⟩ = false := frozen_of_row _ (r + 1) 3 _ 30 hN7.2.2
      obtain ⟨w8, hw8⟩ : ∃ w8, w8 = w7.setCell ⟨r + 1, 3, none⟩ (.slice Ax V cx) := ⟨_, rfl⟩
      have hN8 : NB w r (.int .i64 (k3 : Int)) (.int .i64 (k4 : Int)) (.int .i64 (T : Int)) (.slice Ax V cx) w8 := by rw [hw8]; exact hN7.set3 HRW.out _
      have HN8 := Lib.hid hN8
      have HD8 := Lib.hid (HDR.out w8 hN8.1)
      have HW8 := Lib.hid hw8
      clear hr7 hN7 hN8 hw8 HC6 HDR
      go_wp2_with fail
      rw [← HW8.out]
      with_reducible refine (HD8.out).mono ?_
      rintro e w9 ⟨rfl, hP9⟩
      obtain ⟨S9, hD9, hS9, hK9⟩ := hP9
      have hrS : ¬ S r := fun hx => by have := HLOW.out r hx; have := HRW.out; omega
      have hrS1 : ¬ S (r + 1) := fun hx => by have := HLOW.out (r + 1) hx; have := HRW.out; omega
      have hr8 := lt_of_heapF HN8.out.2.1
      have hr18 := lt_of_heapF HN8.out.2.2
      have hr9 : w9.heap[r]? = some (.cells #[.int .i64 0, .int .i64 0, .int .i64 0, .slice none 0 0] 30 (0, 0)) := (hK9.block r hr8 hrS).trans HN8.out.2.1
      have hr19 := (hK9.block (r + 1) hr18 hrS1).trans HN8.out.2.2
      have hk10 := keeps4 w9 r (.int .i64 (k3 : Int)) (.int .i64 (k4 : Int)) (.int .i64 (T : Int)) (.slice Ax V cx)
      have HEND : Hid (PNPost S w p room (next room L) (.returned (.tuple #[.agg #[.int .i64 (k3 : Int), .int .i64 (k4 : Int), .int .i64 (T : Int), .slice Ax V cx], .int .i64 0])) ((((w9.setCell ⟨r, 0, none⟩ (.int .i64 (k3 : Int))).setCell ⟨r, 1, none⟩ (.int .i64 (k4 : Int))).setCell ⟨r, 2, none⟩ (.int .i64 (T : Int))).setCell ⟨r, 3, none⟩ (.slice Ax V cx))) := Lib.hid (by
        rw [HNX.out]
        have hXl := HXL.out
        have hr6 : w.heap.size ≤ w6.heap.size := HN6.out.1.size
        have hw8 : w8.heap.size = w7.heap.size := by rw [HW8.out]; simp [World.setCell]
        have hr67 : r + 1 < w6.heap.size := lt_of_heapF HN6.out.2.2
        have hown7 := HR7.out.1
        have hkr : Keeps (fun x => x = r + 1) w7 w8 := by
          rw [HW8.out]
          exact (Keeps.refl (fun x => x = r + 1) w7).setCell (S := fun x => x = r + 1) (p := ⟨r + 1, 3, none⟩) rfl _
        have hob : ∀ k, (Value.slice Ax V cx).ownBlock = some k → w6.heap.size ≤ k := own_block hown7
        have hob7 : ∀ k, (Value.slice Ax V cx).ownBlock = some k → k < w7.heap.size := fun k hk => (hown7.lt k hk).2
        have hown8 := row_keeps hown7 hkr (fun k hk e => by have := hob k hk; omega)
        have hown9 := row_keeps hown8 hK9 (fun k hk hx => by have := hob k hk; have := HLOW.out k hx; omega)
        have hown10 := row_keeps hown9 hk10 (fun k hk e => by have := hob k hk; omega)
        rw [hXl] at hown10
        refine ⟨S9, ⟨Ax, cx, ?_, At.of_own hown10, own_none hown10, ?_, fun b o s e => ?_⟩, hD9.keep hk10 (fun x hx e => ?_), fun x hx => ?_, ?_⟩
        · simp only [frm, hXl]
          rfl
        · show X.length ≤ cx
          rw [hXl]
          exact own_cap hown10
        · subst e
          have h1 := hob b rfl
          have h2 := hob7 b rfl
          refine ⟨by omega, fun hx => ?_⟩
          rcases hS9 b hx with h | h
          · have := HLOW.out b h
            omega
          · omega
        · subst e
          rcases hS9 x hx with h | h
          · exact hrS h
          · omega
        · rcases hS9 x hx with h | h
          · exact .inl h
          · exact .inr (Nat.le_trans HN8.out.1.size h)
        · have h1 : Keeps S w w9 := (Keeps.of_below HN8.out.1).trans hK9 (fun x hx _ => hx)
          exact h1.trans hk10 (fun x hx hlt => by have := HRW.out; omega))
      have c0 : w9.cell? ⟨r, 0, none⟩ = some (.int .i64 0) := cell_of_row _ r 0 _ 30 _ hr9
      have c1 : w9.cell? ⟨r, 1, none⟩ = some (.int .i64 0) := cell_of_row _ r 1 _ 30 _ hr9
      have c2 : w9.cell? ⟨r, 2, none⟩ = some (.int .i64 0) := cell_of_row _ r 2 _ 30 _ hr9
      have c3 : w9.cell? ⟨r, 3, none⟩ = some (.slice none 0 0) := cell_of_row _ r 3 _ 30 _ hr9
      have f0 : w9.frozen? ⟨r, 0, none⟩ = false := frozen_of_row _ r 0 _ 30 hr9
      have f1 : w9.frozen? ⟨r, 1, none⟩ = false := frozen_of_row _ r 1 _ 30 hr9
      have f2 : w9.frozen? ⟨r, 2, none⟩ = false := frozen_of_row _ r 2 _ 30 hr9
      have f3 : w9.frozen? ⟨r, 3, none⟩ = false := frozen_of_row _ r 3 _ 30 hr9
      have s0 : w9.cell? ⟨r + 1, 0, none⟩ = some (.int .i64 (k3 : Int)) := cell_of_row _ (r + 1) 0 _ 30 _ hr19
      have s1 : w9.cell? ⟨r + 1, 1, none⟩ = some (.int .i64 (k4 : Int)) := cell_of_row _ (r + 1) 1 _ 30 _ hr19
      have s2 : w9.cell? ⟨r + 1, 2, none⟩ = some (.int .i64 (T : Int)) := cell_of_row _ (r + 1) 2 _ 30 _ hr19
      have s3 : w9.cell? ⟨r + 1, 3, none⟩ = some (.slice Ax V cx) := cell_of_row _ (r + 1) 3 _ 30 _ hr19
      clear hD9 hS9 hK9 hrS hrS1 hr8 hr18 hr9 hr19 hk10
      go_wp2
      simp only [jumpsTo]
      refine bodyPost_ret (v := .tuple #[.agg #[.int .i64 (k3 : Int), .int .i64 (k4 : Int), .int .i64 (T : Int), .slice Ax V cx], .int .i64 0]) (by simp [results, Try.results17, go_sem, c0, c1, c2, c3]) rfl HEND.out
end Go.Proofs.Ytegcloapadippaa
