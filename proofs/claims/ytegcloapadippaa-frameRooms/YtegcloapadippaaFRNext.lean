/- The document's own parser in memory; contract of its Next. -/
import Derived.Test.YtegcloapadippaaFVal
import Derived.Test.YtegcloapadippaaFRSame
import Derived.Test.YtegcloapadippaaFPlain
import Derived.Test.YtegcloapadippaaLObj
import Derived.Test.YtegcloapadippaaLRowK
import Derived.Test.YtegcloapadippaaLHelp
import Derived.Test.YtegcloapadippaaLCut
import Derived.Deep.RegionHeld3
import Derived.Deep.DeepCutAuto
namespace Go.Proofs.Ytegcloapadippaa
open Go.RowKit Fr

/-- The document's parser lies at block p: its room, the bytes l; S: the blocks that are its own. -/
def RP (w : World) (S : Nat → Prop) (p : Nat) (room : Int) (l : List Nat) : Prop :=
  ∃ v, w.heap[p]? = some (.cells #[.int .i64 room, v] 38 (0, 0)) ∧ w.ownsRow 0 5 1 v l.length (cn .u8 l) ∧ (∀ k, v.ownBlock = some k → k ≠ p) ∧ (∀ x, S x ↔ x = p ∨ v.ownBlock = some x)
section
variable {w w' : World} {S S' : Nat → Prop} {p : Nat} {room : Int} {l : List Nat}
theorem lt_of_heapF {w : World} {k : Nat} {o : Obj} (h : w.heap[k]? = some o) : k < w.heap.size := by
  rcases Nat.lt_or_ge k w.heap.size with hlt | hge
  · exact hlt
  · rw [Array.getElem?_eq_none hge] at h; cases h
theorem RP.lt (h : RP w S p room l) : p < w.heap.size := by
  obtain ⟨v, hh, _⟩ := h
  exact lt_of_heapF hh
theorem RP.low (h : RP w S p room l) : ∀ x, S x → x < w.heap.size := by
  obtain ⟨v, hh, ho, hn, hS⟩ := h
  intro x hx
  rcases (hS x).1 hx with rfl | hx
  · exact lt_of_heapF hh
  · exact (ho.lt x hx).2
theorem RP.keep (h : RP w S p room l) (hk : Keeps S' w w') (hd : ∀ x, S x → ¬ S' x) : RP w' S p room l := by
  obtain ⟨v, hh, ho, hn, hS⟩ := h
  exact ⟨v, (hk.block p (lt_of_heapF hh) (hd p ((hS p).2 (.inl rfl)))).trans hh, row_keeps ho hk (fun k hk => hd k ((hS k).2 (.inr hk))), hn, hS⟩
theorem RP.quiet (h : RP w S p room l) (hb : Below w.heap.size w w') : RP w' S p room l := h.keep (S' := fun _ => False) (Keeps.of_below hb) (fun _ _ h => h)
end
/-- What Next hands back: a frame, its body in new memory, what went wrong. -/
def NxOut (S : Nat → Prop) (w : World) (f : Frm) (err : Nat) (e : Ending) (w' : World) : Prop :=
  ∃ A c, e = .returned (.tuple #[frm f A c, .int .i64 (err : Int)]) ∧ At .u8 w' w'.heap.size A f.body ∧ (A = none → c = 0) ∧ f.body.length ≤ c ∧ (∀ b o s, A = some ⟨b, o, s⟩ → w.heap.size ≤ b ∧ ¬ S b)
def NxPost (S : Nat → Prop) (w : World) (p : Nat) (room : Int) (r : Frm × Nat × List Nat) (e : Ending) (w' : World) : Prop :=
  ∃ S', NxOut S' w r.1 r.2.1 e w' ∧ RP w' S' p room r.2.2 ∧ (∀ x, S' x → S x ∨ w.heap.size ≤ x) ∧ Keeps S w w'
/-- Behind the frame's making: it lies in a new block, its body in a new one. -/
def NxCut (w2 : World) (X : List Nat) (k3 k4 T : Nat) (x : Value) (wx : World) : Prop :=
  ∃ G A c, x = .pointer (some ⟨G, 0, none⟩) ∧ w2.heap.size ≤ G ∧ wx.heap[G]? = some (.cells #[.int .i64 (k3 : Int), .int .i64 (k4 : Int), .int .i64 (T : Int), .slice A X.length c] 30 (0, 0)) ∧ wx.ownsRow w2.heap.size 5 1 (.slice A X.length c) X.length (cn .u8 X) ∧ Below w2.heap.size w2 wx
theorem heap4 {w : World} {g : Nat} {a b c d : Value} (h : w.heap[g]? = some (.cells #[a, b, c, d] 30 (0, 0))) (x y z u : Value) : ((((w.setCell ⟨g, 0, none⟩ x).setCell ⟨g, 1, none⟩ y).setCell ⟨g, 2, none⟩ z).setCell ⟨g, 3, none⟩ u).heap[g]? = some (.cells #[x, y, z, u] 30 (0, 0)) := by
  have h1 : (w.setCell ⟨g, 0, none⟩ x).heap[g]? = some (.cells #[x, b, c, d] 30 (0, 0)) := by
    have := heap_setCell_same w g 0 _ 30 x h
    simpa using this
  have h2 : ((w.setCell ⟨g, 0, none⟩ x).setCell ⟨g, 1, none⟩ y).heap[g]? = some (.cells #[x, y, c, d] 30 (0, 0)) := by
    have := heap_setCell_same _ g 1 _ 30 y h1
    simpa using this
  have h3 : (((w.setCell ⟨g, 0, none⟩ x).setCell ⟨g, 1, none⟩ y).setCell ⟨g, 2, none⟩ z).heap[g]? = some (.cells #[x, y, z, d] 30 (0, 0)) := by
    have := heap_setCell_same _ g 2 _ 30 z h2
    simpa using this
  have := heap_setCell_same _ g 3 _ 30 u h3
  simpa using this
theorem nxcut1 {w2 w3 : World} {X : List Nat} {k3 k4 T : Nat} {Ax : Option Addr} {cx : Nat} (hb3 : Below w2.heap.size w2 w3) (hro : w3.ownsRow w2.heap.size 5 1 (.slice Ax X.length cx) X.length (cn .u8 X)) :
    NxCut w2 X k3 k4 T (.pointer (some ⟨w3.heap.size, 0, none⟩)) (w3.alloc (.cells #[.int .i64 (k3 : Int), .int .i64 (k4 : Int), .int .i64 (T : Int), .slice Ax X.length cx] 30)) :=
  ⟨w3.heap.size, Ax, cx, rfl, hb3.size, heap_alloc_new w3 _, own_keep hro ((Below.refl _ _).alloc (Nat.le_refl _) _), hb3.alloc hb3.size _⟩
theorem keeps4 (w : World) (g : Nat) (x y z u : Value) : Keeps (fun k => k = g) w ((((w.setCell ⟨g, 0, none⟩ x).setCell ⟨g, 1, none⟩ y).setCell ⟨g, 2, none⟩ z).setCell ⟨g, 3, none⟩ u) :=
  ((((Keeps.refl (fun k => k = g) w).setCell (S := fun k => k = g) (p := ⟨g, 0, none⟩) rfl x).setCell (S := fun k => k = g) (p := ⟨g, 1, none⟩) rfl y).setCell (S := fun k => k = g) (p := ⟨g, 2, none⟩) rfl z).setCell (S := fun k => k = g) (p := ⟨g, 3, none⟩) rfl u
theorem nxcut2 {w2 w3 : World} {X : List Nat} {k3 k4 T B : Nat} {Ax : Option Addr} {cx : Nat} {a b c d : Value} (hb3 : Below w2.heap.size w2 w3) (hro : w3.ownsRow w2.heap.size 5 1 (.slice Ax X.length cx) X.length (cn .u8 X)) (hro2 : w3.ownsRow B 5 1 (.slice Ax X.length cx) X.length (cn .u8 X)) (hB : w2.heap.size < B) (hh3 : w3.heap[w2.heap.size]? = some (.cells #[a, b, c, d] 30 (0, 0))) :
    NxCut w2 X k3 k4 T (.pointer (some ⟨w2.heap.size, 0, none⟩)) ((((w3.setCell ⟨w2.heap.size, 0, none⟩ (.int .i64 (k3 : Int))).setCell ⟨w2.heap.size, 1, none⟩ (.int .i64 (k4 : Int))).setCell ⟨w2.heap.size, 2, none⟩ (.int .i64 (T : Int))).setCell ⟨w2.heap.size, 3, none⟩ (.slice Ax X.length cx)) := by
  have hK := keeps4 w3 w2.heap.size (.int .i64 (k3 : Int)) (.int .i64 (k4 : Int)) (.int .i64 (T : Int)) (.slice Ax X.length cx)
  refine ⟨w2.heap.size, Ax, cx, rfl, Nat.le_refl _, heap4 hh3 _ _ _ _, row_keeps hro hK (fun k hk e => ?_), hb3.trans (hK.below (fun k e => by omega) hb3.size)⟩
  have := own_block hro2 k hk
  omega
theorem i64_and31 (a : Nat) (ha : a < 4294967296) : bits .and .i64 (a : Int) 2147483647 = ((a % 2147483648 : Nat) : Int) := by
  have := i64_and_nat a 2147483647 (by omega) (by omega)
  rw [show (2147483647 : Nat) = 2 ^ 31 - 1 by decide, Nat.and_two_pow_sub_one_eq_mod] at this
  exact this
set_option maxRecDepth 100000 in
set_option maxHeartbeats 8000000 in
theorem rfnext_any (w : World) (S : Nat → Prop) (p : Nat) (room : Int) (l : List Nat) (h : RP w S p room l) (hb : ∀ x ∈ l, x < 256) (hl : l.length ≤ 90000) : Calls Try.prog 18 #[.pointer (some ⟨p, 0, none⟩)] w (NxPost S w p room (next room l)) := by
  obtain ⟨v, hh, ho, hn, hS⟩ := id h
  have hp := lt_of_heapF hh
  obtain ⟨A, c, rfl⟩ := own_shape ho
  have hnc := own_cap ho
  have hA0 := own_none ho
  have hat := At.of_own ho
  obtain ⟨n, hn2⟩ : ∃ n, n = l.length := ⟨_, rfl⟩
  rw [← hn2] at hl hh hnc
  have hb1 : Below w.heap.size w (w.alloc (.cells #[.int .i64 0, .int .i64 0, .int .i64 0, .slice none 0 0] 30)) := (Below.refl _ _).alloc (Nat.le_refl _) _
  have hgh : (w.alloc (.cells #[.int .i64 0, .int .i64 0, .int .i64 0, .slice none 0 0] 30)).heap[w.heap.size]? = some (.cells #[.int .i64 0, .int .i64 0, .int .i64 0, .slice none 0 0] 30 (0, 0)) := heap_alloc_new w _
  obtain ⟨g, hg⟩ : ∃ g, g = w.heap.size := ⟨_, rfl⟩
  obtain ⟨w1, hw1⟩ : ∃ w1, w1 = w.alloc (.cells #[.int .i64 0, .int .i64 0, .int .i64 0, .slice none 0 0] 30) := ⟨_, rfl⟩
  rw [← hw1] at hb1 hgh
  rw [← hg] at hgh
  have hgl : g < w1.heap.size := lt_of_heapF hgh
  have HX : Hid (∀ W, Below w1.heap.size w1 W → W.cell? ⟨p, 0, none⟩ = some (.int .i64 room) ∧ W.cell? ⟨p, 1, none⟩ = some (.slice A n c)) := Lib.hid (fun W hb => by
    have hb2 := hb1.trans (hb.mono hb1.size)
    exact ⟨(hb2.cell (p := ⟨p, 0, none⟩) hp).trans (cell_of_row _ p 0 _ 38 _ hh), (hb2.cell (p := ⟨p, 1, none⟩) hp).trans (cell_of_row _ p 1 _ 38 _ hh)⟩)
  have HPB : Hid (∀ W, Below w.heap.size w W → W.heap[p]? = some (.cells #[.int .i64 room, .slice A n c] 38 (0, 0))) := Lib.hid (fun W hb => (hb.block p hp).trans hh)
  have HPL := Lib.hid hp
  have HGB : Hid (∀ W, Below w1.heap.size w1 W → W.heap[g]? = some (.cells #[.int .i64 0, .int .i64 0, .int .i64 0, .slice none 0 0] 30 (0, 0))) := Lib.hid (fun W hb => (hb.block g hgl).trans hgh)
  obtain ⟨x0, x1⟩ := HX.out w1 (Below.refl _ _)
  have f0 : w1.frozen? ⟨g, 0, none⟩ = false := frozen_of_row w1 g 0 _ 30 hgh
  have f1 : w1.frozen? ⟨g, 1, none⟩ = false := frozen_of_row w1 g 1 _ 30 hgh
  have f2 : w1.frozen? ⟨g, 2, none⟩ = false := frozen_of_row w1 g 2 _ 30 hgh
  have f3 : w1.frozen? ⟨g, 3, none⟩ = false := frozen_of_row w1 g 3 _ 30 hgh
  have c0 : w1.cell? ⟨g, 0, none⟩ = some (.int .i64 0) := cell_of_row w1 g 0 _ 30 _ hgh
  have c1 : w1.cell? ⟨g, 1, none⟩ = some (.int .i64 0) := cell_of_row w1 g 1 _ 30 _ hgh
  have c2 : w1.cell? ⟨g, 2, none⟩ = some (.int .i64 0) := cell_of_row w1 g 2 _ 30 _ hgh
  have c3 : w1.cell? ⟨g, 3, none⟩ = some (.slice none 0 0) := cell_of_row w1 g 3 _ 30 _ hgh
  -- a frame that is not there
  have HNO : Hid (∀ err, next room l = (noFrm, err, l) → NxPost S w p room (next room l) (.returned (.tuple #[.agg #[.int .i64 0, .int .i64 0, .int .i64 0, .slice none 0 0], .int .i64 (err : Int)])) ((((w1.setCell ⟨g, 0, none⟩ (.int .i64 0)).setCell ⟨g, 1, none⟩ (.int .i64 0)).setCell ⟨g, 2, none⟩ (.int .i64 0)).setCell ⟨g, 3, none⟩ (.slice none 0 0))) := Lib.hid (fun err he => by
    have hgB : w.heap.size ≤ g := by omega
    have hb2 : Below w.heap.size w ((((w1.setCell ⟨g, 0, none⟩ (.int .i64 0)).setCell ⟨g, 1, none⟩ (.int .i64 0)).setCell ⟨g, 2, none⟩ (.int .i64 0)).setCell ⟨g, 3, none⟩ (.slice none 0 0)) := (((hb1.setCell (p := ⟨g, 0, none⟩) hgB _).setCell (p := ⟨g, 1, none⟩) hgB _).setCell (p := ⟨g, 2, none⟩) hgB _).setCell (p := ⟨g, 3, none⟩) hgB _
    rw [he]
    exact ⟨S, ⟨none, 0, rfl, at_nil _ _ _ _, fun _ => rfl, Nat.le_refl _, fun b o s e => by cases e⟩, h.quiet hb2, fun x hx => .inl hx, Keeps.of_below hb2⟩)
  have HB1 := Lib.hid hb1
  have HW := Lib.hid hw1
  have HG := Lib.hid hg
  have HL := Lib.hid hn2
  have HAT := Lib.hid hat
  have HBY := Lib.hid hb
  have HA0 := Lib.hid hA0
  have HH := Lib.hid h
  have HLOW := Lib.hid h.low
  have HSS := Lib.hid hS
  clear hh ho hn hS h hgh hb1 hw1 hg hat hb hA0 hgl hn2
  by_cases h9 : n < 9
  · have ki : (n : Int) < 9 := by omega
    have HNE := Lib.hid (HNO.out 4 (by rw [next, if_pos (by rw [← HL.out]; exact h9)]))
    clear h9 HX HGB HNO hp x0
    go_enter Try.func18, Try.ntmps18
    go_upto_region 1 with fail
    rw [← HW.out, ← HG.out]
    go_wp2
    refine bodyPost_ret (v := .tuple #[.agg #[.int .i64 0, .int .i64 0, .int .i64 0, .slice none 0 0], .int .i64 4]) (by simp [results, Try.results18, go_sem, c0, c1, c2, c3]) rfl HNE.out
  · have ki : ¬ (n : Int) < 9 := by omega
    obtain ⟨A3, hA3⟩ : ∃ A3, A3 = cutAt A c 0 := ⟨_, rfl⟩
    have hsl1 := fun (W : World) => slice_h A n c 3 W (by omega)
    obtain ⟨V, hV⟩ : ∃ V, V = val (l.take 3) := ⟨_, rfl⟩
    have hVb : V < 16777216 := by
      have := val_lt (l.take 3) (fun x hx => HBY.out x (List.mem_of_mem_take hx))
      rw [List.length_take, show min 3 l.length = 3 by have := HL.out; omega, ← hV] at this
      exact this
    have HVAL := rval_any A3 (l.take 3) 3 c w1 (by rw [hA3]; exact (At.up HAT.out HB1.out).take (by have := HL.out; omega)) (fun x hx => HBY.out x (List.mem_of_mem_take hx)) (by rw [List.length_take]; have := HL.out; omega) (by omega)
    rw [← hA3] at hsl1
    rw [← hV] at HVAL
    have HVV := Lib.hid hV
    replace HVAL := Lib.hid HVAL
    have e3 : ((3 : Nat) : Int) = 3 := rfl
    rw [e3] at hsl1
    clear hA3 hV e3
    by_cases hr : room < (V : Int)
    · have HNE := Lib.hid (HNO.out 3 (by rw [next, if_neg (by have := HL.out; omega), ← HVV.out, if_pos hr]))
      clear h9 HX HGB HNO hp
      go_enter Try.func18, Try.ntmps18
      go_upto_region 1 with fail
      rw [← HW.out, ← HG.out]
      go_wp2_with fail
      with_reducible refine (HVAL.out).mono ?_
      rintro e w2 ⟨rfl, rfl⟩
      go_wp2
      refine bodyPost_ret (v := .tuple #[.agg #[.int .i64 0, .int .i64 0, .int .i64 0, .slice none 0 0], .int .i64 3]) (by simp [results, Try.results18, go_sem, c0, c1, c2, c3]) rfl HNE.out
    · obtain ⟨m, hm⟩ : ∃ m, m = 9 + V := ⟨_, rfl⟩
      have em : (9 : Int) + (V : Int) = (m : Int) := by omega
      by_cases hs : n < m
      · have HNE := Lib.hid (HNO.out 4 (by rw [next, if_neg (by have := HL.out; omega), ← HVV.out, if_neg hr, if_pos (by have := HL.out; omega)]))
        have ks : (n : Int) < (m : Int) := by omega
        clear h9 HX HGB HNO hp hm
        go_enter Try.func18, Try.ntmps18
        go_upto_region 1 with fail
        rw [← HW.out, ← HG.out]
        go_wp2_with fail
        with_reducible refine (HVAL.out).mono ?_
        rintro e w2 ⟨rfl, rfl⟩
        go_wp2
        refine bodyPost_ret (v := .tuple #[.agg #[.int .i64 0, .int .i64 0, .int .i64 0, .slice none 0 0], .int .i64 4]) (by simp [results, Try.results18, go_sem, c0, c1, c2, c3]) rfl HNE.out
      · have ks : ¬ (n : Int) < (m : Int) := by omega
        have HMM := Lib.hid hm
        have hmb : m < 20000000 := by omega
        have HMN : Hid (m ≤ n) := Lib.hid (by omega)
        have hln := HL.out
        have hl9 : 9 ≤ l.length := by omega
        have hmn : m ≤ n := by omega
        obtain ⟨b, o, rfl, hbl, hc⟩ := HAT.out.pos (by omega)
        obtain ⟨k3, hk3⟩ : ∃ k, k = l.getD 3 0 := ⟨_, rfl⟩
        obtain ⟨k4, hk4⟩ : ∃ k, k = l.getD 4 0 := ⟨_, rfl⟩
        have hg3 : l.getD 3 0 = l[3] := by rw [List.getD, List.getElem?_eq_getElem (by omega), Option.getD_some]
        have hg4 : l.getD 4 0 = l[4] := by rw [List.getD, List.getElem?_eq_getElem (by omega), Option.getD_some]
        have k3b : k3 < 256 := by rw [hk3, hg3]; exact HBY.out _ (List.getElem_mem _)
        have k4b : k4 < 256 := by rw [hk4, hg4]; exact HBY.out _ (List.getElem_mem _)
        have HXY : Hid (∀ W, Below w1.heap.size w1 W → W.cell? ⟨p, 1, none⟩ = some (.slice (some ⟨b, o, none⟩) n c) ∧ W.cell? ⟨b, o + 3, none⟩ = some (.int .u8 (k3 : Int)) ∧ W.cell? ⟨b, o + 4, none⟩ = some (.int .u8 (k4 : Int))) := Lib.hid (fun W hb => by
          have hb2 := HB1.out.trans (hb.mono HB1.out.size)
          refine ⟨(HX.out W hb).2, ?_, ?_⟩
          · rw [hk3, hg3]; exact (hb2.cell (p := ⟨b, o + 3, none⟩) hbl).trans (hc 3 (by omega))
          · rw [hk4, hg4]; exact (hb2.cell (p := ⟨b, o + 4, none⟩) hbl).trans (hc 4 (by omega)))
        obtain ⟨A5, hA5⟩ : ∃ A5, A5 = cutAt (some ⟨b, o, none⟩) c 5 := ⟨_, rfl⟩
        have hsl5 := fun (W : World) => slice_lh (some ⟨b, o, none⟩) n c 5 9 4 W (by omega) (by omega) rfl
        obtain ⟨A9, hA9⟩ : ∃ A9, A9 = cutAt (some ⟨b, o, none⟩) c 9 := ⟨_, rfl⟩
        have hsl9 := fun (W : World) => slice_lh (some ⟨b, o, none⟩) n c 9 m V W (by omega) (by omega) (by omega)
        obtain ⟨Q, hQ⟩ : ∃ Q, Q = val ((l.drop 5).take 4) := ⟨_, rfl⟩
        have hQb : Q < 4294967296 := by
          have := val_lt ((l.drop 5).take 4) (fun x hx => HBY.out x (List.mem_of_mem_drop (List.mem_of_mem_take hx)))
          rw [List.length_take, List.length_drop, show min 4 (l.length - 5) = 4 by omega, ← hQ] at this
          exact this
        obtain ⟨T, hT⟩ : ∃ T, T = Q % 2147483648 := ⟨_, rfl⟩
        have eT : bits .and .i64 (Q : Int) 2147483647 = (T : Int) := by rw [hT]; exact i64_and31 Q hQb
        have HV5 : Hid (∀ W, Below w1.heap.size w1 W → Calls Try.prog 25 #[.slice A5 4 (c - 5)] W fun e w' => e = .returned (.int .i64 (Q : Int)) ∧ w' = W) := Lib.hid (fun W hb => by
          have hb2 := HB1.out.trans (hb.mono HB1.out.size)
          rw [hQ, hA5]
          exact rval_any _ ((l.drop 5).take 4) 4 (c - 5) W ((HAT.out.up hb2).mid (by omega)) (fun x hx => HBY.out x (List.mem_of_mem_drop (List.mem_of_mem_take hx))) (by rw [List.length_take, List.length_drop]; omega) (by omega))
        obtain ⟨X, hX⟩ : ∃ X, X = (l.drop 9).take V := ⟨_, rfl⟩
        have hXl : X.length = V := by rw [hX, List.length_take, List.length_drop]; omega
        have HCP : Hid (∀ W, Below w1.heap.size w1 W → Calls Try.prog 26 #[.slice A9 V (c - 9)] W (RowPost W.heap.size W X)) := Lib.hid (fun W hb => by
          have hb2 := HB1.out.trans (hb.mono HB1.out.size)
          rw [hA9, hX]
          exact copy_any _ ((l.drop 9).take V) V (c - 9) W ((HAT.out.up hb2).mid (by omega)) (by rw [← hX]; exact hXl) (fun h => by have := cutAt_none HA0.out h; omega) (by omega))
        rw [← hA5, show ((5 : Nat) : Int) = 5 from rfl, show ((9 : Nat) : Int) = 9 from rfl] at hsl5
        rw [← hA9, show ((9 : Nat) : Int) = 9 from rfl] at hsl9
        have i3 : (3 : Int) < (n : Int) := by omega
        have i9 : (9 : Int) ≤ (m : Int) := by omega
        have ew3 : IntKind.i64.wrap (k3 : Int) = (k3 : Int) := i64_ofNat k3 (by omega)
        have ew4 : IntKind.i64.wrap (k4 : Int) = (k4 : Int) := i64_ofNat k4 (by omega)
        have ewr : IntKind.i64.wrap (9 + (V : Int)) = (m : Int) := by rw [em]; exact i64_ofNat m (by omega)
        have ewm : IntKind.i64.wrap (m : Int) = (m : Int) := i64_ofNat m (by omega)
        have i9c : (m : Int) ≤ (c : Int) := by omega
        have i0m : (0 : Int) ≤ (m : Int) := by omega
        have i4 : (4 : Int) < (n : Int) := by omega
        have HXL := Lib.hid hXl
        have HKK : Hid (k3 = l.getD 3 0 ∧ k4 = l.getD 4 0 ∧ Q = val ((l.drop 5).take 4) ∧ T = Q % 2147483648 ∧ X = (l.drop 9).take V) := Lib.hid ⟨hk3, hk4, hQ, hT, hX⟩
        have HCD : Hid (∀ W, Below w1.heap.size w1 W → ∃ r, (∀ W', (Instr.sliceAt 25 (.slice (some ⟨b, o, none⟩) n c) (some (.int .i64 (m : Int))) none none).run Try.prog W' = .ok (.slice (cutAt (some ⟨b, o, none⟩) c m) r (c - m)) W') ∧ Calls Try.prog 26 #[.slice (cutAt (some ⟨b, o, none⟩) c m) r (c - m)] W (RowPost W.heap.size W (l.drop m))) := Lib.hid (fun W hb => by
          have hb2 := HB1.out.trans (hb.mono HB1.out.size)
          refine ⟨n - m, fun W' => slice_l _ n c m (n - m) W' (by omega) rfl, ?_⟩
          exact copy_any _ (l.drop m) (n - m) (c - m) W ((HAT.out.up hb2).drop (by omega)) (by rw [List.length_drop]; omega) (fun h => by have := cutAt_none HA0.out h; omega) (by omega))
        clear h9 hm hs hln hmn HNO hg3 hg4 hk3 hk4 hQ hT hX hXl hA5 hA9 hc hbl hl9 hp c0 c1 c2 c3 f0 f1 f2 f3
        obtain ⟨y1, y3, y4⟩ := HXY.out w1 (Below.refl _ _)
        clear y1
        go_enter Try.func18, Try.ntmps18
        go_upto_region 1 with fail
        rw [← HW.out, ← HG.out]
        go_wp2_with fail
        with_reducible refine (HVAL.out).mono ?_
        rintro e w2 ⟨rfl, rfl⟩
        have hd : Below w2.heap.size w2 w2.drew := (Below.refl _ _).drew
        have hbq : Below w2.heap.size w2 (w2.alloc (.cells #[.int .i64 0, .int .i64 0, .int .i64 0, .slice none 0 0] 30)).drew := ((Below.refl w2.heap.size w2).alloc (Nat.le_refl _) _).drew
        have hqh : (w2.alloc (.cells #[.int .i64 0, .int .i64 0, .int .i64 0, .slice none 0 0] 30)).drew.heap[w2.heap.size]? = some (.cells #[.int .i64 0, .int .i64 0, .int .i64 0, .slice none 0 0] 30 (0, 0)) := heap_alloc_new w2 _
        go_wp2
        go_cut [5] (fun x wx => NxCut w2 X k3 k4 T x wx)
        case first =>
         go_region_held3 (fun w' => w'.cell? ⟨p, 1, none⟩ = some (.slice (some ⟨b, o, none⟩) n c) ∧ w'.cell? ⟨b, o + 3, none⟩ = some (.int .u8 (k3 : Int)) ∧ w'.cell? ⟨b, o + 4, none⟩ = some (.int .u8 (k4 : Int)))
          (first
            | exact ⟨x1, y3, y4⟩
            | exact HXY.out _ hd
            | exact HXY.out _ hbq
            | exact HXY.out _ hb3
            | exact HXY.out _ (hb3.alloc hb3.size _)
            | exact HXY.out _ ((((hb3.setCell (p := ⟨w2.heap.size, 0, none⟩) (Nat.le_refl _) _).setCell (p := ⟨w2.heap.size, 1, none⟩) (Nat.le_refl _) _).setCell (p := ⟨w2.heap.size, 2, none⟩) (Nat.le_refl _) _).setCell (p := ⟨w2.heap.size, 3, none⟩) (Nat.le_refl _) _))
          (first
            | ((with_reducible refine (HV5.out _ hd).mono ?_); rintro e w3 ⟨rfl, rfl⟩)
            | ((with_reducible refine (HV5.out _ hbq).mono ?_); rintro e w3 ⟨rfl, rfl⟩)
            | ((with_reducible refine (HCP.out _ hd).mono ?_); rintro e w3 ⟨v3, rfl, hr3⟩; obtain ⟨Ax, cx, hvx⟩ := own_shape hr3.1; subst hvx; have hb3 : Below w2.heap.size w2 w3 := hd.trans (hr3.2.mono hd.size); have hro : w3.ownsRow w2.heap.size 5 1 (.slice Ax X.length cx) X.length (cn .u8 X) := own_more hr3.1 hd.size)
            | ((with_reducible refine (HCP.out _ hbq).mono ?_); rintro e w3 ⟨v3, rfl, hr3⟩; obtain ⟨Ax, cx, hvx⟩ := own_shape hr3.1; subst hvx; have hb3 : Below w2.heap.size w2 w3 := hbq.trans (hr3.2.mono hbq.size); have hro : w3.ownsRow w2.heap.size 5 1 (.slice Ax X.length cx) X.length (cn .u8 X) := own_more hr3.1 hbq.size; have hh3 : w3.heap[w2.heap.size]? = some (.cells #[.int .i64 0, .int .i64 0, .int .i64 0, .slice none 0 0] 30 (0, 0)) := (hr3.2.block w2.heap.size (lt_of_heapF hqh)).trans hqh; have f0 : w3.frozen? ⟨w2.heap.size, 0, none⟩ = false := frozen_of_row w3 w2.heap.size 0 _ 30 hh3; have f1 : w3.frozen? ⟨w2.heap.size, 1, none⟩ = false := frozen_of_row w3 w2.heap.size 1 _ 30 hh3; have f2 : w3.frozen? ⟨w2.heap.size, 2, none⟩ = false := frozen_of_row w3 w2.heap.size 2 _ 30 hh3; have f3 : w3.frozen? ⟨w2.heap.size, 3, none⟩ = false := frozen_of_row w3 w2.heap.size 3 _ 30 hh3; have c0 : w3.cell? ⟨w2.heap.size, 0, none⟩ = some (.int .i64 0) := cell_of_row w3 w2.heap.size 0 _ 30 _ hh3; have c1 : w3.cell? ⟨w2.heap.size, 1, none⟩ = some (.int .i64 0) := cell_of_row w3 w2.heap.size 1 _ 30 _ hh3; have c2 : w3.cell? ⟨w2.heap.size, 2, none⟩ = some (.int .i64 0) := cell_of_row w3 w2.heap.size 2 _ 30 _ hh3; have c3 : w3.cell? ⟨w2.heap.size, 3, none⟩ = some (.slice none 0 0) := cell_of_row w3 w2.heap.size 3 _ 30 _ hh3))
         all_goals
          go_wp2
          go_meet
          case rel =>
            first
              | exact nxcut2 hb3 hro hr3.1 (lt_of_heapF hqh) hh3
              | exact nxcut1 hb3 hro
        case rest =>
        obtain ⟨G, Ax, cx, e1, hG2, hG3, hro, hbx⟩ := hcut
        subst e1
        obtain ⟨w3, hw3⟩ : ∃ w3, w3 = wc := ⟨_, rfl⟩
        subst hw3
        have z1 := (HX.out w3 hbx).2
        have hgw := HGB.out w3 hbx
        obtain ⟨r, hslm, hcpm⟩ := HCD.out w3 hbx
        obtain ⟨Am, hAm⟩ : ∃ Am, Am = cutAt (some ⟨b, o, none⟩) c m := ⟨_, rfl⟩
        rw [← hAm] at hslm hcpm
        obtain ⟨cm, hcm⟩ : ∃ cm, cm = c - m := ⟨_, rfl⟩
        rw [← hcm] at hslm hcpm
        have HCM := Lib.hid hcpm
        have HG3 := Lib.hid hG3
        have HRO := Lib.hid hro
        have HBX := Lib.hid hbx
        have HG2 := Lib.hid hG2
        have HGW := Lib.hid hgw
        clear hcpm hG3 hro hbx hG2 hgw hAm hcm hd hbq hqh x0 x1 y3 y4 HV5 HCP HXY HVAL HCD
        go_wp2_with fail
        with_reducible refine (HCM.out).mono ?_
        rintro e w6 ⟨v6, rfl, hr6⟩
        obtain ⟨A6, c6, hv6⟩ := own_shape hr6.1
        subst hv6
        have hpg : p < w2.heap.size := Nat.lt_of_lt_of_le HPL.out HB1.out.size
        have hgg : g < w2.heap.size := by rw [HW.out, HG.out]; simp
        have hpg2 : p ≠ g := by have := HPL.out; have := HG.out; omega
        have hb6 : Below w2.heap.size w2 w6 := HBX.out.trans (hr6.2.mono HBX.out.size)
        have hb60 : Below w.heap.size w w6 := HB1.out.trans (hb6.mono HB1.out.size)
        have hp6 := HPB.out w6 hb60
        have hg6 := HGB.out w6 hb6
        have hG6 := (hr6.2.block G (lt_of_heapF HG3.out)).trans HG3.out
        obtain ⟨v6, hv6⟩ : ∃ v6, v6 = Value.slice A6 (l.drop m).length c6 := ⟨_, rfl⟩
        rw [← hv6] at hr6
        have hk7 : Keeps (fun x => x = p) w6 (w6.setCell ⟨p, 1, none⟩ v6) := (Keeps.refl (fun x => x = p) w6).setCell (S := fun x => x = p) (p := ⟨p, 1, none⟩) rfl _
        obtain ⟨w7, hw7⟩ : ∃ w7, w7 = w6.setCell ⟨p, 1, none⟩ v6 := ⟨_, rfl⟩
        have hp7 : w7.heap[p]? = some (.cells #[.int .i64 room, v6] 38 (0, 0)) := by
          rw [hw7]
          have := heap_setCell_same w6 p 1 _ 38 v6 hp6
          simpa using this
        rw [← hw7] at hk7
        have hg7 := (hk7.block g (lt_of_heapF hg6) (fun e => hpg2 e.symm)).trans hg6
        have hG7 := (hk7.block G (lt_of_heapF hG6) (fun e => by have := HG2.out; omega)).trans hG6
        have hk8 := keeps4 w7 g (.int .i64 (k3 : Int)) (.int .i64 (k4 : Int)) (.int .i64 (T : Int)) (.slice Ax X.length cx)
        have HEND : Hid (NxPost S w p room (next room l) (.returned (.tuple #[.agg #[.int .i64 (k3 : Int), .int .i64 (k4 : Int), .int .i64 (T : Int), .slice Ax X.length cx], .int .i64 0])) ((((w7.setCell ⟨g, 0, none⟩ (.int .i64 (k3 : Int))).setCell ⟨g, 1, none⟩ (.int .i64 (k4 : Int))).setCell ⟨g, 2, none⟩ (.int .i64 (T : Int))).setCell ⟨g, 3, none⟩ (.slice Ax X.length cx))) := Lib.hid (by
          have hk9 : Keeps (fun x => x = p ∨ x = g) w6 _ := (hk7.mono (S' := fun x => x = p ∨ x = g) (fun x _ e => Or.inl e)).trans hk8 (fun x e _ => Or.inr e)
          obtain ⟨q1, q2, q3, q4, q5⟩ := HKK.out
          have hnx : next room l = (⟨k3, k4, T, X⟩, 0, l.drop m) := by
            have hln := HL.out
            have hmm := HMM.out
            rw [next, if_neg (by omega), ← HVV.out, if_neg (by omega), if_neg (by have := HMN.out; omega), ← q1, ← q2, ← q3, ← q4, ← q5, ← hmm]
          rw [hnx]
          have hro6 := own_keep HRO.out hr6.2
          have hrow := row_keeps hro6 hk9 (fun k hk e => by
            have h1 := own_block HRO.out k hk
            rcases e with e | e <;> omega)
          have hv6b : ∀ k, v6.ownBlock = some k → w3.heap.size ≤ k ∧ k < w6.heap.size := fun k hk => ⟨own_block hr6.1 k hk, (hr6.1.lt k hk).2⟩
          have hb3s : w2.heap.size ≤ w3.heap.size := HBX.out.size
          have hb1s : w.heap.size ≤ w2.heap.size := HB1.out.size
          refine ⟨fun x => x = p ∨ v6.ownBlock = some x, ⟨Ax, cx, rfl, At.of_own hrow, own_none hrow, own_cap hrow, fun b o s e => ?_⟩, ⟨v6, (hk8.block p (lt_of_heapF hp7) hpg2).trans hp7, ?_, fun k hk e => ?_, fun x => Iff.rfl⟩, fun x hx => ?_, (Keeps.of_below hb60).trans hk9 (fun x hx hlt => ?_)⟩
          · subst e
            have h1 := (HRO.out.lt b rfl)
            refine ⟨by omega, fun h => ?_⟩
            rcases h with h | h
            · omega
            · have := hv6b b h
              omega
          · refine row_keeps (own_more hr6.1 (Nat.zero_le _)) hk9 (fun k hk e => ?_)
            have := hv6b k hk
            rcases e with e | e <;> omega
          · have := hv6b k hk
            omega
          · rcases hx with h | h
            · exact .inl ((HSS.out x).2 (.inl h))
            · have := hv6b x h
              exact .inr (by omega)
          · rcases hx with h | h
            · exact (HSS.out x).2 (.inl h)
            · have := HG.out
              omega)
        have f1 : w6.frozen? ⟨p, 1, none⟩ = false := frozen_of_row w6 p 1 _ 38 hp6
        have d1 : w6.cell? ⟨p, 1, none⟩ = some (.slice (some ⟨b, o, none⟩) n c) := cell_of_row w6 p 1 _ 38 _ hp6
        have g0 : w7.frozen? ⟨g, 0, none⟩ = false := frozen_of_row w7 g 0 _ 30 hg7
        have g1 : w7.frozen? ⟨g, 1, none⟩ = false := frozen_of_row w7 g 1 _ 30 hg7
        have g2 : w7.frozen? ⟨g, 2, none⟩ = false := frozen_of_row w7 g 2 _ 30 hg7
        have g3 : w7.frozen? ⟨g, 3, none⟩ = false := frozen_of_row w7 g 3 _ 30 hg7
        have c0 : w7.cell? ⟨g, 0, none⟩ = some (.int .i64 0) := cell_of_row w7 g 0 _ 30 _ hg7
        have c1 : w7.cell? ⟨g, 1, none⟩ = some (.int .i64 0) := cell_of_row w7 g 1 _ 30 _ hg7
        have c2 : w7.cell? ⟨g, 2, none⟩ = some (.int .i64 0) := cell_of_row w7 g 2 _ 30 _ hg7
        have c3 : w7.cell? ⟨g, 3, none⟩ = some (.slice none 0 0) := cell_of_row w7 g 3 _ 30 _ hg7
        have s0 : w7.cell? ⟨G, 0, none⟩ = some (.int .i64 (k3 : Int)) := cell_of_row w7 G 0 _ 30 _ hG7
        have s1 : w7.cell? ⟨G, 1, none⟩ = some (.int .i64 (k4 : Int)) := cell_of_row w7 G 1 _ 30 _ hG7
        have s2 : w7.cell? ⟨G, 2, none⟩ = some (.int .i64 (T : Int)) := cell_of_row w7 G 2 _ 30 _ hG7
        have s3 : w7.cell? ⟨G, 3, none⟩ = some (.slice Ax X.length cx) := cell_of_row w7 G 3 _ 30 _ hG7
        have HW7 := Lib.hid hw7
        obtain ⟨rm, hrm⟩ : ∃ rm, rm = (l.drop m).length := ⟨_, rfl⟩
        rw [← hrm] at hv6 ⊢
        clear hb6 hb60 hp6 hg6 hG6 hr6 hk7 hw7 hp7 hg7 hG7 hk8 hpg hgg hpg2 HX HGB HPB HKK HCM HSS z1 hrm
        subst hv6
        go_upto_region 10 with fail
        rw [← HW7.out]
        go_wp2
        refine bodyPost_ret (v := .tuple #[.agg #[.int .i64 (k3 : Int), .int .i64 (k4 : Int), .int .i64 (T : Int), .slice Ax X.length cx], .int .i64 0]) (by simp [results, Try.results18, go_sem, c0, c1, c2, c3]) rfl HEND.out
end Go.Proofs.Ytegcloapadippaa
