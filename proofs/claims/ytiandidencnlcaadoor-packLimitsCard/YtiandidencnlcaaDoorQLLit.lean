/- A row beside an object: apart from its blocks it stays. -/
import Derived.Test.YtiandidencnlcaaDoorLRowF
import Derived.Test.YtiandidencnlcaaDoorDGetL
import Derived.Test.YtiandidencnlcaaDoorPGetD
namespace Go.Proofs.YtiandidencnlcaaDoor
open Go.RowKit

section
variable {wr w' : World} {v : Value} {n : Nat}
theorem row_keeps {S : Nat → Prop} {B T Z : Nat} {xs : List Value} (h : wr.ownsRow B T Z v n xs) (hk : Keeps S wr w') (hn : ∀ k, v.ownBlock = some k → ¬ S k) : w'.ownsRow B T Z v n xs := by
  refine ⟨h.1, ?_⟩
  rcases h.2 with h0 | ⟨g, cap, cur, hv, hB, hh, r⟩
  · exact .inl h0
  · refine .inr ⟨g, cap, cur, hv, hB, ?_, r⟩
    have hg : g < wr.heap.size := by
      rcases Nat.lt_or_ge g wr.heap.size with hlt | hge
      · exact hlt
      · rw [Array.getElem?_eq_none hge] at hh; cases hh
    rw [hk.block g hg (hn g (by rw [hv]; rfl)), hh]
end
end Go.Proofs.YtiandidencnlcaaDoor
/- The landed table in memory: its fields, the eldest first, and its limit. -/
namespace Go.Proofs.YtiandidencnlcaaDoor
open Go.RowKit

/-- The program's table lies at block p: its limit m, its fields l (which may be more than the limit says); S: the blocks that are its own. -/
def DT0 (w : World) (S : Nat → Prop) (p m : Nat) (l : List Fld) : Prop :=
  ∃ v, w.heap[p]? = some (.cells #[v, .int .i64 (m : Int)] 77 (0, 0)) ∧ w.ownsRow 0 52 3 v l.length (cF l.reverse) ∧ (∀ k, v.ownBlock = some k → k ≠ p) ∧ (∀ x, S x ↔ x = p ∨ v.ownBlock = some x) ∧ tot l ≤ 4096 ∧ m ≤ 4096
/-- The program's table lies at block p: its limit m, its fields l; S: the blocks that are its own. -/
def DT (w : World) (S : Nat → Prop) (p m : Nat) (l : List Fld) : Prop := DT0 w S p m l ∧ tot l ≤ m
section
variable {w w' w1 w2 : World} {S S' : Nat → Prop} {p m : Nat} {l : List Fld}
theorem lt_of_heap {w : World} {k : Nat} {o : Obj} (h : w.heap[k]? = some o) : k < w.heap.size := by
  rcases Nat.lt_or_ge k w.heap.size with hlt | hge
  · exact hlt
  · rw [Array.getElem?_eq_none hge] at h; cases h
theorem DT0.own (h : DT0 w S p m l) : S p := by
  obtain ⟨v, _, _, _, hS, _⟩ := h
  exact (hS p).2 (.inl rfl)
theorem DT0.low (h : DT0 w S p m l) : ∀ x, S x → x < w.heap.size := by
  obtain ⟨v, hh, ho, _, hS, _⟩ := h
  intro x hx
  rcases (hS x).1 hx with rfl | h
  · exact lt_of_heap hh
  · exact (ho.lt x h).2
theorem DT0.keep (h : DT0 w S p m l) (hk : Keeps S' w w') (hd : ∀ x, S x → ¬ S' x) : DT0 w' S p m l := by
  obtain ⟨v, hh, ho, hn, hS, hm⟩ := h
  exact ⟨v, (hk.block p (lt_of_heap hh) (hd p ((hS p).2 (.inl rfl)))).trans hh, row_keeps ho hk (fun k hk2 => hd k ((hS k).2 (.inr hk2))), hn, hS, hm⟩
theorem DT.own (h : DT w S p m l) : S p := h.1.own
theorem DT.low (h : DT w S p m l) : ∀ x, S x → x < w.heap.size := h.1.low
theorem DT.fits (h : DT w S p m l) : tot l ≤ m ∧ m ≤ 4096 := by
  obtain ⟨⟨_, _, _, _, _, _, hm⟩, ht⟩ := h
  exact ⟨ht, hm⟩
theorem DT.keep (h : DT w S p m l) (hk : Keeps S' w w') (hd : ∀ x, S x → ¬ S' x) : DT w' S p m l := ⟨h.1.keep hk hd, h.2⟩
end
/-- What a method of the program's table leaves. -/
def DPost0 (S : Nat → Prop) (w : World) (p m : Nat) (l : List Fld) (w' : World) : Prop := ∃ S', DT0 w' S' p m l ∧ (∀ x, S' x → S x ∨ w.heap.size ≤ x) ∧ Keeps S w w'
def DPost (S : Nat → Prop) (w : World) (p m : Nat) (l : List Fld) (w' : World) : Prop := ∃ S', DT w' S' p m l ∧ (∀ x, S' x → S x ∨ w.heap.size ≤ x) ∧ Keeps S w w'
theorem DPost0.fit {S : Nat → Prop} {w w' : World} {p m : Nat} {l : List Fld} (h : DPost0 S w p m l w') (ht : tot l ≤ m) : DPost S w p m l w' := by
  obtain ⟨S', h1, h2, h3⟩ := h
  exact ⟨S', ⟨h1, ht⟩, h2, h3⟩
/-- Another row and another limit are laid into the table: the row lies at its own block or at a new one. -/
theorem DT0.put {S : Nat → Prop} {w w1 : World} {p m m2 n : Nat} {l2 : List Fld} {v v2 : Value} (hh : w.heap[p]? = some (.cells #[v, .int .i64 (m : Int)] 77 (0, 0))) (hn : ∀ k, v.ownBlock = some k → k ≠ p) (hS : ∀ x, S x ↔ x = p ∨ v.ownBlock = some x)
    (hk : Keeps (fun x => v.ownBlock = some x) w w1) (ho : w1.ownsRow 0 52 3 v2 n (cF l2.reverse)) (hl : l2.length = n) (hb : ∀ k, v2.ownBlock = some k → v.ownBlock = some k ∨ w.heap.size ≤ k) (ht : tot l2 ≤ 4096) (hm : m2 ≤ 4096) (hm2 : m2 = m) :
    DPost0 S w p m2 l2 (w1.setCell ⟨p, 0, none⟩ v2) := by
  subst hm2 hl
  have hp := lt_of_heap hh
  have hh1 : w1.heap[p]? = some (.cells #[v, .int .i64 (m2 : Int)] 77 (0, 0)) := (hk.block p hp (fun e => hn p e rfl)).trans hh
  have hh2 : (w1.setCell ⟨p, 0, none⟩ v2).heap[p]? = some (.cells #[v2, .int .i64 (m2 : Int)] 77 (0, 0)) := by
    have := heap_setCell_same w1 p 0 _ 77 v2 hh1
    simpa using this
  have hne : ∀ k, v2.ownBlock = some k → k ≠ p := fun k hk2 => by
    rcases hb k hk2 with h1 | h1
    · exact hn k h1
    · omega
  have hkp : Keeps (fun x => x = p) w1 (w1.setCell ⟨p, 0, none⟩ v2) := (Keeps.refl (fun x => x = p) w1).setCell (S := fun x => x = p) (p := ⟨p, 0, none⟩) rfl v2
  refine ⟨fun x => x = p ∨ v2.ownBlock = some x, ⟨v2, hh2, row_keeps ho hkp (fun k hk2 => hne k hk2), hne, fun x => Iff.rfl, ht, hm⟩, fun x hx => ?_, ?_⟩
  · rcases hx with rfl | hx
    · exact .inl ((hS _).2 (.inl rfl))
    · rcases hb x hx with h1 | h1
      · exact .inl ((hS x).2 (.inr h1))
      · exact .inr h1
  · exact (hk.mono (S' := S) (fun x _ hx => (hS x).2 (.inr hx))).trans hkp (fun x hx _ => (hS x).2 (.inl hx))
end Go.Proofs.YtiandidencnlcaaDoor
/- The landed encoder's literal. -/
namespace Go.Proofs.YtiandidencnlcaaDoor
open Go.RowKit

theorem pstr_top (s : ByteArray) (h : s.size ≤ 16384) : (pstr (nums s)).length ≤ 16390 := by
  have := pstr_len (nums s) (by rw [nums_len]; exact h)
  rw [nums_len] at this
  omega
set_option maxRecDepth 100000 in
set_option maxHeartbeats 4000000 in
theorem qlit_f (h B N : Nat) (F1 F2 : ByteArray) (F3 : Bool) (w : World) (hR : Rdy w) (hh : h < 256) (hB1 : 1 ≤ B) (hB8 : B ≤ 8) (hN : N ≤ 2147483647) (hf1 : F1.size ≤ 16384) (hf2 : F2.size ≤ 16384) :
    Calls Tryd.prog 52 #[.int .u8 (h : Int), .int .i64 (B : Int), .int .i64 (N : Int), .agg #[.string F1, .string F2, .bool F3]] w (RowPost w.heap.size w (Pn.put h B N ++ ((if N = 0 then pstr (nums F1) else []) ++ pstr (nums F2)))) := by
  have hb1 : Below w.heap.size w (w.alloc (.cells #[.string F1, .string F2, .bool F3] 52)) := (Below.refl _ _).alloc (Nat.le_refl _) _
  have hgh : (w.alloc (.cells #[.string F1, .string F2, .bool F3] 52)).heap[w.heap.size]? = some (.cells #[.string F1, .string F2, .bool F3] 52 (0, 0)) := heap_alloc_new w _
  obtain ⟨g, hg⟩ : ∃ g, g = w.heap.size := ⟨_, rfl⟩
  obtain ⟨w1, hw1⟩ : ∃ w1, w1 = w.alloc (.cells #[.string F1, .string F2, .bool F3] 52) := ⟨_, rfl⟩
  rw [← hw1] at hb1 hgh
  rw [← hg] at hgh
  have hgl : g < w1.heap.size := lt_of_heap hgh
  have HG0 := Lib.hid fun (W : World) (hb : Below w1.heap.size w1 W) => (hb.cell (p := ⟨g, 0, none⟩) hgl).trans (cell_of_row _ g 0 _ 52 _ hgh)
  have HG1 := Lib.hid fun (W : World) (hb : Below w1.heap.size w1 W) => (hb.cell (p := ⟨g, 1, none⟩) hgl).trans (cell_of_row _ g 1 _ 52 _ hgh)
  have HP := Lib.hid (qnum_f h B N w1 hh hB1 hB8 hN)
  obtain ⟨P, hP⟩ : ∃ P, P = Pn.put h B N := ⟨_, rfl⟩
  have hPl : P.length ≤ 6 := by rw [hP]; exact Pn.put_six h B N hN
  have hPp : 1 ≤ P.length := by rw [hP]; exact Pn.put_pos h B N
  have hq1 : ∀ W, Below w.heap.size w W → Calls Tryd.prog 68 #[.string F1] W (RowPost W.heap.size W (pstr (nums F1))) := fun W hb => qtext_f F1 W (hR.below hb) hf1
  have hq2 : ∀ W, Below w.heap.size w W → Calls Tryd.prog 68 #[.string F2] W (RowPost W.heap.size W (pstr (nums F2))) := fun W hb => qtext_f F2 W (hR.below hb) hf2
  obtain ⟨E1, hE1⟩ : ∃ E, E = pstr (nums F1) := ⟨_, rfl⟩
  have hE1l : E1.length ≤ 16390 := by rw [hE1]; exact pstr_top F1 hf1
  obtain ⟨E2, hE2⟩ : ∃ E, E = pstr (nums F2) := ⟨_, rfl⟩
  have hE2l : E2.length ≤ 16390 := by rw [hE2]; exact pstr_top F2 hf2
  rw [← hE1] at hq1
  rw [← hE2] at hq2
  rw [← hP, ← hE1, ← hE2]
  rw [← hP] at HP
  have HQ1 := Lib.hid hq1
  have HQ2 := Lib.hid hq2
  have HB1 := Lib.hid hb1
  have HG := Lib.hid hg
  have HW := Lib.hid hw1
  -- the value, behind what is written so far
  clear hP hE1 hE2 hq1 hq2 hb1 hgh hg hw1 hh hB1 hB8 hN hf1 hf2 hR
  by_cases hN0 : N = 0
  · have q1 : ((N : Int) == 0) = true := by simp; omega
    rw [if_pos hN0, ← List.append_assoc]
    obtain ⟨P2, hP2⟩ : ∃ P2, P2 = P ++ E1 := ⟨_, rfl⟩
    rw [← hP2]
    have HP2 := Lib.hid hP2
    have hP2l : P2.length ≤ 16396 ∧ 1 ≤ P2.length := by rw [hP2, List.length_append]; omega
    clear hP2 hN0
    go_enter Tryd.func52, Tryd.ntmps52
    go_wp2_with fail
    rw [← HW.out, ← HG.out]
    with_reducible refine (HP.out).mono ?_
    rintro e w4 ⟨v4, rfl, hr4⟩
    obtain ⟨g4, c4, rfl, hg4, _⟩ := own_form hr4.1 (by omega)
    have HR4 := Lib.hid hr4.1
    have HB4 := Lib.hid hr4.2
    have y0 : w4.cell? ⟨g, 0, none⟩ = some (.string F1) := HG0.out w4 hr4.2
    clear hr4 HP
    go_wp2_with fail
    with_reducible refine (HQ1.out w4 (HB1.out.trans (HB4.out.mono HB1.out.size))).mono ?_
    rintro e w5 ⟨v5, rfl, hr5⟩
    obtain ⟨A5, c5, rfl, hat5, hn5, hc5⟩ := hr5.at
    have HO5 := Lib.hid (own_keep HR4.out hr5.2)
    have HB5 : Hid (Below w1.heap.size w1 w5) := Lib.hid (HB4.out.trans (hr5.2.mono HB4.out.size))
    have HAT5 := Lib.hid hat5
    clear hr5 hat5 HR4 y0 HQ1
    go_wp2_with (at_builtin; refine wpList_append_at rfl (.tmp 16) (.tmp 19) rfl w1.heap.size _ P rfl HO5.out A5 E1 _ c5 rfl rfl hn5 _ HAT5.out (by omega) (HB5.out.size) ?_; intro v6 w6 hown6 hg6; rw [← HP2.out] at hown6; have HO6 := Lib.hid hown6; have HB6 : Hid (Below w1.heap.size w1 w6) := Lib.hid (HB5.out.grown hg6 HB5.out.size (own_block HO5.out)); have y1 : w6.cell? ⟨g, 1, none⟩ = some (.string F2) := HG1.out w6 HB6.out; obtain ⟨g6, c6, rfl, _, _⟩ := own_form hown6 (by omega); clear hown6 hg6 HO5 HB5)
    with_reducible refine (HQ2.out w6 (HB1.out.trans (HB6.out.mono HB1.out.size))).mono ?_
    rintro e w7 ⟨v7, rfl, hr7⟩
    obtain ⟨A7, c7, rfl, hat7, hn7, hc7⟩ := hr7.at
    have HO7 := Lib.hid (own_keep HO6.out hr7.2)
    have HB7 : Hid (Below w1.heap.size w1 w7) := Lib.hid (HB6.out.trans (hr7.2.mono HB6.out.size))
    have HAT7 := Lib.hid hat7
    clear hr7 hat7 HO6 y1 HQ2
    go_wp2_with (at_builtin; refine wpList_append_at rfl (.tmp 21) (.tmp 24) rfl w1.heap.size _ P2 rfl HO7.out A7 E2 _ c7 rfl rfl hn7 _ HAT7.out (by omega) (HB7.out.size) ?_; intro v8 w8 hown8 hg8; have HO8 := Lib.hid hown8; have HB8 : Hid (Below w1.heap.size w1 w8) := Lib.hid (HB7.out.grown hg8 HB7.out.size (own_block HO7.out)); obtain ⟨A8, c8, rfl⟩ := own_shape hown8; clear hown8 hg8 HO7 HB7)
    go_ret
    refine ⟨_, rfl, ?_, HB1.out.trans (HB8.out.mono HB1.out.size)⟩
    have h9 := own_more HO8.out HB1.out.size
    rw [List.length_append] at h9 ⊢
    exact h9
  · have q1 : ((N : Int) == 0) = false := by simp; omega
    rw [if_neg hN0, List.nil_append]
    clear hN0
    go_enter Tryd.func52, Tryd.ntmps52
    go_wp2_with fail
    rw [← HW.out, ← HG.out]
    with_reducible refine (HP.out).mono ?_
    rintro e w6 ⟨v6, rfl, hr6⟩
    obtain ⟨g6, c6, rfl, hg6, _⟩ := own_form hr6.1 (by omega)
    have HO6 := Lib.hid hr6.1
    have HB6 := Lib.hid hr6.2
    have y1 : w6.cell? ⟨g, 1, none⟩ = some (.string F2) := HG1.out w6 hr6.2
    clear hr6 HP
    go_wp2_with fail
    with_reducible refine (HQ2.out w6 (HB1.out.trans (HB6.out.mono HB1.out.size))).mono ?_
    rintro e w7 ⟨v7, rfl, hr7⟩
    obtain ⟨A7, c7, rfl, hat7, hn7, hc7⟩ := hr7.at
    have HO7 := Lib.hid (own_keep HO6.out hr7.2)
    have HB7 : Hid (Below w1.heap.size w1 w7) := Lib.hid (HB6.out.trans (hr7.2.mono HB6.out.size))
    have HAT7 := Lib.hid hat7
    clear hr7 hat7 HO6 y1 HQ2
    go_wp2_with (at_builtin; refine wpList_append_at rfl (.tmp 21) (.tmp 24) rfl w1.heap.size _ P rfl HO7.out A7 E2 _ c7 rfl rfl hn7 _ HAT7.out (by omega) (HB7.out.size) ?_; intro v8 w8 hown8 hg8; have HO8 := Lib.hid hown8; have HB8 : Hid (Below w1.heap.size w1 w8) := Lib.hid (HB7.out.grown hg8 HB7.out.size (own_block HO7.out)); obtain ⟨A8, c8, rfl⟩ := own_shape hown8; clear hown8 hg8 HO7 HB7)
    go_ret
    refine ⟨_, rfl, ?_, HB1.out.trans (HB8.out.mono HB1.out.size)⟩
    have h9 := own_more HO8.out HB1.out.size
    rw [List.length_append] at h9 ⊢
    exact h9
end Go.Proofs.YtiandidencnlcaaDoor
