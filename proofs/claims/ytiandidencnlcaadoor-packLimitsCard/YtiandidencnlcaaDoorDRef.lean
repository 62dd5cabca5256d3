/- The document's own table (a struct with a number and a list) in memory; contracts of its methods. -/
import Derived.Test.YtiandidencnlcaaDoorDGetL
import Derived.Test.YtiandidencnlcaaDoorLRowF
import Derived.Deep.RegionHeld3
import Derived.Deep.RegionLaw
namespace Go.Proofs.YtiandidencnlcaaDoor
open Go.RowKit

/-- The document's table lies at block p: its limit m, its fields l; S: the blocks that are its own. -/
structure RT (w : World) (S : Nat → Prop) (p m : Nat) (l : List Fld) : Prop where
  ex : ∃ A c, w.heap[p]? = some (.cells #[.int .i64 (m : Int), .slice A l.length c] 70 (0, 0)) ∧ AtF w w.heap.size A l ∧ (A = none → c = 0) ∧ l.length ≤ c ∧ (∀ b o s, A = some ⟨b, o, s⟩ → S b ∧ b ≠ p)
  own : S p
  low : ∀ x, S x → x < w.heap.size
  small : tot l ≤ 46400 + 46400
theorem RT.keep {w w' : World} {S S' : Nat → Prop} {p m : Nat} {l : List Fld} (h : RT w S p m l) (hk : Keeps S' w w') (hd : ∀ x, S x → ¬ S' x) : RT w' S p m l := by
  obtain ⟨⟨A, c, h1, h2, h3, h4, h5⟩, h6, hb, h7⟩ := h
  refine ⟨⟨A, c, (hk.block p (hb p h6) (hd p h6)).trans h1, fun hl => ?_, h3, h4, h5⟩, h6, fun x hx => Nat.lt_of_lt_of_le (hb x hx) hk.size, h7⟩
  obtain ⟨b, o, rfl, hbl, hc⟩ := h2 hl
  have hsb := (h5 b o none rfl).1
  refine ⟨b, o, rfl, Nat.lt_of_lt_of_le hbl hk.size, fun i hi => ?_⟩
  obtain ⟨c0, c1, c2⟩ := hc i hi
  exact ⟨(hk.cell (p := ⟨b, o + i * 3, none⟩) hbl (hd b hsb)).trans c0, (hk.cell (p := ⟨b, o + i * 3 + 1, none⟩) hbl (hd b hsb)).trans c1, (hk.cell (p := ⟨b, o + i * 3 + 2, none⟩) hbl (hd b hsb)).trans c2⟩
theorem RT.lt {w : World} {S : Nat → Prop} {p m : Nat} {l : List Fld} (h : RT w S p m l) : p < w.heap.size := h.low p h.own
/-- What a method of the table leaves. -/
def TPost (S : Nat → Prop) (w : World) (p m : Nat) (l : List Fld) (w' : World) : Prop := ∃ S', RT w' S' p m l ∧ (∀ x, S' x → S x ∨ w.heap.size ≤ x) ∧ Keeps S w w'
set_option maxRecDepth 100000 in
theorem rnew_ok (m : Nat) (w : World) (hm : m ≤ 4096) : Calls Tryd.prog 29 #[.int .i64 (m : Int)] w fun e w' => e = .returned (.tuple #[.pointer (some ⟨w.heap.size, 0, none⟩), .int .i64 0]) ∧ w' = w.alloc (.cells #[.int .i64 (m : Int), .slice none 0 0] 70) := by
  have h1 : ¬ (m : Int) < 0 := by omega
  have h2 : ¬ (4096 : Int) < (m : Int) := by omega
  go_enter Tryd.func29, Tryd.ntmps29
  go_wp2
  go_ret2
  exact ⟨rfl, rfl⟩
set_option maxRecDepth 100000 in
theorem rnew_no (m : Int) (w : World) (hm : m < 0 ∨ 4096 < m) : Calls Tryd.prog 29 #[.int .i64 m] w fun e w' => e = .returned (.tuple #[.pointer none, .int .i64 1]) ∧ w' = w := by
  by_cases h1 : m < 0
  · go_enter Tryd.func29, Tryd.ntmps29
    go_wp2
    go_ret2
    exact ⟨rfl, rfl⟩
  · have h2 : 4096 < m := by omega
    go_enter Tryd.func29, Tryd.ntmps29
    go_wp2
    go_ret2
    exact ⟨rfl, rfl⟩
theorem rt_new (w : World) (m : Nat) : RT (w.alloc (.cells #[.int .i64 (m : Int), .slice none 0 0] 70)) (fun x => x = w.heap.size) w.heap.size m [] :=
  ⟨⟨none, 0, heap_alloc_new w _, atF_nil _ _ _, fun _ => rfl, Nat.le_refl _, fun b o s h => by cases h⟩, rfl, fun x hx => by rw [hx]; simp, by simp [tot]⟩
/-- An append onto a row of the call's own in a region that draws its order. -/
theorem step_appF {ops : Array Oper} {o : Oper} {a : Act} {w : World} {K : Act → World → Prop} {Q : Exit → Act → World → Prop} {E : Prop} (hgd : o.guard = none) (s x : Operand)
    (ho : o.op = .call { callee := .builtin .append, args := #[s, x], argTypes := #[30, 30] }) (base : Nat)
    (v : Value) (n : Nat) (l : List Fld) (hs : a.eval s = v) (hown : w.ownsRow base 52 3 v n (cF l))
    (A : Option Addr) (m : List Fld) (k c : Nat) (hx : a.eval x = .slice A k c) (hk : m.length = k) (hA : A = none → c = 0) (B : Nat) (hm : AtF w B A m) (hlen : n + k ≤ 1000000) (hbase : base ≤ w.heap.size)
    (h : ∀ v' w', w'.ownsRow base 52 3 v' (n + k) (cF (l ++ m)) → w.grownBy w' v.ownBlock → K (a.put o.dst v') w') :
    if Region.wanted o (yielded ops a.tmps) = true then Oper.wp Tryd.prog o a w K Q else E := by
  obtain ⟨i0, hi0, hz0, hz1, hz2⟩ := info_parts infoFd
  have hw : Region.wanted o (yielded ops a.tmps) = true := by simp [Region.wanted, hgd]
  rw [if_pos hw]
  subst hk
  cases A with
  | none =>
    have hc := hA rfl
    subst hc
    have hmn : m = [] := by
      rcases m with _ | ⟨x, r⟩
      · rfl
      · obtain ⟨b, o, e, _⟩ := hm (by simp)
        cases e
    subst hmn
    have hrun := run_append_owned_none (P := Tryd.prog) (w := w) base 30 o.type 52 i0 3 Tryd.underlying30 hi0 v n (cF l) hown
    have hx' : a.eval x = .slice none 0 0 := hx
    unfold Oper.wp
    simp [execOp, ho, resolve, invoke, builtin, hs, hx', hrun, Result.andThen]
    exact h v w (by simpa using hown) (World.grownBy.refl w _)
  | some ad =>
    refine wp_append_own w s x 30 ho base 52 i0 _ 3 40 Tryd.underlying30 hi0 hz0 hz1 hz2 rfl (by decide) v n (cF l) hs hown ad m.length c (cF m) hx (cF_len m) hm.cells (cF_one _) ?_ ?_ hbase ?_
    · unfold maxLen; omega
    · omega
    · intro v' w' h1 h2 _
      rw [← cF_app] at h1
      exact h v' w' h1 h2
theorem cutF_zero (A : Option Addr) (c : Nat) : cutF A c 0 = A := by
  unfold cutF
  split
  · rfl
  · cases A with
    | none => rfl
    | some a =>
      obtain ⟨b, o, s⟩ := a
      cases s <;> rfl
/-- Reading does not turn the table. -/
theorem TPost.quiet {S : Nat → Prop} {w w1 w2 : World} {p m : Nat} {l : List Fld} (h : TPost S w p m l w1) (hb : Below w1.heap.size w1 w2) : TPost S w p m l w2 := by
  obtain ⟨S1, hT, hS1, hK⟩ := h
  exact ⟨S1, hT.keep (S' := fun _ => False) (Keeps.of_below hb) (fun _ _ h => h), hS1, hK.trans (S' := fun _ => False) (Keeps.of_below hb) (fun _ h => h.elim)⟩
/-- A new list of fields is laid into the table. -/
theorem TPost.put {S : Nat → Prop} {w w1 w2 : World} {p m B n : Nat} {l l' : List Fld} {v : Value} (h : TPost S w p m l w1) (hw : w.heap.size ≤ w1.heap.size) (hB : w1.heap.size ≤ B) (hb : Below w1.heap.size w1 w2) (hn : l'.length = n) (hown : w2.ownsRow B 52 3 v n (cF l')) (ht : tot l' ≤ 92800) : TPost S w p m l' (w2.setCell ⟨p, 1, none⟩ v) := by
  subst hn
  obtain ⟨S1, ⟨⟨A, c, hh, hat, hA0, hnc, hAS⟩, hSp, hlow, hsm⟩, hS1, hK⟩ := h
  have hpl : p < w1.heap.size := hlow p hSp
  have hh2 : w2.heap[p]? = some (.cells #[.int .i64 (m : Int), .slice A l.length c] 70 (0, 0)) := (hb.block p hpl).trans hh
  obtain ⟨A2, c2, rfl, hc2, hA2⟩ := rowF_shape hown
  have hh3 : (w2.setCell ⟨p, 1, none⟩ (.slice A2 l'.length c2)).heap[p]? = some (.cells #[.int .i64 (m : Int), .slice A2 l'.length c2] 70 (0, 0)) := by
    have := heap_setCell_same w2 p 1 _ 70 (.slice A2 l'.length c2) hh2
    simpa using this
  have hne : ∀ k, B ≤ k → k ≠ p := fun k hk e => by omega
  have hat2 := AtF.of_own hown
  have hg : ∀ b o s, A2 = some ⟨b, o, s⟩ → B ≤ b ∧ b < w2.heap.size := fun b o s e => by
    subst e
    exact hown.lt b rfl
  refine ⟨fun x => x = p ∨ (∃ o s, A2 = some ⟨x, o, s⟩), ⟨⟨A2, c2, hh3, fun hl => ?_, hA2, hc2, fun b o s e => ⟨.inr ⟨o, s, e⟩, hne b (hg b o s e).1⟩⟩, .inl rfl, fun x hx => ?_, by omega⟩, fun x hx => ?_, ?_⟩
  · obtain ⟨b, o, rfl, hbl, hc⟩ := hat2 hl
    have hbp := hne b (hg b o none rfl).1
    refine ⟨b, o, rfl, by simpa [World.setCell] using hbl, fun i hi => ?_⟩
    obtain ⟨c0, c1, c2'⟩ := hc i hi
    refine ⟨?_, ?_, ?_⟩
    · rw [World.cell?_setCell_other w2 ⟨p, 1, none⟩ ⟨b, o + i * 3, none⟩ _ (by rintro e; injection e with e _; exact hbp e.symm)]; exact c0
    · rw [World.cell?_setCell_other w2 ⟨p, 1, none⟩ ⟨b, o + i * 3 + 1, none⟩ _ (by rintro e; injection e with e _; exact hbp e.symm)]; exact c1
    · rw [World.cell?_setCell_other w2 ⟨p, 1, none⟩ ⟨b, o + i * 3 + 2, none⟩ _ (by rintro e; injection e with e _; exact hbp e.symm)]; exact c2'
  · have hsz : (w2.setCell ⟨p, 1, none⟩ (.slice A2 l'.length c2)).heap.size = w2.heap.size := by simp [World.setCell]
    rw [hsz]
    rcases hx with rfl | ⟨o, s, e⟩
    · exact Nat.lt_of_lt_of_le hpl hb.size
    · exact (hg x o s e).2
  · rcases hx with rfl | ⟨o, s, e⟩
    · exact hS1 _ hSp
    · exact .inr (by have := (hg x o s e).1; omega)
  · have hk2 : Keeps S w w2 := hK.trans (S' := fun _ => False) (Keeps.of_below hb) (fun _ h => h.elim)
    rcases hS1 p hSp with h1 | h1
    · exact hk2.setCell (p := ⟨p, 1, none⟩) h1 _
    · exact hk2.trans (S' := fun x => x = p) ⟨rfl, rfl, rfl, by simp [World.setCell], fun k _ hn => Below.heap_setCell w2 ⟨p, 1, none⟩ _ k (fun e => hn e)⟩ (fun x hx hlt => by subst hx; omega)
def lenAt (w : World) (p : Nat) : Nat := match w.cell? ⟨p, 1, none⟩ with
  | some (.slice _ n _) => n
  | _ => 0
def CtR (w : World) (S : Nat → Prop) (p m : Nat) (l : List Fld) (wr : World) : Prop := ∃ j, j ≤ l.length ∧ fitL m (l.take j) = fitL m l ∧ TPost S w p m (l.take j) wr
set_option maxRecDepth 100000 in
set_option maxHeartbeats 8000000 in
theorem rcut_any (w : World) (S : Nat → Prop) (p m : Nat) (l : List Fld) (h : RT w S p m l) : Calls Tryd.prog 48 #[.pointer (some ⟨p, 0, none⟩)] w fun e w' => e = .returned (.tuple #[]) ∧ TPost S w p m (fitL m l) w' := by
  have hr0 : CtR w S p m l w := ⟨l.length, Nat.le_refl _, by rw [List.take_length], S, by rw [List.take_length]; exact h, fun x hx => .inl hx, Keeps.refl _ _⟩
  have hsm := h.small
  have hln := tot_pos l
  have HSM : Hid (tot l ≤ 92800) := Lib.hid hsm
  have HLN : Hid (l.length ≤ 2900) := Lib.hid (by omega)
  clear h hsm hln
  go_enter Tryd.func48, Tryd.ntmps48
  go_wp2
  go_loopw [] (fun wr => CtR w S p m l wr) (fun wr => lenAt wr p)
  case atStart => exact hr0
  case round =>
    clear hr0
    obtain ⟨j, hj, hfit, S1, hT, hS1, hK⟩ := hrel
    have hT0 := hT
    obtain ⟨⟨A, c, hh, hat, hA0, hnc, hAS⟩, hSp, hlow, hsm⟩ := hT
    have hjl : (l.take j).length = j := by rw [List.length_take]; omega
    rw [hjl] at hh hnc
    have x0 : wr.cell? ⟨p, 0, none⟩ = some (.int .i64 (m : Int)) := cell_of_row _ p 0 _ 70 _ hh
    have x1 : wr.cell? ⟨p, 1, none⟩ = some (.slice A j c) := cell_of_row _ p 1 _ 70 _ hh
    have hpl : p < wr.heap.size := hlow p hSp
    obtain ⟨T, hTt⟩ : ∃ T, T = tot (l.take j) := ⟨_, rfl⟩
    have hTb : T ≤ 92800 := by rw [hTt]; exact Nat.le_trans (tot_le l j) HSM.out
    have hrt := fun (W : World) (hb : Below wr.heap.size wr W) => rtotal_any A (l.take j) j c W (hat.up hb) hjl (by omega)
    rw [← hTt] at hrt
    have HRT := Lib.hid hrt
    have hd : Below wr.heap.size wr wr.drew := (Below.refl _ _).drew
    have HX0 := Lib.hid fun (W : World) (hb : Below wr.heap.size wr W) => (hb.cell (p := ⟨p, 0, none⟩) hpl).trans x0
    have HX1 := Lib.hid fun (W : World) (hb : Below wr.heap.size wr W) => (hb.cell (p := ⟨p, 1, none⟩) hpl).trans x1
    have HTT := Lib.hid hTt
    have HAT := Lib.hid hat
    have HHH := Lib.hid hh
    clear hrt hTt hat hh
    go_wp2
    go_region_held3 (fun w' => w'.cell? ⟨p, 0, none⟩ = some (.int .i64 (m : Int)) ∧ w'.cell? ⟨p, 1, none⟩ = some (.slice A j c))
      (first
        | exact ⟨x0, x1⟩
        | exact ⟨HX0.out _ hb6, HX1.out _ hb6⟩)
      (first
        | ((with_reducible refine (HRT.out _ hd).mono ?_); rintro e w6 ⟨rfl, hb6'⟩; have hb6 := hd.trans (hb6'.mono hd.size)))
    have hP6 : TPost S w p m (l.take j) w6 := TPost.quiet ⟨S1, hT0, hS1, hK⟩ hb6
    have hw6 : w.heap.size ≤ w6.heap.size := Nat.le_trans hK.size hb6.size
    by_cases hgt : m < T
    · have hgt' : (m : Int) < (T : Int) := by omega
      have hj1 : 1 ≤ j := by
        rcases Nat.eq_zero_or_pos j with h0 | h0
        · have := HTT.out
          rw [h0] at this
          simp [tot] at this
          omega
        · exact h0
      obtain ⟨i, hi⟩ : ∃ i, i = j - 1 := ⟨_, rfl⟩
      have ei : (j : Int) - 1 = (i : Int) := by omega
      have HIJ : Hid (j = i + 1) := Lib.hid (by omega)
      have y1 := HX1.out w6 hb6
      have hh6 : w6.heap[p]? = some (.cells #[.int .i64 (m : Int), .slice A j c] 70 (0, 0)) := (hb6.block p hpl).trans HHH.out
      have fz : w6.frozen? ⟨p, 1, none⟩ = false := frozen_of_row w6 p 1 _ 70 hh6
      have ewi : IntKind.i64.wrap (i : Int) = (i : Int) := IntWalk.i64_in _ (by have := HLN.out; omega)
      have ic : (i : Int) ≤ (c : Int) := by omega
      have hat6 : AtF w6 w6.heap.size A (l.take j) := HAT.out.up hb6
      have hat1 : AtF w6 w6.heap.size A (l.take i) := by
        have h1 := hat6.take (c := c) (q := i) (by rw [hjl]; exact hnc)
        rw [cutF_zero, List.take_take, show min i j = i by omega] at h1
        exact h1
      have hil : (l.take i).length = i := by rw [List.length_take]; omega
      have hbd : Below w6.heap.size w6 (w6.alloc (.cells #[] 52)).drew := ((Below.refl _ _).alloc (Nat.le_refl _) _).drew
      have HOWN : Hid ((w6.alloc (.cells #[] 52)).drew.ownsRow w6.heap.size 52 3 (.slice (some ⟨w6.heap.size, 0, none⟩) 0 0) 0 (cF [])) := Lib.hid (rowF_empty w6 _ (Nat.le_refl _))
      have HAT1 : Hid (AtF (w6.alloc (.cells #[] 52)).drew (w6.alloc (.cells #[] 52)).drew.heap.size A (l.take i)) := Lib.hid (hat1.up hbd)
      have hl2 : 0 + i ≤ 1000000 := by have := HLN.out; omega
      have HSZ : Hid (w6.heap.size ≤ (w6.alloc (.cells #[] 52)).drew.heap.size) := Lib.hid hbd.size
      have hp6 : p < w6.heap.size := Nat.lt_of_lt_of_le hpl hb6.size
      have ya : (w6.alloc (.cells #[] 52)).cell? ⟨p, 1, none⟩ = some (.slice A j c) := (hbd.cell (p := ⟨p, 1, none⟩) hp6).trans y1
      have HKA : Hid (∀ w9, (w6.alloc (.cells #[] 52)).drew.grownBy w9 (Value.ownBlock (.slice (some ⟨w6.heap.size, 0, none⟩) 0 0)) → w9.cell? ⟨p, 1, none⟩ = some (.slice A j c) ∧ w9.frozen? ⟨p, 1, none⟩ = false ∧ Below w6.heap.size w6 w9) := Lib.hid (fun w9 hg => by
        have hb9 : Below w6.heap.size w6 w9 := hbd.grown hg hbd.size (fun k hk => by simp [Value.ownBlock] at hk; omega)
        exact ⟨(hb9.cell (p := ⟨p, 1, none⟩) hp6).trans y1, (hb9.frozen (p := ⟨p, 1, none⟩) hp6).trans fz, hb9⟩)
      have HP6 := Lib.hid hP6
      clear hP6 hT0 hat6 hat1 hi hh6
      go_wp2
      go_region_law (refine step_appF (by rfl) (.tmp 13) (.tmp 24) (by rfl) w6.heap.size (.slice (some ⟨w6.heap.size, 0, none⟩) 0 0) 0 [] (by rfl) HOWN.out A (l.take i) i c (by rfl) hil hA0 _ HAT1.out hl2 HSZ.out ?_; intro v5 w9 hown5 hg5; obtain ⟨ck9, fz9, hb9⟩ := HKA.out w9 hg5; rw [Nat.zero_add] at hown5; obtain ⟨A5, c5, rfl, hc5, hA5⟩ := rowF_shape hown5)
      all_goals
        have hnew : TPost S w p m (l.take i) (w9.setCell ⟨p, 1, none⟩ (.slice A5 i c5)) := HP6.out.put hw6 (Nat.le_refl _) hb9 (by omega) hown5 (Nat.le_trans (tot_le l i) HSM.out)
        go_wp2
        go_roundw
        case rel =>
          refine ⟨i, by omega, ?_, hnew⟩
          have hdl := dropLast_take l i (by omega)
          rw [← hdl, show i + 1 = j by have := HIJ.out; omega, ← fit_less m (l.take j) (by rw [← HTT.out]; exact hgt), hfit]
        case measure =>
          have e1 : lenAt wr p = j := by unfold lenAt; rw [x1]
          have e2 : lenAt (w9.setCell ⟨p, 1, none⟩ (.slice A5 i c5)) p = i := by
            unfold lenAt
            rw [World.cell?_setCell_same w9 ⟨p, 1, none⟩ _ ck9]
          rw [e1, e2]
          have := HIJ.out
          omega
    · have hgt' : ¬ (m : Int) < (T : Int) := by omega
      go_wp2
      have hfl := fit_all m (l.take j) (by rw [← HTT.out]; omega)
      rw [hfit] at hfl
      rw [hfl]
      go_end0
      exact ⟨rfl, hP6⟩
end Go.Proofs.YtiandidencnlcaaDoor
