/- The landed table: Limit. -/
import Derived.Test.YtiandidencnlcaaDoorLDShrink
import Derived.Test.YtiandidencnlcaaDoorLDFind
import Derived.Test.YtiandidencnlcaaDoorLRowF
import Derived.Deep.RegionHeld3
namespace Go.Proofs.YtiandidencnlcaaDoor
open Go.RowKit
theorem DPost0.then {S S1 : Nat → Prop} {w w1 w2 : World} {p m2 : Nat} {l2 : List Fld} (hS : ∀ x, S1 x → S x ∨ w.heap.size ≤ x) (hK : Keeps S w w1) (h : DPost0 S1 w1 p m2 l2 w2) : DPost0 S w p m2 l2 w2 := by
  obtain ⟨S2, hT, hS2, hK2⟩ := h
  refine ⟨S2, hT, fun x hx => ?_, hK.trans hK2 (fun x hx hlt => ?_)⟩
  · rcases hS2 x hx with h1 | h1
    · exact hS x h1
    · exact .inr (Nat.le_trans hK.size h1)
  · rcases hS x hx with h1 | h1
    · exact h1
    · omega
theorem fitI_nat (k : Nat) (l : List Fld) : fitI (k : Int) l = fitL k l := by rw [fitI, if_neg (by omega), Int.toNat_natCast]
/-- Another limit is laid into the table. -/
theorem DT0.most {S : Nat → Prop} {w : World} {p m k : Nat} {l : List Fld} (h : DT0 w S p m l) (hk : k ≤ 4096) : DT0 (w.setCell ⟨p, 1, none⟩ (.int .i64 (k : Int))) S p k l ∧ Keeps S w (w.setCell ⟨p, 1, none⟩ (.int .i64 (k : Int))) := by
  have hSp := h.own
  obtain ⟨v, hh, ho, hn, hS, ht, _⟩ := h
  have hkp : Keeps (fun x => x = p) w (w.setCell ⟨p, 1, none⟩ (.int .i64 (k : Int))) := (Keeps.refl (fun x => x = p) w).setCell (S := fun x => x = p) (p := ⟨p, 1, none⟩) rfl _
  refine ⟨⟨v, ?_, row_keeps ho hkp (fun k hk2 => hn k hk2), hn, hS, ht, hk⟩, hkp.mono (fun x _ hx => by subst hx; exact hSp)⟩
  have := heap_setCell_same w p 1 _ 77 (.int .i64 (k : Int)) hh
  simpa using this
set_option maxRecDepth 100000 in
set_option maxHeartbeats 4000000 in
theorem dlimit_ok (w : World) (S : Nat → Prop) (p m k : Nat) (l : List Fld) (_ : Rdy w) (h : DT w S p m l) (hk : k ≤ 4096) :
    Calls Tryd.prog 31 #[.pointer (some ⟨p, 0, none⟩), .int .i64 (k : Int)] w fun e w' => e = .returned (.int .i64 0) ∧ DPost S w p k (fitL k l) w' := by
  obtain ⟨h1, h2⟩ := DT0.most (k := k) h.1 hk
  have HSH := Lib.hid (dshrink_any _ S p k l (k : Int) h1)
  have HFIN := Lib.hid (fun (w2 : World) (hP : DPost0 S (w.setCell ⟨p, 1, none⟩ (.int .i64 (k : Int))) p k (fitI (k : Int) l) w2) => (DPost0.then (S := S) (fun _ hx => .inl hx) h2 hP))
  obtain ⟨⟨v, hh, _⟩, _⟩ := h
  have x1 : w.cell? ⟨p, 1, none⟩ = some (.int .i64 (m : Int)) := cell_of_row _ p 1 _ 77 _ hh
  have fz : w.frozen? ⟨p, 1, none⟩ = false := frozen_of_row w p 1 _ 77 hh
  clear h1 h2 hh
  go_enter Tryd.func31, Tryd.ntmps31
  go_wp2_with fail
  with_reducible refine (isMost_ok k w hk).mono ?_
  rintro e w1 ⟨rfl, rfl⟩
  go_wp2_with fail
  with_reducible refine (HSH.out).mono ?_
  rintro e w2 ⟨rfl, hP⟩
  have hfin := HFIN.out w2 hP
  rw [fitI_nat] at hfin
  have HF := Lib.hid (hfin.fit (fit_tot k l))
  clear x1 fz hP hfin
  go_wp2
  go_ret
  exact ⟨rfl, HF.out⟩
set_option maxRecDepth 100000 in
theorem dlimit_no (w : World) (S : Nat → Prop) (p m : Nat) (k : Int) (l : List Fld) (_ : Rdy w) (_ : DT w S p m l) (hk : k < 0 ∨ 4096 < k) (_ : Rng k) :
    Calls Tryd.prog 31 #[.pointer (some ⟨p, 0, none⟩), .int .i64 k] w fun e w' => e = .returned (.int .i64 1) ∧ Below w.heap.size w w' := by
  go_enter Tryd.func31, Tryd.ntmps31
  go_wp2_with fail
  with_reducible refine (isMost_no k w hk).mono ?_
  rintro e w1 ⟨rfl, rfl⟩
  go_wp2
  go_ret
  exact ⟨rfl, Below.refl _ _⟩
end Go.Proofs.YtiandidencnlcaaDoor
/- Where a row lies that has been appended to: at its own block, or at a new one. From stage 7 on. -/
namespace Go.Proofs.YtiandidencnlcaaDoor
open Go.RowKit

theorem run_append_where {P : Program} (w : World) (base : Nat) (t ty e : TypeId) (i : TypeInfo) (z : Value) (size bytes : Nat) (ht : P.underlying t = some (.slice e)) (hi : P.info? e = some i) (hz : i.zero = some z)
    (hsize : i.size = size) (hby : i.bytes = bytes) (hzs : z.cells.size = size) (hsz : 0 < size)
    (v : Value) (n : Nat) (xs : List Value) (hown : w.ownsRow base e size v n xs)
    (a : Addr) (m c : Nat) (news : List Value) (hl : news.length = m * size) (hnews : ∀ j u, news[j]? = some u → w.cell? (a.add j) = some u) (h1 : ∀ u ∈ news, u.oneCell' = true)
    (h63 : n + m ≤ maxLen) (hbytes : (n + m) * bytes ≤ 140737488355328) (hbase : base ≤ w.heap.size) :
    ∃ v' w', (Builtin.append_ #[t, t] ty #[v, .slice (some a) m c]).run P w = .ok v' w' ∧ w'.ownsRow base e size v' (n + m) (xs ++ news) ∧ w.grownBy w' v.ownBlock ∧ (∀ k, v'.ownBlock = some k → v.ownBlock = some k ∨ w.heap.size ≤ k) := by
  obtain ⟨v', w', hr, h2, h3, h4⟩ := run_append_own (P := P) w base t ty e i z size bytes ht hi hz hsize hby hzs hsz v n xs hown a m c news hl hnews h1 h63 hbytes hbase
  refine ⟨v', w', hr, h2, h3, fun k hk => ?_⟩
  rcases hown.2 with ⟨rfl, rfl⟩ | ⟨g, cap, cur, rfl, hbg, hg, hnc, hcm, hcs, htake⟩
  · have hx : xs = [] := List.eq_nil_of_length_eq_zero (by simpa using hown.1)
    subst hx
    obtain ⟨v2, w2, hr2, h22, _⟩ := run_append_own (P := P) w w.heap.size t ty e i z size bytes ht hi hz hsize hby hzs hsz (.slice none 0 0) 0 [] (World.ownsRow_nil _ _ _ _) a m c news hl hnews h1 h63 hbytes (Nat.le_refl _)
    rw [hr] at hr2
    injection hr2 with e1 e2
    subst e1 e2
    exact .inr (h22.lt k hk).1
  · subst hsize
    by_cases hroom : n + m ≤ cap
    · have hfit : n * i.size + news.length ≤ cur.size := by rw [hl, hcs, ← Nat.add_mul]; exact Nat.mul_le_mul_right _ hroom
      have hr2 := run_append_room (P := P) w t ty e i ht hi g n cap cur hg a m c news hl hnews h1 hroom hfit
      rw [hr] at hr2
      injection hr2 with e1 e2
      subst e1
      exact .inl hk
    · have holds : ∀ j u, xs[j]? = some u → w.cell? ((⟨g, 0, none⟩ : Addr).add j) = some u := hown.cells (g := g) rfl
      have h63' : n + m ≤ 9223372036854775807 := by simp only [maxLen] at h63; omega
      have hr2 := run_append_grow (P := P) w t ty e i z ht hi hz ⟨g, 0, none⟩ n cap xs hown.1 holds a m c news hl hnews (by omega) (by omega) (growslice_fits (by omega) (by subst hby; exact hbytes))
      rw [hr] at hr2
      injection hr2 with e1 e2
      subst e1
      simp only [Value.ownBlock, Option.some.injEq] at hk
      exact .inr (by omega)
/-- A list of fields appended onto a row of the call's own, and where it lies then. -/
theorem wpList_append_Fw {w : World} {ops : Array Oper} {rest : List Oper} {o : Oper} {a : Act} {Q : Exit → Act → World → Prop} (hgd : o.guard = none) (s x : Operand)
    (ho : o.op = .call { callee := .builtin .append, args := #[s, x], argTypes := #[30, 30] }) (base : Nat)
    (v : Value) (n : Nat) (l : List Fld) (hs : a.eval s = v) (hown : w.ownsRow base 52 3 v n (cF l))
    (ad : Addr) (m : List Fld) (k c : Nat) (hk : m.length = k) (hx : a.eval x = .slice (some ad) k c) (B : Nat) (hm : AtF w B (some ad) m)
    (hlen : n + k ≤ 1000000) (hbase : base ≤ w.heap.size)
    (h : ∀ v' w', w'.ownsRow base 52 3 v' (n + k) (cF (l ++ m)) → w.grownBy w' v.ownBlock → (∀ j, v'.ownBlock = some j → v.ownBlock = some j ∨ w.heap.size ≤ j) → wpList Tryd.prog ops Q rest (a.put o.dst v') w') : wpList Tryd.prog ops Q (o :: rest) a w := by
  obtain ⟨i0, hi0, hz0, hz1, hz2⟩ := info_parts infoFd
  subst hk
  refine wpList_plain hgd fun _ hK => ?_
  obtain ⟨v', w', hr, h2, h3, h4⟩ := run_append_where (P := Tryd.prog) w base 30 o.type 52 i0 _ 3 40 Tryd.underlying30 hi0 hz0 hz1 hz2 rfl (by decide) v n (cF l) hown ad m.length c (cF m) (cF_len m) hm.cells (cF_one _) (by unfold maxLen; omega) (by omega) hbase
  unfold Oper.wp execOp
  simp only [ho, resolve, invoke, builtin, Sem.run_bind, Sem.run_pure, Result.andThen_ok, List.map_toArray, List.map_cons, List.map_nil, hs, hx, hr]
  rw [← cF_app] at h2
  exact hK _ _ (h v' w' h2 h3 h4)
end Go.Proofs.YtiandidencnlcaaDoor
/- The landed table: Add. -/
namespace Go.Proofs.YtiandidencnlcaaDoor
open Go.RowKit
theorem tot_add (m : Nat) (f : Fld) (l : List Fld) : tot (addL m f l) ≤ m := fit_tot _ _
/-- A list of fields appended onto a row of the call's own in a region that draws its order, and where it lies then. -/
theorem step_app_where {ops : Array Oper} {o : Oper} {a : Act} {w : World} {K : Act → World → Prop} {Q : Exit → Act → World → Prop} {E : Prop} (hgd : o.guard = none) (s x : Operand)
    (ho : o.op = .call { callee := .builtin .append, args := #[s, x], argTypes := #[30, 30] }) (base : Nat)
    (v : Value) (n : Nat) (l : List Fld) (hs : a.eval s = v) (hown : w.ownsRow base 52 3 v n (cF l))
    (ad : Addr) (m : List Fld) (k c : Nat) (hk : m.length = k) (hx : a.eval x = .slice (some ad) k c) (B : Nat) (hm : AtF w B (some ad) m)
    (hlen : n + k ≤ 1000000) (hbase : base ≤ w.heap.size)
    (h : ∀ v' w', w'.ownsRow base 52 3 v' (n + k) (cF (l ++ m)) → w.grownBy w' v.ownBlock → (∀ j, v'.ownBlock = some j → v.ownBlock = some j ∨ w.heap.size ≤ j) → K (a.put o.dst v') w') :
    if Region.wanted o (yielded ops a.tmps) = true then Oper.wp Tryd.prog o a w K Q else E := by
  obtain ⟨i0, hi0, hz0, hz1, hz2⟩ := info_parts infoFd
  have hw : Region.wanted o (yielded ops a.tmps) = true := by simp [Region.wanted, hgd]
  rw [if_pos hw]
  subst hk
  obtain ⟨v', w', hr, h2, h3, h4⟩ := run_append_where (P := Tryd.prog) w base 30 o.type 52 i0 _ 3 40 Tryd.underlying30 hi0 hz0 hz1 hz2 rfl (by decide) v n (cF l) hown ad m.length c (cF m) (cF_len m) hm.cells (cF_one _) (by unfold maxLen; omega) (by omega) hbase
  rw [← cF_app] at h2
  unfold Oper.wp
  simp [execOp, ho, resolve, invoke, builtin, hs, hx, hr, Result.andThen]
  exact h v' w' h2 h3 h4
/-- The table with one field more, by the room that is left. -/
theorem addI (m : Nat) (f : Fld) (l : List Fld) : addL m f l = if (m : Int) - (fsize f : Int) < 0 then [] else kept f :: fitI ((m : Int) - (fsize f : Int)) l := by
  rw [addL, fitL, kept_size]
  by_cases h : fsize f ≤ m
  · rw [if_pos h, if_neg (by omega), show (m : Int) - (fsize f : Int) = ((m - fsize f : Nat) : Int) by omega, fitI_nat]
  · rw [if_neg h, if_pos (by omega)]
set_option maxRecDepth 100000 in
set_option maxHeartbeats 8000000 in
theorem dadd_f (w : World) (S : Nat → Prop) (p m : Nat) (l : List Fld) (f : Fld) (_ : Rdy w) (h : DT w S p m l) (hf : fsize f ≤ 46400) :
    Calls Tryd.prog 53 #[.pointer (some ⟨p, 0, none⟩), .agg #[.string f.name, .string f.value, .bool f.never]] w fun e w' => e = .returned (.tuple #[]) ∧ DPost S w p m (addL m f l) w' := by
  obtain ⟨F1, F2, F3⟩ := f
  have hok : Fld.ok ⟨F1, F2, F3⟩ := by unfold fsize at hf; exact ⟨by simp only [] at *; omega, by simp only [] at *; omega⟩
  simp only []
  obtain ⟨y, hy⟩ : ∃ y, y = fsize ⟨F1, F2, F3⟩ := ⟨_, rfl⟩
  have hT0 := h.1
  have hmm := h.fits
  obtain ⟨⟨v, hh, _⟩, _⟩ := h
  have hpl := lt_of_heap hh
  -- the box
  have hb1 : Below w.heap.size w (w.alloc (.cells #[.string F1, .string F2, .bool F3] 52)) := (Below.refl _ _).alloc (Nat.le_refl _) _
  have hgh : (w.alloc (.cells #[.string F1, .string F2, .bool F3] 52)).heap[w.heap.size]? = some (.cells #[.string F1, .string F2, .bool F3] 52 (0, 0)) := heap_alloc_new w _
  obtain ⟨g, hg⟩ : ∃ g, g = w.heap.size := ⟨_, rfl⟩
  obtain ⟨w1, hw1⟩ : ∃ w1, w1 = w.alloc (.cells #[.string F1, .string F2, .bool F3] 52) := ⟨_, rfl⟩
  rw [← hw1] at hb1 hgh
  rw [← hg] at hgh
  have hgl : g < w1.heap.size := lt_of_heap hgh
  have hp1 : p < w1.heap.size := Nat.lt_of_lt_of_le hpl hb1.size
  have x1 : w1.cell? ⟨p, 1, none⟩ = some (.int .i64 (m : Int)) := (hb1.cell (p := ⟨p, 1, none⟩) hpl).trans (cell_of_row _ p 1 _ 77 _ hh)
  have g0 : w1.cell? ⟨g, 0, none⟩ = some (.string F1) := cell_of_row _ g 0 _ 52 _ hgh
  have g1 : w1.cell? ⟨g, 1, none⟩ = some (.string F2) := cell_of_row _ g 1 _ 52 _ hgh
  have g2 : w1.cell? ⟨g, 2, none⟩ = some (.bool F3) := cell_of_row _ g 2 _ 52 _ hgh
  have HSIZE := Lib.hid (fun (W : World) => size_s ⟨F1, F2, F3⟩ W hok)
  rw [← hy] at HSIZE
  have hd : Below w1.heap.size w1 w1.drew := (Below.refl _ _).drew
  have HX1 := Lib.hid fun (W : World) (hb : Below w1.heap.size w1 W) => (hb.cell (p := ⟨p, 1, none⟩) hp1).trans x1
  have HG0 := Lib.hid fun (W : World) (hb : Below w1.heap.size w1 W) => (hb.cell (p := ⟨g, 0, none⟩) hgl).trans g0
  have HG1 := Lib.hid fun (W : World) (hb : Below w1.heap.size w1 W) => (hb.cell (p := ⟨g, 1, none⟩) hgl).trans g1
  have HG2 := Lib.hid fun (W : World) (hb : Below w1.heap.size w1 W) => (hb.cell (p := ⟨g, 2, none⟩) hgl).trans g2
  have HB1 := Lib.hid hb1
  have HW1 := Lib.hid hw1
  have HG := Lib.hid hg
  have HT0 := Lib.hid hT0
  have HY := Lib.hid hy
  have HGL := Lib.hid hgl
  have hm9 : m ≤ 4096 := hmm.2
  have hy9 : y ≤ 46400 := by rw [hy]; exact hf
  have HADD : Hid (addL m ⟨F1, F2, F3⟩ l = if (m : Int) - (y : Int) < 0 then [] else ⟨F1, F2, false⟩ :: fitI ((m : Int) - (y : Int)) l) := Lib.hid (by rw [hy]; exact addI m ⟨F1, F2, F3⟩ l)
  obtain ⟨L2, hL2⟩ : ∃ L, L = addL m ⟨F1, F2, F3⟩ l := ⟨_, rfl⟩
  have HL2 : Hid (tot L2 ≤ m) := Lib.hid (by rw [hL2]; exact tot_add m _ l)
  rw [← hL2] at HADD ⊢
  obtain ⟨room, hroom⟩ : ∃ r, r = (m : Int) - (y : Int) := ⟨_, rfl⟩
  rw [← hroom] at HADD
  have hwr : IntKind.i64.wrap room = room := IntWalk.i64_in _ (by omega)
  have HRM := Lib.hid hroom
  clear hgh hh hb1 hT0 hy hmm hL2 hok hf hgl
  go_enter Tryd.func53, Tryd.ntmps53
  go_wp2
  rw [← HW1.out, ← HG.out]
  clear hw1 hg
  have hroom' := hroom.symm
  clear hroom
  go_region_held3 (fun w' => w'.cell? ⟨p, 1, none⟩ = some (.int .i64 (m : Int)) ∧ w'.cell? ⟨g, 0, none⟩ = some (.string F1) ∧ w'.cell? ⟨g, 1, none⟩ = some (.string F2) ∧ w'.cell? ⟨g, 2, none⟩ = some (.bool F3))
      (first
        | exact ⟨x1, g0, g1, g2⟩
        | exact ⟨HX1.out _ hb2, HG0.out _ hb2, HG1.out _ hb2, HG2.out _ hb2⟩)
      (first
        | ((with_reducible refine (HSIZE.out _).mono ?_); rintro e w2 ⟨rfl, hb2'⟩; have hb2 := hd.trans (hb2'.mono hd.size)))
  have HBW : Hid (Below w.heap.size w w2) := Lib.hid (HB1.out.trans (hb2.mono HB1.out.size))
  have hT2 : DT0 w2 S p m l := HT0.out.keep (S' := fun _ => False) (Keeps.of_below HBW.out) (fun _ _ h => h)
  have HSH := Lib.hid (dshrink_any w2 S p m l room hT2)
  have HTHEN := Lib.hid (fun (L : List Fld) (w3 : World) (hP : DPost0 S w2 p m L w3) => DPost0.then (S := S) (fun _ hx => .inl hx) (Keeps.of_below HBW.out) hP)
  have h2g0 := HG0.out w2 hb2
  have h2g1 := HG1.out w2 hb2
  have hgl2 : g < w2.heap.size := Nat.lt_of_lt_of_le HGL.out hb2.size
  have HSg : Hid (¬ S g) := Lib.hid (fun hx => by have := HT0.out.low g hx; have := HG.out; omega)
  clear hT2 x1 g0 g1 g2 HX1 HG0 HG1 HG2 hb2 hb2' hd HW1 HSIZE
  go_wp2_with fail
  with_reducible refine (HSH.out).mono ?_
  rintro e w3 ⟨rfl, hP3⟩
  by_cases hneg : room < 0
  · have hfin : DPost S w p m L2 w3 := by
      have h1 := HTHEN.out _ _ hP3
      have h2 : L2 = fitI room l := by rw [HADD.out, if_pos hneg, fitI, if_pos hneg]
      rw [← h2] at h1
      exact h1.fit HL2.out
    have HFIN := Lib.hid hfin
    clear hfin hP3
    go_wp2
    refine bodyPost_ret (v := .tuple #[]) (results_none (by rfl) _ _ _) rfl ⟨rfl, HFIN.out⟩
  · have hL3 : L2 = ⟨F1, F2, false⟩ :: fitI room l := by rw [HADD.out, if_neg hneg]
    obtain ⟨l3, hl3⟩ : ∃ l3, l3 = fitI room l := ⟨_, rfl⟩
    rw [← hl3] at hP3 hL3
    obtain ⟨S3, hT3, hS3, hK3⟩ := hP3
    have HTHEN2 := Lib.hid (fun (L : List Fld) (w4 : World) (hP : DPost0 S3 w3 p m L w4) => HTHEN.out _ _ (DPost0.then (S := S) hS3 hK3 hP))
    have h3g0 : w3.cell? ⟨g, 0, none⟩ = some (.string F1) := (hK3.cell (p := ⟨g, 0, none⟩) hgl2 HSg.out).trans h2g0
    have h3g1 : w3.cell? ⟨g, 1, none⟩ = some (.string F2) := (hK3.cell (p := ⟨g, 1, none⟩) hgl2 HSg.out).trans h2g1
    have hgl3 : g < w3.heap.size := Nat.lt_of_lt_of_le hgl2 hK3.size
    obtain ⟨v3, hh3, ho3, hvp3, hS3', ht3, _⟩ := hT3
    obtain ⟨n3, hn3⟩ : ∃ n, n = l3.length := ⟨_, rfl⟩
    rw [← hn3] at ho3
    obtain ⟨A3, c3, rfl, hnc3, hA3⟩ := rowF_shape ho3
    have hn9 : n3 ≤ 128 := by have := tot_pos l3; omega
    have hpl3 := lt_of_heap hh3
    have y3 : w3.cell? ⟨p, 0, none⟩ = some (.slice A3 n3 c3) := cell_of_row _ p 0 _ 77 _ hh3
    have z3 : w3.frozen? ⟨p, 0, none⟩ = false := frozen_of_row w3 p 0 _ 77 hh3
    have hba : Below w3.heap.size w3 (w3.alloc (.cells #[.string F1, .string F2, .bool false] 52)) := (Below.refl _ _).alloc (Nat.le_refl _) _
    have ya : (w3.alloc (.cells #[.string F1, .string F2, .bool false] 52)).cell? ⟨p, 0, none⟩ = some (.slice A3 n3 c3) := (hba.cell (p := ⟨p, 0, none⟩) hpl3).trans y3
    have a0 : (w3.alloc (.cells #[.string F1, .string F2, .bool false] 52)).cell? ⟨g, 0, none⟩ = some (.string F1) := (hba.cell (p := ⟨g, 0, none⟩) hgl3).trans h3g0
    have a1 : (w3.alloc (.cells #[.string F1, .string F2, .bool false] 52)).cell? ⟨g, 1, none⟩ = some (.string F2) := (hba.cell (p := ⟨g, 1, none⟩) hgl3).trans h3g1
    have hbd : Below w3.heap.size w3 (w3.alloc (.cells #[.string F1, .string F2, .bool false] 52)).drew := hba.drew
    have HOWN : Hid ((w3.alloc (.cells #[.string F1, .string F2, .bool false] 52)).drew.ownsRow 0 52 3 (.slice A3 n3 c3) n3 (cF l3.reverse)) := Lib.hid (rowF_keep ho3 hbd)
    have HLIT : Hid (AtF (w3.alloc (.cells #[.string F1, .string F2, .bool false] 52)).drew (w3.heap.size + 1) (some ⟨w3.heap.size, 0, none⟩) [⟨F1, F2, false⟩]) := Lib.hid (fun _ => ⟨w3.heap.size, 0, rfl, by omega, fun i hi => by
      have h0 : i = 0 := by simpa using hi
      subst h0
      have hn : (w3.alloc (.cells #[.string F1, .string F2, .bool false] 52)).drew.heap[w3.heap.size]? = some (.cells #[.string F1, .string F2, .bool false] 52 (0, 0)) := heap_alloc_new w3 _
      exact ⟨cell_of_row _ _ 0 _ 52 _ hn, cell_of_row _ _ 1 _ 52 _ hn, cell_of_row _ _ 2 _ 52 _ hn⟩⟩)
    have HKEY : Hid (∀ v' w9, World.ownsRow w9 0 52 3 v' (n3 + 1) (cF (l3.reverse ++ [⟨F1, F2, false⟩])) → (w3.alloc (.cells #[.string F1, .string F2, .bool false] 52)).drew.grownBy w9 (Value.slice A3 n3 c3).ownBlock → (∀ j, v'.ownBlock = some j → (Value.slice A3 n3 c3).ownBlock = some j ∨ (w3.alloc (.cells #[.string F1, .string F2, .bool false] 52)).drew.heap.size ≤ j) →
        w9.cell? ⟨p, 0, none⟩ = some (.slice A3 n3 c3) ∧ w9.frozen? ⟨p, 0, none⟩ = false ∧ DPost S w p m L2 (w9.setCell ⟨p, 0, none⟩ v')) := Lib.hid (fun v' w9 ho9 hg9 hb9 => by
      have hk9 : Keeps (fun x => (Value.slice A3 n3 c3).ownBlock = some x) w3 w9 := (Keeps.of_below hbd).trans (Keeps.of_grown hg9) (fun x hx _ => hx)
      have hnp : ¬ (Value.slice A3 n3 c3).ownBlock = some p := fun e => hvp3 p e rfl
      refine ⟨(hk9.cell (p := ⟨p, 0, none⟩) hpl3 hnp).trans y3, (hk9.frozen (p := ⟨p, 0, none⟩) hpl3 hnp).trans z3, ?_⟩
      have e1 : l3.reverse ++ [⟨F1, F2, false⟩] = L2.reverse := by rw [hL3, List.reverse_cons]
      rw [e1] at ho9
      refine (HTHEN2.out _ _ (DT0.put (m2 := m) hh3 hvp3 hS3' hk9 ho9 (by rw [hL3, List.length_cons, ← hn3]) (fun k hk2 => ?_) (by have := HL2.out; omega) hm9 rfl)).fit HL2.out
      rcases hb9 k hk2 with h1 | h1
      · exact .inl h1
      · exact .inr (Nat.le_trans hbd.size h1))
    have hl2 : n3 + 1 ≤ 1000000 := by omega
    clear hba hbd hh3 ho3 hvp3 hS3' hS3 hK3 hL3 hl3 hn3 ht3 z3 h2g0 h2g1
    go_wp2
    go_region_law (refine step_app_where (by rfl) (.tmp 21) (.tmp 27) (by rfl) 0 (.slice A3 n3 c3) n3 l3.reverse (by simp [Act.eval]) HOWN.out ⟨w3.heap.size, 0, none⟩ [⟨F1, F2, false⟩] 1 1 rfl (by simp [Act.eval]) _ HLIT.out hl2 (Nat.zero_le _) ?_; intro v5 w9 ho9 hg9 hb9; obtain ⟨ck9, fz9, hfin9⟩ := HKEY.out v5 w9 ho9 hg9 hb9; have HFIN9 := Lib.hid hfin9; obtain ⟨A5, c5, rfl, hc5, hA5⟩ := rowF_shape ho9; clear hfin9 ho9 hg9 hb9)
    all_goals
      go_wp2
      go_end0
      exact ⟨rfl, HFIN9.out⟩
end Go.Proofs.YtiandidencnlcaaDoor
