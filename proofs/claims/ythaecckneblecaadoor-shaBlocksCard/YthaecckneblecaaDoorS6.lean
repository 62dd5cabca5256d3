/- Contract of the program's One. -/
import Derived.Test.YthaecckneblecaaDoorS5
import Derived.Deep.DeepCutAuto
import Derived.Deep.RegionWith
namespace Go.Proofs.YthaecckneblecaaDoor
open Go.RowKit Sh

theorem hB_front (K h a b : List Nat) : ∀ t, 64 * t ≤ a.length → hB K h (a ++ b) t = hB K h a t
  | 0, _ => rfl
  | t + 1, ht => by
    rw [hB_succ, hB_succ, hB_front K h a b t (by omega), List.drop_append_of_le_length (by omega), List.take_append_of_le_length (by simp; omega)]
theorem hB_back (K h a b : List Nat) (t : Nat) (ha : a.length = 64 * t) : ∀ s, hB K h (a ++ b) (t + s) = hB K (hB K h a t) b s
  | 0 => hB_front K h a b t (by omega)
  | s + 1 => by
    rw [← Nat.add_assoc, hB_succ, hB_succ, hB_back K h a b t ha s, show 64 * (t + s) = a.length + 64 * s by omega, List.drop_append, List.drop_eq_nil_of_le (by omega), List.nil_append, Nat.add_sub_cancel_left]
theorem sum_parts (l : List Nat) (n t q r : Nat) (hl : l.length = n) (hq : q = 64 * t) (hr : r = n % 64) (hn : n = q + r) :
    sum l = outB (hB K64 (hB K64 H8 (l.take q) t) (endB (l.drop q) n) ((endB (l.drop q) n).length / 64)) := by
  have e : msg l = l.take q ++ endB (l.drop q) n := by
    unfold msg endB
    rw [List.length_drop, show l.length - q = n % 64 by omega, hl, show zer (n % 64) = zer n by unfold zer; omega]
    rw [← List.append_assoc, ← List.append_assoc, ← List.append_assoc, List.take_append_drop]
  have e2 : (msg l).length / 64 = t + (endB (l.drop q) n).length / 64 := by
    rw [e, List.length_append, List.length_take, hl, Nat.min_eq_left (by omega), hq]
    omega
  rw [sum, e2, e, hB_back K64 H8 _ _ t (by simp; omega)]
/-- A slice expression in a region that keeps still. -/
theorem wpStill_slice {ops : Array Oper} {rest : List Oper} {o : Oper} {a : Act} {w : World} {Q : Act → Prop} (hgd : o.guard = none) (ty : TypeId) (x : Operand) (lo hi : Option Operand) (ho : o.op = .slice ty x lo hi none)
    (X : Value) (hx : a.eval x = X) (LO HI : Option Value) (hlo : lo.map a.eval = LO) (hhi : hi.map a.eval = HI) (v : Value) (hr : (Instr.sliceAt ty X LO HI none).run Tryd.prog w = .ok v w)
    (h : wpStill Tryd.prog ops w Q rest (a.put o.dst v)) : wpStill Tryd.prog ops w Q (o :: rest) a := by
  refine wpStill_step fun K hK => ?_
  have hw : Region.wanted o (yielded ops a.tmps) = true := by simp [Region.wanted, hgd]
  rw [if_pos hw]
  unfold Oper.still execOp
  simp only [ho, hx, hlo, hhi, Option.map_none, Sem.run_bind, hr, Result.andThen_ok, Sem.run_pure]
  exact ⟨rfl, hK _ h⟩
theorem elem22 : Tryd.prog.underlying 22 = some (.slice (Tryd.prog.elem 22)) := by kernel_rfl
theorem size5 (w : World) : (sizeOf (Tryd.prog.elem 22)).run Tryd.prog w = .ok 1 w := by kernel_rfl
/-- The address at which a slice begins that is cut at q. -/
def cutAt (A : Option Addr) (c q : Nat) : Option Addr := if c = q then A else A.map (·.add q)
theorem slice_h (A : Option Addr) (n c q : Nat) (w : World) (h : q ≤ c) : (Instr.sliceAt 22 (.slice A n c) none (some (.int .i64 q)) none).run Tryd.prog w = .ok (.slice (cutAt A c 0) q c) w := by
  rw [run_sliceAt_slice w 22 _ _ _ _ elem22, run_slice_h w 22 A n c elem22 .i64 q (by omega) (by omega), size5]
  simp [sliced, cutAt, Result.andThen]
theorem slice_l (A : Option Addr) (n c q r : Nat) (w : World) (h : q ≤ n) (hr : n - q = r) : (Instr.sliceAt 22 (.slice A n c) (some (.int .i64 q)) none none).run Tryd.prog w = .ok (.slice (cutAt A c q) r (c - q)) w := by
  subst hr
  rw [run_sliceAt_slice w 22 _ _ _ _ elem22, run_slice_l w 22 A n c elem22 .i64 q (by omega) (by omega), size5]
  simp [sliced, cutAt, Result.andThen]
theorem At.cut {w : World} {B c q : Nat} {A : Option Addr} {l l' : List Nat} (h : At .u8 w B A l) (hc : l.length ≤ c) (hl : ∀ i, i < l'.length → q + i < l.length ∧ l'[i]? = l[q + i]?) : At .u8 w B (cutAt A c q) l' := fun hne => by
  have hpos : 0 < l'.length := List.length_pos_iff.2 hne
  have h0 := (hl 0 hpos).1
  obtain ⟨b, o, rfl, hB, hcell⟩ := h (by rintro rfl; simp at h0)
  have hplain : (⟨b, o, none⟩ : Addr).add q = ⟨b, o + q, none⟩ := by unfold Addr.add; split <;> simp_all
  refine ⟨b, o + q, ?_, hB, fun i hi => ?_⟩
  · rw [cutAt, if_neg (by omega)]
    simp [hplain]
  · obtain ⟨h1, h2⟩ := hl i hi
    rw [List.getElem?_eq_getElem hi, List.getElem?_eq_getElem h1] at h2
    injection h2 with h2
    rw [show o + q + i = o + (q + i) by omega, hcell (q + i) h1, h2]
theorem cutAt_none {A : Option Addr} {c q : Nat} (h : A = none → c = 0) : cutAt A c q = none → c - q = 0 := by
  intro hn
  unfold cutAt at hn
  split at hn
  · omega
  · rw [Option.map_eq_none_iff] at hn
    have := h hn
    omega
theorem store_row' {ops : Array Oper} {rest : List Oper} {o : Oper} {a : Act} {w : World} {Q : Exit → Act → World → Prop} (hgd : o.guard = none) (ty : TypeId) (x y : Operand) (ho : o.op = .store ty x y) (hd : o.dst = none)
    (g : Nat) (cells : Array Value) (hx : a.eval x = .pointer (some ⟨g, 0, none⟩)) (hy : a.eval y = .agg cells)
    (t : TypeId) (old : Array Value) (hg : w.heap[g]? = some (.cells old t (0, 0))) (hi : (Tryd.prog.info? ty).map (·.size) = some cells.size)
    (hold : old.size = cells.size) (h1 : cells.all (·.oneCell') = true)
    (h : wpList Tryd.prog ops Q rest a (w.setRow g cells)) : wpList Tryd.prog ops Q (o :: rest) a w :=
  wpList_store_row hgd ty x y ho g cells hx hy t old hg hi hold h1 (by rw [hd]; exact h)
/-- What the two calls of mixAll leave: the eight words of the sum. -/
def Mixed (w : World) (l : List Nat) (wx : World) : Prop := ∃ F : List Nat, F.length = 8 ∧ sum l = outB F ∧ Bk wx w.heap.size 31 F ∧ Below w.heap.size w wx ∧ w.heap.size < wx.heap.size
/-- What is known behind the call of ending: mixAll's contract over it. -/
def Ended (w : World) (l : List Nat) (z0 z1 z2 z3 z4 z5 z6 z7 : Nat) (v5 : Value) (w5 : World) : Prop :=
  ∃ (A5 : Option Addr) (n5 c5 f0 f1 f2 f3 f4 f5 f6 f7 : Nat), v5 = .slice A5 n5 c5 ∧ Bk w5 w.heap.size 31 [z0, z1, z2, z3, z4, z5, z6, z7] ∧ Below w.heap.size w w5 ∧ w.heap.size < w5.heap.size ∧ sum l = outB [f0, f1, f2, f3, f4, f5, f6, f7] ∧
    Calls Tryd.prog 15 #[.agg #[.int .u32 (z0 : Int), .int .u32 (z1 : Int), .int .u32 (z2 : Int), .int .u32 (z3 : Int), .int .u32 (z4 : Int), .int .u32 (z5 : Int), .int .u32 (z6 : Int), .int .u32 (z7 : Int)], .slice A5 n5 c5] w5 fun e w' => e = .returned (.agg #[.int .u32 (f0 : Int), .int .u32 (f1 : Int), .int .u32 (f2 : Int), .int .u32 (f3 : Int), .int .u32 (f4 : Int), .int .u32 (f5 : Int), .int .u32 (f6 : Int), .int .u32 (f7 : Int)]) ∧ Below w5.heap.size w5 w'
theorem ended (w w4 w5 : World) (l : List Nat) (n q r : Nat) (v5 : Value) (z0 z1 z2 z3 z4 z5 z6 z7 : Nat) (hl : l.length = n) (hr : r = n % 64) (hq : q = n - r) (hb : ∀ x ∈ l, x < 256) (hT : Tab w4)
    (hH : [z0, z1, z2, z3, z4, z5, z6, z7] = hB K64 H8 (l.take q) (q / 64)) (hk : Bk w4 w.heap.size 31 [z0, z1, z2, z3, z4, z5, z6, z7]) (hbd : Below w.heap.size w w4) (hzd : w.heap.size < w4.heap.size)
    (hrow : Row w4.heap.size w4 (endB (l.drop q) n) v5 w5) : Ended w l z0 z1 z2 z3 z4 z5 z6 z7 v5 w5 := by
  obtain ⟨hown5, hb5⟩ := hrow
  have hEl : (endB (l.drop q) n).length % 64 = 0 ∧ (endB (l.drop q) n).length ≤ 200 := by
    rw [endB_len, List.length_drop]
    unfold zer
    omega
  have hEb : ∀ x ∈ endB (l.drop q) n, x < 256 := by
    intro x hx
    unfold endB at hx
    rw [List.mem_append, List.mem_append, List.mem_append] at hx
    rcases hx with ((h | h) | h) | h
    · exact hb x (List.mem_of_mem_drop h)
    · simp at h; omega
    · rw [List.eq_of_mem_replicate h]; omega
    · simp only [lenBytes, List.mem_cons, List.not_mem_nil, or_false] at h
      rcases h with rfl | rfl | rfl | rfl | rfl | rfl | rfl | rfl <;> omega
  obtain ⟨A5, c5, rfl⟩ := own_shape hown5
  have hwz : Wd [z0, z1, z2, z3, z4, z5, z6, z7] := by rw [hH]; exact hB_wd _ _ _ H8_wd _
  obtain ⟨f0, f1, f2, f3, f4, f5, f6, f7, hF⟩ := list8 (hB K64 [z0, z1, z2, z3, z4, z5, z6, z7] (endB (l.drop q) n) ((endB (l.drop q) n).length / 64)) (hB_len _ _ _ rfl _)
  have hM := mixAll_any [z0, z1, z2, z3, z4, z5, z6, z7] (endB (l.drop q) n) A5 _ c5 w5 (At.of_own hown5) hEb rfl hEl.1 (by omega) (own_cap hown5) rfl hwz (hT.below hb5)
  rw [hF] at hM
  refine ⟨A5, _, c5, f0, f1, f2, f3, f4, f5, f6, f7, rfl, hk.below hb5 hzd, hbd.trans (hb5.mono hbd.size), Nat.lt_of_lt_of_le hzd hb5.size, ?_, hM⟩
  rw [sum_parts l n (q / 64) q r hl (by omega) hr (by omega), ← hH, hF]
theorem own_more {w : World} {B C T : Nat} {v : Value} {n : Nat} {xs : List Value} (h : w.ownsRow C T 1 v n xs) (hB : B ≤ C) : w.ownsRow B T 1 v n xs := by
  refine ⟨h.1, ?_⟩
  rcases h.2 with h0 | ⟨g, cap, cur, hv, hg, r⟩
  · exact .inl h0
  · exact .inr ⟨g, cap, cur, hv, by omega, r⟩
def OutR (wy : World) (H : List Nat) (v i : Value) (wr : World) : Prop :=
  ∃ n : Nat, n ≤ 8 ∧ i = .int .i64 n ∧ Row wy.heap.size wy (outB (H.take n)) v wr
set_option maxRecDepth 100000 in
set_option maxHeartbeats 4000000 in
theorem sone_any (A : Option Addr) (l : List Nat) (n c : Nat) (w : World) (hA : At .u8 w w.heap.size A l) (hb : ∀ x ∈ l, x < 256) (hl : l.length = n) (hc : A = none → c = 0) (hnc : n ≤ c) (hn : n ≤ 5000) (hT : Tab w) :
    Calls Tryd.prog 9 #[.slice A n c] w (RowPost w.heap.size w (sum l)) := by
  obtain ⟨r, hr⟩ : ∃ r, r = n % 64 := ⟨_, rfl⟩
  obtain ⟨q, hq⟩ : ∃ q, q = n - r := ⟨_, rfl⟩
  have er : (n : Int) % 64 = (r : Int) := by omega
  have eq : (n : Int) - (r : Int) = (q : Int) := by omega
  have HR := Lib.hid hr
  have HQ := Lib.hid hq
  have HL := Lib.hid hl
  have HC := Lib.hid hc
  have HBY := Lib.hid hb
  have HA := Lib.hid hA
  have HT := Lib.hid hT
  have hqn : q ≤ n := by omega
  have hqi : (q : Int) ≤ (n : Int) := by omega
  have hqc : (q : Int) ≤ (c : Int) := by omega
  have hnci : (n : Int) ≤ (c : Int) := by omega
  have hrl : r < 64 := by omega
  clear hr hq hl hc hb hA hT
  go_enter Tryd.func9, Tryd.ntmps9
  go_wp2
  have h1 : Bk (w.alloc (.cells (cn .u32 H8).toArray 31)) w.heap.size 31 H8 := Bk.new w 31 H8
  have hb1 : Below w.heap.size w (w.alloc (.cells (cn .u32 H8).toArray 31)) := (Below.refl _ _).alloc (Nat.le_refl _) _
  have hz1 : w.heap.size < (w.alloc (.cells (cn .u32 H8).toArray 31)).heap.size := by simp
  change Code.wp _ _ _ _ (w.alloc (.cells (cn .u32 H8).toArray 31))
  generalize w.alloc (.cells (cn .u32 H8).toArray 31) = w1 at h1 hb1 hz1 ⊢
  have LD := Lib.hid (load8 (w := w1.drew) h1 H8_len)
  have H1 := Lib.hid h1
  clear h1
  refine wp_region_still_tail 4 (by kernel_rfl) (by kernel_rfl) ?_
  simp only [List.take_succ_cons, List.take_zero, List.drop_succ_cons, List.drop_zero]
  refine wpStill_load rfl 31 _ rfl w.heap.size rfl _ LD.out ?_
  clear LD
  still_step
  still_step
  refine wpStill_slice rfl 22 (.tmp 18) none (some (.tmp 19)) rfl (.slice A n c) rfl none (some (.int .i64 q)) rfl rfl _ (slice_h A n c q _ (by omega)) ?_
  refine wpStill_nil ?_
  change wpList _ _ _ _ _ w1.drew
  have hA1 : At .u8 w1.drew w1.drew.heap.size (cutAt A c 0) (l.take q) :=
    (((HA.out.cut (q := 0) (by have := HL.out; omega) (fun i hi => by
      have hi' : i < q ∧ i < l.length := by simp at hi; omega
      exact ⟨by omega, by rw [Nat.zero_add, List.getElem?_take, if_pos hi'.1]⟩)).below hb1.drew (Nat.le_refl _)).more hb1.drew.size)
  have HM1 := Lib.hid (mixAll_any H8 (l.take q) (cutAt A c 0) q c w1.drew hA1 (fun x hx => HBY.out x (List.mem_of_mem_take hx)) (by simp; have := HL.out; omega) (by have := HR.out; have := HQ.out; omega) (by omega) (by omega) H8_len H8_wd (HT.out.below hb1.drew))
  clear hA1
  go_wp2_with fail
  with_reducible refine (HM1.out).mono ?_
  rintro e w2 ⟨rfl, hb2⟩
  obtain ⟨H, hH⟩ : ∃ H, H = hB K64 H8 (l.take q) (q / 64) := ⟨_, rfl⟩
  rw [← hH]
  have HHL : Hid (H.length = 8) := Lib.hid (by rw [hH]; exact hB_len _ _ _ H8_len _)
  have HHW : Hid (Wd H) := Lib.hid (by rw [hH]; exact hB_wd _ _ _ H8_wd _)
  have HHE := Lib.hid hH
  clear hH HM1
  have h2 := Lib.hid (Bk.below (w := w1.drew) H1.out hb2 hz1)
  go_upto_region 5 with (first | (refine store_row' rfl 31 (.tmp 3) (.tmp 21) rfl rfl w.heap.size (cn .u32 H).toArray rfl rfl 31 _ h2.out (by rw [size8]; simp [cn, HHL.out]) (by simp [cn, HHL.out, H8_len]) (cn_all _ _) ?_))
  have h3 : Bk (w2.setRow w.heap.size (cn .u32 H).toArray) w.heap.size 31 H := h2.out.setRow H
  have hb3 : Below w.heap.size w (w2.setRow w.heap.size (cn .u32 H).toArray) := below_setRow (hb1.drew.trans (hb2.mono hb1.drew.size)) (Nat.le_refl _) _
  have hz3 : w.heap.size < (w2.setRow w.heap.size (cn .u32 H).toArray).heap.size := by
    have := hb2.size
    have e : w1.drew.heap.size = w1.heap.size := rfl
    simp [World.setRow]
    omega
  generalize w2.setRow w.heap.size (cn .u32 H).toArray = w3 at h3 hb3 hz3 ⊢
  clear h2 hb2 hb1 hz1 H1
  obtain ⟨hwn, -⟩ : IntKind.u64.wrap (n : Int) = (n : Int) ∧ True := ⟨by
    have e : ∀ z : Int, IntKind.u64.wrap z = z % 18446744073709551616 := fun z => by simp [IntKind.wrap, IntKind.bits, IntKind.signed]
    rw [e]
    omega, trivial⟩
  obtain ⟨z0, z1, z2, z3, z4, z5, z6, z7, h8⟩ := list8 H HHL.out
  have c0 : w3.cell? ⟨w.heap.size, 0, none⟩ = some (.int .u32 (z0 : Int)) := by rw [h3.cell 0 (by rw [h8]; simp)]; simp [h8]
  have c1 : w3.cell? ⟨w.heap.size, 1, none⟩ = some (.int .u32 (z1 : Int)) := by rw [h3.cell 1 (by rw [h8]; simp)]; simp [h8]
  have c2 : w3.cell? ⟨w.heap.size, 2, none⟩ = some (.int .u32 (z2 : Int)) := by rw [h3.cell 2 (by rw [h8]; simp)]; simp [h8]
  have c3 : w3.cell? ⟨w.heap.size, 3, none⟩ = some (.int .u32 (z3 : Int)) := by rw [h3.cell 3 (by rw [h8]; simp)]; simp [h8]
  have c4 : w3.cell? ⟨w.heap.size, 4, none⟩ = some (.int .u32 (z4 : Int)) := by rw [h3.cell 4 (by rw [h8]; simp)]; simp [h8]
  have c5 : w3.cell? ⟨w.heap.size, 5, none⟩ = some (.int .u32 (z5 : Int)) := by rw [h3.cell 5 (by rw [h8]; simp)]; simp [h8]
  have c6 : w3.cell? ⟨w.heap.size, 6, none⟩ = some (.int .u32 (z6 : Int)) := by rw [h3.cell 6 (by rw [h8]; simp)]; simp [h8]
  have c7 : w3.cell? ⟨w.heap.size, 7, none⟩ = some (.int .u32 (z7 : Int)) := by rw [h3.cell 7 (by rw [h8]; simp)]; simp [h8]
  have H8H := Lib.hid h8
  have H3z : Hid (Bk w3.drew w.heap.size 31 [z0, z1, z2, z3, z4, z5, z6, z7]) := Lib.hid (by rw [← h8]; exact h3)
  have H3 := Lib.hid h3
  clear h3 h8
  have hbd : Below w.heap.size w w3.drew := hb3.drew
  have hzd : w.heap.size < w3.drew.heap.size := hz3
  have hA2 : At .u8 w3.drew w3.drew.heap.size (cutAt A c q) (l.drop q) :=
    (((HA.out.cut (q := q) (by have := HL.out; omega) (fun i hi => by
      have hi' : q + i < l.length := by simp at hi; omega
      exact ⟨hi', by rw [List.getElem?_drop]⟩)).below hbd (Nat.le_refl _)).more hbd.size)
  obtain ⟨A2, hif⟩ : ∃ A2, (if c = q then A else Option.map (fun x => x.add q) A) = A2 := ⟨_, rfl⟩
  have HE1 : Hid (Calls Tryd.prog 16 #[.slice A2 (n - q) (c - q), .int .u64 n] w3.drew (RowPost w3.drew.heap.size w3.drew (endB (l.drop q) n))) := by
    rw [← hif]
    exact Lib.hid (ending_any (cutAt A c q) (l.drop q) (n - q) (c - q) n w3.drew (by simp; have := HL.out; omega) hA2 (cutAt_none HC.out) (by have := HQ.out; have := HR.out; omega) (by omega))
  clear hA2
  go_cut [] (fun wx => Mixed w l wx)
  case first =>
    go_region_with (first
      | (go_at_call 16; (with_reducible refine (HE1.out).mono ?_); rintro e w5 ⟨v5, rfl, hrow5⟩; obtain ⟨A5, n5, c5, f0, f1, f2, f3, f4, f5, f6, f7, hv5, hk5, hb5, hz5, hs5, hM5⟩ := ended w w3.drew w5 l n q r v5 z0 z1 z2 z3 z4 z5 z6 z7 HL.out HR.out HQ.out HBY.out (HT.out.below hbd) (H8H.out.symm.trans HHE.out) H3z.out hbd hzd hrow5; subst hv5; clear hrow5; have j0 : w5.cell? ⟨w.heap.size, 0, none⟩ = some (.int .u32 (z0 : Int)) := hk5.cell 0 (by simp); have j1 : w5.cell? ⟨w.heap.size, 1, none⟩ = some (.int .u32 (z1 : Int)) := hk5.cell 1 (by simp); have j2 : w5.cell? ⟨w.heap.size, 2, none⟩ = some (.int .u32 (z2 : Int)) := hk5.cell 2 (by simp); have j3 : w5.cell? ⟨w.heap.size, 3, none⟩ = some (.int .u32 (z3 : Int)) := hk5.cell 3 (by simp); have j4 : w5.cell? ⟨w.heap.size, 4, none⟩ = some (.int .u32 (z4 : Int)) := hk5.cell 4 (by simp); have j5 : w5.cell? ⟨w.heap.size, 5, none⟩ = some (.int .u32 (z5 : Int)) := hk5.cell 5 (by simp); have j6 : w5.cell? ⟨w.heap.size, 6, none⟩ = some (.int .u32 (z6 : Int)) := hk5.cell 6 (by simp); have j7 : w5.cell? ⟨w.heap.size, 7, none⟩ = some (.int .u32 (z7 : Int)) := hk5.cell 7 (by simp); have HK5 := Lib.hid hk5; have HS5 := Lib.hid hs5; have HM5 := Lib.hid hM5; clear hk5 hs5 hM5)
      | (go_at_call 15; (with_reducible refine (HM5.out).mono ?_); rintro e w6 ⟨rfl, hb6⟩; have hk6 := HK5.out.below hb6 hz5; have k0 : w6.cell? ⟨w.heap.size, 0, none⟩ = some (.int .u32 (z0 : Int)) := hk6.cell 0 (by simp); have k1 : w6.cell? ⟨w.heap.size, 1, none⟩ = some (.int .u32 (z1 : Int)) := hk6.cell 1 (by simp); have k2 : w6.cell? ⟨w.heap.size, 2, none⟩ = some (.int .u32 (z2 : Int)) := hk6.cell 2 (by simp); have k3 : w6.cell? ⟨w.heap.size, 3, none⟩ = some (.int .u32 (z3 : Int)) := hk6.cell 3 (by simp); have k4 : w6.cell? ⟨w.heap.size, 4, none⟩ = some (.int .u32 (z4 : Int)) := hk6.cell 4 (by simp); have k5 : w6.cell? ⟨w.heap.size, 5, none⟩ = some (.int .u32 (z5 : Int)) := hk6.cell 5 (by simp); have k6 : w6.cell? ⟨w.heap.size, 6, none⟩ = some (.int .u32 (z6 : Int)) := hk6.cell 6 (by simp); have k7 : w6.cell? ⟨w.heap.size, 7, none⟩ = some (.int .u32 (z7 : Int)) := hk6.cell 7 (by simp); have q0 : w6.frozen? ⟨w.heap.size, 0, none⟩ = false := hk6.free 0; have q1 : w6.frozen? ⟨w.heap.size, 1, none⟩ = false := hk6.free 1; have q2 : w6.frozen? ⟨w.heap.size, 2, none⟩ = false := hk6.free 2; have q3 : w6.frozen? ⟨w.heap.size, 3, none⟩ = false := hk6.free 3; have q4 : w6.frozen? ⟨w.heap.size, 4, none⟩ = false := hk6.free 4; have q5 : w6.frozen? ⟨w.heap.size, 5, none⟩ = false := hk6.free 5; have q6 : w6.frozen? ⟨w.heap.size, 6, none⟩ = false := hk6.free 6; have q7 : w6.frozen? ⟨w.heap.size, 7, none⟩ = false := hk6.free 7; have HK6 := Lib.hid hk6; have HB6 := Lib.hid (hb5.trans (hb6.mono hb5.size)); have hz6 : w.heap.size < w6.heap.size := Nat.lt_of_lt_of_le hz5 hb6.size; clear hk6 hb6))
    all_goals (go_wp2_with fail; go_meet; exact ⟨[f0, f1, f2, f3, f4, f5, f6, f7], rfl, HS5.out, ((((((((HK6.out.set 0 f0).set 1 f1).set 2 f2).set 3 f3).set 4 f4).set 5 f5).set 6 f6).set 7 f7), ((((((((HB6.out.setCell (Nat.le_refl _) _).setCell (Nat.le_refl _) _).setCell (Nat.le_refl _) _).setCell (Nat.le_refl _) _).setCell (Nat.le_refl _) _).setCell (Nat.le_refl _) _).setCell (Nat.le_refl _) _).setCell (Nat.le_refl _) _), by simpa [World.setCell] using hz6⟩)
  case rest =>
    obtain ⟨F, hF8, hs, hk, hbx, hzx⟩ := hcut
    obtain ⟨f0, f1, f2, f3, f4, f5, f6, f7, rfl⟩ := list8 F hF8
    obtain ⟨i0, hi0, hz0, hz1, hz2⟩ := info_parts infoU8
    have HS := Lib.hid hs
    have HK := Lib.hid hk
    clear hF8 hs hk
    go_wp2_with (first
      | (at_make; refine wpList_make_own _ rfl _ _ 22 rfl wc.heap.size 5 i0 _ 1 Tryd.underlying22 hi0 hz0 hz1 _ _ _ 32 rfl rfl (by omega) (by rw [hz2]; omega) (by unfold maxLen; omega) (Nat.le_refl _) ?_; intro w8 hown8 hg8; have hb8 : Below wc.heap.size wc w8 := (Below.refl _ _).grown hg8 (Nat.le_refl _) (fun k hk => by cases hk); have HK8 := Lib.hid (HK.out.below hb8 hzx))
      | (refine wpList_load_row rfl 31 (.tmp 3) rfl w.heap.size rfl 31 #[.int .u32 (f0 : Int), .int .u32 (f1 : Int), .int .u32 (f2 : Int), .int .u32 (f3 : Int), .int .u32 (f4 : Int), .int .u32 (f5 : Int), .int .u32 (f6 : Int), .int .u32 (f7 : Int)] (0, 0) _ HK8.out Tryd.underlying31 rfl (by rw [size8]; rfl) ?_))
    go_loopw [6, 33] (fun v i wr => OutR wc [f0, f1, f2, f3, f4, f5, f6, f7] v i wr) (fun _ i _ => 8 - (intOf i).toNat)
    case atStart => exact ⟨0, by omega, rfl, hown8, hb8⟩
    case round =>
      clear hown8 hb8 hg8
      obtain ⟨n, hn8, rfl, hown, hbel⟩ := hrel
      obtain ⟨G, hG⟩ : ∃ G, G = outB ([f0, f1, f2, f3, f4, f5, f6, f7].take n) := ⟨_, rfl⟩
      rw [← hG] at hown
      obtain ⟨A8, c8, rfl⟩ := own_shape hown
      have hln : G.length ≤ 100000 := by rw [hG, outB_len, List.length_take]; simp; omega
      have HG := Lib.hid hG
      clear hG
      rcases (show n = 0 ∨ n = 1 ∨ n = 2 ∨ n = 3 ∨ n = 4 ∨ n = 5 ∨ n = 6 ∨ n = 7 ∨ n = 8 by omega) with rfl | rfl | rfl | rfl | rfl | rfl | rfl | rfl | rfl
      · rw [show ((0 : Nat) : Int) = 0 from rfl]
        have hix : (Instr.index 31 (.agg #[.int .u32 (f0 : Int), .int .u32 (f1 : Int), .int .u32 (f2 : Int), .int .u32 (f3 : Int), .int .u32 (f4 : Int), .int .u32 (f5 : Int), .int .u32 (f6 : Int), .int .u32 (f7 : Int)]) (.int .i64 0)).run Tryd.prog wr = .ok (.int .u32 (f0 : Int)) wr := by kernel_rfl
        have HE : Hid (outB ([f0, f1, f2, f3, f4, f5, f6, f7].take 1) = G ++ bytes4 f0) := Lib.hid (by rw [HG.out]; exact outB_snoc ([f0, f1, f2, f3, f4, f5, f6, f7].take 0) f0)
        go_wp2_with fail
        with_reducible refine (appendWord_any wc.heap.size _ G f0 wr hown hln hbel.size).mono ?_
        rintro e w9 ⟨v9, rfl, hown9, hb9⟩
        have hb9' := hbel.trans hb9
        clear hb9 hown hbel hln hix
        go_wp2
        go_roundw
        case rel =>
          refine ⟨1, by omega, by go_num, ?_⟩
          rw [HE.out]
          exact ⟨hown9, hb9'⟩
        case measure => simp [intOf]
      · rw [show ((1 : Nat) : Int) = 1 from rfl]
        have hix : (Instr.index 31 (.agg #[.int .u32 (f0 : Int), .int .u32 (f1 : Int), .int .u32 (f2 : Int), .int .u32 (f3 : Int), .int .u32 (f4 : Int), .int .u32 (f5 : Int), .int .u32 (f6 : Int), .int .u32 (f7 : Int)]) (.int .i64 1)).run Tryd.prog wr = .ok (.int .u32 (f1 : Int)) wr := by kernel_rfl
        have HE : Hid (outB ([f0, f1, f2, f3, f4, f5, f6, f7].take 2) = G ++ bytes4 f1) := Lib.hid (by rw [HG.out]; exact outB_snoc ([f0, f1, f2, f3, f4, f5, f6, f7].take 1) f1)
        go_wp2_with fail
        with_reducible refine (appendWord_any wc.heap.size _ G f1 wr hown hln hbel.size).mono ?_
        rintro e w9 ⟨v9, rfl, hown9, hb9⟩
        have hb9' := hbel.trans hb9
        clear hb9 hown hbel hln hix
        go_wp2
        go_roundw
        case rel =>
          refine ⟨2, by omega, by go_num, ?_⟩
          rw [HE.out]
          exact ⟨hown9, hb9'⟩
        case measure => simp [intOf]
      · rw [show ((2 : Nat) : Int) = 2 from rfl]
        have hix : (Instr.index 31 (.agg #[.int .u32 (f0 : Int), .int .u32 (f1 : Int), .int .u32 (f2 : Int), .int .u32 (f3 : Int), .int .u32 (f4 : Int), .int .u32 (f5 : Int), .int .u32 (f6 : Int), .int .u32 (f7 : Int)]) (.int .i64 2)).run Tryd.prog wr = .ok (.int .u32 (f2 : Int)) wr := by kernel_rfl
        have HE : Hid (outB ([f0, f1, f2, f3, f4, f5, f6, f7].take 3) = G ++ bytes4 f2) := Lib.hid (by rw [HG.out]; exact outB_snoc ([f0, f1, f2, f3, f4, f5, f6, f7].take 2) f2)
        go_wp2_with fail
        with_reducible refine (appendWord_any wc.heap.size _ G f2 wr hown hln hbel.size).mono ?_
        rintro e w9 ⟨v9, rfl, hown9, hb9⟩
        have hb9' := hbel.trans hb9
        clear hb9 hown hbel hln hix
        go_wp2
        go_roundw
        case rel =>
          refine ⟨3, by omega, by go_num, ?_⟩
          rw [HE.out]
          exact ⟨hown9, hb9'⟩
        case measure => simp [intOf]
      · rw [show ((3 : Nat) : Int) = 3 from rfl]
        have hix : (Instr.index 31 (.agg #[.int .u32 (f0 : Int), .int .u32 (f1 : Int), .int .u32 (f2 : Int), .int .u32 (f3 : Int), .int .u32 (f4 : Int), .int .u32 (f5 : Int), .int .u32 (f6 : Int), .int .u32 (f7 : Int)]) (.int .i64 3)).run Tryd.prog wr = .ok (.int .u32 (f3 : Int)) wr := by kernel_rfl
        have HE : Hid (outB ([f0, f1, f2, f3, f4, f5, f6, f7].take 4) = G ++ bytes4 f3) := Lib.hid (by rw [HG.out]; exact outB_snoc ([f0, f1, f2, f3, f4, f5, f6, f7].take 3) f3)
        go_wp2_with fail
        with_reducible refine (appendWord_any wc.heap.size _ G f3 wr hown hln hbel.size).mono ?_
        rintro e w9 ⟨v9, rfl, hown9, hb9⟩
        have hb9' := hbel.trans hb9
        clear hb9 hown hbel hln hix
        go_wp2
        go_roundw
        case rel =>
          refine ⟨4, by omega, by go_num, ?_⟩
          rw [HE.out]
          exact ⟨hown9, hb9'⟩
        case measure => simp [intOf]
      · rw [show ((4 : Nat) : Int) = 4 from rfl]
        have hix : (Instr.index 31 (.agg #[.int .u32 (f0 : Int), .int .u32 (f1 : Int), .int .u32 (f2 : Int), .int .u32 (f3 : Int), .int .u32 (f4 : Int), .int .u32 (f5 : Int), .int .u32 (f6 : Int), .int .u32 (f7 : Int)]) (.int .i64 4)).run Tryd.prog wr = .ok (.int .u32 (f4 : Int)) wr := by kernel_rfl
        have HE : Hid (outB ([f0, f1, f2, f3, f4, f5, f6, f7].take 5) = G ++ bytes4 f4) := Lib.hid (by rw [HG.out]; exact outB_snoc ([f0, f1, f2, f3, f4, f5, f6, f7].take 4) f4)
        go_wp2_with fail
        with_reducible refine (appendWord_any wc.heap.size _ G f4 wr hown hln hbel.size).mono ?_
        rintro e w9 ⟨v9, rfl, hown9, hb9⟩
        have hb9' := hbel.trans hb9
        clear hb9 hown hbel hln hix
        go_wp2
        go_roundw
        case rel =>
          refine ⟨5, by omega, by go_num, ?_⟩
          rw [HE.out]
          exact ⟨hown9, hb9'⟩
        case measure => simp [intOf]
      · rw [show ((5 : Nat) : Int) = 5 from rfl]
        have hix : (Instr.index 31 (.agg #[.int .u32 (f0 : Int), .int .u32 (f1 : Int), .int .u32 (f2 : Int), .int .u32 (f3 : Int), .int .u32 (f4 : Int), .int .u32 (f5 : Int), .int .u32 (f6 : Int), .int .u32 (f7 : Int)]) (.int .i64 5)).run Tryd.prog wr = .ok (.int .u32 (f5 : Int)) wr := by kernel_rfl
        have HE : Hid (outB ([f0, f1, f2, f3, f4, f5, f6, f7].take 6) = G ++ bytes4 f5) := Lib.hid (by rw [HG.out]; exact outB_snoc ([f0, f1, f2, f3, f4, f5, f6, f7].take 5) f5)
        go_wp2_with fail
        with_reducible refine (appendWord_any wc.heap.size _ G f5 wr hown hln hbel.size).mono ?_
        rintro e w9 ⟨v9, rfl, hown9, hb9⟩
        have hb9' := hbel.trans hb9
        clear hb9 hown hbel hln hix
        go_wp2
        go_roundw
        case rel =>
          refine ⟨6, by omega, by go_num, ?_⟩
          rw [HE.out]
          exact ⟨hown9, hb9'⟩
        case measure => simp [intOf]
      · rw [show ((6 : Nat) : Int) = 6 from rfl]
        have hix : (Instr.index 31 (.agg #[.int .u32 (f0 : Int), .int .u32 (f1 : Int), .int .u32 (f2 : Int), .int .u32 (f3 : Int), .int .u32 (f4 : Int), .int .u32 (f5 : Int), .int .u32 (f6 : Int), .int .u32 (f7 : Int)]) (.int .i64 6)).run Tryd.prog wr = .ok (.int .u32 (f6 : Int)) wr := by kernel_rfl
        have HE : Hid (outB ([f0, f1, f2, f3, f4, f5, f6, f7].take 7) = G ++ bytes4 f6) := Lib.hid (by rw [HG.out]; exact outB_snoc ([f0, f1, f2, f3, f4, f5, f6, f7].take 6) f6)
        go_wp2_with fail
        with_reducible refine (appendWord_any wc.heap.size _ G f6 wr hown hln hbel.size).mono ?_
        rintro e w9 ⟨v9, rfl, hown9, hb9⟩
        have hb9' := hbel.trans hb9
        clear hb9 hown hbel hln hix
        go_wp2
        go_roundw
        case rel =>
          refine ⟨7, by omega, by go_num, ?_⟩
          rw [HE.out]
          exact ⟨hown9, hb9'⟩
        case measure => simp [intOf]
      · rw [show ((7 : Nat) : Int) = 7 from rfl]
        have hix : (Instr.index 31 (.agg #[.int .u32 (f0 : Int), .int .u32 (f1 : Int), .int .u32 (f2 : Int), .int .u32 (f3 : Int), .int .u32 (f4 : Int), .int .u32 (f5 : Int), .int .u32 (f6 : Int), .int .u32 (f7 : Int)]) (.int .i64 7)).run Tryd.prog wr = .ok (.int .u32 (f7 : Int)) wr := by kernel_rfl
        have HE : Hid (outB ([f0, f1, f2, f3, f4, f5, f6, f7].take 8) = G ++ bytes4 f7) := Lib.hid (by rw [HG.out]; exact outB_snoc ([f0, f1, f2, f3, f4, f5, f6, f7].take 7) f7)
        go_wp2_with fail
        with_reducible refine (appendWord_any wc.heap.size _ G f7 wr hown hln hbel.size).mono ?_
        rintro e w9 ⟨v9, rfl, hown9, hb9⟩
        have hb9' := hbel.trans hb9
        clear hb9 hown hbel hln hix
        go_wp2
        go_roundw
        case rel =>
          refine ⟨8, by omega, by go_num, ?_⟩
          rw [HE.out]
          exact ⟨hown9, hb9'⟩
        case measure => simp [intOf]
      · rw [show ((8 : Nat) : Int) = 8 from rfl]
        go_wp2
        go_ret
        refine ⟨_, rfl, ?_⟩
        have e : G = outB [f0, f1, f2, f3, f4, f5, f6, f7] := HG.out
        rw [HS.out, ← e]
        exact ⟨own_more hown hbx.size, hbx.trans (hbel.mono hbx.size)⟩
end Go.Proofs.YthaecckneblecaaDoor
