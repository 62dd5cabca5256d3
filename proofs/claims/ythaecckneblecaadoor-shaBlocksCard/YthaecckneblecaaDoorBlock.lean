/- Contract of the reference's block. -/
import Derived.Test.YthaecckneblecaaDoorTurn
import Derived.StillTailTactics
import Derived.BigRegion
namespace Go.Proofs.YthaecckneblecaaDoor
open Go.RowKit Sh

theorem agg_cells (l : List Nat) : (Value.agg (cn .u32 l).toArray).cells = (cn .u32 l).toArray := rfl
/-- Block g is the words l, and nothing else. -/
def Bk (w : World) (g : Nat) (T : TypeId) (l : List Nat) : Prop := w.heap[g]? = some (.cells (cn .u32 l).toArray T (0, 0))
section
variable {w w' : World} {g B : Nat} {T : TypeId} {l : List Nat}
theorem Bk.cell (h : Bk w g T l) (i : Nat) (hi : i < l.length) : w.cell? ⟨g, i, none⟩ = some (.int .u32 (l[i] : Int)) := by
  rw [cell_of_row w g i _ T _ h]
  simp [cn, hi]
theorem Bk.free (h : Bk w g T l) (i : Nat) : w.frozen? ⟨g, i, none⟩ = false := frozen_of_row w g i _ T h
theorem Bk.set (h : Bk w g T l) (i x : Nat) : Bk (w.setCell ⟨g, i, none⟩ (.int .u32 (x : Int))) g T (l.set i x) := by
  unfold Bk
  rw [heap_setCell_same w g i _ T _ h]
  congr 2
  apply Array.ext'
  simp [cn]
theorem Bk.far (h : Bk w g T l) {p : Addr} (hp : g ≠ p.block) (u : Value) : Bk (w.setCell p u) g T l := (Below.heap_setCell w p u g hp).trans h
theorem Bk.drew (h : Bk w g T l) : Bk w.drew g T l := h
theorem Bk.drewN (h : Bk w g T l) (n : Nat) : Bk (w.drewN n) g T l := h
theorem Bk.alloc (h : Bk w g T l) (o : Obj) (hg : g < w.heap.size) : Bk (w.alloc o) g T l := (Below.heap_alloc w o g hg).trans h
theorem Bk.new (w : World) (T : TypeId) (l : List Nat) : Bk (w.alloc (.cells (cn .u32 l).toArray T)) w.heap.size T l := heap_alloc_new w _
end
/-- The four blocks that stand through the first loop; W: the schedule's words so far. -/
structure Four (w : World) (h k W : List Nat) (wr : World) : Prop where
  bh : Bk wr w.heap.size 31 h
  bk : Bk wr (w.heap.size + 1) 38 k
  br : Bk wr (w.heap.size + 1 + 1) 31 (List.replicate 8 0)
  bw : Bk wr (w.heap.size + 1 + 1 + 1) 38 W
  sz : wr.heap.size = w.heap.size + 1 + 1 + 1 + 1
  bl : Below w.heap.size w wr
theorem Four.drew {w wr : World} {h k W : List Nat} (f : Four w h k W wr) : Four w h k W wr.drew := ⟨f.bh, f.bk, f.br, f.bw, f.sz, f.bl.drew⟩
theorem Four.drewN {w wr : World} {h k W : List Nat} (f : Four w h k W wr) (n : Nat) : Four w h k W (wr.drewN n) := ⟨f.bh, f.bk, f.br, f.bw, f.sz, below_drewN f.bl n⟩
theorem Four.put {w wr : World} {h k W : List Nat} (f : Four w h k W wr) (n x : Nat) : Four w h k (W.set n x) (wr.setCell ⟨w.heap.size + 1 + 1 + 1, n, none⟩ (.int .u32 (x : Int))) :=
  ⟨f.bh.far (by show w.heap.size ≠ w.heap.size + 1 + 1 + 1; omega) _, f.bk.far (by show w.heap.size + 1 ≠ w.heap.size + 1 + 1 + 1; omega) _, f.br.far (by show w.heap.size + 1 + 1 ≠ w.heap.size + 1 + 1 + 1; omega) _, f.bw.set n x, by
    have := f.sz
    simp [World.setCell, this], f.bl.setCell (by show w.heap.size ≤ w.heap.size + 1 + 1 + 1; omega) _⟩
def SchR (w : World) (h k m : List Nat) (i : Value) (wr : World) : Prop := ∃ n : Nat, n ≤ 64 ∧ i = .int .i64 n ∧ Four w h k (wS m n ++ List.replicate (64 - n) 0) wr
theorem word_bits (a b c d : Nat) (ha : a < 256) (hb : b < 256) (hc : c < 256) (hd : d < 256) :
    bits BinOp.or IntKind.u32 (bits BinOp.or IntKind.u32 (bits BinOp.or IntKind.u32 ((a : Int) * 16777216) ((b : Int) * 65536)) ((c : Int) * 256)) (d : Int) = ((a * 16777216 + b * 65536 + c * 256 + d : Nat) : Int) := by
  have e1 := u32_or_nat (a * 16777216) (b * 65536) (by omega) (by omega)
  rw [nat_join 24 _ _ (by omega) (by omega)] at e1
  have e2 := u32_or_nat (a * 16777216 + b * 65536) (c * 256) (by omega) (by omega)
  rw [nat_join 16 _ _ (by omega) (by omega)] at e2
  have e3 := u32_or_nat (a * 16777216 + b * 65536 + c * 256) d (by omega) (by omega)
  rw [nat_join 8 _ _ (by omega) (by omega)] at e3
  simp only [Int.natCast_mul, Int.natCast_add] at e1 e2 e3
  rw [show (Nat.cast 16777216 : Int) = 16777216 from rfl, show (Nat.cast 65536 : Int) = 65536 from rfl] at e1 e2 e3
  rw [show (Nat.cast 256 : Int) = 256 from rfl] at e2 e3
  rw [e1, e2, e3]
  simp
theorem set_tail (a : List Nat) (n x : Nat) (hn : n < 64) (ha : a.length = n) : (a ++ List.replicate (64 - n) 0).set n x = (a ++ [x]) ++ List.replicate (64 - (n + 1)) 0 := by
  rw [show 64 - n = (64 - (n + 1)) + 1 by omega, List.replicate_succ, List.set_append_right _ _ (by omega), ha, Nat.sub_self]
  simp

theorem xor_rule {a b c : Nat} (ha : a < 4294967296) (hb : b < 4294967296) (hc : c = a ^^^ b) : bits BinOp.xor IntKind.u32 (a : Int) (b : Int) = (c : Int) := by rw [hc]; exact u32_xor_nat a b ha hb
theorem and_rule {a b c : Nat} (ha : a < 4294967296) (hb : b < 4294967296) (hc : c = a &&& b) : bits BinOp.and IntKind.u32 (a : Int) (b : Int) = (c : Int) := by rw [hc]; exact u32_and_nat a b ha hb
theorem add_rule {a b c : Nat} (hc : c = (a + b) % 4294967296) : IntKind.u32.wrap ((a : Int) + (b : Int)) = (c : Int) := by rw [hc, IntKind.wrap_u32']; simp
theorem add_rule' {a b c : Nat} (hc : c = (a + b) % 4294967296) : ((a : Int) + (b : Int)) % 4294967296 = (c : Int) := by rw [hc]; simp
theorem shr_rule {a b : Nat} (d : Nat) (hb : b = a / d) : (a : Int) / (d : Int) = (b : Int) := by rw [hb]; simp
theorem at_front (a : List Nat) (n j z : Nat) (hj : j < n) (ha : a.length = n) (hz : j < (a ++ List.replicate z 0).length) : (a ++ List.replicate z 0)[j] = a.getD j 0 := by
  rw [List.getElem_append_left (by omega)]
  simp [List.getD, show j < a.length by omega]

theorem not_nat (x : Nat) (h : x < 4294967296) : 4294967295 ^^^ x = 4294967295 - x := by
  apply Nat.eq_of_testBit_eq
  intro i
  rw [Nat.testBit_xor, show (4294967295 : Nat) = 2 ^ 32 - 1 from rfl, Nat.testBit_two_pow_sub_one, show 2 ^ 32 - 1 - x = 2 ^ 32 - (x + 1) by omega, Nat.testBit_two_pow_sub_succ h]
  by_cases hi : i < 32
  · simp [hi]
  · have h2 : 2 ^ 32 ≤ 2 ^ i := Nat.pow_le_pow_right (by decide) (by omega)
    have h3 : x < 2 ^ i := Nat.lt_of_lt_of_le h h2
    have : x.testBit i = false := Nat.testBit_lt_two_pow h3
    simp [hi, this]
theorem not_rule {a b : Nat} (ha : a < 4294967296) (hb : b = 4294967295 - a) : bits BinOp.xor IntKind.u32 (if IntKind.u32.signed = true then -1 else IntKind.u32.max) (a : Int) = (b : Int) := by
  rw [hb, ← not_nat a ha]
  exact u32_xor_nat 4294967295 a (by omega) ha
theorem list8 (l : List Nat) (hl : l.length = 8) : ∃ a b c d e f g h : Nat, l = [a, b, c, d, e, f, g, h] := by
  match l, hl with
  | [a, b, c, d, e, f, g, h], _ => exact ⟨a, b, c, d, e, f, g, h, rfl⟩
/-- The five blocks that stand through the second loop; V: the eight words as they are turned. -/
structure Five (w : World) (h k W V : List Nat) (wr : World) : Prop where
  bh : Bk wr w.heap.size 31 h
  bk : Bk wr (w.heap.size + 1) 38 k
  br : Bk wr (w.heap.size + 1 + 1) 31 (List.replicate 8 0)
  bw : Bk wr (w.heap.size + 1 + 1 + 1) 38 W
  bv : Bk wr (w.heap.size + 1 + 1 + 1 + 1) 31 V
  bl : Below w.heap.size w wr
theorem Five.drew {w wr : World} {h k W V : List Nat} (f : Five w h k W V wr) : Five w h k W V wr.drew := ⟨f.bh, f.bk, f.br, f.bw, f.bv, f.bl.drew⟩
theorem Five.drewN {w wr : World} {h k W V : List Nat} (f : Five w h k W V wr) (n : Nat) : Five w h k W V (wr.drewN n) := ⟨f.bh, f.bk, f.br, f.bw, f.bv, below_drewN f.bl n⟩
theorem Five.put {w wr : World} {h k W V : List Nat} (f : Five w h k W V wr) (n x : Nat) : Five w h k W (V.set n x) (wr.setCell ⟨w.heap.size + 1 + 1 + 1 + 1, n, none⟩ (.int .u32 (x : Int))) :=
  ⟨f.bh.far (by show w.heap.size ≠ w.heap.size + 1 + 1 + 1 + 1; omega) _, f.bk.far (by show w.heap.size + 1 ≠ w.heap.size + 1 + 1 + 1 + 1; omega) _, f.br.far (by show w.heap.size + 1 + 1 ≠ w.heap.size + 1 + 1 + 1 + 1; omega) _,
    f.bw.far (by show w.heap.size + 1 + 1 + 1 ≠ w.heap.size + 1 + 1 + 1 + 1; omega) _, f.bv.set n x, f.bl.setCell (by show w.heap.size ≤ w.heap.size + 1 + 1 + 1 + 1; omega) _⟩
def RdR (w : World) (h k W : List Nat) (i : Value) (wr : World) : Prop := ∃ n : Nat, n ≤ 64 ∧ i = .int .i64 n ∧ Five w h k W (vS k W h n) wr

def AddR (w : World) (h k W V : List Nat) (i : Value) (wr : World) : Prop := ∃ n : Nat, n ≤ 8 ∧ i = .int .i64 n ∧ Five w (hS h V n) k W V wr
theorem Five.puth {w wr : World} {h k W V : List Nat} (f : Five w h k W V wr) (n x : Nat) : Five w (h.set n x) k W V (wr.setCell ⟨w.heap.size, n, none⟩ (.int .u32 (x : Int))) :=
  ⟨f.bh.set n x, f.bk.far (by show w.heap.size + 1 ≠ w.heap.size; omega) _, f.br.far (by show w.heap.size + 1 + 1 ≠ w.heap.size; omega) _,
    f.bw.far (by show w.heap.size + 1 + 1 + 1 ≠ w.heap.size; omega) _, f.bv.far (by show w.heap.size + 1 + 1 + 1 + 1 ≠ w.heap.size; omega) _, f.bl.setCell (Nat.le_refl _) _⟩

set_option maxRecDepth 100000 in
set_option maxHeartbeats 16000000 in
theorem block_any (h k m : List Nat) (A : Option Addr) (c : Nat) (w : World) (hA : At .u8 w w.heap.size A m) (hm : ∀ x ∈ m, x < 256) (hml : m.length = 64) (hh : h.length = 8) (hk : k.length = 64) (wh : Wd h) (wk : Wd k) :
    Calls Tryd.prog 20 #[.agg (cn .u32 h).toArray, .agg (cn .u32 k).toArray, .slice A 64 c] w fun e w' => e = .returned (.agg (cn .u32 (blk k h m)).toArray) ∧ Below w.heap.size w w' := by
  obtain ⟨ab, ao, rfl, hab, hc⟩ := hA.pos (by omega)
  have hHc := agg_cells h
  have hKc := agg_cells k
  have HC := Lib.hid hc
  have HML := Lib.hid hml
  have HH := Lib.hid hh
  have HK := Lib.hid hk
  have HM := Lib.hid hm
  clear hc hml hh hk hm hA
  go_enter Tryd.func20, Tryd.ntmps20
  go_wp2
  clear hHc hKc
  have h4 : Four w h k (List.replicate 64 0) ((((w.alloc (.cells (cn .u32 h).toArray 31)).alloc (.cells (cn .u32 k).toArray 38)).alloc (.cells (cn .u32 (List.replicate 8 0)).toArray 31)).alloc (.cells (cn .u32 (List.replicate 64 0)).toArray 38)) :=
    ⟨(((Bk.new w _ h).alloc _ (by simp)).alloc _ (by simp; omega)).alloc _ (by simp; omega), by
      have := ((Bk.new (w.alloc (.cells (cn .u32 h).toArray 31)) 38 k).alloc (.cells (cn .u32 (List.replicate 8 0)).toArray 31) (by simp)).alloc (.cells (cn .u32 (List.replicate 64 0)).toArray 38) (by simp)
      simpa using this, by
      have := (Bk.new ((w.alloc (.cells (cn .u32 h).toArray 31)).alloc (.cells (cn .u32 k).toArray 38)) 31 (List.replicate 8 0)).alloc (.cells (cn .u32 (List.replicate 64 0)).toArray 38) (by simp)
      simpa using this, by
      have := Bk.new (((w.alloc (.cells (cn .u32 h).toArray 31)).alloc (.cells (cn .u32 k).toArray 38)).alloc (.cells (cn .u32 (List.replicate 8 0)).toArray 31)) 38 (List.replicate 64 0)
      simpa using this, by simp, ((((Below.refl _ _).alloc (Nat.le_refl _) _).alloc (by simp) _).alloc (by simp; omega) _).alloc (by simp; omega) _⟩
  change Code.wp _ _ _ _ ((((w.alloc (.cells (cn .u32 h).toArray 31)).alloc (.cells (cn .u32 k).toArray 38)).alloc (.cells (cn .u32 (List.replicate 8 0)).toArray 31)).alloc (.cells (cn .u32 (List.replicate 64 0)).toArray 38))
  generalize ((((w.alloc (.cells (cn .u32 h).toArray 31)).alloc (.cells (cn .u32 k).toArray 38)).alloc (.cells (cn .u32 (List.replicate 8 0)).toArray 31)).alloc (.cells (cn .u32 (List.replicate 64 0)).toArray 38)) = w4 at h4 ⊢
  go_loopw [8] (fun i wr => SchR w h k m i wr) (fun i _ => 64 - (intOf i).toNat)
  case atStart => exact ⟨0, by omega, rfl, h4⟩
  case round =>
    clear h4
    obtain ⟨n, hn, rfl, h4⟩ := hrel
    by_cases hlt : n < 64
    · have hwl := wS_len m n
      by_cases h16 : n < 16
      · have g : ∀ j, j < 64 → ∃ x : Nat, x < 256 ∧ x = m.getD j 0 ∧ wr.cell? ⟨ab, ao + j, none⟩ = some (.int .u8 (x : Int)) := fun j hj => by
          have hjl : j < m.length := by have := HML.out; omega
          refine ⟨m[j], HM.out _ (List.getElem_mem _), by simp [List.getD, hjl], ?_⟩
          rw [h4.bl.cell (p := ⟨ab, ao + j, none⟩) hab]
          exact HC.out j hjl
        obtain ⟨x0, b0, e0, c0⟩ := g (4 * n) (by omega)
        obtain ⟨x1, b1, e1, c1⟩ := g (4 * n + 1) (by omega)
        obtain ⟨x2, b2, e2, c2⟩ := g (4 * n + 2) (by omega)
        obtain ⟨x3, b3, e3, c3⟩ := g (4 * n + 3) (by omega)
        have E0 := Lib.hid e0
        have E1 := Lib.hid e1
        have E2 := Lib.hid e2
        have E3 := Lib.hid e3
        have HWL := Lib.hid hwl
        clear e0 e1 e2 e3 g hwl
        have hf := h4.bw.free n
        have hcw := h4.bw.cell n (by rw [List.length_append, HWL.out, List.length_replicate]; omega)
        obtain ⟨u, hu⟩ : ∃ u, wr.cell? ⟨w.heap.size + 1 + 1 + 1, n, none⟩ = some u := ⟨_, hcw⟩
        clear hcw
        have HF := Lib.hid h4
        clear h4
        obtain ⟨r0, hr0⟩ : ∃ r, r = 4 * n := ⟨_, rfl⟩
        obtain ⟨r1, hr1⟩ : ∃ r, r = 4 * n + 1 := ⟨_, rfl⟩
        obtain ⟨r2, hr2⟩ : ∃ r, r = 4 * n + 2 := ⟨_, rfl⟩
        obtain ⟨r3, hr3⟩ : ∃ r, r = 4 * n + 3 := ⟨_, rfl⟩
        rw [← hr0] at c0
        rw [← hr1] at c1
        rw [← hr2] at c2
        rw [← hr3] at c3
        have w0 : IntKind.i64.wrap (4 * (n : Int)) = (r0 : Int) := by rw [IntWalk.i64_in _ (by omega)]; omega
        have w1 : IntKind.i64.wrap ((r0 : Int) + 1) = (r1 : Int) := by rw [IntWalk.i64_in _ (by omega)]; omega
        have w2 : IntKind.i64.wrap ((r0 : Int) + 2) = (r2 : Int) := by rw [IntWalk.i64_in _ (by omega)]; omega
        have w3 : IntKind.i64.wrap ((r0 : Int) + 3) = (r3 : Int) := by rw [IntWalk.i64_in _ (by omega)]; omega
        have l0 : r0 < 64 := by omega
        have l1 : r1 < 64 := by omega
        have l2 : r2 < 64 := by omega
        have l3 : r3 < 64 := by omega
        have i0 : (r0 : Int) < 64 := by omega
        have i1 : (r1 : Int) < 64 := by omega
        have i2 : (r2 : Int) < 64 := by omega
        have i3 : (r3 : Int) < 64 := by omega
        have i4 : (n : Int) < 64 := by omega
        have k0 : IntKind.u32.wrap (x0 : Int) = (x0 : Int) := by rw [IntKind.wrap_u32']; omega
        have k1 : IntKind.u32.wrap (x1 : Int) = (x1 : Int) := by rw [IntKind.wrap_u32']; omega
        have k2 : IntKind.u32.wrap (x2 : Int) = (x2 : Int) := by rw [IntKind.wrap_u32']; omega
        have k3 : IntKind.u32.wrap (x3 : Int) = (x3 : Int) := by rw [IntKind.wrap_u32']; omega
        have m0 : IntKind.u32.wrap ((x0 : Int) * 16777216) = (x0 : Int) * 16777216 := by rw [IntKind.wrap_u32']; omega
        have m1 : IntKind.u32.wrap ((x1 : Int) * 65536) = (x1 : Int) * 65536 := by rw [IntKind.wrap_u32']; omega
        have m2 : IntKind.u32.wrap ((x2 : Int) * 256) = (x2 : Int) * 256 := by rw [IntKind.wrap_u32']; omega
        obtain ⟨X, hX⟩ : ∃ X, X = x0 * 16777216 + x1 * 65536 + x2 * 256 + x3 := ⟨_, rfl⟩
        have hw := word_bits x0 x1 x2 x3 b0 b1 b2 b3
        rw [← hX] at hw
        have HX := Lib.hid hX
        clear hX hr0 hr1 hr2 hr3
        go_wp2
        go_still_tail 35, (by kernel_rfl)
        have HF5 : Hid (Four w h k (wS m n ++ List.replicate (64 - n) 0) wr.drew) := Lib.hid HF.out.drew
        have hu5 : wr.drew.cell? ⟨w.heap.size + 1 + 1 + 1, n, none⟩ = some u := hu
        have hf5 : wr.drew.frozen? ⟨w.heap.size + 1 + 1 + 1, n, none⟩ = false := hf
        clear HF hu hf c0 c1 c2 c3 w0 w1 w2 w3 k0 k1 k2 k3 m0 m1 m2 hw
        change wpList _ _ _ _ _ wr.drew
        generalize wr.drew = w5 at HF5 hu5 hf5 ⊢
        go_wp2
        go_roundw
        case rel =>
          refine ⟨n + 1, by omega, by go_num, ?_⟩
          have := HF5.out.put n X
          rw [set_tail _ _ _ hlt HWL.out] at this
          rw [wS, if_pos h16, word, ← E0.out, ← E1.out, ← E2.out, ← E3.out, ← HX.out]
          exact this
        case measure => simp [intOf]; omega
      · have g : ∀ j, j < n → ∃ x : Nat, x < 4294967296 ∧ x = (wS m n).getD j 0 ∧ wr.cell? ⟨w.heap.size + 1 + 1 + 1, j, none⟩ = some (.int .u32 (x : Int)) := fun j hj => by
          have hjl : j < (wS m n ++ List.replicate (64 - n) 0).length := by rw [List.length_append, hwl, List.length_replicate]; omega
          refine ⟨(wS m n).getD j 0, getD_lt (wS_wd m HM.out n) j, rfl, ?_⟩
          rw [h4.bw.cell j hjl, at_front _ n j _ hj hwl hjl]
        obtain ⟨y16, b16, e16, c16⟩ := g (n - 16) (by omega)
        obtain ⟨y15, b15, e15, c15⟩ := g (n - 15) (by omega)
        obtain ⟨y7, b7, e7, c7⟩ := g (n - 7) (by omega)
        obtain ⟨y2, b2, e2, c2⟩ := g (n - 2) (by omega)
        have E16 := Lib.hid e16
        have E15 := Lib.hid e15
        have E7 := Lib.hid e7
        have E2 := Lib.hid e2
        have HWL := Lib.hid hwl
        clear e16 e15 e7 e2 g hwl
        obtain ⟨q16, hq16⟩ : ∃ q, q = n - 16 := ⟨_, rfl⟩
        obtain ⟨q15, hq15⟩ : ∃ q, q = n - 15 := ⟨_, rfl⟩
        obtain ⟨q7, hq7⟩ : ∃ q, q = n - 7 := ⟨_, rfl⟩
        obtain ⟨q2, hq2⟩ : ∃ q, q = n - 2 := ⟨_, rfl⟩
        rw [← hq16] at c16
        rw [← hq15] at c15
        rw [← hq7] at c7
        rw [← hq2] at c2
        have w16 : IntKind.i64.wrap (q16 : Int) = (q16 : Int) := IntWalk.i64_in _ (by omega)
        have w15 : IntKind.i64.wrap (q15 : Int) = (q15 : Int) := IntWalk.i64_in _ (by omega)
        have w7 : IntKind.i64.wrap (q7 : Int) = (q7 : Int) := IntWalk.i64_in _ (by omega)
        have w2 : IntKind.i64.wrap (q2 : Int) = (q2 : Int) := IntWalk.i64_in _ (by omega)
        have v16 : (n : Int) - 16 = (q16 : Int) := by omega
        have v15 : (n : Int) - 15 = (q15 : Int) := by omega
        have v7 : (n : Int) - 7 = (q7 : Int) := by omega
        have v2 : (n : Int) - 2 = (q2 : Int) := by omega
        have l16 : q16 < 64 := by omega
        have l15 : q15 < 64 := by omega
        have l7 : q7 < 64 := by omega
        have l2 : q2 < 64 := by omega
        have i16 : (q16 : Int) < 64 := by omega
        have i15 : (q15 : Int) < 64 := by omega
        have i7 : (q7 : Int) < 64 := by omega
        have i2 : (q2 : Int) < 64 := by omega
        have i4 : (n : Int) < 64 := by omega
        clear hq16 hq15 hq7 hq2
        obtain ⟨R7, hR7⟩ : ∃ R, R = rot y15 7 := ⟨_, rfl⟩
        obtain ⟨R18, hR18⟩ : ∃ R, R = rot y15 18 := ⟨_, rfl⟩
        obtain ⟨R17, hR17⟩ : ∃ R, R = rot y2 17 := ⟨_, rfl⟩
        obtain ⟨R19, hR19⟩ : ∃ R, R = rot y2 19 := ⟨_, rfl⟩
        have T7 := Lib.hid fun w => turn_at y15 7 7 R7 w rfl b15 (by omega) hR7
        have T18 := Lib.hid fun w => turn_at y15 18 18 R18 w rfl b15 (by omega) hR18
        have T17 := Lib.hid fun w => turn_at y2 17 17 R17 w rfl b2 (by omega) hR17
        have T19 := Lib.hid fun w => turn_at y2 19 19 R19 w rfl b2 (by omega) hR19
        have r7 : R7 < 4294967296 := by rw [hR7]; exact rot_lt _ _ b15
        have r18 : R18 < 4294967296 := by rw [hR18]; exact rot_lt _ _ b15
        have r17 : R17 < 4294967296 := by rw [hR17]; exact rot_lt _ _ b2
        have r19 : R19 < 4294967296 := by rw [hR19]; exact rot_lt _ _ b2
        obtain ⟨a1, ha1⟩ : ∃ a, a = R7 ^^^ R18 := ⟨_, rfl⟩
        obtain ⟨d1, hd1⟩ : ∃ a, a = y15 / 8 := ⟨_, rfl⟩
        obtain ⟨S0, hS0⟩ : ∃ a, a = a1 ^^^ d1 := ⟨_, rfl⟩
        obtain ⟨a2, ha2⟩ : ∃ a, a = R17 ^^^ R19 := ⟨_, rfl⟩
        obtain ⟨d2, hd2⟩ : ∃ a, a = y2 / 1024 := ⟨_, rfl⟩
        obtain ⟨S1, hS1⟩ : ∃ a, a = a2 ^^^ d2 := ⟨_, rfl⟩
        obtain ⟨p1, hp1⟩ : ∃ a, a = (y16 + S0) % 4294967296 := ⟨_, rfl⟩
        obtain ⟨p2, hp2⟩ : ∃ a, a = (p1 + y7) % 4294967296 := ⟨_, rfl⟩
        obtain ⟨p3, hp3⟩ : ∃ a, a = (p2 + S1) % 4294967296 := ⟨_, rfl⟩
        have x1 := xor_rule r7 r18 ha1
        have x2 : bits BinOp.xor IntKind.u32 (a1 : Int) (d1 : Int) = (S0 : Int) := xor_rule (by rw [ha1]; exact xor_lt r7 r18) (by omega) hS0
        have x3 := xor_rule r17 r19 ha2
        have x4 : bits BinOp.xor IntKind.u32 (a2 : Int) (d2 : Int) = (S1 : Int) := xor_rule (by rw [ha2]; exact xor_lt r17 r19) (by omega) hS1
        have z1 : (y15 : Int) / 8 = (d1 : Int) := shr_rule 8 hd1
        have z2 : (y2 : Int) / 1024 = (d2 : Int) := shr_rule 1024 hd2
        have u1 := add_rule hp1
        have u1' := add_rule' hp1
        have u2 := add_rule hp2
        have u2' := add_rule' hp2
        have u3 := add_rule hp3
        have u3' := add_rule' hp3
        have HX : Hid (p3 = (y16 + s0 y15 + y7 + s1 y2) % 4294967296) := by
          apply Lib.hid
          rw [s0, s1, ← hR7, ← hR18, ← ha1, ← hd1, ← hS0, ← hR17, ← hR19, ← ha2, ← hd2, ← hS1]
          omega
        clear hR7 hR18 hR17 hR19 ha1 hd1 hS0 ha2 hd2 hS1 hp1 hp2 hp3
        have hf := h4.bw.free n
        have hcw := h4.bw.cell n (by rw [List.length_append, HWL.out, List.length_replicate]; omega)
        obtain ⟨u, hu⟩ : ∃ u, wr.cell? ⟨w.heap.size + 1 + 1 + 1, n, none⟩ = some u := ⟨_, hcw⟩
        clear hcw
        have HF := Lib.hid h4
        clear h4
        go_wp2
        go_quiet (fail)
        go_wp2
        have c16' : (wr.drewN nq).cell? ⟨w.heap.size + 1 + 1 + 1, q16, none⟩ = some (.int .u32 (y16 : Int)) := c16
        have c7' : (wr.drewN nq).cell? ⟨w.heap.size + 1 + 1 + 1, q7, none⟩ = some (.int .u32 (y7 : Int)) := c7
        have hu' : (wr.drewN nq).cell? ⟨w.heap.size + 1 + 1 + 1, n, none⟩ = some u := hu
        have hf' : (wr.drewN nq).frozen? ⟨w.heap.size + 1 + 1 + 1, n, none⟩ = false := hf
        have HF' : Hid (Four w h k (wS m n ++ List.replicate (64 - n) 0) (wr.drewN nq)) := Lib.hid (HF.out.drewN nq)
        clear c16 c15 c7 c2 hu hf HF
        generalize wr.drewN nq = w3 at c16' c7' hu' hf' HF' ⊢
        go_still_tail 29, (by kernel_rfl)
        still_call (T7.out _)
        repeat still_step
        still_call (T18.out _)
        repeat still_step
        still_call (T17.out _)
        repeat still_step
        still_call (T19.out _)
        repeat still_step
        refine wpStill_nil ?_
        have HF5 : Hid (Four w h k (wS m n ++ List.replicate (64 - n) 0) w3.drew) := Lib.hid HF'.out.drew
        have hu5 : w3.drew.cell? ⟨w.heap.size + 1 + 1 + 1, n, none⟩ = some u := hu'
        have hf5 : w3.drew.frozen? ⟨w.heap.size + 1 + 1 + 1, n, none⟩ = false := hf'
        clear HF' hu' hf' c16' c7'
        change wpList _ _ _ _ _ w3.drew
        generalize w3.drew = w5 at HF5 hu5 hf5 ⊢
        go_wp2
        go_roundw
        case rel =>
          refine ⟨n + 1, by omega, by go_num, ?_⟩
          have := HF5.out.put n p3
          rw [set_tail _ _ _ hlt HWL.out] at this
          rw [wS, if_neg h16, ← E16.out, ← E15.out, ← E7.out, ← E2.out, ← HX.out]
          exact this
        case measure => simp [intOf]; omega
    · have hn64 : n = 64 := by omega
      rw [show ((n : Nat) : Int) = 64 by omega]
      subst hn64
      rw [List.replicate_zero, List.append_nil] at h4
      have HWL := Lib.hid (wS_len m 64)
      have HWW := Lib.hid (wS_wd m HM.out 64)
      obtain ⟨z0, z1, z2, z3, z4, z5, z6, z7, h8⟩ := list8 h HH.out
      have c0 : wr.cell? ⟨w.heap.size, 0, none⟩ = some (.int .u32 (z0 : Int)) := by rw [h4.bh.cell 0 (by rw [h8]; simp)]; simp [h8]
      have c1 : wr.cell? ⟨w.heap.size, 1, none⟩ = some (.int .u32 (z1 : Int)) := by rw [h4.bh.cell 1 (by rw [h8]; simp)]; simp [h8]
      have c2 : wr.cell? ⟨w.heap.size, 2, none⟩ = some (.int .u32 (z2 : Int)) := by rw [h4.bh.cell 2 (by rw [h8]; simp)]; simp [h8]
      have c3 : wr.cell? ⟨w.heap.size, 3, none⟩ = some (.int .u32 (z3 : Int)) := by rw [h4.bh.cell 3 (by rw [h8]; simp)]; simp [h8]
      have c4 : wr.cell? ⟨w.heap.size, 4, none⟩ = some (.int .u32 (z4 : Int)) := by rw [h4.bh.cell 4 (by rw [h8]; simp)]; simp [h8]
      have c5 : wr.cell? ⟨w.heap.size, 5, none⟩ = some (.int .u32 (z5 : Int)) := by rw [h4.bh.cell 5 (by rw [h8]; simp)]; simp [h8]
      have c6 : wr.cell? ⟨w.heap.size, 6, none⟩ = some (.int .u32 (z6 : Int)) := by rw [h4.bh.cell 6 (by rw [h8]; simp)]; simp [h8]
      have c7 : wr.cell? ⟨w.heap.size, 7, none⟩ = some (.int .u32 (z7 : Int)) := by rw [h4.bh.cell 7 (by rw [h8]; simp)]; simp [h8]
      have H8 := Lib.hid h8
      have HF := Lib.hid h4
      have hsz := h4.sz
      clear h8 h4
      go_wp2
      have hF5 : Five w h k (wS m 64) h (wr.alloc (.cells (cn .u32 [z0, z1, z2, z3, z4, z5, z6, z7]).toArray 31)) := by
        have f := HF.out
        have hb := Bk.new wr 31 [z0, z1, z2, z3, z4, z5, z6, z7]
        rw [f.sz, ← H8.out] at hb
        rw [← H8.out]
        exact ⟨f.bh.alloc _ (by have := f.sz; omega), f.bk.alloc _ (by have := f.sz; omega), f.br.alloc _ (by have := f.sz; omega), f.bw.alloc _ (by have := f.sz; omega), hb, f.bl.alloc f.bl.size _⟩
      change Code.wp _ _ _ _ (wr.alloc (.cells (cn .u32 [z0, z1, z2, z3, z4, z5, z6, z7]).toArray 31))
      generalize wr.alloc (.cells (cn .u32 [z0, z1, z2, z3, z4, z5, z6, z7]).toArray 31) = w6 at hF5 ⊢
      clear c0 c1 c2 c3 c4 c5 c6 c7 HF hsz
      generalize hWV : wS m 64 = W at *
      have HWV := Lib.hid hWV.symm
      clear hWV
      go_loopw [12] (fun i wr => RdR w h k W i wr) (fun i _ => 64 - (intOf i).toNat)
      case atStart => exact ⟨0, by omega, rfl, hF5⟩
      case round =>
        clear hF5
        obtain ⟨n, hn, rfl, h5⟩ := hrel
        obtain ⟨v0, v1, v2, v3, v4, v5, v6, v7, hv⟩ := list8 _ (vS_len k W h HH.out n)
        have hvw := vS_wd k W h wh n
        have c0 : wr.cell? ⟨w.heap.size + 1 + 1 + 1 + 1, 0, none⟩ = some (.int .u32 (v0 : Int)) := by rw [h5.bv.cell 0 (by rw [hv]; simp)]; simp [hv]
        have c1 : wr.cell? ⟨w.heap.size + 1 + 1 + 1 + 1, 1, none⟩ = some (.int .u32 (v1 : Int)) := by rw [h5.bv.cell 1 (by rw [hv]; simp)]; simp [hv]
        have c2 : wr.cell? ⟨w.heap.size + 1 + 1 + 1 + 1, 2, none⟩ = some (.int .u32 (v2 : Int)) := by rw [h5.bv.cell 2 (by rw [hv]; simp)]; simp [hv]
        have c3 : wr.cell? ⟨w.heap.size + 1 + 1 + 1 + 1, 3, none⟩ = some (.int .u32 (v3 : Int)) := by rw [h5.bv.cell 3 (by rw [hv]; simp)]; simp [hv]
        have c4 : wr.cell? ⟨w.heap.size + 1 + 1 + 1 + 1, 4, none⟩ = some (.int .u32 (v4 : Int)) := by rw [h5.bv.cell 4 (by rw [hv]; simp)]; simp [hv]
        have c5 : wr.cell? ⟨w.heap.size + 1 + 1 + 1 + 1, 5, none⟩ = some (.int .u32 (v5 : Int)) := by rw [h5.bv.cell 5 (by rw [hv]; simp)]; simp [hv]
        have c6 : wr.cell? ⟨w.heap.size + 1 + 1 + 1 + 1, 6, none⟩ = some (.int .u32 (v6 : Int)) := by rw [h5.bv.cell 6 (by rw [hv]; simp)]; simp [hv]
        have c7 : wr.cell? ⟨w.heap.size + 1 + 1 + 1 + 1, 7, none⟩ = some (.int .u32 (v7 : Int)) := by rw [h5.bv.cell 7 (by rw [hv]; simp)]; simp [hv]
        have b0 : v0 < 4294967296 := hvw v0 (by rw [hv]; simp)
        have b1 : v1 < 4294967296 := hvw v1 (by rw [hv]; simp)
        have b2 : v2 < 4294967296 := hvw v2 (by rw [hv]; simp)
        have b3 : v3 < 4294967296 := hvw v3 (by rw [hv]; simp)
        have b4 : v4 < 4294967296 := hvw v4 (by rw [hv]; simp)
        have b5 : v5 < 4294967296 := hvw v5 (by rw [hv]; simp)
        have b6 : v6 < 4294967296 := hvw v6 (by rw [hv]; simp)
        have b7 : v7 < 4294967296 := hvw v7 (by rw [hv]; simp)
        have HV := Lib.hid hv
        have HVW := Lib.hid hvw
        clear hv hvw
        by_cases hlt : n < 64
        · obtain ⟨ki, hki⟩ : ∃ x, x = k.getD n 0 := ⟨_, rfl⟩
          obtain ⟨wi, hwi⟩ : ∃ x, x = W.getD n 0 := ⟨_, rfl⟩
          have hkl : n < k.length := by have := HK.out; omega
          have hwl : n < W.length := by have := HWL.out; omega
          have ck : wr.cell? ⟨w.heap.size + 1, n, none⟩ = some (.int .u32 (ki : Int)) := by rw [h5.bk.cell n hkl, hki]; simp [List.getD, hkl]
          have cw : wr.cell? ⟨w.heap.size + 1 + 1 + 1, n, none⟩ = some (.int .u32 (wi : Int)) := by rw [h5.bw.cell n hwl, hwi]; simp [List.getD, hwl]
          have bk : ki < 4294967296 := by rw [hki]; exact getD_lt wk n
          have bw : wi < 4294967296 := by rw [hwi]; exact getD_lt HWW.out n
          have HKI := Lib.hid hki
          have HWI := Lib.hid hwi
          have HF := Lib.hid h5
          clear hki hwi h5 hkl hwl
          obtain ⟨R6, hR6⟩ : ∃ R, R = rot v4 6 := ⟨_, rfl⟩
          have T6 := Lib.hid fun w => turn_at v4 6 6 R6 w rfl b4 (by omega) hR6
          have lR6 : R6 < 4294967296 := by rw [hR6]; exact rot_lt _ _ b4
          obtain ⟨R11, hR11⟩ : ∃ R, R = rot v4 11 := ⟨_, rfl⟩
          have T11 := Lib.hid fun w => turn_at v4 11 11 R11 w rfl b4 (by omega) hR11
          have lR11 : R11 < 4294967296 := by rw [hR11]; exact rot_lt _ _ b4
          obtain ⟨R25, hR25⟩ : ∃ R, R = rot v4 25 := ⟨_, rfl⟩
          have T25 := Lib.hid fun w => turn_at v4 25 25 R25 w rfl b4 (by omega) hR25
          have lR25 : R25 < 4294967296 := by rw [hR25]; exact rot_lt _ _ b4
          obtain ⟨R2, hR2⟩ : ∃ R, R = rot v0 2 := ⟨_, rfl⟩
          have T2 := Lib.hid fun w => turn_at v0 2 2 R2 w rfl b0 (by omega) hR2
          have lR2 : R2 < 4294967296 := by rw [hR2]; exact rot_lt _ _ b0
          obtain ⟨R13, hR13⟩ : ∃ R, R = rot v0 13 := ⟨_, rfl⟩
          have T13 := Lib.hid fun w => turn_at v0 13 13 R13 w rfl b0 (by omega) hR13
          have lR13 : R13 < 4294967296 := by rw [hR13]; exact rot_lt _ _ b0
          obtain ⟨R22, hR22⟩ : ∃ R, R = rot v0 22 := ⟨_, rfl⟩
          have T22 := Lib.hid fun w => turn_at v0 22 22 R22 w rfl b0 (by omega) hR22
          have lR22 : R22 < 4294967296 := by rw [hR22]; exact rot_lt _ _ b0
          obtain ⟨a1, ha1⟩ : ∃ a, a = R6 ^^^ R11 := ⟨_, rfl⟩
          obtain ⟨S, hS⟩ : ∃ a, a = a1 ^^^ R25 := ⟨_, rfl⟩
          obtain ⟨p1, hp1⟩ : ∃ a, a = (v7 + S) % 4294967296 := ⟨_, rfl⟩
          obtain ⟨c1n, hc1n⟩ : ∃ a, a = v4 &&& v5 := ⟨_, rfl⟩
          obtain ⟨ne, hne⟩ : ∃ a, a = 4294967295 - v4 := ⟨_, rfl⟩
          obtain ⟨c2n, hc2n⟩ : ∃ a, a = ne &&& v6 := ⟨_, rfl⟩
          obtain ⟨C, hC⟩ : ∃ a, a = c1n ^^^ c2n := ⟨_, rfl⟩
          obtain ⟨p2, hp2⟩ : ∃ a, a = (p1 + C) % 4294967296 := ⟨_, rfl⟩
          obtain ⟨p3, hp3⟩ : ∃ a, a = (p2 + ki) % 4294967296 := ⟨_, rfl⟩
          obtain ⟨p4, hp4⟩ : ∃ a, a = (p3 + wi) % 4294967296 := ⟨_, rfl⟩
          obtain ⟨a2, ha2⟩ : ∃ a, a = R2 ^^^ R13 := ⟨_, rfl⟩
          obtain ⟨Z, hZ⟩ : ∃ a, a = a2 ^^^ R22 := ⟨_, rfl⟩
          obtain ⟨m1, hm1⟩ : ∃ a, a = v0 &&& v1 := ⟨_, rfl⟩
          obtain ⟨m2, hm2⟩ : ∃ a, a = v0 &&& v2 := ⟨_, rfl⟩
          obtain ⟨m3, hm3⟩ : ∃ a, a = m1 ^^^ m2 := ⟨_, rfl⟩
          obtain ⟨m4, hm4⟩ : ∃ a, a = v1 &&& v2 := ⟨_, rfl⟩
          obtain ⟨MJ, hMJ⟩ : ∃ a, a = m3 ^^^ m4 := ⟨_, rfl⟩
          obtain ⟨y, hy⟩ : ∃ a, a = (Z + MJ) % 4294967296 := ⟨_, rfl⟩
          obtain ⟨n0, hn0⟩ : ∃ a, a = (p4 + y) % 4294967296 := ⟨_, rfl⟩
          obtain ⟨n4, hn4⟩ : ∃ a, a = (v3 + p4) % 4294967296 := ⟨_, rfl⟩
          have la1 : a1 < 4294967296 := by rw [ha1]; exact xor_lt lR6 lR11
          have lS : S < 4294967296 := by rw [hS]; exact xor_lt la1 lR25
          have lc1n : c1n < 4294967296 := by rw [hc1n]; exact and_lt b5
          have lc2n : c2n < 4294967296 := by rw [hc2n]; exact and_lt b6
          have lC : C < 4294967296 := by rw [hC]; exact xor_lt lc1n lc2n
          have la2 : a2 < 4294967296 := by rw [ha2]; exact xor_lt lR2 lR13
          have lZ : Z < 4294967296 := by rw [hZ]; exact xor_lt la2 lR22
          have lm1 : m1 < 4294967296 := by rw [hm1]; exact and_lt b1
          have lm2 : m2 < 4294967296 := by rw [hm2]; exact and_lt b2
          have lm3 : m3 < 4294967296 := by rw [hm3]; exact xor_lt lm1 lm2
          have lm4 : m4 < 4294967296 := by rw [hm4]; exact and_lt b2
          have lMJ : MJ < 4294967296 := by rw [hMJ]; exact xor_lt lm3 lm4
          have lne : ne < 4294967296 := by omega
          have xa1 := xor_rule lR6 lR11 ha1
          have xS := xor_rule la1 lR25 hS
          have xC := xor_rule lc1n lc2n hC
          have xa2 := xor_rule lR2 lR13 ha2
          have xZ := xor_rule la2 lR22 hZ
          have xm3 := xor_rule lm1 lm2 hm3
          have xMJ := xor_rule lm3 lm4 hMJ
          have yc1n := and_rule b4 b5 hc1n
          have yc2n := and_rule lne b6 hc2n
          have ym1 := and_rule b0 b1 hm1
          have ym2 := and_rule b0 b2 hm2
          have ym4 := and_rule b1 b2 hm4
          have up1 := add_rule hp1
          have up1' := add_rule' hp1
          have up2 := add_rule hp2
          have up2' := add_rule' hp2
          have up3 := add_rule hp3
          have up3' := add_rule' hp3
          have up4 := add_rule hp4
          have up4' := add_rule' hp4
          have uy := add_rule hy
          have uy' := add_rule' hy
          have un0 := add_rule hn0
          have un0' := add_rule' hn0
          have un4 := add_rule hn4
          have un4' := add_rule' hn4
          have HX : Hid (rd ki wi [v0, v1, v2, v3, v4, v5, v6, v7] = [n0, v0, v1, v2, n4, v4, v5, v6]) := by
            apply Lib.hid
            simp only [rd, List.getD_cons_zero, List.getD_cons_succ]
            rw [t1, t0, ch, mj, ← hR6, ← hR11, ← hR25, ← ha1, ← hS, ← hne, ← hc1n, ← hc2n, ← hC, ← hR2, ← hR13, ← hR22, ← ha2, ← hZ, ← hm1, ← hm2, ← hm3, ← hm4, ← hMJ]
            congr 1
            · omega
            · congr 4
              omega
          have xne := not_rule b4 hne
          clear hR6 hR11 hR25 hR2 hR13 hR22 ha1 hS hp1 hc1n hc2n hC hp2 hp3 hp4 ha2 hZ hm1 hm2 hm3 hm4 hMJ hy hn0 hn4 hne
          have i4 : (n : Int) < 64 := by omega
          go_wp2
          go_quiet (fail)
          go_wp2
          have c0' : (wr.drewN nq).cell? ⟨w.heap.size + 1 + 1 + 1 + 1, 0, none⟩ = some (.int .u32 (v0 : Int)) := c0
          have c1' : (wr.drewN nq).cell? ⟨w.heap.size + 1 + 1 + 1 + 1, 1, none⟩ = some (.int .u32 (v1 : Int)) := c1
          have c2' : (wr.drewN nq).cell? ⟨w.heap.size + 1 + 1 + 1 + 1, 2, none⟩ = some (.int .u32 (v2 : Int)) := c2
          have c3' : (wr.drewN nq).cell? ⟨w.heap.size + 1 + 1 + 1 + 1, 3, none⟩ = some (.int .u32 (v3 : Int)) := c3
          have c4' : (wr.drewN nq).cell? ⟨w.heap.size + 1 + 1 + 1 + 1, 4, none⟩ = some (.int .u32 (v4 : Int)) := c4
          have c5' : (wr.drewN nq).cell? ⟨w.heap.size + 1 + 1 + 1 + 1, 5, none⟩ = some (.int .u32 (v5 : Int)) := c5
          have c6' : (wr.drewN nq).cell? ⟨w.heap.size + 1 + 1 + 1 + 1, 6, none⟩ = some (.int .u32 (v6 : Int)) := c6
          have c7' : (wr.drewN nq).cell? ⟨w.heap.size + 1 + 1 + 1 + 1, 7, none⟩ = some (.int .u32 (v7 : Int)) := c7
          have ck' : (wr.drewN nq).cell? ⟨w.heap.size + 1, n, none⟩ = some (.int .u32 (ki : Int)) := ck
          have cw' : (wr.drewN nq).cell? ⟨w.heap.size + 1 + 1 + 1, n, none⟩ = some (.int .u32 (wi : Int)) := cw
          have HF' : Hid (Five w h k W (vS k W h n) (wr.drewN nq)) := Lib.hid (HF.out.drewN nq)
          clear c0 c1 c2 c3 c4 c5 c6 c7 ck cw HF
          generalize wr.drewN nq = w7 at c0' c1' c2' c3' c4' c5' c6' c7' ck' cw' HF' ⊢
          refine wp_region_still_lit (by kernel_rfl) (by kernel_rfl) ?_
          repeat still_step
          still_call (T6.out _)
          repeat still_step
          still_call (T11.out _)
          repeat still_step
          still_call (T25.out _)
          repeat still_step
          refine wpStill_nil ?_
          have c0'' : (w7.drew).cell? ⟨w.heap.size + 1 + 1 + 1 + 1, 0, none⟩ = some (.int .u32 (v0 : Int)) := c0'
          have c1'' : (w7.drew).cell? ⟨w.heap.size + 1 + 1 + 1 + 1, 1, none⟩ = some (.int .u32 (v1 : Int)) := c1'
          have c2'' : (w7.drew).cell? ⟨w.heap.size + 1 + 1 + 1 + 1, 2, none⟩ = some (.int .u32 (v2 : Int)) := c2'
          have c3'' : (w7.drew).cell? ⟨w.heap.size + 1 + 1 + 1 + 1, 3, none⟩ = some (.int .u32 (v3 : Int)) := c3'
          have c4'' : (w7.drew).cell? ⟨w.heap.size + 1 + 1 + 1 + 1, 4, none⟩ = some (.int .u32 (v4 : Int)) := c4'
          have c5'' : (w7.drew).cell? ⟨w.heap.size + 1 + 1 + 1 + 1, 5, none⟩ = some (.int .u32 (v5 : Int)) := c5'
          have c6'' : (w7.drew).cell? ⟨w.heap.size + 1 + 1 + 1 + 1, 6, none⟩ = some (.int .u32 (v6 : Int)) := c6'
          have c7'' : (w7.drew).cell? ⟨w.heap.size + 1 + 1 + 1 + 1, 7, none⟩ = some (.int .u32 (v7 : Int)) := c7'
          have ck'' : (w7.drew).cell? ⟨w.heap.size + 1, n, none⟩ = some (.int .u32 (ki : Int)) := ck'
          have cw'' : (w7.drew).cell? ⟨w.heap.size + 1 + 1 + 1, n, none⟩ = some (.int .u32 (wi : Int)) := cw'
          have HF'' : Hid (Five w h k W (vS k W h n) (w7.drew)) := Lib.hid (HF'.out.drew)
          clear c0' c1' c2' c3' c4' c5' c6' c7' ck' cw' HF'
          change Exit.then _ _ _ _ w7.drew
          generalize w7.drew = w8 at c0'' c1'' c2'' c3'' c4'' c5'' c6'' c7'' ck'' cw'' HF'' ⊢
          go_wp2
          refine wp_region_still_lit (by kernel_rfl) (by kernel_rfl) ?_
          repeat still_step
          still_call (T2.out _)
          repeat still_step
          still_call (T13.out _)
          repeat still_step
          still_call (T22.out _)
          repeat still_step
          refine wpStill_nil ?_
          have c0''' : (w8.drew).cell? ⟨w.heap.size + 1 + 1 + 1 + 1, 0, none⟩ = some (.int .u32 (v0 : Int)) := c0''
          have c1''' : (w8.drew).cell? ⟨w.heap.size + 1 + 1 + 1 + 1, 1, none⟩ = some (.int .u32 (v1 : Int)) := c1''
          have c2''' : (w8.drew).cell? ⟨w.heap.size + 1 + 1 + 1 + 1, 2, none⟩ = some (.int .u32 (v2 : Int)) := c2''
          have c3''' : (w8.drew).cell? ⟨w.heap.size + 1 + 1 + 1 + 1, 3, none⟩ = some (.int .u32 (v3 : Int)) := c3''
          have c4''' : (w8.drew).cell? ⟨w.heap.size + 1 + 1 + 1 + 1, 4, none⟩ = some (.int .u32 (v4 : Int)) := c4''
          have c5''' : (w8.drew).cell? ⟨w.heap.size + 1 + 1 + 1 + 1, 5, none⟩ = some (.int .u32 (v5 : Int)) := c5''
          have c6''' : (w8.drew).cell? ⟨w.heap.size + 1 + 1 + 1 + 1, 6, none⟩ = some (.int .u32 (v6 : Int)) := c6''
          have c7''' : (w8.drew).cell? ⟨w.heap.size + 1 + 1 + 1 + 1, 7, none⟩ = some (.int .u32 (v7 : Int)) := c7''
          have ck''' : (w8.drew).cell? ⟨w.heap.size + 1, n, none⟩ = some (.int .u32 (ki : Int)) := ck''
          have cw''' : (w8.drew).cell? ⟨w.heap.size + 1 + 1 + 1, n, none⟩ = some (.int .u32 (wi : Int)) := cw''
          have HF''' : Hid (Five w h k W (vS k W h n) (w8.drew)) := Lib.hid (HF''.out.drew)
          clear c0'' c1'' c2'' c3'' c4'' c5'' c6'' c7'' ck'' cw'' HF''
          change Exit.then _ _ _ _ w8.drew
          generalize w8.drew = w9 at c0''' c1''' c2''' c3''' c4''' c5''' c6''' c7''' ck''' cw''' HF''' ⊢
          have f0 := HF'''.out.bv.free 0
          have f1 := HF'''.out.bv.free 1
          have f2 := HF'''.out.bv.free 2
          have f3 := HF'''.out.bv.free 3
          have f4 := HF'''.out.bv.free 4
          have f5 := HF'''.out.bv.free 5
          have f6 := HF'''.out.bv.free 6
          have f7 := HF'''.out.bv.free 7
          go_wp2
          go_roundw
          case rel =>
            refine ⟨n + 1, by omega, by go_num, ?_⟩
            have hp := ((((((((HF'''.out.put 0 n0).put 1 v0).put 2 v1).put 3 v2).put 4 n4).put 5 v4).put 6 v5).put 7 v6)
            rw [HV.out] at hp
            rw [vS_succ, ← HKI.out, ← HWI.out, HV.out, HX.out]
            exact hp
          case measure => simp [intOf]; omega
        · have hn64 : n = 64 := by omega
          rw [show ((n : Nat) : Int) = 64 by omega]
          subst hn64
          clear c0 c1 c2 c3 c4 c5 c6 c7 b0 b1 b2 b3 b4 b5 b6 b7 HV
          have HVL := Lib.hid (vS_len k W h HH.out 64)
          have HB : Hid (hS h (vS k W h 64) 8 = List.zipWith (fun a b => (a + b) % 4294967296) h (vS k W h 64)) := Lib.hid (hS_eight _ _ HH.out HVL.out)
          generalize hVV : vS k W h 64 = V at *
          have HVV := Lib.hid hVV.symm
          clear hVV
          go_wp2
          go_loopw [17] (fun i wr => AddR w h k W V i wr) (fun i _ => 8 - (intOf i).toNat)
          case atStart => exact ⟨0, by omega, rfl, h5⟩
          case round =>
            clear h5
            obtain ⟨n, hn, rfl, h5⟩ := hrel
            have hSL := hS_len h V n
            by_cases hlt8 : n < 8
            · obtain ⟨x, hx⟩ : ∃ x, x = (hS h V n).getD n 0 := ⟨_, rfl⟩
              obtain ⟨y, hy⟩ : ∃ y, y = V.getD n 0 := ⟨_, rfl⟩
              have hl1 : n < (hS h V n).length := by rw [hSL, HH.out]; omega
              have hl2 : n < V.length := by rw [HVL.out]; omega
              have cx : wr.cell? ⟨w.heap.size, n, none⟩ = some (.int .u32 (x : Int)) := by rw [h5.bh.cell n hl1, hx]; simp [List.getD, hl1]
              have cy : wr.cell? ⟨w.heap.size + 1 + 1 + 1 + 1, n, none⟩ = some (.int .u32 (y : Int)) := by rw [h5.bv.cell n hl2, hy]; simp [List.getD, hl2]
              have fx := h5.bh.free n
              obtain ⟨s, hs⟩ : ∃ s, s = (x + y) % 4294967296 := ⟨_, rfl⟩
              have us := add_rule hs
              have us' := add_rule' hs
              have HX : Hid (hS h V (n + 1) = (hS h V n).set n s) := by apply Lib.hid; rw [hS_succ, ← hx, ← hy, ← hs]
              have HF := Lib.hid h5
              have i8 : (n : Int) < 8 := by omega
              clear hx hy hs hl1 hl2 h5 hSL
              go_wp2
              go_region
              go_wp2
              go_roundw
              case rel =>
                refine ⟨n + 1, by omega, by go_num, ?_⟩
                rw [HX.out]
                exact (HF.out.puth n s).drew
              case measure => simp [intOf]; omega
            · have hn8 : n = 8 := by omega
              rw [show ((n : Nat) : Int) = 8 by omega]
              subst hn8
              obtain ⟨s0, s1, s2, s3, s4, s5, s6, s7, hs⟩ := list8 _ (hSL.trans HH.out)
              have c0 : wr.cell? ⟨w.heap.size, 0, none⟩ = some (.int .u32 (s0 : Int)) := by rw [h5.bh.cell 0 (by rw [hs]; simp)]; simp [hs]
              have c1 : wr.cell? ⟨w.heap.size, 1, none⟩ = some (.int .u32 (s1 : Int)) := by rw [h5.bh.cell 1 (by rw [hs]; simp)]; simp [hs]
              have c2 : wr.cell? ⟨w.heap.size, 2, none⟩ = some (.int .u32 (s2 : Int)) := by rw [h5.bh.cell 2 (by rw [hs]; simp)]; simp [hs]
              have c3 : wr.cell? ⟨w.heap.size, 3, none⟩ = some (.int .u32 (s3 : Int)) := by rw [h5.bh.cell 3 (by rw [hs]; simp)]; simp [hs]
              have c4 : wr.cell? ⟨w.heap.size, 4, none⟩ = some (.int .u32 (s4 : Int)) := by rw [h5.bh.cell 4 (by rw [hs]; simp)]; simp [hs]
              have c5 : wr.cell? ⟨w.heap.size, 5, none⟩ = some (.int .u32 (s5 : Int)) := by rw [h5.bh.cell 5 (by rw [hs]; simp)]; simp [hs]
              have c6 : wr.cell? ⟨w.heap.size, 6, none⟩ = some (.int .u32 (s6 : Int)) := by rw [h5.bh.cell 6 (by rw [hs]; simp)]; simp [hs]
              have c7 : wr.cell? ⟨w.heap.size, 7, none⟩ = some (.int .u32 (s7 : Int)) := by rw [h5.bh.cell 7 (by rw [hs]; simp)]; simp [hs]
              have f0 := h5.br.free 0
              have r0 : wr.cell? ⟨w.heap.size + 1 + 1, 0, none⟩ = some (.int .u32 0) := by rw [h5.br.cell 0 (by simp)]; simp
              have f1 := h5.br.free 1
              have r1 : wr.cell? ⟨w.heap.size + 1 + 1, 1, none⟩ = some (.int .u32 0) := by rw [h5.br.cell 1 (by simp)]; simp
              have f2 := h5.br.free 2
              have r2 : wr.cell? ⟨w.heap.size + 1 + 1, 2, none⟩ = some (.int .u32 0) := by rw [h5.br.cell 2 (by simp)]; simp
              have f3 := h5.br.free 3
              have r3 : wr.cell? ⟨w.heap.size + 1 + 1, 3, none⟩ = some (.int .u32 0) := by rw [h5.br.cell 3 (by simp)]; simp
              have f4 := h5.br.free 4
              have r4 : wr.cell? ⟨w.heap.size + 1 + 1, 4, none⟩ = some (.int .u32 0) := by rw [h5.br.cell 4 (by simp)]; simp
              have f5 := h5.br.free 5
              have r5 : wr.cell? ⟨w.heap.size + 1 + 1, 5, none⟩ = some (.int .u32 0) := by rw [h5.br.cell 5 (by simp)]; simp
              have f6 := h5.br.free 6
              have r6 : wr.cell? ⟨w.heap.size + 1 + 1, 6, none⟩ = some (.int .u32 0) := by rw [h5.br.cell 6 (by simp)]; simp
              have f7 := h5.br.free 7
              have r7 : wr.cell? ⟨w.heap.size + 1 + 1, 7, none⟩ = some (.int .u32 0) := by rw [h5.br.cell 7 (by simp)]; simp
              have HS := Lib.hid hs
              have HBL := Lib.hid h5.bl
              have HBR := Lib.hid h5.br
              clear hs h5 hSL
              go_wp2
              have hB9 : Bk ((((((((wr.setCell ⟨w.heap.size + 1 + 1, 0, none⟩ (.int .u32 (s0 : Int))).setCell ⟨w.heap.size + 1 + 1, 1, none⟩ (.int .u32 (s1 : Int))).setCell ⟨w.heap.size + 1 + 1, 2, none⟩ (.int .u32 (s2 : Int))).setCell ⟨w.heap.size + 1 + 1, 3, none⟩ (.int .u32 (s3 : Int))).setCell ⟨w.heap.size + 1 + 1, 4, none⟩ (.int .u32 (s4 : Int))).setCell ⟨w.heap.size + 1 + 1, 5, none⟩ (.int .u32 (s5 : Int))).setCell ⟨w.heap.size + 1 + 1, 6, none⟩ (.int .u32 (s6 : Int))).setCell ⟨w.heap.size + 1 + 1, 7, none⟩ (.int .u32 (s7 : Int))) (w.heap.size + 1 + 1) 31 [s0, s1, s2, s3, s4, s5, s6, s7] := ((((((((HBR.out.set 0 s0).set 1 s1).set 2 s2).set 3 s3).set 4 s4).set 5 s5).set 6 s6).set 7 s7)
              have hL9 : Below w.heap.size w ((((((((wr.setCell ⟨w.heap.size + 1 + 1, 0, none⟩ (.int .u32 (s0 : Int))).setCell ⟨w.heap.size + 1 + 1, 1, none⟩ (.int .u32 (s1 : Int))).setCell ⟨w.heap.size + 1 + 1, 2, none⟩ (.int .u32 (s2 : Int))).setCell ⟨w.heap.size + 1 + 1, 3, none⟩ (.int .u32 (s3 : Int))).setCell ⟨w.heap.size + 1 + 1, 4, none⟩ (.int .u32 (s4 : Int))).setCell ⟨w.heap.size + 1 + 1, 5, none⟩ (.int .u32 (s5 : Int))).setCell ⟨w.heap.size + 1 + 1, 6, none⟩ (.int .u32 (s6 : Int))).setCell ⟨w.heap.size + 1 + 1, 7, none⟩ (.int .u32 (s7 : Int))) := ((((((((HBL.out.setCell (show w.heap.size ≤ w.heap.size + 1 + 1 by omega) _).setCell (show w.heap.size ≤ w.heap.size + 1 + 1 by omega) _).setCell (show w.heap.size ≤ w.heap.size + 1 + 1 by omega) _).setCell (show w.heap.size ≤ w.heap.size + 1 + 1 by omega) _).setCell (show w.heap.size ≤ w.heap.size + 1 + 1 by omega) _).setCell (show w.heap.size ≤ w.heap.size + 1 + 1 by omega) _).setCell (show w.heap.size ≤ w.heap.size + 1 + 1 by omega) _).setCell (show w.heap.size ≤ w.heap.size + 1 + 1 by omega) _)
              generalize ((((((((wr.setCell ⟨w.heap.size + 1 + 1, 0, none⟩ (.int .u32 (s0 : Int))).setCell ⟨w.heap.size + 1 + 1, 1, none⟩ (.int .u32 (s1 : Int))).setCell ⟨w.heap.size + 1 + 1, 2, none⟩ (.int .u32 (s2 : Int))).setCell ⟨w.heap.size + 1 + 1, 3, none⟩ (.int .u32 (s3 : Int))).setCell ⟨w.heap.size + 1 + 1, 4, none⟩ (.int .u32 (s4 : Int))).setCell ⟨w.heap.size + 1 + 1, 5, none⟩ (.int .u32 (s5 : Int))).setCell ⟨w.heap.size + 1 + 1, 6, none⟩ (.int .u32 (s6 : Int))).setCell ⟨w.heap.size + 1 + 1, 7, none⟩ (.int .u32 (s7 : Int))) = w9 at hB9 hL9 ⊢
              have d0 : w9.cell? ⟨w.heap.size + 1 + 1, 0, none⟩ = some (.int .u32 (s0 : Int)) := hB9.cell 0 (by simp)
              have d1 : w9.cell? ⟨w.heap.size + 1 + 1, 1, none⟩ = some (.int .u32 (s1 : Int)) := hB9.cell 1 (by simp)
              have d2 : w9.cell? ⟨w.heap.size + 1 + 1, 2, none⟩ = some (.int .u32 (s2 : Int)) := hB9.cell 2 (by simp)
              have d3 : w9.cell? ⟨w.heap.size + 1 + 1, 3, none⟩ = some (.int .u32 (s3 : Int)) := hB9.cell 3 (by simp)
              have d4 : w9.cell? ⟨w.heap.size + 1 + 1, 4, none⟩ = some (.int .u32 (s4 : Int)) := hB9.cell 4 (by simp)
              have d5 : w9.cell? ⟨w.heap.size + 1 + 1, 5, none⟩ = some (.int .u32 (s5 : Int)) := hB9.cell 5 (by simp)
              have d6 : w9.cell? ⟨w.heap.size + 1 + 1, 6, none⟩ = some (.int .u32 (s6 : Int)) := hB9.cell 6 (by simp)
              have d7 : w9.cell? ⟨w.heap.size + 1 + 1, 7, none⟩ = some (.int .u32 (s7 : Int)) := hB9.cell 7 (by simp)
              clear c0 c1 c2 c3 c4 c5 c6 c7 f0 f1 f2 f3 f4 f5 f6 f7 r0 r1 r2 r3 r4 r5 r6 r7
              refine bodyPost_ret (v := .agg #[.int .u32 (s0 : Int), .int .u32 (s1 : Int), .int .u32 (s2 : Int), .int .u32 (s3 : Int), .int .u32 (s4 : Int), .int .u32 (s5 : Int), .int .u32 (s6 : Int), .int .u32 (s7 : Int)]) (by simp [results, Tryd.results20, go_sem, d0, d1, d2, d3, d4, d5, d6, d7]) rfl ⟨?_, hL9⟩
              have e : blk k h m = [s0, s1, s2, s3, s4, s5, s6, s7] := by rw [blk, ← HWV.out, ← HVV.out, ← HB.out, HS.out]
              rw [e]
              rfl
end Go.Proofs.YthaecckneblecaaDoor
