/- What huff's table wants of the world (in the place of LRdy, where the code reaches huff). -/
import Derived.Test.YtiandidencnlcaaDoorHLand
import Derived.Test.YtiandidencnlcaaDoorLMem
import Derived.Below
import Derived.Test.YtiandidencnlcaaDoorRows
import Derived.ProofKit
import Derived.OpenShut
import Derived.ShutString
import Derived.ChangeOld
import Derived.LaidMore
import Derived.Stop.Joined
import Derived.Lib.LaidTab
import Derived.Laws.Bits128
namespace Go.Proofs.YtiandidencnlcaaDoor
open Go.RowKit Hf

/-- The table of counts lies in block 0. -/
def Rdy (w : World) : Prop := ∀ i (h : i < cnt.length), w.cell? ⟨0, i, none⟩ = some (.int .i64 (cnt[i] : Int))
theorem Rdy.pos {w : World} (h : Rdy w) : 0 < w.heap.size := World.block_lt_of_cell? w ⟨0, 0, none⟩ (h 0 (by rw [cnt_len]; omega))
theorem Rdy.below {w w' : World} (h : Rdy w) (hb : Below w.heap.size w w') : Rdy w' := fun i hi => (hb.cell (p := ⟨0, i, none⟩) h.pos).trans (h i hi)
theorem Rdy.low {w w' : World} {B : Nat} (h : Rdy w) (hb : Below B w w') (hB : 0 < B) : Rdy w' := fun i hi => (hb.cell (p := ⟨0, i, none⟩) hB).trans (h i hi)
theorem Rdy.ct {w : World} (h : Rdy w) (i : Nat) (hi : i < 31) : w.cell? ⟨0, i, none⟩ = some (.int .i64 ((Hf.ct i : Nat) : Int)) := by
  have hl : i < cnt.length := by rw [cnt_len]; exact hi
  rw [h i hl, Hf.ct, List.getD, List.getElem?_eq_getElem hl]
  rfl
abbrev byB : ByteArray := ⟨#[48, 49, 50, 97, 99, 101, 105, 111, 115, 116, 32, 37, 45, 46, 47, 51, 52, 53, 54, 55, 56, 57, 61, 65, 95, 98, 100, 102, 103, 104, 108, 109, 110, 112, 114, 117, 58, 66, 67, 68, 69, 70, 71, 72, 73, 74, 75, 76, 77, 78, 79, 80, 81, 82, 83, 84, 85, 86, 87, 89, 106, 107, 113, 118, 119, 120, 121, 122, 38, 42, 44, 59, 88, 90, 33, 34, 40, 41, 63, 39, 43, 124, 35, 62, 0, 36, 64, 91, 93, 126, 94, 125, 60, 96, 123, 92, 195, 208, 128, 130, 131, 162, 184, 194, 224, 226, 153, 161, 167, 172, 176, 177, 179, 209, 216, 217, 227, 229, 230, 129, 132, 133, 134, 136, 146, 154, 156, 160, 163, 164, 169, 170, 173, 178, 181, 185, 186, 187, 189, 190, 196, 198, 228, 232, 233, 1, 135, 137, 138, 139, 140, 141, 143, 147, 149, 150, 151, 152, 155, 157, 158, 165, 166, 168, 174, 175, 180, 182, 183, 188, 191, 197, 231, 239, 9, 142, 144, 145, 148, 159, 171, 206, 215, 225, 236, 237, 199, 207, 234, 235, 192, 193, 200, 201, 202, 205, 210, 213, 218, 219, 238, 240, 242, 243, 255, 203, 204, 211, 212, 214, 221, 222, 223, 241, 244, 245, 246, 247, 248, 250, 251, 252, 253, 254, 2, 3, 4, 5, 6, 7, 8, 11, 12, 14, 15, 16, 17, 18, 19, 20, 21, 23, 24, 25, 26, 27, 28, 29, 30, 31, 127, 220, 249, 10, 13, 22]⟩
/-- An int. -/
def Rng (b : Int) : Prop := -9223372036854775808 ≤ b ∧ b ≤ 9223372036854775807
end Go.Proofs.YtiandidencnlcaaDoor
/- What the step from a walk to a row asks of the program, of every stage. -/
namespace Go.Proofs.YtiandidencnlcaaDoor
open Go.ChangeShapes Go.WideShapes Go.ChangeAt Go.RowKit

theorem own : ownKnob Tryd.prog.godebug = none := by kernel_rfl
theorem laidOut : laidOutB Tryd.prog = true := by kernel_rfl
end Go.Proofs.YtiandidencnlcaaDoor
/- From what a card says of the listed variable to the words of the contracts. -/
namespace Go.Proofs.YtiandidencnlcaaDoor
open Go.ChangeShapes Go.WideShapes Go.ChangeAt Go.RowKit Hf

abbrev laid1 : List (String × DataW Unit) := Rows.packPlaysRow.laid
/-- The listed variable's name. -/
def cName : String := (laid1.map (·.1)).headD ""
theorem gCounts : Tryd.prog.globalNamed cName = some 0 := by kernel_rfl
theorem tCounts : (Tryd.prog.globals[0]?).map (·.type) = some 118 := by kernel_rfl
def cnts : List Int := cnt.map fun (x : Nat) => (x : Int)
theorem laid_is : (Rows.laid_wayleave_huff_counts : DataW Unit) = Lib.tabData .i64 cnts := by kernel_rfl
theorem cellsInt : Tryd.prog.cellsOf 3 = 1 := by kernel_rfl
theorem cellsArr : Tryd.prog.cellsOf 118 = 31 := by kernel_rfl
/-- What the condition on the listed variable gives the walks. -/
theorem tab_of_laid {W : World} (h : laidMetH Tryd.prog laid1 W) : Rdy W := by
  rw [MakeChecks.laidMetH_plain _ _ _ (by kernel_rfl)] at h
  have h' : laidMet Tryd.prog ((cName, Lib.tabData .i64 cnts) :: []) W := by
    rw [← laid_is]
    exact h
  have ht := Lib.tabIs_of_head gCounts tCounts Tryd.underlying118 Tryd.underlying3 cellsInt cellsArr h'
  intro i hi
  rw [ht.cell gCounts i (by simpa [cnts] using hi)]
  simp [cnts, List.getD, hi]
/-- The heap that the variables' own text leaves meets the condition. -/
theorem door_met (os : Os) (args : Array Value) : laidMetH Tryd.prog laid1 ((World.doorLaid Tryd.prog 14 os).forCall (fun _ _ => 0) ⟨#[], args, []⟩).memory :=
  laidMetH_of_parts3 (fuel := 8) (laidMet_of_run' 8 (by kernel_rfl) (by kernel_rfl)) (by kernel_rfl) (by kernel_rfl)
end Go.Proofs.YtiandidencnlcaaDoor
/- Plain mathematics of numbers with a prefix: what Put lays, what Get reads. -/
namespace Pn

/-- f bytes that go on, and a last one. -/
def digs : Nat → Nat → List Nat
  | 0, m => [m]
  | f + 1, m => (m % 128 + 128) :: digs f (m / 128)
/-- How many bytes go on. -/
def nd (m : Nat) : Nat := if h : m < 128 then 0 else nd (m / 128) + 1
termination_by m
decreasing_by omega
def grp (m : Nat) : List Nat := digs (nd m) m
theorem nd_low {m : Nat} (h : m < 128) : nd m = 0 := by rw [nd, dif_pos h]
theorem nd_high {m : Nat} (h : ¬ m < 128) : nd m = nd (m / 128) + 1 := by rw [nd, dif_neg h]
theorem grp_low {m : Nat} (h : m < 128) : grp m = [m] := by rw [grp, nd_low h, digs]
theorem grp_high {m : Nat} (h : ¬ m < 128) : grp m = (m % 128 + 128) :: grp (m / 128) := by rw [grp, nd_high h, digs, grp]
theorem digs_len : ∀ f m, (digs f m).length = f + 1
  | 0, _ => rfl
  | f + 1, m => by rw [digs, List.length_cons, digs_len f]
theorem grp_len (m : Nat) : (grp m).length = nd m + 1 := digs_len _ _
theorem nd_lt : ∀ (f m : Nat), m < 128 ^ (f + 1) → nd m ≤ f
  | 0, m, h => by rw [nd_low (by simpa using h)]; exact Nat.le_refl _
  | f + 1, m, h => by
    by_cases h1 : m < 128
    · rw [nd_low h1]; omega
    · rw [nd_high h1]
      have := nd_lt f (m / 128) (Nat.div_lt_of_lt_mul (by rw [Nat.pow_succ, Nat.mul_comm] at h; exact h))
      omega
theorem lt_nd (m : Nat) : m < 128 ^ (nd m + 1) := by
  induction m using Nat.strongRecOn with
  | _ m ih =>
    by_cases h : m < 128
    · rw [nd_low h]; simpa using h
    · have h2 := ih (m / 128) (by omega)
      rw [nd_high h, Nat.pow_succ]
      omega
theorem nd_mono : ∀ (m n : Nat), n ≤ m → nd n ≤ nd m := by
  intro m
  induction m using Nat.strongRecOn with
  | _ m ih =>
    intro n hn
    by_cases h : n < 128
    · rw [nd_low h]; exact Nat.zero_le _
    · rw [nd_high h, nd_high (show ¬ m < 128 by omega)]
      have := ih (m / 128) (by omega) (n / 128) (Nat.div_le_div_right hn)
      omega
theorem digs_byte : ∀ f m, m < 128 ^ (f + 1) → ∀ x ∈ digs f m, x < 256
  | 0, m, h => by intro x hx; simp [digs] at hx; simp at h; omega
  | f + 1, m, h => by
    intro x hx
    rw [digs, List.mem_cons] at hx
    rcases hx with rfl | hx
    · omega
    · exact digs_byte f (m / 128) (Nat.div_lt_of_lt_mul (by rw [Nat.pow_succ, Nat.mul_comm] at h; exact h)) x hx
/-- One more byte, a nought, behind: the last one goes on. -/
theorem digs_pad : ∀ f m, m < 128 ^ (f + 1) → ∃ y, y < 128 ∧ (digs f m)[f]? = some y ∧ (digs f m).set f (y + 128) ++ [0] = digs (f + 1) m
  | 0, m, h => by
    simp at h
    refine ⟨m, h, rfl, ?_⟩
    simp [digs]
    omega
  | f + 1, m, h => by
    obtain ⟨y, h1, h2, h3⟩ := digs_pad f (m / 128) (Nat.div_lt_of_lt_mul (by rw [Nat.pow_succ, Nat.mul_comm] at h; exact h))
    refine ⟨y, h1, by rw [digs]; simpa using h2, ?_⟩
    rw [digs, List.set_cons_succ, List.cons_append, h3]
    rfl
/-- The bytes read on: fuel, bytes, how many were read, the sum. -/
def rd : Nat → List Nat → Nat → Nat → Nat × Nat × Nat
  | 0, _, _, _ => (0, 0, 1)
  | _ + 1, [], _, _ => (0, 0, 4)
  | f + 1, x :: r, j, n => if 2147483647 < n + x % 128 * 2 ^ (7 * j) then (0, 0, 1) else if x < 128 then (n + x % 128 * 2 ^ (7 * j), j + 2, 0) else rd f r (j + 1) (n + x % 128 * 2 ^ (7 * j))
theorem pow_next (j : Nat) : 2 ^ (7 * (j + 1)) = 128 * 2 ^ (7 * j) := by rw [show 7 * (j + 1) = 7 * j + 7 by omega, Nat.pow_add, Nat.mul_comm]
theorem split_sum (m p : Nat) : m % 128 * p + m / 128 * (128 * p) = m * p := by
  conv => rhs; rw [← Nat.mod_add_div m 128, Nat.add_mul]
  congr 1
  rw [← Nat.mul_assoc, Nat.mul_comm (m / 128) 128]
theorem rd_digs : ∀ (g f m j n : Nat) (more : List Nat), g < f → m < 128 ^ (g + 1) → n + m * 2 ^ (7 * j) ≤ 2147483647 → rd f (digs g m ++ more) j n = (n + m * 2 ^ (7 * j), j + g + 2, 0)
  | 0, f + 1, m, j, n, more, _, hm, hn => by
    simp at hm
    rw [digs, List.cons_append, rd, Nat.mod_eq_of_lt hm, if_neg (by omega), if_pos hm]
  | g + 1, f + 1, m, j, n, more, hf, hm, hn => by
    have h1 := split_sum m (2 ^ (7 * j))
    rw [← pow_next] at h1
    rw [digs, List.cons_append, rd, show (m % 128 + 128) % 128 = m % 128 by omega, if_neg (by omega), if_neg (by omega), rd_digs g f (m / 128) (j + 1) _ more (by omega) (Nat.div_lt_of_lt_mul (by rw [Nat.pow_succ, Nat.mul_comm] at hm; exact hm)) (by omega)]
    rw [show n + m % 128 * 2 ^ (7 * j) + m / 128 * 2 ^ (7 * (j + 1)) = n + m * 2 ^ (7 * j) by omega, show j + 1 + g + 2 = j + (g + 1) + 2 by omega]
theorem rd_cut : ∀ (g f m j n c : Nat), g < f → c ≤ g → n + m * 2 ^ (7 * j) ≤ 2147483647 → rd f ((digs g m).take c) j n = (0, 0, 4)
  | _, f + 1, m, j, n, 0, _, _, _ => by rw [List.take_zero, rd]
  | g + 1, f + 1, m, j, n, c + 1, hf, hc, hn => by
    have h1 := split_sum m (2 ^ (7 * j))
    rw [← pow_next] at h1
    rw [digs, List.take_succ_cons, rd, show (m % 128 + 128) % 128 = m % 128 by omega, if_neg (by omega), if_neg (by omega), rd_cut g f (m / 128) (j + 1) _ c (by omega) (by omega) (by omega)]
theorem rd_over : ∀ (f m j n : Nat) (more : List Nat), rd f (digs f m ++ more) j n = (0, 0, 1)
  | 0, _, _, _, _ => by rw [rd]
  | f + 1, m, j, n, more => by
    rw [digs, List.cons_append, rd]
    split
    · rfl
    · rw [if_neg (by omega), rd_over f]
def full (b : Nat) : Nat := 2 ^ b - 1
def hd (h b : Nat) : Nat := h / 2 ^ b * 2 ^ b
def put (h b n : Nat) : List Nat := if n < full b then [hd h b + n] else (hd h b + full b) :: grp (n - full b)
def putI (h : Nat) (b n : Int) : List Nat × Nat := if b < 1 ∨ 8 < b ∨ n < 0 ∨ 2147483647 < n then ([], 1) else (put h b.toNat n.toNat, 0)
def getN (l : List Nat) (b : Nat) : Nat × Nat × Nat :=
  match l with
  | [] => (0, 0, 4)
  | x :: r => if x % 2 ^ b < full b then (x % 2 ^ b, 1, 0) else rd 5 r 0 (x % 2 ^ b)
def getI (l : List Nat) (b : Int) : Nat × Nat × Nat := if b < 1 ∨ 8 < b then (0, 0, 1) else getN l b.toNat
theorem two_pos (b : Nat) : 0 < 2 ^ b := Nat.two_pow_pos b
theorem hd_mod (h b r : Nat) (hr : r < 2 ^ b) : (hd h b + r) % 2 ^ b = r := by rw [hd, Nat.add_comm, Nat.add_mul_mod_self_right, Nat.mod_eq_of_lt hr]
theorem hd_div (h b r : Nat) (hr : r < 2 ^ b) : (hd h b + r) / 2 ^ b = h / 2 ^ b := by rw [hd, Nat.add_comm, Nat.add_mul_div_right _ _ (two_pos b), Nat.div_eq_of_lt hr, Nat.zero_add]
theorem full_lt (b : Nat) : full b < 2 ^ b := by have := two_pos b; unfold full; omega
theorem hd_byte (h b r : Nat) (hh : h < 256) (hb : b ≤ 8) (hr : r < 2 ^ b) : hd h b + r < 256 := by
  have e : 256 = 2 ^ (8 - b) * 2 ^ b := by rw [← Nat.pow_add, show 8 - b + b = 8 by omega]
  have h1 : h / 2 ^ b < 2 ^ (8 - b) := Nat.div_lt_of_lt_mul (by rw [Nat.mul_comm, ← e]; exact hh)
  have h2 : (h / 2 ^ b + 1) * 2 ^ b ≤ 2 ^ (8 - b) * 2 ^ b := Nat.mul_le_mul_right _ h1
  rw [← e, Nat.add_mul] at h2
  unfold hd
  omega
theorem grp_nd {m : Nat} (h : m ≤ 2147483647) : nd m ≤ 4 := nd_lt 4 m (by omega)
theorem get_put (h b n : Nat) (more : List Nat) (hn : n ≤ 2147483647) : getN (put h b n ++ more) b = (n, (put h b n).length, 0) := by
  have hf := full_lt b
  unfold put
  split
  · rename_i h1
    rw [List.singleton_append, getN, hd_mod _ _ _ (by omega), if_pos h1]
    rfl
  · rename_i h1
    rw [List.cons_append, getN, hd_mod _ _ _ hf, if_neg (by omega), grp, rd_digs _ 5 _ 0 _ more (by have := grp_nd (m := n - full b) (by omega); omega) (lt_nd _) (by simp; omega)]
    simp [digs_len]
    omega
theorem get_cut (h b n c : Nat) (hn : n ≤ 2147483647) (hc : c < (put h b n).length) : getN ((put h b n).take c) b = (0, 0, 4) := by
  have hf := full_lt b
  rcases c with _ | c
  · rw [List.take_zero, getN]
  unfold put at hc ⊢
  split at hc
  · simp at hc
  · rename_i h1
    rw [if_neg h1, List.take_succ_cons, getN, hd_mod _ _ _ hf, if_neg (by omega), grp]
    rw [List.length_cons, grp_len] at hc
    exact rd_cut _ 5 _ 0 _ c (by have := grp_nd (m := n - full b) (by omega); omega) (by omega) (by simp; omega)
theorem put_len (h b n : Nat) : (put h b n).length = if n < full b then 1 else nd (n - full b) + 2 := by
  unfold put
  split
  · rfl
  · rw [List.length_cons, grp_len]
theorem put_pos (h b n : Nat) : 1 ≤ (put h b n).length := by rw [put_len]; split <;> omega
theorem put_six (h b n : Nat) (hn : n ≤ 2147483647) : (put h b n).length ≤ 6 := by
  rw [put_len]
  split
  · omega
  · have := grp_nd (m := n - full b) (by omega); omega
theorem put_mono (h h' b n m : Nat) (hnm : n ≤ m) : (put h b n).length ≤ (put h' b m).length := by
  rw [put_len, put_len]
  split
  · split <;> omega
  · rw [if_neg (by omega)]
    have := nd_mono (m - full b) (n - full b) (by omega)
    omega
theorem put_inj (h b n m : Nat) (hn : n ≤ 2147483647) (hm : m ≤ 2147483647) (e : put h b n = put h b m) : n = m := by
  have h1 := get_put h b n [] hn
  have h2 := get_put h b m [] hm
  rw [e, h2] at h1
  injection h1 with h1
  exact h1.symm
theorem put_byte (h b n : Nat) (hh : h < 256) (hb : b ≤ 8) : ∀ x ∈ put h b n, x < 256 := by
  have hf := full_lt b
  intro x hx
  unfold put at hx
  split at hx
  · rw [List.mem_singleton] at hx
    rw [hx]
    exact hd_byte h b n hh hb (by omega)
  · rw [List.mem_cons] at hx
    rcases hx with rfl | hx
    · exact hd_byte h b _ hh hb hf
    · exact digs_byte _ _ (lt_nd _) x hx
theorem putI_in {h : Nat} {b n : Int} (hb : 1 ≤ b ∧ b ≤ 8) (hn : 0 ≤ n ∧ n ≤ 2147483647) : putI h b n = (put h b.toNat n.toNat, 0) := by rw [putI, if_neg (by omega)]
theorem putI_out {h : Nat} {b n : Int} (hb : ¬ (1 ≤ b ∧ b ≤ 8 ∧ 0 ≤ n ∧ n ≤ 2147483647)) : putI h b n = ([], 1) := by rw [putI, if_pos (by omega)]
theorem putI_len (h : Nat) (b n : Int) : (putI h b n).1.length ≤ 6 := by
  unfold putI
  split
  · simp
  · exact put_six _ _ _ (by omega)
theorem putI_byte (h : Nat) (b n : Int) (hh : h < 256) : ∀ x ∈ (putI h b n).1, x < 256 := by
  unfold putI
  split
  · simp
  · exact put_byte _ _ _ hh (by omega)
/-- What is laid longer than it must be. -/
theorem get_long (x b m : Nat) (hx : x % 2 ^ b = full b) (hm : full b + m ≤ 2147483647) : getN (x :: digs 4 m) b = (full b + m, 6, 0) := by
  have h := rd_digs 4 5 m 0 (full b) [] (by omega) (by omega) (by simp; omega)
  rw [List.append_nil] at h
  rw [getN, hx, if_neg (by omega), h]
  simp
theorem get_over (x b m : Nat) (hx : x % 2 ^ b = full b) : getN (x :: digs 5 m) b = (0, 0, 1) := by
  have h := rd_over 5 m 0 (full b) []
  rw [List.append_nil] at h
  rw [getN, hx, if_neg (by omega), h]
theorem and_low (x b : Nat) : x &&& full b = x % 2 ^ b := Nat.and_two_pow_sub_one_eq_mod x b
theorem clear_low : ∀ b : Fin 9, ∀ x : Fin 256, x.val &&& (255 - (2 ^ b.val - 1)) = x.val / 2 ^ b.val * 2 ^ b.val := by decide +kernel
theorem full_bound {b : Nat} (h : b ≤ 8) : 2 ^ b ≤ 256 := Nat.pow_le_pow_right (by decide) h
end Pn
/- Bits of numbers that are not below nought. -/
namespace Go.Proofs.YtiandidencnlcaaDoor
open Go.RowKit Pn

theorem i64_ofNat (a : Nat) (ha : a < 9223372036854775808) : IntKind.i64.wrap (a : Int) = (a : Int) := by rw [IntKind.wrap_i64]; omega
theorem i64_and_nat (a b : Nat) (ha : a < 9223372036854775808) (hb : b < 9223372036854775808) : bits .and .i64 (a : Int) (b : Int) = ((a &&& b : Nat) : Int) := by
  have hx : a &&& b < 2 ^ 63 := Nat.and_lt_two_pow _ (by omega)
  show IntKind.i64.wrap ((BitVec.ofInt 64 (a : Int) &&& BitVec.ofInt 64 (b : Int)).toNat : Int) = _
  rw [BitVec.toNat_and, ofInt_u64 a (by omega), ofInt_u64 b (by omega)]
  exact i64_ofNat _ (by omega)
theorem i64_or_nat (a b : Nat) (ha : a < 9223372036854775808) (hb : b < 9223372036854775808) : bits .or .i64 (a : Int) (b : Int) = ((a ||| b : Nat) : Int) := by
  have hx : a ||| b < 2 ^ 63 := Nat.or_lt_two_pow (by omega) (by omega)
  show IntKind.i64.wrap ((BitVec.ofInt 64 (a : Int) ||| BitVec.ofInt 64 (b : Int)).toNat : Int) = _
  rw [BitVec.toNat_or, ofInt_u64 a (by omega), ofInt_u64 b (by omega)]
  exact i64_ofNat _ (by omega)
theorem u64_small (B : Nat) (h : B ≤ 1000) : IntKind.u64.wrap (B : Int) = (B : Int) := by
  have e : ∀ z : Int, IntKind.u64.wrap z = z % 18446744073709551616 := fun z => by simp [IntKind.wrap, IntKind.bits, IntKind.signed]
  rw [e]
  omega
end Go.Proofs.YtiandidencnlcaaDoor
/- What Get hands back. -/
namespace Go.Proofs.YtiandidencnlcaaDoor
open Go.RowKit Pn

/-- What Get hands back: the number, how many bytes it has, what went wrong. -/
def GetPost (w : World) (s : Nat × Nat × Nat) (e : Ending) (w' : World) : Prop := e = .returned (.tuple #[.int .i64 ((s.1 : Nat) : Int), .int .i64 ((s.2.1 : Nat) : Int), .int .i64 ((s.2.2 : Nat) : Int)]) ∧ Below w.heap.size w w'
theorem ret_tuple3 {a a2 b b2 c c2 : Int} (h : a = a2) (h2 : b = b2) (h3 : c = c2) : Ending.returned (.tuple #[.int .i64 a, .int .i64 b, .int .i64 c]) = .returned (.tuple #[.int .i64 a2, .int .i64 b2, .int .i64 c2]) := by rw [h, h2, h3]
end Go.Proofs.YtiandidencnlcaaDoor
