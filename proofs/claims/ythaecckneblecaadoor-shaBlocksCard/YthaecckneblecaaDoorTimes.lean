/- Contract of the reference's times: the product of digits. -/
import Derived.Test.YthaecckneblecaaDoorMem
namespace Go.Proofs.YthaecckneblecaaDoor
open Go.RowKit Sh

def TmPost (w : World) (n P : Nat) (e : Ending) (w' : World) : Prop :=
  ∃ (r : List Nat) (A : Option Addr) (c : Nat), e = .returned (.slice A n c) ∧ r.length = n ∧ At .u64 w' w'.heap.size A r ∧ Dg r ∧ V r = P ∧ Below w.heap.size w w'
def TmR (w : World) (a b : List Nat) (i : Value) (wr : World) : Prop :=
  ∃ (k : Nat) (r : List Nat), k ≤ a.length ∧ i = .int .i64 k ∧ r.length = a.length + b.length ∧ Dg r ∧ V r = V (a.take k) * V b ∧ (∀ p (h : p < r.length), k + b.length ≤ p → r[p] = 0) ∧
    wr.ownsRow w.heap.size 34 1 (.slice (some ⟨w.heap.size, 0, none⟩) (a.length + b.length) (a.length + b.length)) (a.length + b.length) (cn .u64 r) ∧ Below w.heap.size w wr
def TmI (w : World) (a b : List Nat) (k x : Nat) (c j : Value) (wr : World) : Prop :=
  ∃ (q d : Nat) (r : List Nat), q ≤ b.length ∧ j = .int .i64 q ∧ c = .int .u64 d ∧ d < 65536 ∧ r.length = a.length + b.length ∧ Dg r ∧ V r + d * 65536 ^ (k + q) = V (a.take k) * V b + x * 65536 ^ k * V (b.take q) ∧
    (∀ p (h : p < r.length), k + b.length ≤ p → r[p] = 0) ∧
    wr.ownsRow w.heap.size 34 1 (.slice (some ⟨w.heap.size, 0, none⟩) (a.length + b.length) (a.length + b.length)) (a.length + b.length) (cn .u64 r) ∧ Below w.heap.size w wr

set_option maxHeartbeats 2000000 in
theorem times_any (A A' : Option Addr) (a b : List Nat) (c c' : Nat) (w : World) (ha : At .u64 w w.heap.size A a) (hb : At .u64 w w.heap.size A' b) (da : Dg a) (db : Dg b) (hla : a.length ≤ 50) (hlb : b.length ≤ 50) :
    Calls Tryd.prog 27 #[.slice A a.length c, .slice A' b.length c'] w (TmPost w (a.length + b.length) (V a * V b)) := by
  obtain ⟨i0, hi0, hz0, hz1, hz2⟩ := info_parts infoU64
  go_enter Tryd.func27, Tryd.ntmps27
  go_wp2_with (at_make; refine wpList_make_full _ rfl _ _ 43 rfl w.heap.size 34 i0 _ 1 Tryd.underlying43 hi0 hz0 hz1 _ _ _ _ (a.length + b.length) rfl rfl (by omega) (by omega) (by rw [hz2]; omega) (by unfold maxLen; omega) (Nat.le_refl _) ?_; intro w1 hown1 hg1)
  have hb1 : Below w.heap.size w w1 := (Below.refl _ _).grown hg1 (Nat.le_refl _) (by simp)
  have hown2 : w1.ownsRow w.heap.size 34 1 (.slice (some ⟨w.heap.size, 0, none⟩) (a.length + b.length) (a.length + b.length)) (a.length + b.length) (cn .u64 (List.replicate (a.length + b.length) 0)) := by
    have e : cn .u64 (List.replicate (a.length + b.length) 0) = (madeCells (Value.int .u64 0).cells ((a.length + b.length) * 1)).toList := by
      rw [show (Value.int .u64 0).cells = #[Value.int .u64 0] from rfl, toList_madeCells_one]
      simp [cn]
    rw [e]
    exact hown1
  clear hg1 hown1
  go_loopw [6] (fun i wr => TmR w a b i wr) (fun i _ => a.length - (intOf i).toNat)
  case atStart => exact ⟨0, List.replicate (a.length + b.length) 0, Nat.zero_le _, rfl, by simp, fun x hx => by rw [List.eq_of_mem_replicate hx]; omega, by rw [V_zeros]; simp [V], fun p h _ => by simp, hown2, hb1⟩
  case round =>
    clear hown2 hb1
    obtain ⟨k, r, hk, rfl, hrl, hdg, hV, hz, hown, hbel⟩ := hrel
    by_cases hlt : k < a.length
    · obtain ⟨ab, ao, rfl, hab, hca⟩ := ha.pos (by omega)
      have hA := Lib.hid hca
      obtain ⟨x, hx⟩ : ∃ x, x = a[k] := ⟨_, rfl⟩
      have hx1 : x < 65536 := by rw [hx]; exact da _ (List.getElem_mem _)
      have HX := Lib.hid hx
      have HV := Lib.hid hV
      have HZ := Lib.hid hz
      have HR := Lib.hid hrl
      clear hca hx hV hz hrl
      go_wp2
      go_loopw [7, 8] (fun c j wr => TmI w a b k x c j wr) (fun _ j _ => b.length - (intOf j).toNat)
      case atStart => exact ⟨0, 0, r, Nat.zero_le _, rfl, rfl, by omega, HR.out, hdg, by rw [HV.out]; simp [V], HZ.out, hown, hbel⟩
      case round =>
        clear hdg hown hbel HV HZ HR
        obtain ⟨q, d, r2, hq, rfl, rfl, hd, hrl, hdg, hV, hz, hown, hbel⟩ := hrel
        have HV := Lib.hid hV
        have HZ := Lib.hid hz
        have HR := Lib.hid hrl
        clear hV hz hrl
        by_cases hqlt : q < b.length
        · obtain ⟨bb, bo, rfl, hbb, hcb⟩ := hb.pos (by omega)
          obtain ⟨y, hy⟩ : ∃ y, y = b[q] := ⟨_, rfl⟩
          have hy1 : y < 65536 := by rw [hy]; exact db _ (List.getElem_mem _)
          have hkq : k + q < r2.length := by have := HR.out; omega
          obtain ⟨o, ho⟩ : ∃ o, o = r2[k + q] := ⟨_, rfl⟩
          have ho1 : o < 65536 := by rw [ho]; exact hdg _ (List.getElem_mem _)
          have c1 : wr.cell? ⟨ab, ao + k, none⟩ = some (.int .u64 (x : Int)) := by rw [hbel.cell (p := ⟨ab, ao + k, none⟩) hab, hA.out k hlt, HX.out]
          have c2 : wr.cell? ⟨bb, bo + q, none⟩ = some (.int .u64 (y : Int)) := by rw [hbel.cell (p := ⟨bb, bo + q, none⟩) hbb, hcb q hqlt, hy]
          have c3 : wr.cell? ⟨w.heap.size, k + q, none⟩ = some (.int .u64 (o : Int)) := by rw [hown.cellAt (k + q) (by have := HR.out; omega), cn_at _ _ _ hkq, ho]
          have f3 := hown.frozenAt (k + q)
          have hp := prod_lt hx1 hy1
          obtain ⟨m, hm⟩ : ∃ m, m = x * y := ⟨_, rfl⟩
          have hmi : (x : Int) * (y : Int) = (m : Int) := by rw [hm]; simp
          have hm1 : m ≤ 4294836225 := by omega
          have HM := Lib.hid hm
          have HY := Lib.hid hy
          have HO := Lib.hid ho
          have HCB := Lib.hid hcb
          clear hm hy ho hp hcb
          have e1 : IntKind.i64.wrap ((k : Int) + (q : Int)) = (k : Int) + (q : Int) := IntWalk.i64_in _ (by omega)
          have e2 : ((k : Int) + (q : Int)).toNat = k + q := by omega
          have l1 : (k : Int) < (a.length : Int) := by omega
          have l2 : (q : Int) < (b.length : Int) := by omega
          have l3 : (0 : Int) ≤ (k : Int) + (q : Int) := by omega
          have l4 : (k : Int) + (q : Int) < (a.length : Int) + (b.length : Int) := by omega
          go_wp2
          go_quiet (fail)
          go_wp2
          go_roundw
          case rel =>
            have hX : (o : Int) + (m : Int) + (d : Int) = ((o + m + d : Nat) : Int) := by simp
            have hst := (show (wr.drewN nq).ownsRow w.heap.size 34 1 (.slice (some ⟨w.heap.size, 0, none⟩) (a.length + b.length) (a.length + b.length)) (a.length + b.length) (cn .u64 r2) from hown).stored (k + q) (.int .u64 (((o + m + d) % 65536 : Nat) : Int))
            rw [cn_set] at hst
            refine ⟨q + 1, (o + m + d) / 65536, r2.set (k + q) ((o + m + d) % 65536), by omega, by go_num, by rw [hX]; simp, by omega, by rw [List.length_set]; exact HR.out, hdg.set _ _ (by omega), tm_step hkq hqlt HO.out HY.out HM.out HV.out, zero_tail HZ.out (by omega), ?_, ?_⟩
            · rw [hX, show (65535 : Int) = ((65535 : Nat) : Int) from rfl, u64_and_nat _ _ (by omega) (by omega), nat_mask16]
              exact hst.1
            · exact (below_drewN hbel nq).setCell (Nat.le_refl _) _
          case measure => simp [intOf]; omega
        · obtain rfl : q = b.length := by omega
          have hkl : k + b.length < r2.length := by have := HR.out; omega
          have hz0 := HZ.out (k + b.length) hkl (Nat.le_refl _)
          have c3 : wr.cell? ⟨w.heap.size, k + b.length, none⟩ = some (.int .u64 0) := by rw [hown.cellAt (k + b.length) (by have := HR.out; omega), cn_at _ _ _ hkl, hz0]; rfl
          have f3 := hown.frozenAt (k + b.length)
          have HZ0 := Lib.hid hz0
          clear hz0
          go_wp2
          go_roundw
          case rel =>
            have hst := hown.stored (k + b.length) (.int .u64 (d : Int))
            rw [cn_set] at hst
            have hVe := tm_end hlt hkl HX.out HZ0.out HV.out
            rw [Nat.zero_add] at hVe
            exact ⟨k + 1, r2.set (k + b.length) d, by omega, by go_num, by rw [List.length_set]; exact HR.out, hdg.set _ _ hd, hVe, zero_tail (n := k + 1 + b.length) (fun p h hp => HZ.out p h (by omega)) (by omega), hst.1, hbel.setCell (Nat.le_refl _) _⟩
          case measure => simp [intOf]; omega
    · have hV' : V r = V a * V b := by
        rw [hV, List.take_of_length_le (by omega)]
      have HV := Lib.hid hV'
      have HZ := Lib.hid hz
      have HR := Lib.hid hrl
      clear hV hV' hz hrl
      go_wp2
      go_ret
      exact ⟨r, _, _, rfl, HR.out, At.of_own hown, hdg, HV.out, hbel⟩
end Go.Proofs.YthaecckneblecaaDoor
