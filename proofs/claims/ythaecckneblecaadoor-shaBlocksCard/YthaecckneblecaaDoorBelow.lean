/- Contract of the reference's below: are the digits at most p times 2 to the 32 k? -/
import Derived.Test.YthaecckneblecaaDoorPower
namespace Go.Proofs.YthaecckneblecaaDoor
open Go.RowKit Sh

def bw (d : List Nat) (p k : Nat) : Bool := decide (V d ≤ p * 65536 ^ (2 * k))
theorem bw_no {d : List Nat} {p k : Nat} (h : ¬ V d ≤ p * 65536 ^ (2 * k)) : bw d p k = false := decide_eq_false h
theorem bw_yes {d : List Nat} {p k : Nat} (h : V d ≤ p * 65536 ^ (2 * k)) : bw d p k = true := decide_eq_true h
def BlR (d : List Nat) (k : Nat) (top i : Value) : Prop := ∃ t : Nat, 2 * k ≤ t ∧ t ≤ d.length ∧ i = .int .i64 ((t : Int) - 1) ∧ top = .int .u64 (V (d.drop t)) ∧ V (d.drop t) < 72057594037993472
def BlZ (d : List Nat) (k : Nat) (i : Value) : Prop := ∃ t : Nat, t ≤ 2 * k ∧ i = .int .i64 t ∧ ∀ j (hj : j < d.length), j < t → d[j] = 0
set_option maxHeartbeats 2000000 in
theorem below_any (A : Option Addr) (d : List Nat) (n c p k : Nat) (w : World) (hA : At .u64 w w.heap.size A d) (hd : Dg d) (hn : d.length = n) (hl : n = 3 * k + 1) (hk0 : 1 ≤ k) (hk : k ≤ 4) (hp : p ≤ 1000) :
    Calls Tryd.prog 22 #[.slice A n c, .int .i64 p, .int .i64 k] w fun e w' => e = .returned (.bool (bw d p k)) ∧ w = w' := by
  subst hn
  obtain ⟨ab, ao, rfl, hab, hc⟩ := hA.pos (by omega)
  have HC := Lib.hid hc
  have HL := Lib.hid hl
  have hl1 : 3 * k + 1 ≤ d.length := by omega
  have hl2 : d.length ≤ 3 * k + 1 := by omega
  have q0 : ((p : Nat) : Int) ≤ 1000 := by omega
  clear hc hl hA
  go_enter Tryd.func22, Tryd.ntmps22
  go_wp2
  go_loop [7, 8] (fun top i => BlR d k top i) (fun _ i => (intOf i + 1).toNat)
  case atStart => exact ⟨d.length, by omega, Nat.le_refl _, rfl, by simp [V], by simp [V]⟩
  case round =>
    obtain ⟨t, ht, htl, rfl, rfl, hV⟩ := hrel
    by_cases hlt : 2 * k < t
    · obtain ⟨s, rfl⟩ : ∃ s, t = s + 1 := ⟨t - 1, by omega⟩
      have es : ((s + 1 : Nat) : Int) - 1 = (s : Int) := by omega
      have hcs : w.cell? ⟨ab, ao + s, none⟩ = some (.int .u64 ((d[s]'(by omega) : Nat) : Int)) := HC.out s (by omega)
      have hds : d[s]'(by omega) < 65536 := hd _ (List.getElem_mem _)
      obtain ⟨T, hT⟩ : ∃ T, T = V (d.drop (s + 1)) := ⟨_, rfl⟩
      obtain ⟨y, hy⟩ : ∃ y, y = d[s]'(by omega) := ⟨_, rfl⟩
      rw [← hT] at hV
      rw [← hy] at hcs hds
      rw [← hT, es]
      have HT := Lib.hid hT
      have HY := Lib.hid hy
      clear hT hy es
      by_cases hbig : 1099511627776 < T
      · go_wp2
        go_ret
        refine ⟨ret_bool (bw_no (top_gt (by omega) htl ?_)).symm, rfl⟩
        rw [← HT.out]
        omega
      · go_wp2
        go_round
        case rel =>
          have e := V_drop_pred d s (by omega)
          rw [← HT.out, ← HY.out] at e
          refine ⟨s, by omega, by omega, rfl, ?_, by rw [e]; omega⟩
          rw [e]
          congr 1
          simp
          omega
        case measure => simp [intOf]
    · obtain rfl : t = 2 * k := by omega
      obtain ⟨T, hT⟩ : ∃ T, T = V (d.drop (2 * k)) := ⟨_, rfl⟩
      rw [← hT] at hV
      rw [← hT]
      have HT := Lib.hid hT
      clear hT
      rcases (show T < p ∨ p < T ∨ T = p by omega) with h | h | h
      · have t1 : (((T : Nat) : Int) != (p : Int)) = true := by simp; omega
        have t2 : decide (((T : Nat) : Int) < (p : Int)) = true := by simp; omega
        go_wp2
        go_ret
        exact ⟨ret_bool (bw_yes (top_lt hd htl (by rw [← HT.out]; exact h))).symm, rfl⟩
      · have t1 : (((T : Nat) : Int) != (p : Int)) = true := by simp; omega
        have t2 : decide (((T : Nat) : Int) < (p : Int)) = false := by simp; omega
        go_wp2
        go_ret
        refine ⟨ret_bool ?_, rfl⟩
        rw [bw_no (top_gt (Nat.le_refl _) htl (by rw [← HT.out]; exact h))]
        exact decide_eq_false (by omega)
      · obtain rfl : T = p := h
        have t1 : (((T : Nat) : Int) != (T : Int)) = false := by simp
        go_wp2
        go_loop [9] (fun i => BlZ d k i) (fun i => 2 * k - (intOf i).toNat)
        case atStart => exact ⟨0, Nat.zero_le _, rfl, fun j _ h => absurd h (by omega)⟩
        case round =>
          obtain ⟨u, hu, rfl, hz⟩ := hrel
          have HZ := Lib.hid hz
          clear hz
          by_cases hult : u < 2 * k
          · have hcs : w.cell? ⟨ab, ao + u, none⟩ = some (.int .u64 ((d[u]'(by omega) : Nat) : Int)) := HC.out u (by omega)
            obtain ⟨y, hy⟩ : ∃ y, y = d[u]'(by omega) := ⟨_, rfl⟩
            rw [← hy] at hcs
            have HY := Lib.hid hy
            clear hy
            by_cases hy0 : y = 0
            · have t3 : (((y : Nat) : Int) != 0) = false := by simp; omega
              go_wp2
              go_round
              case rel =>
                refine ⟨u + 1, by omega, by go_num, fun j hj hju => ?_⟩
                by_cases hjl : j < u
                · exact HZ.out j hj hjl
                · obtain rfl : j = u := by omega
                  rw [← HY.out]
                  exact hy0
              case measure => simp [intOf]; omega
            · have t3 : (((y : Nat) : Int) != 0) = true := by simp; omega
              go_wp2
              go_ret
              exact ⟨ret_bool (bw_no (top_ne htl HT.out.symm hult (by rw [← HY.out]; exact hy0))).symm, rfl⟩
          · obtain rfl : u = 2 * k := by omega
            go_wp2
            go_ret
            exact ⟨ret_bool (bw_yes (top_eq htl HT.out.symm HZ.out)).symm, rfl⟩
end Go.Proofs.YthaecckneblecaaDoor
