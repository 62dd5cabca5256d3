/- Few of stage 10. -/
import Derived.Test.YtelbldhnlmggiaaLFrm
namespace Go.Proofs.Ytelbldhnlmggiaa
open Go.RowKit Fr

/-- How great the bodies are together, as the statements add them up. -/
def frSum (l : List FrA) : Nat := (l.map fun s => min s.f.body.length 40001).sum
/-- The frames are few, and small. -/
def few10 (l : List FrA) : Bool := decide (l.length ≤ 100) && decide (frSum (l.take 100) ≤ 40000)
theorem frSum_snoc (l : List FrA) (s : FrA) : frSum (l ++ [s]) = frSum l + min s.f.body.length 40001 := by simp [frSum]
theorem frSum_le (l : List FrA) : frSum l ≤ 40001 * l.length := by
  induction l with
  | nil => simp [frSum]
  | cons s r ih =>
    have : frSum (s :: r) = min s.f.body.length 40001 + frSum r := by simp [frSum]
    rw [this, List.length_cons]
    omega
def bodies (l : List FrA) : Nat := (l.map fun s => s.f.body.length).sum
theorem frSum_all : ∀ l : List FrA, frSum l ≤ 40000 → bodies l = frSum l
  | [], _ => rfl
  | s :: r, h => by
    have e1 : frSum (s :: r) = min s.f.body.length 40001 + frSum r := by simp [frSum]
    have e2 : bodies (s :: r) = s.f.body.length + bodies r := by simp [bodies]
    rw [e1] at h ⊢
    rw [e2, frSum_all r (by omega)]
    omega
theorem few10_true {l : List FrA} (h : few10 l = true) : l.length ≤ 100 ∧ bodies l ≤ 40000 := by
  simp only [few10, Bool.and_eq_true, decide_eq_true_eq] at h
  obtain ⟨h1, h2⟩ := h
  rw [List.take_of_length_le h1] at h2
  exact ⟨h1, by rw [frSum_all l h2]; exact h2⟩
theorem body_le {l : List FrA} {s : FrA} (h : s ∈ l) : s.f.body.length ≤ bodies l := by
  induction l with
  | nil => simp at h
  | cons a r ih =>
    have e2 : bodies (a :: r) = a.f.body.length + bodies r := by simp [bodies]
    rcases List.mem_cons.1 h with rfl | h
    · omega
    · have := ih h
      omega
def F10R (w : World) (l : List FrA) (n i : Value) (wr : World) : Prop := ∃ k N : Nat, k ≤ l.length ∧ k ≤ 100 ∧ i = .int .i64 (k : Int) ∧ n = .int .i64 (N : Int) ∧ N = frSum (l.take k) ∧ wr = w
set_option maxRecDepth 100000 in
set_option maxHeartbeats 4000000 in
theorem few10_any (A : Option Addr) (l : List FrA) (n c : Nat) (w : World) (hA : AtR w w.heap.size A l) (hl : l.length = n) : Calls Try.prog 8 #[.slice A n c] w fun e w' => e = .returned (.bool (few10 l)) ∧ w' = w := by
  have HA := Lib.hid hA
  have HL := Lib.hid hl
  clear hA hl
  go_enter Try.func8, Try.ntmps8
  go_wp2
  go_loopw [3, 4] (fun s i wr => F10R w l s i wr) (fun _ i _ => n - (intOf i).toNat)
  case atStart => exact ⟨0, 0, Nat.zero_le _, by omega, rfl, rfl, by simp [frSum], rfl⟩
  case round =>
    obtain ⟨k, N, hk, hk2, rfl, rfl, hN, rfl⟩ := hrel
    have hNb : N ≤ 4000100 := by
      rw [hN]
      have := frSum_le (l.take k)
      rw [List.length_take] at this
      omega
    have HN := Lib.hid hN
    clear hN
    by_cases hlt : k < n
    · have ki : (k : Int) < (n : Int) := by omega
      by_cases h100 : k < 100
      · have ki2 : (k : Int) < 100 := by omega
        have hkl : k < l.length := by have := HL.out; omega
        obtain ⟨b, o, rfl, hb, hc⟩ := HA.out.pos (by omega)
        obtain ⟨⟨d0, d1, d2, d3⟩, hok⟩ := hc k hkl
        clear d0 d1 d2
        obtain ⟨q, hq⟩ : ∃ q, q = l[k] := ⟨_, rfl⟩
        rw [← hq] at d3 hok
        have HNX : Hid (frSum (l.take (k + 1)) = N + min q.f.body.length 40001) := Lib.hid (by rw [List.take_succ_eq_append_getElem hkl, frSum_snoc, hq, HN.out])
        obtain ⟨m, hm⟩ : ∃ m, m = q.f.body.length := ⟨_, rfl⟩
        rw [← hm] at d3 HNX
        obtain ⟨t, ht⟩ : ∃ t, t = min m 40001 := ⟨_, rfl⟩
        rw [← ht] at HNX
        have e1 : min (m : Int) 40001 = (t : Int) := by omega
        have e2 : (if (40001 : Int) < (m : Int) then (40001 : Int) else (m : Int)) = (t : Int) := by split <;> omega
        have htb : t ≤ 40001 := by omega
        have e3 : (N : Int) + (t : Int) = ((N + t : Nat) : Int) := by omega
        obtain ⟨N2, hN2⟩ : ∃ N2, N2 = N + t := ⟨_, rfl⟩
        rw [← hN2] at e3 HNX
        have HKL := Lib.hid hkl
        clear hq hm ht hN2 hok hc hkl
        go_wp2
        go_roundw
        case rel => exact ⟨k + 1, N2, HKL.out, by omega, by go_num, by go_num, HNX.out.symm, rfl⟩
        case measure => simp [intOf]; omega
      · obtain rfl : k = 100 := by omega
        have ki2 : ¬ ((100 : Nat) : Int) < 100 := by omega
        have kn : ¬ (n : Int) ≤ 100 := by omega
        have HF : Hid (few10 l = false) := Lib.hid (by
          have h1 : decide (l.length ≤ 100) = false := decide_eq_false (by have := HL.out; omega)
          rw [few10, h1]
          rfl)
        go_wp2
        go_ret
        rw [HF.out]
        exact ⟨rfl, rfl⟩
    · obtain rfl : k = n := by have := HL.out; omega
      have ki : ¬ (k : Int) < (k : Int) := by omega
      have kn : (k : Int) ≤ 100 := by omega
      have het : l.take 100 = l.take k := by rw [List.take_of_length_le (by have := HL.out; omega), List.take_of_length_le (by have := HL.out; omega)]
      have HF : Hid (few10 l = decide (N ≤ 40000)) := Lib.hid (by
        have h1 : decide (l.length ≤ 100) = true := decide_eq_true (by have := HL.out; omega)
        rw [few10, h1, het, ← HN.out]
        rfl)
      clear het
      by_cases h4 : N ≤ 40000
      · have h5 : (N : Int) ≤ 40000 := by omega
        have HF2 : Hid (few10 l = true) := Lib.hid (by rw [HF.out, decide_eq_true h4])
        clear HF
        go_wp2
        go_ret
        rw [HF2.out]
        exact ⟨rfl, rfl⟩
      · have h5 : ¬ (N : Int) ≤ 40000 := by omega
        have HF2 : Hid (few10 l = false) := Lib.hid (by rw [HF.out, decide_eq_false h4])
        clear HF
        go_wp2
        go_ret
        rw [HF2.out]
        exact ⟨rfl, rfl⟩
end Go.Proofs.Ytelbldhnlmggiaa
