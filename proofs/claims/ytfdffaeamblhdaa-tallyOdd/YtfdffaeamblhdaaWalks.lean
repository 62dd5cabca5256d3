/- Contracts of package tally's functions (and of first): what each call answers; none of them touches the world. -/
import Derived.Test.YtfdffaeamblhdaaRows
import Derived.Test.YtfdffaeamblhdaaFloat
import Derived.WalkKit
import Derived.WalkSpells
import Derived.WalkLawsBesides
import Derived.Laws.Externs
import Derived.Lib.Hide
namespace Go.Proofs.Ytfdffaeamblhdaa
open Go.RowKit Fl

theorem read_not_nan {x : Nat} {n : Int} (h : (Ieee.double.read x).toInt .zero = some n) : ∀ s t, Ieee.double.read x ≠ .nan s t := by
  intro s t e
  rw [e] at h
  simp [Ieee.Datum.toInt, Ieee.Datum.integral] at h

theorem entry_trunc (x : Nat) (h : ∀ s t, Ieee.double.read x ≠ .nan s t) : Go.Extern.MathFloor.toIntegral "math.archTrunc" .zero #[.float .f64 x] = pure (.float .f64 (truncB x)) := by
  obtain ⟨g, hg⟩ : ∃ g : Bool → Nat → Sem Value, Go.Extern.MathFloor.toIntegral "math.archTrunc" .zero #[.float .f64 x] = (match FloatKind.f64.decode x with
    | .nan s t => g s t
    | d => pure (.float .f64 (FloatKind.f64.encode (d.integral .zero)))) := ⟨_, rfl⟩
  have hd : FloatKind.f64.decode x = Ieee.double.read x := rfl
  rw [hg, hd]
  unfold truncB
  cases hr : Ieee.double.read x with
  | nan s t => exact absurd hr (h s t)
  | infinity s => rfl
  | number s m i => rfl

theorem run_trunc (x : Nat) (n : Int) (h : (Ieee.double.read x).toInt .zero = some n) (w : World) :
    (callFunc 18 #[.float .f64 x]).run Try.prog w = .ok (.value (.float .f64 (truncB x))) w := by
  rw [run_callFunc_extern (f := 18) (fn := Try.f18) Try.func18 (by kernel_rfl) (by kernel_rfl) (by kernel_rfl) (e := Go.Extern.MathFloor.toIntegral "math.archTrunc" .zero) (by rfl)]
  rw [entry_trunc x (read_not_nan h)]
  rfl

set_option maxHeartbeats 400000 in
theorem trunc_any (x : Nat) (n : Int) (h : (Ieee.double.read x).toInt .zero = some n) (w : World) :
    Calls Try.prog 17 #[.float .f64 x] w fun e w' => e = .returned (.float .f64 (truncB x)) ∧ w = w' := by
  have hrun := run_trunc x n h
  clear h
  go_enter Try.func17, Try.ntmps17
  go_wp2
  go_ret
  exact ⟨rfl, rfl⟩

/-- The tests as the walk spells them. -/
theorem ge_sp (x : Nat) : (FloatKind.f64.format.order x 0 == some Ordering.gt || FloatKind.f64.format.order x 0 == some Ordering.eq) = geB x := rfl
theorem le_sp (x : Nat) : (FloatKind.f64.format.order x 4832362400168542208 == some Ordering.lt || FloatKind.f64.format.order x 4832362400168542208 == some Ordering.eq) = leB x := rfl
theorem eq_sp (x y : Nat) : (FloatKind.f64.format.order x y == some Ordering.eq) = eqB x y := rfl
theorem leq_sp {x y : Nat} {k l : Int} (h : Whole x k) (h' : Whole y l) : (FloatKind.f64.format.order x y == some Ordering.lt || FloatKind.f64.format.order x y == some Ordering.eq) = decide (k ≤ l) := by
  have : FloatKind.f64.format.order x y = some (compare k l) := order_whole h h'
  rw [this, compare_lt_or_eq]

set_option maxHeartbeats 400000 in
theorem isPart_any (x : Nat) (w : World) :
    Calls Try.prog 15 #[.float .f64 x] w fun e w' => e = .returned (.bool (partB x)) ∧ w = w' := by
  have k1 := ge_sp x
  have k2 := le_sp x
  have k3 := eq_sp (truncB x) x
  unfold partB
  cases kind x with
  | low h =>
    rw [h] at k1 ⊢
    clear k2 k3 h
    go_enter Try.func15, Try.ntmps15
    go_wp2_with fail
    go_ret
    exact ⟨rfl, rfl⟩
  | high h h2 =>
    rw [h] at k1 ⊢
    rw [h2] at k2 ⊢
    clear k3 h h2
    go_enter Try.func15, Try.ntmps15
    go_wp2_with fail
    go_ret
    exact ⟨rfl, rfl⟩
  | broken h h2 h3 h4 h5 h6 h7 =>
    rw [h] at k1 ⊢
    rw [h2] at k2 ⊢
    rw [h3] at k3 ⊢
    have ht := fun w => trunc_any x _ h7 w
    have HT := Lib.hid ht
    clear h h2 h3 h4 h5 h6 h7 ht
    go_enter Try.func15, Try.ntmps15
    go_wp2_with fail
    refine (HT.out _).mono ?_
    rintro e w' ⟨rfl, rfl⟩
    go_wp2_with fail
    go_ret
    exact ⟨rfl, rfl⟩
  | whole h h2 h3 h4 h5 h6 h7 h8 =>
    rw [h] at k1 ⊢
    rw [h2] at k2 ⊢
    rw [h3] at k3 ⊢
    have ht := fun w => trunc_any x _ h7 w
    have HT := Lib.hid ht
    clear h h2 h3 h4 h5 h6 h7 h8 ht
    go_enter Try.func15, Try.ntmps15
    go_wp2_with fail
    refine (HT.out _).mono ?_
    rintro e w' ⟨rfl, rfl⟩
    go_wp2_with fail
    go_ret
    exact ⟨rfl, rfl⟩

set_option maxHeartbeats 400000 in
theorem is_any (a b : Nat) (w : World) :
    Calls Try.prog 9 #[.complex .f64 a b] w fun e w' => e = .returned (.bool (partB a && partB b)) ∧ w = w' := by
  cases ha : partB a with
  | false =>
    have HA := Lib.hid ha
    clear ha
    go_enter Try.func9, Try.ntmps9
    go_wp2_with fail
    refine (isPart_any a _).mono ?_
    rw [HA.out]
    rintro e w' ⟨rfl, rfl⟩
    go_wp2_with fail
    go_ret
    exact ⟨rfl, rfl⟩
  | true =>
    have HA := Lib.hid ha
    clear ha
    go_enter Try.func9, Try.ntmps9
    go_wp2_with fail
    refine (isPart_any a _).mono ?_
    rw [HA.out]
    rintro e w' ⟨rfl, rfl⟩
    go_wp2_with fail
    refine (isPart_any b _).mono ?_
    rintro e w' ⟨rfl, rfl⟩
    go_wp2_with fail
    go_ret
    exact ⟨rfl, rfl⟩

theorem is_yes (a b : Nat) (w : World) (h : (partB a && partB b) = true) : Calls Try.prog 9 #[.complex .f64 a b] w fun e w' => e = .returned (.bool true) ∧ w = w' := by
  rw [← h]; exact is_any a b w
theorem is_no (a b : Nat) (w : World) (h : (partB a && partB b) = false) : Calls Try.prog 9 #[.complex .f64 a b] w fun e w' => e = .returned (.bool false) ∧ w = w' := by
  rw [← h]; exact is_any a b w

set_option maxHeartbeats 400000 in
theorem isCount_any (n : Int) (w : World) :
    Calls Try.prog 14 #[.int .i64 n] w fun e w' => e = .returned (.bool (decide (0 ≤ n ∧ n ≤ 1125899906842624))) ∧ w = w' := by
  by_cases h0 : 0 ≤ n
  · by_cases h1 : n ≤ 1125899906842624
    · have e : decide (0 ≤ n ∧ n ≤ 1125899906842624) = true := by simp [h0, h1]
      rw [e]; clear e
      go_enter Try.func14, Try.ntmps14
      go_wp2_with fail
      go_ret
      exact ⟨by simp, rfl⟩
    · have e : decide (0 ≤ n ∧ n ≤ 1125899906842624) = false := by simp [h1]
      rw [e]; clear e
      go_enter Try.func14, Try.ntmps14
      go_wp2_with fail
      go_ret
      exact ⟨by simp, rfl⟩
  · have e : decide (0 ≤ n ∧ n ≤ 1125899906842624) = false := by simp [h0]
    rw [e]; clear e
    have h2 : decide (0 ≤ n) = false := by simp [h0]
    go_enter Try.func14, Try.ntmps14
    go_wp2_with fail
    go_ret
    exact ⟨rfl, rfl⟩

end Go.Proofs.Ytfdffaeamblhdaa
