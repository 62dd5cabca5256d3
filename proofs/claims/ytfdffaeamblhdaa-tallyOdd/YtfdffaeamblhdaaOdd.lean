/-
  For every two doubles x, y (all 64 bits of each; no-numbers and infinities too): wlvlaw1.TallyOdd answers true: only whole parts of 0 to MaxCount make a pair, and nothing is made of one that is none.
  No condition.
-/
import Derived.Test.YtfdffaeamblhdaaWalksC
import Derived.ProofKit
import Derived.OpenShut
namespace Go.Proofs.Ytfdffaeamblhdaa.tallyOdd
open Go.ChangeShapes Go.WideShapes Go.ChangeAt Go.RowKit Fl

theorem own : ownKnob Try.prog.godebug = none := by kernel_rfl

set_option maxRecDepth 100000 in
set_option maxHeartbeats 1000000 in
theorem bad_x1 (x y : Nat) (w : World) (hb : (partB x && partB y) = false) (hx1 : (FloatKind.f64.format.order x 0 == some Ordering.gt || FloatKind.f64.format.order x 0 == some Ordering.eq) = false) :
    Calls Try.prog 4 #[.float .f64 x, .float .f64 y] w fun e w' => e = .returned (.bool true) ∧ w = w' := by
  have B0 := Lib.hid hb
  have B1 := Lib.hid (show ((partB x && partB y) && (partB 0 && partB 0)) = false by rw [hb]; rfl)
  have B2 := Lib.hid (show ((partB 0 && partB 0) && (partB x && partB y)) = false by rw [hb, Bool.and_false])
  have B3 := Lib.hid (show ((partB x && partB y) && (partB x && partB y)) = false by rw [hb]; rfl)
  have B4 := Lib.hid (show ((partB x && partB y) && (partB 4607182418800017408 && partB 0)) = false by rw [hb]; rfl)
  have z0 : (FloatKind.f64.format.order 0 0 == some Ordering.eq) = true := by decide +kernel
  clear hb
  go_enter Try.func4, Try.ntmps4
  go_wp2_with fail
  refine (first_any _).mono ?_
  rintro e w' ⟨rfl, rfl⟩
  go_wp2_with fail
  refine (add_bad _ _ _ _ _ B1.out).mono ?_
  rintro e w' ⟨rfl, rfl⟩
  go_wp2_with fail
  refine (sub_bad _ _ _ _ _ B1.out).mono ?_
  rintro e w' ⟨rfl, rfl⟩
  go_wp2_with fail
  refine (add_bad _ _ _ _ _ B2.out).mono ?_
  rintro e w' ⟨rfl, rfl⟩
  go_wp2_with fail
  refine (is_no _ _ _ B0.out).mono ?_
  rintro e w' ⟨rfl, rfl⟩
  go_wp2_with fail
  refine (covers_bad _ _ _ _ _ B1.out).mono ?_
  rintro e w' ⟨rfl, rfl⟩
  go_wp2_with fail
  refine (covers_bad _ _ _ _ _ B3.out).mono ?_
  rintro e w' ⟨rfl, rfl⟩
  go_wp2_with fail
  refine (first_any _).mono ?_
  rintro e w' ⟨rfl, rfl⟩
  go_wp2_with fail
  refine (up_no _ _ _ B0.out).mono ?_
  rintro e w' ⟨rfl, rfl⟩
  go_wp2_with fail
  refine (down_no _ _ _ B0.out).mono ?_
  rintro e w' ⟨rfl, rfl⟩
  go_wp2_with fail
  refine (least_bad _ _ _ _ _ B4.out).mono ?_
  rintro e w' ⟨rfl, rfl⟩
  go_wp2_with fail
  go_ret
  exact ⟨rfl, rfl⟩

set_option maxRecDepth 100000 in
set_option maxHeartbeats 1000000 in
theorem bad_x2 (x y : Nat) (w : World) (hb : (partB x && partB y) = false) (hx1 : (FloatKind.f64.format.order x 0 == some Ordering.gt || FloatKind.f64.format.order x 0 == some Ordering.eq) = true) (hx2 : (FloatKind.f64.format.order x 4832362400168542208 == some Ordering.lt || FloatKind.f64.format.order x 4832362400168542208 == some Ordering.eq) = false) :
    Calls Try.prog 4 #[.float .f64 x, .float .f64 y] w fun e w' => e = .returned (.bool true) ∧ w = w' := by
  have B0 := Lib.hid hb
  have B1 := Lib.hid (show ((partB x && partB y) && (partB 0 && partB 0)) = false by rw [hb]; rfl)
  have B2 := Lib.hid (show ((partB 0 && partB 0) && (partB x && partB y)) = false by rw [hb, Bool.and_false])
  have B3 := Lib.hid (show ((partB x && partB y) && (partB x && partB y)) = false by rw [hb]; rfl)
  have B4 := Lib.hid (show ((partB x && partB y) && (partB 4607182418800017408 && partB 0)) = false by rw [hb]; rfl)
  have z0 : (FloatKind.f64.format.order 0 0 == some Ordering.eq) = true := by decide +kernel
  clear hb
  go_enter Try.func4, Try.ntmps4
  go_wp2_with fail
  refine (first_any _).mono ?_
  rintro e w' ⟨rfl, rfl⟩
  go_wp2_with fail
  refine (add_bad _ _ _ _ _ B1.out).mono ?_
  rintro e w' ⟨rfl, rfl⟩
  go_wp2_with fail
  refine (sub_bad _ _ _ _ _ B1.out).mono ?_
  rintro e w' ⟨rfl, rfl⟩
  go_wp2_with fail
  refine (add_bad _ _ _ _ _ B2.out).mono ?_
  rintro e w' ⟨rfl, rfl⟩
  go_wp2_with fail
  refine (is_no _ _ _ B0.out).mono ?_
  rintro e w' ⟨rfl, rfl⟩
  go_wp2_with fail
  refine (covers_bad _ _ _ _ _ B1.out).mono ?_
  rintro e w' ⟨rfl, rfl⟩
  go_wp2_with fail
  refine (covers_bad _ _ _ _ _ B3.out).mono ?_
  rintro e w' ⟨rfl, rfl⟩
  go_wp2_with fail
  refine (first_any _).mono ?_
  rintro e w' ⟨rfl, rfl⟩
  go_wp2_with fail
  refine (up_no _ _ _ B0.out).mono ?_
  rintro e w' ⟨rfl, rfl⟩
  go_wp2_with fail
  refine (down_no _ _ _ B0.out).mono ?_
  rintro e w' ⟨rfl, rfl⟩
  go_wp2_with fail
  refine (least_bad _ _ _ _ _ B4.out).mono ?_
  rintro e w' ⟨rfl, rfl⟩
  go_wp2_with fail
  go_ret
  exact ⟨rfl, rfl⟩

set_option maxRecDepth 100000 in
set_option maxHeartbeats 1000000 in
theorem bad_x3 (x y : Nat) (w : World) (hb : (partB x && partB y) = false) (hx1 : (FloatKind.f64.format.order x 0 == some Ordering.gt || FloatKind.f64.format.order x 0 == some Ordering.eq) = true) (hx2 : (FloatKind.f64.format.order x 4832362400168542208 == some Ordering.lt || FloatKind.f64.format.order x 4832362400168542208 == some Ordering.eq) = true) (nx : Int) (cx : ∀ w, (convert 33 2 (.float .f64 x)).run Try.prog w = .ok (.int .i64 nx) w) (hx3 : (FloatKind.f64.format.order x (floatOfInt .f64 nx) == some Ordering.eq) = false) :
    Calls Try.prog 4 #[.float .f64 x, .float .f64 y] w fun e w' => e = .returned (.bool true) ∧ w = w' := by
  have B0 := Lib.hid hb
  have B1 := Lib.hid (show ((partB x && partB y) && (partB 0 && partB 0)) = false by rw [hb]; rfl)
  have B2 := Lib.hid (show ((partB 0 && partB 0) && (partB x && partB y)) = false by rw [hb, Bool.and_false])
  have B3 := Lib.hid (show ((partB x && partB y) && (partB x && partB y)) = false by rw [hb]; rfl)
  have B4 := Lib.hid (show ((partB x && partB y) && (partB 4607182418800017408 && partB 0)) = false by rw [hb]; rfl)
  have z0 : (FloatKind.f64.format.order 0 0 == some Ordering.eq) = true := by decide +kernel
  clear hb
  go_enter Try.func4, Try.ntmps4
  go_wp2_with fail
  refine (first_any _).mono ?_
  rintro e w' ⟨rfl, rfl⟩
  go_wp2_with fail
  refine (add_bad _ _ _ _ _ B1.out).mono ?_
  rintro e w' ⟨rfl, rfl⟩
  go_wp2_with fail
  refine (sub_bad _ _ _ _ _ B1.out).mono ?_
  rintro e w' ⟨rfl, rfl⟩
  go_wp2_with fail
  refine (add_bad _ _ _ _ _ B2.out).mono ?_
  rintro e w' ⟨rfl, rfl⟩
  go_wp2_with fail
  refine (is_no _ _ _ B0.out).mono ?_
  rintro e w' ⟨rfl, rfl⟩
  go_wp2_with fail
  refine (covers_bad _ _ _ _ _ B1.out).mono ?_
  rintro e w' ⟨rfl, rfl⟩
  go_wp2_with fail
  refine (covers_bad _ _ _ _ _ B3.out).mono ?_
  rintro e w' ⟨rfl, rfl⟩
  go_wp2_with fail
  refine (first_any _).mono ?_
  rintro e w' ⟨rfl, rfl⟩
  go_wp2_with fail
  refine (up_no _ _ _ B0.out).mono ?_
  rintro e w' ⟨rfl, rfl⟩
  go_wp2_with fail
  refine (down_no _ _ _ B0.out).mono ?_
  rintro e w' ⟨rfl, rfl⟩
  go_wp2_with fail
  refine (least_bad _ _ _ _ _ B4.out).mono ?_
  rintro e w' ⟨rfl, rfl⟩
  go_wp2_with fail
  go_ret
  exact ⟨rfl, rfl⟩

set_option maxRecDepth 100000 in
set_option maxHeartbeats 1000000 in
theorem bad_y1 (x y : Nat) (w : World) (hb : (partB x && partB y) = false) (hx1 : (FloatKind.f64.format.order x 0 == some Ordering.gt || FloatKind.f64.format.order x 0 == some Ordering.eq) = true) (hx2 : (FloatKind.f64.format.order x 4832362400168542208 == some Ordering.lt || FloatKind.f64.format.order x 4832362400168542208 == some Ordering.eq) = true) (nx : Int) (cx : ∀ w, (convert 33 2 (.float .f64 x)).run Try.prog w = .ok (.int .i64 nx) w) (hx3 : (FloatKind.f64.format.order x (floatOfInt .f64 nx) == some Ordering.eq) = true) (hy1 : (FloatKind.f64.format.order y 0 == some Ordering.gt || FloatKind.f64.format.order y 0 == some Ordering.eq) = false) :
    Calls Try.prog 4 #[.float .f64 x, .float .f64 y] w fun e w' => e = .returned (.bool true) ∧ w = w' := by
  have B0 := Lib.hid hb
  have B1 := Lib.hid (show ((partB x && partB y) && (partB 0 && partB 0)) = false by rw [hb]; rfl)
  have B2 := Lib.hid (show ((partB 0 && partB 0) && (partB x && partB y)) = false by rw [hb, Bool.and_false])
  have B3 := Lib.hid (show ((partB x && partB y) && (partB x && partB y)) = false by rw [hb]; rfl)
  have B4 := Lib.hid (show ((partB x && partB y) && (partB 4607182418800017408 && partB 0)) = false by rw [hb]; rfl)
  have z0 : (FloatKind.f64.format.order 0 0 == some Ordering.eq) = true := by decide +kernel
  clear hb
  go_enter Try.func4, Try.ntmps4
  go_wp2_with fail
  refine (first_any _).mono ?_
  rintro e w' ⟨rfl, rfl⟩
  go_wp2_with fail
  refine (add_bad _ _ _ _ _ B1.out).mono ?_
  rintro e w' ⟨rfl, rfl⟩
  go_wp2_with fail
  refine (sub_bad _ _ _ _ _ B1.out).mono ?_
  rintro e w' ⟨rfl, rfl⟩
  go_wp2_with fail
  refine (add_bad _ _ _ _ _ B2.out).mono ?_
  rintro e w' ⟨rfl, rfl⟩
  go_wp2_with fail
  refine (is_no _ _ _ B0.out).mono ?_
  rintro e w' ⟨rfl, rfl⟩
  go_wp2_with fail
  refine (covers_bad _ _ _ _ _ B1.out).mono ?_
  rintro e w' ⟨rfl, rfl⟩
  go_wp2_with fail
  refine (covers_bad _ _ _ _ _ B3.out).mono ?_
  rintro e w' ⟨rfl, rfl⟩
  go_wp2_with fail
  refine (first_any _).mono ?_
  rintro e w' ⟨rfl, rfl⟩
  go_wp2_with fail
  refine (up_no _ _ _ B0.out).mono ?_
  rintro e w' ⟨rfl, rfl⟩
  go_wp2_with fail
  refine (down_no _ _ _ B0.out).mono ?_
  rintro e w' ⟨rfl, rfl⟩
  go_wp2_with fail
  refine (least_bad _ _ _ _ _ B4.out).mono ?_
  rintro e w' ⟨rfl, rfl⟩
  go_wp2_with fail
  go_ret
  exact ⟨rfl, rfl⟩

set_option maxRecDepth 100000 in
set_option maxHeartbeats 1000000 in
theorem bad_y2 (x y : Nat) (w : World) (hb : (partB x && partB y) = false) (hx1 : (FloatKind.f64.format.order x 0 == some Ordering.gt || FloatKind.f64.format.order x 0 == some Ordering.eq) = true) (hx2 : (FloatKind.f64.format.order x 4832362400168542208 == some Ordering.lt || FloatKind.f64.format.order x 4832362400168542208 == some Ordering.eq) = true) (nx : Int) (cx : ∀ w, (convert 33 2 (.float .f64 x)).run Try.prog w = .ok (.int .i64 nx) w) (hx3 : (FloatKind.f64.format.order x (floatOfInt .f64 nx) == some Ordering.eq) = true) (hy1 : (FloatKind.f64.format.order y 0 == some Ordering.gt || FloatKind.f64.format.order y 0 == some Ordering.eq) = true) (hy2 : (FloatKind.f64.format.order y 4832362400168542208 == some Ordering.lt || FloatKind.f64.format.order y 4832362400168542208 == some Ordering.eq) = false) :
    Calls Try.prog 4 #[.float .f64 x, .float .f64 y] w fun e w' => e = .returned (.bool true) ∧ w = w' := by
  have B0 := Lib.hid hb
  have B1 := Lib.hid (show ((partB x && partB y) && (partB 0 && partB 0)) = false by rw [hb]; rfl)
  have B2 := Lib.hid (show ((partB 0 && partB 0) && (partB x && partB y)) = false by rw [hb, Bool.and_false])
  have B3 := Lib.hid (show ((partB x && partB y) && (partB x && partB y)) = false by rw [hb]; rfl)
  have B4 := Lib.hid (show ((partB x && partB y) && (partB 4607182418800017408 && partB 0)) = false by rw [hb]; rfl)
  have z0 : (FloatKind.f64.format.order 0 0 == some Ordering.eq) = true := by decide +kernel
  clear hb
  go_enter Try.func4, Try.ntmps4
  go_wp2_with fail
  refine (first_any _).mono ?_
  rintro e w' ⟨rfl, rfl⟩
  go_wp2_with fail
  refine (add_bad _ _ _ _ _ B1.out).mono ?_
  rintro e w' ⟨rfl, rfl⟩
  go_wp2_with fail
  refine (sub_bad _ _ _ _ _ B1.out).mono ?_
  rintro e w' ⟨rfl, rfl⟩
  go_wp2_with fail
  refine (add_bad _ _ _ _ _ B2.out).mono ?_
  rintro e w' ⟨rfl, rfl⟩
  go_wp2_with fail
  refine (is_no _ _ _ B0.out).mono ?_
  rintro e w' ⟨rfl, rfl⟩
  go_wp2_with fail
  refine (covers_bad _ _ _ _ _ B1.out).mono ?_
  rintro e w' ⟨rfl, rfl⟩
  go_wp2_with fail
  refine (covers_bad _ _ _ _ _ B3.out).mono ?_
  rintro e w' ⟨rfl, rfl⟩
  go_wp2_with fail
  refine (first_any _).mono ?_
  rintro e w' ⟨rfl, rfl⟩
  go_wp2_with fail
  refine (up_no _ _ _ B0.out).mono ?_
  rintro e w' ⟨rfl, rfl⟩
  go_wp2_with fail
  refine (down_no _ _ _ B0.out).mono ?_
  rintro e w' ⟨rfl, rfl⟩
  go_wp2_with fail
  refine (least_bad _ _ _ _ _ B4.out).mono ?_
  rintro e w' ⟨rfl, rfl⟩
  go_wp2_with fail
  go_ret
  exact ⟨rfl, rfl⟩

set_option maxRecDepth 100000 in
set_option maxHeartbeats 1000000 in
theorem bad_y3 (x y : Nat) (w : World) (hb : (partB x && partB y) = false) (hx1 : (FloatKind.f64.format.order x 0 == some Ordering.gt || FloatKind.f64.format.order x 0 == some Ordering.eq) = true) (hx2 : (FloatKind.f64.format.order x 4832362400168542208 == some Ordering.lt || FloatKind.f64.format.order x 4832362400168542208 == some Ordering.eq) = true) (nx : Int) (cx : ∀ w, (convert 33 2 (.float .f64 x)).run Try.prog w = .ok (.int .i64 nx) w) (hx3 : (FloatKind.f64.format.order x (floatOfInt .f64 nx) == some Ordering.eq) = true) (hy1 : (FloatKind.f64.format.order y 0 == some Ordering.gt || FloatKind.f64.format.order y 0 == some Ordering.eq) = true) (hy2 : (FloatKind.f64.format.order y 4832362400168542208 == some Ordering.lt || FloatKind.f64.format.order y 4832362400168542208 == some Ordering.eq) = true) (ny : Int) (cy : ∀ w, (convert 33 2 (.float .f64 y)).run Try.prog w = .ok (.int .i64 ny) w) (hy3 : (FloatKind.f64.format.order y (floatOfInt .f64 ny) == some Ordering.eq) = false) :
    Calls Try.prog 4 #[.float .f64 x, .float .f64 y] w fun e w' => e = .returned (.bool true) ∧ w = w' := by
  have B0 := Lib.hid hb
  have B1 := Lib.hid (show ((partB x && partB y) && (partB 0 && partB 0)) = false by rw [hb]; rfl)
  have B2 := Lib.hid (show ((partB 0 && partB 0) && (partB x && partB y)) = false by rw [hb, Bool.and_false])
  have B3 := Lib.hid (show ((partB x && partB y) && (partB x && partB y)) = false by rw [hb]; rfl)
  have B4 := Lib.hid (show ((partB x && partB y) && (partB 4607182418800017408 && partB 0)) = false by rw [hb]; rfl)
  have z0 : (FloatKind.f64.format.order 0 0 == some Ordering.eq) = true := by decide +kernel
  clear hb
  go_enter Try.func4, Try.ntmps4
  go_wp2_with fail
  refine (first_any _).mono ?_
  rintro e w' ⟨rfl, rfl⟩
  go_wp2_with fail
  refine (add_bad _ _ _ _ _ B1.out).mono ?_
  rintro e w' ⟨rfl, rfl⟩
  go_wp2_with fail
  refine (sub_bad _ _ _ _ _ B1.out).mono ?_
  rintro e w' ⟨rfl, rfl⟩
  go_wp2_with fail
  refine (add_bad _ _ _ _ _ B2.out).mono ?_
  rintro e w' ⟨rfl, rfl⟩
  go_wp2_with fail
  refine (is_no _ _ _ B0.out).mono ?_
  rintro e w' ⟨rfl, rfl⟩
  go_wp2_with fail
  refine (covers_bad _ _ _ _ _ B1.out).mono ?_
  rintro e w' ⟨rfl, rfl⟩
  go_wp2_with fail
  refine (covers_bad _ _ _ _ _ B3.out).mono ?_
  rintro e w' ⟨rfl, rfl⟩
  go_wp2_with fail
  refine (first_any _).mono ?_
  rintro e w' ⟨rfl, rfl⟩
  go_wp2_with fail
  refine (up_no _ _ _ B0.out).mono ?_
  rintro e w' ⟨rfl, rfl⟩
  go_wp2_with fail
  refine (down_no _ _ _ B0.out).mono ?_
  rintro e w' ⟨rfl, rfl⟩
  go_wp2_with fail
  refine (least_bad _ _ _ _ _ B4.out).mono ?_
  rintro e w' ⟨rfl, rfl⟩
  go_wp2_with fail
  go_ret
  exact ⟨rfl, rfl⟩

set_option maxRecDepth 100000 in
set_option maxHeartbeats 1000000 in
theorem good (x y : Nat) (w : World) (hx1 : (FloatKind.f64.format.order x 0 == some Ordering.gt || FloatKind.f64.format.order x 0 == some Ordering.eq) = true) (hx2 : (FloatKind.f64.format.order x 4832362400168542208 == some Ordering.lt || FloatKind.f64.format.order x 4832362400168542208 == some Ordering.eq) = true) (nx : Int) (cx : ∀ w, (convert 33 2 (.float .f64 x)).run Try.prog w = .ok (.int .i64 nx) w) (hx3 : (FloatKind.f64.format.order x (floatOfInt .f64 nx) == some Ordering.eq) = true) (hy1 : (FloatKind.f64.format.order y 0 == some Ordering.gt || FloatKind.f64.format.order y 0 == some Ordering.eq) = true) (hy2 : (FloatKind.f64.format.order y 4832362400168542208 == some Ordering.lt || FloatKind.f64.format.order y 4832362400168542208 == some Ordering.eq) = true) (ny : Int) (cy : ∀ w, (convert 33 2 (.float .f64 y)).run Try.prog w = .ok (.int .i64 ny) w) (hy3 : (FloatKind.f64.format.order y (floatOfInt .f64 ny) == some Ordering.eq) = true) (p : Pr x y nx ny) :
    Calls Try.prog 4 #[.float .f64 x, .float .f64 y] w fun e w' => e = .returned (.bool true) ∧ w = w' := by
  have P := Lib.hid p
  have zz : Pr 0 0 0 0 := ⟨whole_zero, whole_zero, by omega, by omega, by omega, by omega⟩
  have Z := Lib.hid zz
  have p0 := p.a0; have p1 := p.a1; have p2 := p.b0; have p3 := p.b1
  have A := Lib.hid (add_pr p zz (by omega) (by omega) (by omega) (by omega))
  have D := Lib.hid (sub_pr p zz (by omega) (by omega) (by omega) (by omega))
  have S := Lib.hid (add_pr zz p (by omega) (by omega) (by omega) (by omega))
  have C1 := Lib.hid (show (decide ((0 : Int) ≤ nx) && decide ((0 : Int) ≤ ny)) = true by simp [p0, p2])
  have C2 := Lib.hid (show (decide (nx ≤ nx) && decide (ny ≤ ny)) = true by simp)
  have s1 : (FloatKind.f64.format.order (addB 0 x) x == some Ordering.eq) = true := by
    rw [eq_sp, whole_eq S.out.wa p.wa]; exact decide_eq_true (by omega)
  have s2 : (FloatKind.f64.format.order (addB 0 y) y == some Ordering.eq) = true := by
    rw [eq_sp, whole_eq S.out.wb p.wb]; exact decide_eq_true (by omega)
  have t1 : (FloatKind.f64.format.order (floatOfInt .f64 nx) x == some Ordering.eq) = true := by
    rw [← hx3, eq_sp, eq_sp]; exact order_swap_eq _ _
  have t2 : (FloatKind.f64.format.order (floatOfInt .f64 ny) y == some Ordering.eq) = true := by
    rw [← hy3, eq_sp, eq_sp]; exact order_swap_eq _ _
  clear zz p p0 p1 p2 p3
  go_enter Try.func4, Try.ntmps4
  go_wp2_with fail
  refine (first_any _).mono ?_
  rintro e w' ⟨rfl, rfl⟩
  go_wp2_with fail
  refine (add_yes _ P.out Z.out A.out.isB).mono ?_
  rintro e w' ⟨rfl, rfl⟩
  go_wp2_with fail
  refine (sub_yes _ P.out Z.out D.out.isB).mono ?_
  rintro e w' ⟨rfl, rfl⟩
  go_wp2_with fail
  refine (add_yes _ Z.out P.out S.out.isB).mono ?_
  rintro e w' ⟨rfl, rfl⟩
  go_wp2_with fail
  refine (is_yes _ _ _ P.out.isB).mono ?_
  rintro e w' ⟨rfl, rfl⟩
  go_wp2_with fail
  refine (covers_any _ P.out Z.out).mono ?_
  rw [C1.out]
  rintro e w' ⟨rfl, rfl⟩
  go_wp2_with fail
  refine (covers_any _ P.out P.out).mono ?_
  rw [C2.out]
  rintro e w' ⟨rfl, rfl⟩
  go_wp2_with fail
  refine (first_any _).mono ?_
  rintro e w' ⟨rfl, rfl⟩
  go_wp2_with fail
  refine (up_yes _ P.out).mono ?_
  rintro e w' ⟨rfl, rfl⟩
  go_wp2_with fail
  refine (down_yes _ P.out).mono ?_
  rintro e w' ⟨rfl, rfl⟩
  go_wp2_with fail
  go_ret
  exact ⟨rfl, rfl⟩

theorem conv {x : Nat} {k : Int} (h : (Ieee.double.read x).toInt .zero = some k) (h0 : 0 ≤ k) (h1 : k ≤ 1125899906842624) (w : World) : (convert 33 2 (.float .f64 x)).run Try.prog w = .ok (.int .i64 k) w :=
  run_convert_float_int w 33 2 .f64 .i64 x k (by rw [Try.underlying33]; rfl) Try.underlying2 (toIntVal_of h (by omega) (by omega))

theorem walk (x y : Nat) (w : World) :
    Calls Try.prog 4 #[.float .f64 x, .float .f64 y] w fun e w' => e = .returned (.bool true) ∧ Grown w w' := by
  have key : Calls Try.prog 4 #[.float .f64 x, .float .f64 y] w fun e w' => e = .returned (.bool true) ∧ w = w' := by
    cases kind x with
    | low h => exact bad_x1 x y w (by unfold partB; rw [h]; rfl) h
    | high h h2 => exact bad_x2 x y w (by unfold partB; rw [h, h2]; rfl) h h2
    | broken h h2 h3 h4 h5 h6 h7 => exact bad_x3 x y w (by unfold partB; rw [h, h2, h3]; rfl) h h2 _ (conv h7 h5 h6) h4
    | whole h h2 h3 h4 h5 h6 h7 h8 =>
      cases kind y with
      | low g => exact bad_y1 x y w (by rw [Bool.and_eq_false_iff]; right; unfold partB; rw [g]; rfl) h h2 _ (conv h7 h5 h6) h4 g
      | high g g2 => exact bad_y2 x y w (by rw [Bool.and_eq_false_iff]; right; unfold partB; rw [g, g2]; rfl) h h2 _ (conv h7 h5 h6) h4 g g2
      | broken g g2 g3 g4 g5 g6 g7 => exact bad_y3 x y w (by rw [Bool.and_eq_false_iff]; right; unfold partB; rw [g, g2, g3]; rfl) h h2 _ (conv h7 h5 h6) h4 g g2 _ (conv g7 g5 g6) g4
      | whole g g2 g3 g4 g5 g6 g7 g8 => exact good x y w h h2 _ (conv h7 h5 h6) h4 g g2 _ (conv g7 g5 g6) g4 ⟨h8, g8, h5, h6, g5, g6⟩
  exact key.mono fun e w' ⟨he, hw⟩ => ⟨he, hw ▸ Grown.refl _⟩

set_option maxRecDepth 100000 in
theorem lifted (os : Os) (started : os.Started) (H : Type) (enc : TypeId × Value → H) :
    ReturnsInHanded {} Try.checked os 4 .any (Rows.tallyOddSpec.pre6 enc Try.prog Try.f4 Rows.tallyOddRow.domain false) (Rows.tallyOddSpec.post enc Try.prog Try.f4 false true false false) := by
  refine returnsInHanded_of_change (C := Try.checked) own started (by kernel_rfl) Try.func4
    (ChangeSpec.witness6 (enc := enc) (C := Try.checked) false ⟨#[], #[.float .f64 0, .float .f64 0], []⟩ 8 (by kernel_rfl) (by kernel_rfl) (by kernel_rfl) (by kernel_rfl)) ?_
  intro W base args ds gs before hval0 hW hcnd _
  have hval : ∀ (j : Nat) t v, Try.f4.params[j]? = some t → args[j]? = some v → Value.okWide Try.prog W .any base t v := hval0
  have hW' := hW
  obtain ⟨p, q, hA0, hV, rfl, hfz, hnd⟩ := hW
  have hA : DataW.TrodAll enc Try.prog W 0 (fun _ => true) true Try.f4.params.toList args.toList ds p := hA0
  rw [Try.params4] at hA hval
  obtain ⟨v0, vs0, d0, ds0, p0, q0, hargs, rfl, rfl, h0, r0⟩ := trodAll_cons hA
  obtain ⟨v1, vs1, d1, ds1, p1, q1, rfl, rfl, rfl, h1, r1⟩ := trodAll_cons r0
  obtain ⟨rfl, rfl, rfl⟩ := trodAll_nil r1
  obtain rfl : args = #[v0, v1] := by cases args; simp_all
  obtain ⟨rfl, rfl⟩ := trodVars_none hV
  obtain ⟨a0, rfl, rfl, rfl, w0⟩ := open_float Try.underlying33 (hval 0 33 v0 rfl rfl) h0
  obtain ⟨a1, rfl, rfl, rfl, w1⟩ := open_float Try.underlying33 (hval 1 33 v1 rfl rfl) h1
  clear hA0 hval0
  simp only [List.append_nil] at hW'
  refine (walk a0 a1 W).mono fun e W' ⟨he, hg⟩ => ?_
  subst he
  exact ⟨_, rfl, post_of_same (pa := []) (pv := []) hW' (fun _ _ _ => (trodAll_cons_mk (shut_bool Try.underlying4 _) trodAll_mk0)) (fun sp _ => (trodAll_cons_mk (shut_float Try.underlying33 w0) (trodAll_cons_mk (shut_float Try.underlying33 w1) trodAll_mk0))) (fun _ _ => rfl) rfl
    (hg.frame _) hg.2.1 (ok_one (by kernel_rfl) rfl (okWide_bool_mk Try.underlying4 _))⟩

theorem over : Rows.tallyOddRow.holds Try.pinned (OpenSpec.ofChange Rows.tallyOddSpec) :=
  OpenClaim.holds_of_wide 4 Try.f4 rfl rfl rfl rfl rfl rfl rfl ⟨rfl, rfl, rfl, rfl, rfl⟩ rfl rfl rfl rfl rfl (by kernel_rfl) Try.func4 (by kernel_rfl)
    (of_decide_eq_true (by kernel_rfl)) (by unfold Func.isWrapper; first | (rw [if_pos (by decide +kernel)]; kernel_rfl) | (rw [if_neg (by decide +kernel)]; exact ⟨rfl, rfl⟩))
    (fun os started H enc _ => lifted os started H enc)

end Go.Proofs.Ytfdffaeamblhdaa.tallyOdd
namespace Go.Proofs.Ytfdffaeamblhdaa
theorem tallyOdd_holds : Rows.TallyOddSaid := tallyOdd.over
#print axioms tallyOdd_holds
end Go.Proofs.Ytfdffaeamblhdaa
