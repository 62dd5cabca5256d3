/- The walk of FrameEach. -/
import Derived.Test.YtegcloapadippaaFFew
import Derived.Test.YtegcloapadippaaLHelp
import Derived.Test.YtegcloapadippaaLCut
import Derived.Deep.RegionHeld3
import Derived.Deep.DeepCutAuto
import Derived.BigQuiet
import Derived.Deep.QuietTactic
namespace Go.Proofs.Ytegcloapadippaa
open Go.RowKit Fr

/-- Two frames in one new block. -/
theorem two_at (W : World) (s t : FrA) (hs : s.ok W W.heap.size) (ht : t.ok W W.heap.size) :
    AtR (W.alloc (.cells #[.int .i64 s.f.kind, .int .i64 s.f.flags, .int .i64 s.f.stream, .slice s.ad s.f.body.length s.cap, .int .i64 t.f.kind, .int .i64 t.f.flags, .int .i64 t.f.stream, .slice t.ad t.f.body.length t.cap] 30)) (W.alloc (.cells #[.int .i64 s.f.kind, .int .i64 s.f.flags, .int .i64 s.f.stream, .slice s.ad s.f.body.length s.cap, .int .i64 t.f.kind, .int .i64 t.f.flags, .int .i64 t.f.stream, .slice t.ad t.f.body.length t.cap] 30)).heap.size (some ⟨W.heap.size, 0, none⟩) [s, t] := fun _ => by
  have hb : Below W.heap.size W (W.alloc (.cells #[.int .i64 s.f.kind, .int .i64 s.f.flags, .int .i64 s.f.stream, .slice s.ad s.f.body.length s.cap, .int .i64 t.f.kind, .int .i64 t.f.flags, .int .i64 t.f.stream, .slice t.ad t.f.body.length t.cap] 30)) := (Below.refl _ _).alloc (Nat.le_refl _) _
  have hh := heap_alloc_new W (.cells #[.int .i64 s.f.kind, .int .i64 s.f.flags, .int .i64 s.f.stream, .slice s.ad s.f.body.length s.cap, .int .i64 t.f.kind, .int .i64 t.f.flags, .int .i64 t.f.stream, .slice t.ad t.f.body.length t.cap] 30)
  refine ⟨W.heap.size, 0, rfl, by simp, fun i hi => ?_⟩
  match i, hi with
  | 0, _ => exact ⟨⟨cell_of_row _ _ 0 _ _ _ hh, cell_of_row _ _ 1 _ _ _ hh, cell_of_row _ _ 2 _ _ _ hh, cell_of_row _ _ 3 _ _ _ hh⟩, hs.up hb⟩
  | 1, _ => exact ⟨⟨cell_of_row _ _ 4 _ _ _ hh, cell_of_row _ _ 5 _ _ _ hh, cell_of_row _ _ 6 _ _ _ hh, cell_of_row _ _ 7 _ _ _ hh⟩, ht.up hb⟩
/-- What is put is the same just where the frames are. -/
theorem put_same {f g : Frm} {a b : List Nat} (h : put f = (a, 0)) (k : put g = (b, 0)) : decide (a = b) = same f g := by
  by_cases e : a = b
  · subst e
    rw [decide_eq_true rfl, put_inj h k, same_self]
  · rw [decide_eq_false e]
    cases hs : same f g with
    | false => rfl
    | true =>
      exfalso
      simp only [same, Bool.and_eq_true, decide_eq_true_eq] at hs
      obtain ⟨⟨⟨h1, h2⟩, h3⟩, h4⟩ := hs
      have : f = g := by
        obtain ⟨f1, f2, f3, f4⟩ := f
        obtain ⟨g1, g2, g3, g4⟩ := g
        simp only [] at h1 h2 h3 h4
        rw [h1, h2, h3, h4]
      rw [this, k] at h
      exact e (congrArg Prod.fst h).symm
theorem put_len {f : Frm} {a : List Nat} {e : Nat} (h : put f = (a, e)) : (e = 0 ∧ a.length = 9 + f.body.length) ∨ (e ≠ 0 ∧ a = []) := by
  unfold put at h
  split at h
  · split at h
    · simp at h
      exact .inr ⟨by omega, h.1⟩
    · simp at h
      exact .inl ⟨h.2.symm, by rw [← h.1, List.length_append, head_len]⟩
  · simp at h
    exact .inr ⟨by omega, h.1⟩
theorem or_join (B D r : Nat) (hB : D % 2 ^ B = 0) (hr : r < 2 ^ B) (hD : D < 4294967296) (hb : r < 4294967296) : bits .or .i64 (D : Int) (r : Int) = ((D + r : Nat) : Int) := by
  rw [i64_or_nat D r (by omega) (by omega), nat_join B D r hB hr]
theorem split4 (V : Nat) (h : V < 2147483648) : (V / 256 ^ 3 % 256) * 16777216 + (V / 256 ^ 2 % 256) * 65536 + (V / 256 ^ 1 % 256) * 256 + V / 256 ^ 0 % 256 = V ∧ V / 256 ^ 3 % 256 < 128 ∧ V / 256 ^ 2 % 256 < 256 ∧ V / 256 ^ 1 % 256 < 256 ∧ V / 256 ^ 0 % 256 < 256 := by
  have e1 : V / 256 ^ 1 = V / 256 := rfl
  have e2 : V / 256 ^ 2 = V / 256 / 256 := by rw [Nat.div_div_eq_div_mul]
  have e3 : V / 256 ^ 3 = V / 256 / 256 / 256 := by rw [Nat.div_div_eq_div_mul, Nat.div_div_eq_div_mul]
  have e0 : V / 256 ^ 0 = V := by simp
  rw [e0, e1, e2, e3]
  obtain ⟨q1, h1⟩ : ∃ q, q = V / 256 := ⟨_, rfl⟩
  obtain ⟨q2, h2⟩ : ∃ q, q = q1 / 256 := ⟨_, rfl⟩
  obtain ⟨q3, h3⟩ : ∃ q, q = q2 / 256 := ⟨_, rfl⟩
  rw [← h1, ← h2, ← h3]
  omega
theorem below_drewF {B : Nat} {w w' : World} (h : Below B w w') (n : Nat) : Below B w (w'.drewN n) := ⟨h.os, h.tape, h.output, h.size, h.block⟩
namespace frameEach
/-- Neither is put, or one alone. -/
def BadE (a : List Nat) (e x : Nat) : Prop := (e ≠ 0 ∧ a = []) ∨ (e = 0 ∧ x ≠ 0 ∧ a.length ≠ 0)
set_option maxRecDepth 100000 in
set_option maxHeartbeats 8000000 in
theorem walk (s t : FrA) (w : World) (hs : s.ok w w.heap.size) (ht : t.ok w w.heap.size) : Calls Try.prog 6 #[frm s.f s.ad s.cap, frm t.f t.ad t.cap] w (YesF w) := by
  obtain ⟨⟨k1, f1, s1, b1⟩, a1, c1⟩ := s
  obtain ⟨⟨k2, f2, s2, b2⟩, a2, c2⟩ := t
  obtain ⟨n1, hn1⟩ : ∃ n, n = b1.length := ⟨_, rfl⟩
  obtain ⟨n2, hn2⟩ : ∃ n, n = b2.length := ⟨_, rfl⟩
  unfold frm
  simp only []
  rw [← hn1, ← hn2]
  -- the boxes
  obtain ⟨wa, hwa⟩ : ∃ wa, wa = (w.alloc (.cells #[.int .i64 k1, .int .i64 f1, .int .i64 s1, .slice a1 n1 c1] 30)).alloc (.cells #[.int .i64 k2, .int .i64 f2, .int .i64 s2, .slice a2 n2 c2] 30) := ⟨_, rfl⟩
  have hba : Below w.heap.size w wa := by rw [hwa]; exact ((Below.refl _ _).alloc (Nat.le_refl _) _).alloc (by simp) _
  obtain ⟨g, hg⟩ : ∃ g, g = w.heap.size := ⟨_, rfl⟩
  obtain ⟨h, hh⟩ : ∃ h, h = w.heap.size + 1 := ⟨_, rfl⟩
  have hha : wa.heap[g]? = some (.cells #[.int .i64 k1, .int .i64 f1, .int .i64 s1, .slice a1 n1 c1] 30 (0, 0)) := by
    rw [hwa, hg]
    have h1 : Below (w.alloc (.cells #[.int .i64 k1, .int .i64 f1, .int .i64 s1, .slice a1 n1 c1] 30)).heap.size (w.alloc (.cells #[.int .i64 k1, .int .i64 f1, .int .i64 s1, .slice a1 n1 c1] 30)) ((w.alloc (.cells #[.int .i64 k1, .int .i64 f1, .int .i64 s1, .slice a1 n1 c1] 30)).alloc (.cells #[.int .i64 k2, .int .i64 f2, .int .i64 s2, .slice a2 n2 c2] 30)) := (Below.refl _ _).alloc (Nat.le_refl _) _
    exact (h1.block w.heap.size (by simp)).trans (heap_alloc_new w _)
  have hhb : wa.heap[h]? = some (.cells #[.int .i64 k2, .int .i64 f2, .int .i64 s2, .slice a2 n2 c2] 30 (0, 0)) := by
    rw [hwa, hh, show w.heap.size + 1 = (w.alloc (.cells #[.int .i64 k1, .int .i64 f1, .int .i64 s1, .slice a1 n1 c1] 30)).heap.size by simp]
    exact heap_alloc_new _ _
  have HX : Hid (∀ W, Below wa.heap.size wa W → W.cell? ⟨g, 0, none⟩ = some (.int .i64 k1) ∧ W.cell? ⟨g, 1, none⟩ = some (.int .i64 f1) ∧ W.cell? ⟨g, 2, none⟩ = some (.int .i64 s1) ∧ W.cell? ⟨g, 3, none⟩ = some (.slice a1 n1 c1)) := Lib.hid (fun W hb => by
    have := (hb.block g (lt_of_heapF hha)).trans hha
    exact ⟨cell_of_row _ g 0 _ 30 _ this, cell_of_row _ g 1 _ 30 _ this, cell_of_row _ g 2 _ 30 _ this, cell_of_row _ g 3 _ 30 _ this⟩)
  have HY : Hid (∀ W, Below wa.heap.size wa W → W.cell? ⟨h, 0, none⟩ = some (.int .i64 k2) ∧ W.cell? ⟨h, 1, none⟩ = some (.int .i64 f2) ∧ W.cell? ⟨h, 2, none⟩ = some (.int .i64 s2) ∧ W.cell? ⟨h, 3, none⟩ = some (.slice a2 n2 c2)) := Lib.hid (fun W hb => by
    have := (hb.block h (lt_of_heapF hhb)).trans hhb
    exact ⟨cell_of_row _ h 0 _ 30 _ this, cell_of_row _ h 1 _ 30 _ this, cell_of_row _ h 2 _ 30 _ this, cell_of_row _ h 3 _ 30 _ this⟩)
  have HOS := Lib.hid hs
  have HOT := Lib.hid ht
  have HBA := Lib.hid hba
  have HW := Lib.hid hwa
  have HG := Lib.hid hg
  have HH : Hid (w.heap.size + 1 = h) := Lib.hid hh.symm
  have HF := Lib.hid (first10_any wa)
  have HN1 := Lib.hid hn1
  have HN2 := Lib.hid hn2
  have HFEW : Hid (∀ W, Below wa.heap.size wa W → Calls Try.prog 9 #[.slice (some ⟨W.heap.size, 0, none⟩) 2 2] (W.alloc (.cells #[.int .i64 k1, .int .i64 f1, .int .i64 s1, .slice a1 n1 c1, .int .i64 k2, .int .i64 f2, .int .i64 s2, .slice a2 n2 c2] 30)) fun e w' => e = .returned (.bool (few10 [⟨⟨k1, f1, s1, b1⟩, a1, c1⟩, ⟨⟨k2, f2, s2, b2⟩, a2, c2⟩])) ∧ w' = W.alloc (.cells #[.int .i64 k1, .int .i64 f1, .int .i64 s1, .slice a1 n1 c1, .int .i64 k2, .int .i64 f2, .int .i64 s2, .slice a2 n2 c2] 30)) := Lib.hid (fun W hb => by
    have hb2 := hba.trans (hb.mono hba.size)
    have := two_at W ⟨⟨k1, f1, s1, b1⟩, a1, c1⟩ ⟨⟨k2, f2, s2, b2⟩, a2, c2⟩ (hs.up hb2) (ht.up hb2)
    simp only [] at this
    rw [← hn1, ← hn2] at this
    exact few10_any _ _ 2 2 _ this rfl)
  obtain ⟨fw, hfw⟩ : ∃ b, b = few10 [⟨⟨k1, f1, s1, b1⟩, a1, c1⟩, ⟨⟨k2, f2, s2, b2⟩, a2, c2⟩] := ⟨_, rfl⟩
  rw [← hfw] at HFEW
  have HFW := Lib.hid hfw
  clear hn1 hn2 hwa hba hg hh hha hhb hs ht hfw
  cases fw with
  | false =>
    go_enter Try.func6, Try.ntmps6
    go_wp2_with fail
    rw [← HW.out, HH.out, ← HG.out]
    with_reducible refine (HF.out).mono ?_
    rintro e w2 ⟨rfl, hb2⟩
    obtain ⟨x0, x1, x2, x3⟩ := HX.out w2 hb2
    obtain ⟨y0, y1, y2, y3⟩ := HY.out w2 hb2
    have HFE := Lib.hid (HFEW.out w2 hb2)
    have HB2 := Lib.hid hb2
    clear hb2 HF HFEW
    go_wp2_with fail
    with_reducible refine (HFE.out).mono ?_
    rintro e w3 ⟨rfl, rfl⟩
    have hb3 := HB2.out.alloc HB2.out.size (.cells #[.int .i64 k1, .int .i64 f1, .int .i64 s1, .slice a1 n1 c1, .int .i64 k2, .int .i64 f2, .int .i64 s2, .slice a2 n2 c2] 30)
    obtain ⟨w3, hw3⟩ : ∃ w3, w3 = w2.alloc (.cells #[.int .i64 k1, .int .i64 f1, .int .i64 s1, .slice a1 n1 c1, .int .i64 k2, .int .i64 f2, .int .i64 s2, .slice a2 n2 c2] 30) := ⟨_, rfl⟩
    rw [← hw3] at hb3 ⊢
    have HB3 := Lib.hid hb3
    have HF3 := Lib.hid (first10_any w3)
    clear hb3 hw3 HFE x0 x1 x2 x3 y0 y1 y2 y3
    go_wp2_with fail
    with_reducible refine (HF3.out).mono ?_
    rintro e w4 ⟨rfl, hb4⟩
    have HB4 := Lib.hid (HBA.out.trans ((HB3.out.trans (hb4.mono HB3.out.size)).mono HBA.out.size))
    clear hb4 HF3
    go_wp2
    go_ret
    exact ⟨rfl, HB4.out⟩
  | true =>
    have hfw := few10_true HFW.out.symm
    have hbod : bodies [⟨⟨k1, f1, s1, b1⟩, a1, c1⟩, ⟨⟨k2, f2, s2, b2⟩, a2, c2⟩] = b1.length + b2.length := by simp [bodies]
    have hn1 : n1 ≤ 40000 := by have := HN1.out; omega
    have hn2 : n2 ≤ 40000 := by have := HN2.out; omega
    clear hfw hbod HFW
    obtain ⟨P, hP⟩ : ∃ P, P = put ⟨k1, f1, s1, b1⟩ := ⟨_, rfl⟩
    obtain ⟨R, hR⟩ : ∃ R, R = put ⟨k2, f2, s2, b2⟩ := ⟨_, rfl⟩
    have HPUT1 : Hid (∀ W, Below wa.heap.size wa W → Calls Try.prog 10 #[.agg #[.int .i64 k1, .int .i64 f1, .int .i64 s1, .slice a1 n1 c1]] W (FpPost W P)) := Lib.hid (fun W hb => by
      have hb2 := HBA.out.trans (hb.mono HBA.out.size)
      have := fput_f ⟨⟨k1, f1, s1, b1⟩, a1, c1⟩ W (HOS.out.up hb2) (by have := HN1.out; simp only []; omega)
      simp only [frm] at this
      rw [← HN1.out, ← hP] at this
      exact this)
    have HPUT2 : Hid (∀ W, Below wa.heap.size wa W → Calls Try.prog 10 #[.agg #[.int .i64 k2, .int .i64 f2, .int .i64 s2, .slice a2 n2 c2]] W (FpPost W R)) := Lib.hid (fun W hb => by
      have hb2 := HBA.out.trans (hb.mono HBA.out.size)
      have := fput_f ⟨⟨k2, f2, s2, b2⟩, a2, c2⟩ W (HOT.out.up hb2) (by have := HN2.out; simp only []; omega)
      simp only [frm] at this
      rw [← HN2.out, ← hR] at this
      exact this)
    obtain ⟨a, e1⟩ := P
    obtain ⟨b, e2⟩ := R
    have hpl := put_len hP.symm
    have HP := Lib.hid hP.symm
    have HR := Lib.hid hR.symm
    simp only [] at hpl
    obtain ⟨na, hna⟩ : ∃ n, n = a.length := ⟨_, rfl⟩
    obtain ⟨nb, hnb⟩ : ∃ n, n = b.length := ⟨_, rfl⟩
    have HNA := Lib.hid hna
    have HNB := Lib.hid hnb
    rw [← hna, ← HN1.out] at hpl
    have HPL := Lib.hid hpl
    clear hP hR hna hnb hpl
    by_cases hgood : e1 = 0 ∧ e2 = 0
    · obtain ⟨rfl, rfl⟩ := hgood
      obtain ⟨hin, _, hae⟩ := put_ok HP.out
      simp only [Frm.in_] at hin
      obtain ⟨K, rfl⟩ : ∃ K : Nat, k1 = (K : Int) := ⟨k1.toNat, by omega⟩
      obtain ⟨F, rfl⟩ : ∃ K : Nat, f1 = (K : Int) := ⟨f1.toNat, by omega⟩
      obtain ⟨V, rfl⟩ : ∃ K : Nat, s1 = (K : Int) := ⟨s1.toNat, by omega⟩
      simp only [head, Int.toNat_natCast] at hae
      rw [← HN1.out] at hae
      obtain ⟨x0, hx0⟩ : ∃ x, x = n1 / 256 ^ 2 % 256 := ⟨_, rfl⟩
      obtain ⟨x1, hx1⟩ : ∃ x, x = n1 / 256 ^ 1 % 256 := ⟨_, rfl⟩
      obtain ⟨x2, hx2⟩ : ∃ x, x = n1 / 256 ^ 0 % 256 := ⟨_, rfl⟩
      obtain ⟨y0, hy0⟩ : ∃ x, x = V / 256 ^ 3 % 256 := ⟨_, rfl⟩
      obtain ⟨y1, hy1⟩ : ∃ x, x = V / 256 ^ 2 % 256 := ⟨_, rfl⟩
      obtain ⟨y2, hy2⟩ : ∃ x, x = V / 256 ^ 1 % 256 := ⟨_, rfl⟩
      obtain ⟨y3, hy3⟩ : ∃ x, x = V / 256 ^ 0 % 256 := ⟨_, rfl⟩
      have hal : a = x0 :: x1 :: x2 :: K :: F :: y0 :: y1 :: y2 :: y3 :: b1 := by
        rw [hae]
        simp only [num, ← hx0, ← hx1, ← hx2, ← hy0, ← hy1, ← hy2, ← hy3]
        rfl
      have sx : x0 * 65536 + x1 * 256 + x2 = n1 ∧ x0 < 256 ∧ x1 < 256 ∧ x2 < 256 := by omega
      have sy : y0 * 16777216 + y1 * 65536 + y2 * 256 + y3 = V ∧ y0 < 128 ∧ y1 < 256 ∧ y2 < 256 ∧ y3 < 256 := by rw [hy0, hy1, hy2, hy3]; exact split4 V (by omega)
      clear hx0 hx1 hx2 hy0 hy1 hy2 hy3 hae
      obtain ⟨X0, hX0⟩ : ∃ X, X = x0 * 65536 := ⟨_, rfl⟩
      obtain ⟨X1, hX1⟩ : ∃ X, X = x1 * 256 := ⟨_, rfl⟩
      obtain ⟨X2, hX2⟩ : ∃ X, X = X0 + X1 := ⟨_, rfl⟩
      have a0 : (x0 : Int) * 65536 = (X0 : Int) := by omega
      have a0' : (x0 : Int) * 2 ^ 16 = (X0 : Int) := by omega
      have a1' : (x1 : Int) * 256 = (X1 : Int) := by omega
      have a1'' : (x1 : Int) * 2 ^ 8 = (X1 : Int) := by omega
      have o1 : bits .or .i64 (X0 : Int) (X1 : Int) = (X2 : Int) := by rw [hX2]; exact or_join 16 X0 X1 (by omega) (by omega) (by omega) (by omega)
      have o2 : bits .or .i64 (X2 : Int) (x2 : Int) = (n1 : Int) := by rw [show n1 = X2 + x2 by omega]; exact or_join 8 X2 x2 (by omega) (by omega) (by omega) (by omega)
      obtain ⟨Y0, hY0⟩ : ∃ X, X = y0 * 16777216 := ⟨_, rfl⟩
      obtain ⟨Y1, hY1⟩ : ∃ X, X = y1 * 65536 := ⟨_, rfl⟩
      obtain ⟨Y2, hY2⟩ : ∃ X, X = y2 * 256 := ⟨_, rfl⟩
      obtain ⟨Y3, hY3⟩ : ∃ X, X = Y0 + Y1 := ⟨_, rfl⟩
      obtain ⟨Y4, hY4⟩ : ∃ X, X = Y3 + Y2 := ⟨_, rfl⟩
      have b0 : (y0 : Int) * 16777216 = (Y0 : Int) := by omega
      have b0' : (y0 : Int) * 2 ^ 24 = (Y0 : Int) := by omega
      have b1' : (y1 : Int) * 65536 = (Y1 : Int) := by omega
      have b1'' : (y1 : Int) * 2 ^ 16 = (Y1 : Int) := by omega
      have b2' : (y2 : Int) * 256 = (Y2 : Int) := by omega
      have b2'' : (y2 : Int) * 2 ^ 8 = (Y2 : Int) := by omega
      have r1 : bits .or .i64 (Y0 : Int) (Y1 : Int) = (Y3 : Int) := by rw [hY3]; exact or_join 24 Y0 Y1 (by omega) (by omega) (by omega) (by omega)
      have r2 : bits .or .i64 (Y3 : Int) (Y2 : Int) = (Y4 : Int) := by rw [hY4]; exact or_join 16 Y3 Y2 (by omega) (by omega) (by omega) (by omega)
      have r3 : bits .or .i64 (Y4 : Int) (y3 : Int) = (V : Int) := by rw [show V = Y4 + y3 by omega]; exact or_join 8 Y4 y3 (by omega) (by omega) (by omega) (by omega)
      have hX0b : X0 < 4294967296 := by omega
      have hX1b : X1 < 4294967296 := by omega
      have hX2b : X2 < 4294967296 := by omega
      have hY0b : Y0 < 4294967296 := by omega
      have hY1b : Y1 < 4294967296 := by omega
      have hY2b : Y2 < 4294967296 := by omega
      have hY3b : Y3 < 4294967296 := by omega
      have hY4b : Y4 < 4294967296 := by omega
      have e9 : (9 : Int) + (n1 : Int) = (na : Int) := by
        rcases HPL.out with h | h
        · omega
        · exact absurd rfl h.1
      obtain ⟨_, hsx0, hsx1, hsx2⟩ := sx
      obtain ⟨_, hsy0, hsy1, hsy2, hsy3⟩ := sy
      have hK : K < 256 := by omega
      have hF : F < 256 := by omega
      have hV : V < 4294967296 := by omega
      obtain ⟨E, hE⟩ : ∃ E, E = same ⟨(K : Int), (F : Int), (V : Int), b1⟩ ⟨k2, f2, s2, b2⟩ := ⟨_, rfl⟩
      have hEE : decide (a = b) = E := by rw [hE]; exact put_same HP.out HR.out
      have HAL := Lib.hid hal
      have HEE := Lib.hid hEE
      have HSAME : Hid (∀ W, Below wa.heap.size wa W → Calls Try.prog 13 #[.agg #[.int .i64 (K : Int), .int .i64 (F : Int), .int .i64 (V : Int), .slice a1 n1 c1], .agg #[.int .i64 k2, .int .i64 f2, .int .i64 s2, .slice a2 n2 c2]] W (BoolPost W E)) := Lib.hid (fun W hb => by
        have hb2 := HBA.out.trans (hb.mono HBA.out.size)
        have := fsame_f ⟨⟨(K : Int), (F : Int), (V : Int), b1⟩, a1, c1⟩ ⟨⟨k2, f2, s2, b2⟩, a2, c2⟩ W (HOS.out.up hb2) (HOT.out.up hb2) (by have := HN1.out; simp only []; omega) (by have := HN2.out; simp only []; omega)
        simp only [frm] at this
        rw [← HN1.out, ← HN2.out, ← hE] at this
        exact this)
      have HBYTES : Hid (∀ x ∈ b1, x < 256) := Lib.hid HOS.out.bytes
      have HBY : Hid (∀ x ∈ a, x < 256) := Lib.hid (by
        rw [hal]
        intro x hx
        simp only [List.mem_cons] at hx
        rcases hx with rfl | rfl | rfl | rfl | rfl | rfl | rfl | rfl | rfl | hx
        all_goals first | omega | exact HBYTES.out x hx)
      have HBYB : Hid (∀ x ∈ b, x < 256) := Lib.hid (by
        obtain ⟨_, _, hbe⟩ := put_ok HR.out
        rw [hbe]
        intro x hx
        rcases List.mem_append.1 hx with h | h
        · unfold head at h
          obtain ⟨hi, _⟩ := put_ok HR.out
          simp only [Frm.in_] at hi
          rcases List.mem_append.1 h with h | h
          · exact num_byte _ _ x h
          · rcases List.mem_append.1 h with h | h
            · simp only [List.mem_cons, List.mem_nil_iff, or_false] at h
              rcases h with rfl | rfl <;> omega
            · exact num_byte _ _ x h
        · exact HOT.out.bytes x h)
      clear hal hEE hE hin hX0 hX1 hX2 hY0 hY1 hY2 hY3 hY4
      go_enter Try.func6, Try.ntmps6
      go_wp2_with fail
      rw [← HW.out, HH.out, ← HG.out]
      with_reducible refine (HF.out).mono ?_
      rintro e w2 ⟨rfl, hb2⟩
      obtain ⟨c0, c1', c2', c3⟩ := HX.out w2 hb2
      obtain ⟨d0, d1, d2, d3⟩ := HY.out w2 hb2
      have HFE := Lib.hid (HFEW.out w2 hb2)
      have HB2 := Lib.hid hb2
      clear hb2 HF HFEW
      go_wp2_with fail
      with_reducible refine (HFE.out).mono ?_
      rintro e w3 ⟨rfl, rfl⟩
      have hb3 := HB2.out.alloc HB2.out.size (.cells #[.int .i64 (K : Int), .int .i64 (F : Int), .int .i64 (V : Int), .slice a1 n1 c1, .int .i64 k2, .int .i64 f2, .int .i64 s2, .slice a2 n2 c2] 30)
      obtain ⟨w3, hw3⟩ : ∃ w3, w3 = w2.alloc (.cells #[.int .i64 (K : Int), .int .i64 (F : Int), .int .i64 (V : Int), .slice a1 n1 c1, .int .i64 k2, .int .i64 f2, .int .i64 s2, .slice a2 n2 c2] 30) := ⟨_, rfl⟩
      rw [← hw3] at hb3 ⊢
      have HB3 := Lib.hid hb3
      have HP1 := Lib.hid (HPUT1.out w3 hb3)
      obtain ⟨p0, p1, p2, p3⟩ := HX.out w3 hb3
      clear hb3 hw3 HFE c0 c1' c2' c3 d0 d1 d2 d3 HPUT1
      go_wp2_with fail
      with_reducible refine (HP1.out).mono ?_
      rintro e w4 ⟨A4, c4, rfl, hat4, hn4, hc4, hnew4, hb4⟩
      have hb5 := HB3.out.trans (hb4.mono HB3.out.size)
      have HB4 := Lib.hid hb5
      have HAT4 := Lib.hid hat4
      have HP2 := Lib.hid (HPUT2.out w4 hb5)
      obtain ⟨q0, q1, q2, q3⟩ := HY.out w4 hb5
      have hcap4 : na ≤ c4 := by rw [HNA.out]; exact hc4
      clear hat4 hnew4 hb4 hb5 p0 p1 p2 p3 HP1 HPUT2 hc4
      simp only []
      rw [← HNA.out]
      go_wp2_with fail
      with_reducible refine (HP2.out).mono ?_
      rintro e w5 ⟨A5, c5, rfl, hat5, hn5, hc5, hnew5, hb5⟩
      have hb6 := HB4.out.trans (hb5.mono HB4.out.size)
      have HB5 := Lib.hid hb6
      have hat4 := HAT4.out.up hb5
      obtain ⟨bk, o, rfl, hbk, hcell⟩ := hat4.pos (by have := HNA.out; omega)
      have hlen : 9 ≤ a.length := by have := HNA.out; omega
      have HCL : Hid (∀ W, Below w5.heap.size w5 W → W.cell? ⟨bk, o + 0, none⟩ = some (.int .u8 (x0 : Int)) ∧ W.cell? ⟨bk, o + 1, none⟩ = some (.int .u8 (x1 : Int)) ∧ W.cell? ⟨bk, o + 2, none⟩ = some (.int .u8 (x2 : Int)) ∧ W.cell? ⟨bk, o + 3, none⟩ = some (.int .u8 (K : Int)) ∧ W.cell? ⟨bk, o + 4, none⟩ = some (.int .u8 (F : Int)) ∧ W.cell? ⟨bk, o + 5, none⟩ = some (.int .u8 (y0 : Int)) ∧ W.cell? ⟨bk, o + 6, none⟩ = some (.int .u8 (y1 : Int)) ∧ W.cell? ⟨bk, o + 7, none⟩ = some (.int .u8 (y2 : Int)) ∧ W.cell? ⟨bk, o + 8, none⟩ = some (.int .u8 (y3 : Int))) := Lib.hid (fun W hb => by
        have hal := HAL.out
        subst hal
        exact ⟨(hb.cell (p := ⟨bk, o + 0, none⟩) hbk).trans (hcell 0 (by omega)), (hb.cell (p := ⟨bk, o + 1, none⟩) hbk).trans (hcell 1 (by omega)), (hb.cell (p := ⟨bk, o + 2, none⟩) hbk).trans (hcell 2 (by omega)), (hb.cell (p := ⟨bk, o + 3, none⟩) hbk).trans (hcell 3 (by omega)), (hb.cell (p := ⟨bk, o + 4, none⟩) hbk).trans (hcell 4 (by omega)), (hb.cell (p := ⟨bk, o + 5, none⟩) hbk).trans (hcell 5 (by omega)), (hb.cell (p := ⟨bk, o + 6, none⟩) hbk).trans (hcell 6 (by omega)), (hb.cell (p := ⟨bk, o + 7, none⟩) hbk).trans (hcell 7 (by omega)), (hb.cell (p := ⟨bk, o + 8, none⟩) hbk).trans (hcell 8 (by omega))⟩)
      have HAT5 := Lib.hid hat4
      have HBT5 := Lib.hid hat5
      obtain ⟨j0, j1, j2, j3, j4, j5, j6, j7, j8⟩ := HCL.out w5 (Below.refl _ _)
      rw [Nat.add_zero] at j0
      obtain ⟨p0, p1, p2, p3⟩ := HX.out w5 hb6
      have i0 : (0 : Int) < (na : Int) := by omega
      have i1 : (1 : Int) < (na : Int) := by omega
      have i2 : (2 : Int) < (na : Int) := by omega
      have i3 : (3 : Int) < (na : Int) := by omega
      have i4 : (4 : Int) < (na : Int) := by omega
      have i5 : (5 : Int) < (na : Int) := by omega
      have i6 : (6 : Int) < (na : Int) := by omega
      have i7 : (7 : Int) < (na : Int) := by omega
      have i8 : (8 : Int) < (na : Int) := by omega
      clear hat4 hat5 hn5 hc5 hnew5 hb5 hb6 q0 q1 q2 q3 HP2 hcell hlen
      simp only []
      rw [← HNB.out]
      go_wp2
      go_quiet (fail)
      go_wp2
      obtain ⟨w6, hw6⟩ : ∃ w6, w6 = w5.drewN nq := ⟨_, rfl⟩
      have hb6 : Below w5.heap.size w5 w6 := by rw [hw6]; exact below_drewF (Below.refl _ _) nq
      rw [← hw6]
      clear j0 j1 j2 j3 j4 j5 j6 j7 j8 p0 p1 p2 p3 hw6
      obtain ⟨j0, j1, j2, j3, j4, j5, j6, j7, j8⟩ := HCL.out w6 hb6
      clear j0 j1 j2 j3 j4
      have HB6 := Lib.hid hb6
      clear hb6
      go_quiet (fail)
      obtain ⟨w7, hw7⟩ : ∃ w7, w7 = w6.drewN nq := ⟨_, rfl⟩
      have hb7 : Below w5.heap.size w5 w7 := by rw [hw7]; exact below_drewF HB6.out nq
      rw [← hw7]
      clear hw7 j5 j6 j7 j8
      have HB7 := Lib.hid hb7
      obtain ⟨A9, hA9⟩ : ∃ A9, A9 = cutAt (some ⟨bk, o, none⟩) c4 9 := ⟨_, rfl⟩
      have hsl9 := fun (W : World) => slice_l (some ⟨bk, o, none⟩) na c4 9 n1 W (by omega) (by omega)
      rw [← hA9, show ((9 : Nat) : Int) = 9 from rfl] at hsl9
      have HBY1 : Hid (∀ W, Below w5.heap.size w5 W → Calls Try.prog 12 #[.slice A9 n1 (c4 - 9), .slice a1 n1 c1] W fun e w' => e = .returned (.bool true) ∧ w' = W) := Lib.hid (fun W hb => by
        have hba := HBA.out.trans ((HB5.out.trans (hb.mono HB5.out.size)).mono HBA.out.size)
        have h1 := (HAT5.out.up hb).drop (q := 9) (by rw [← HNA.out]; exact hcap4)
        have hdr : a.drop 9 = b1 := by rw [HAL.out]; rfl
        rw [hdr, ← hA9] at h1
        refine (bytes_any A9 a1 b1 b1 n1 n1 (c4 - 9) c1 W _ _ h1 (HOS.out.up hba).at' HBYTES.out HBYTES.out HN1.out.symm HN1.out.symm).mono (fun e w' hh => ⟨?_, hh.2.symm⟩)
        rw [hh.1, decide_eq_true rfl])
      have HBY2 : Hid (∀ W, Below w5.heap.size w5 W → Calls Try.prog 12 #[.slice (some ⟨bk, o, none⟩) na c4, .slice A5 nb c5] W fun e w' => e = .returned (.bool E) ∧ w' = W) := Lib.hid (fun W hb => by
        refine (bytes_any _ A5 a b na nb c4 c5 W _ _ (HAT5.out.up hb) (HBT5.out.up hb) HBY.out HBYB.out HNA.out.symm HNB.out.symm).mono (fun e w' hh => ⟨?_, hh.2.symm⟩)
        rw [hh.1, HEE.out])
      have HX5 : Hid (∀ W, Below w5.heap.size w5 W → W.cell? ⟨g, 0, none⟩ = some (.int .i64 (K : Int)) ∧ W.cell? ⟨g, 1, none⟩ = some (.int .i64 (F : Int)) ∧ W.cell? ⟨g, 2, none⟩ = some (.int .i64 (V : Int)) ∧ W.cell? ⟨g, 3, none⟩ = some (.slice a1 n1 c1) ∧ W.cell? ⟨h, 0, none⟩ = some (.int .i64 k2) ∧ W.cell? ⟨h, 1, none⟩ = some (.int .i64 f2) ∧ W.cell? ⟨h, 2, none⟩ = some (.int .i64 s2) ∧ W.cell? ⟨h, 3, none⟩ = some (.slice a2 n2 c2)) := Lib.hid (fun W hb => by
        obtain ⟨x0, x1, x2, x3⟩ := HX.out W (HB5.out.trans (hb.mono HB5.out.size))
        obtain ⟨y0, y1, y2, y3⟩ := HY.out W (HB5.out.trans (hb.mono HB5.out.size))
        exact ⟨x0, x1, x2, x3, y0, y1, y2, y3⟩)
      have HSM : Hid (∀ W, Below w5.heap.size w5 W → Calls Try.prog 13 #[.agg #[.int .i64 (K : Int), .int .i64 (F : Int), .int .i64 (V : Int), .slice a1 n1 c1], .agg #[.int .i64 k2, .int .i64 f2, .int .i64 s2, .slice a2 n2 c2]] W (BoolPost W E)) := Lib.hid (fun W hb => HSAME.out W (HB5.out.trans (hb.mono HB5.out.size)))
      have hd : Below w5.heap.size w5 w7.drew := hb7.drew
      have HF7 := Lib.hid (first10_any w7.drew)
      obtain ⟨u0, u1, u2, u3, u4, u5, u6, u7⟩ := HX5.out w7 hb7
      clear hA9 hb7 HX HY HSAME a0 a0' a1' a1'' o1 o2 b0 b0' b1' b1'' b2' b2'' r1 r2 r3 hX0b hX1b hX2b hY0b hY1b hY2b hY3b hY4b i0 i1 i2 i3 i4 i5 i6 i7 i8 hsx0 hsx1 hsx2 hsy0 hsy1 hsy2 hsy3 hK hF
      go_wp2
      go_region_held3 (fun w' => w'.cell? ⟨g, 0, none⟩ = some (.int .i64 (K : Int)) ∧ w'.cell? ⟨g, 1, none⟩ = some (.int .i64 (F : Int)) ∧ w'.cell? ⟨g, 2, none⟩ = some (.int .i64 (V : Int)) ∧ w'.cell? ⟨g, 3, none⟩ = some (.slice a1 n1 c1) ∧ w'.cell? ⟨h, 0, none⟩ = some (.int .i64 k2) ∧ w'.cell? ⟨h, 1, none⟩ = some (.int .i64 f2) ∧ w'.cell? ⟨h, 2, none⟩ = some (.int .i64 s2) ∧ w'.cell? ⟨h, 3, none⟩ = some (.slice a2 n2 c2))
        (first
          | exact HX5.out _ HB7.out
          | exact HX5.out _ hd
          | exact HX5.out _ hb9
          | exact HX5.out _ hb8)
        (first
          | ((with_reducible refine (HF7.out).mono ?_); rintro e w8 ⟨rfl, hb8'⟩; have hb8 := hd.trans (hb8'.mono hd.size))
          | ((with_reducible refine (HBY1.out w8 hb8).mono ?_); rintro e w' ⟨rfl, rfl⟩)
          | ((with_reducible refine (HBY2.out _ hb8).mono ?_); rintro e w' ⟨rfl, rfl⟩)
          | ((with_reducible refine (HSM.out _ hb8).mono ?_); rintro e w9 ⟨rfl, hb9'⟩; have hb9 := hb8.trans (hb9'.mono hb8.size)))
      have hb10 : Below w.heap.size w w9 := HBA.out.trans ((HB5.out.trans (hb9.mono HB5.out.size)).mono HBA.out.size)
      clear hb9 hb9' hb8 hb8' u0 u1 u2 u3 u4 u5 u6 u7
      go_wp2
      go_ret
      exact ⟨rfl, hb10⟩
    · go_enter Try.func6, Try.ntmps6
      go_wp2_with fail
      rw [← HW.out, HH.out, ← HG.out]
      with_reducible refine (HF.out).mono ?_
      rintro e w2 ⟨rfl, hb2⟩
      obtain ⟨x0, x1, x2, x3⟩ := HX.out w2 hb2
      obtain ⟨y0, y1, y2, y3⟩ := HY.out w2 hb2
      have HFE := Lib.hid (HFEW.out w2 hb2)
      have HB2 := Lib.hid hb2
      clear hb2 HF HFEW
      go_wp2_with fail
      with_reducible refine (HFE.out).mono ?_
      rintro e w3 ⟨rfl, rfl⟩
      have hb3 := HB2.out.alloc HB2.out.size (.cells #[.int .i64 k1, .int .i64 f1, .int .i64 s1, .slice a1 n1 c1, .int .i64 k2, .int .i64 f2, .int .i64 s2, .slice a2 n2 c2] 30)
      obtain ⟨w3, hw3⟩ : ∃ w3, w3 = w2.alloc (.cells #[.int .i64 k1, .int .i64 f1, .int .i64 s1, .slice a1 n1 c1, .int .i64 k2, .int .i64 f2, .int .i64 s2, .slice a2 n2 c2] 30) := ⟨_, rfl⟩
      rw [← hw3] at hb3 ⊢
      have HB3 := Lib.hid hb3
      have HP1 := Lib.hid (HPUT1.out w3 hb3)
      obtain ⟨p0, p1, p2, p3⟩ := HX.out w3 hb3
      clear hb3 hw3 HFE x0 x1 x2 x3 y0 y1 y2 y3 HPUT1
      go_wp2_with fail
      with_reducible refine (HP1.out).mono ?_
      rintro e w4 ⟨A4, c4, rfl, hat4, hn4, hc4, hnew4, hb4⟩
      have hb5 := HB3.out.trans (hb4.mono HB3.out.size)
      have HB4 := Lib.hid hb5
      have HP2 := Lib.hid (HPUT2.out w4 hb5)
      obtain ⟨q0, q1, q2, q3⟩ := HY.out w4 hb5
      clear hat4 hn4 hc4 hnew4 hb4 hb5 p0 p1 p2 p3 HP1 HPUT2
      simp only []
      rw [← HNA.out]
      go_wp2_with fail
      with_reducible refine (HP2.out).mono ?_
      rintro e w5 ⟨A5, c5, rfl, hat5, hn5, hc5, hnew5, hb5⟩
      have hb6 := HB4.out.trans (hb5.mono HB4.out.size)
      have HB5 := Lib.hid hb6
      have HF5 := Lib.hid (first10_any w5)
      clear hat5 hn5 hc5 hnew5 hb5 hb6 q0 q1 q2 q3 HP2
      simp only []
      rw [← HNB.out]
      rcases HPL.out with ⟨h1, h2⟩ | ⟨h1, h2⟩
      · subst h1
        have z2 : ((e2 : Int) != 0) = true := by simp; omega
        have z3 : ((na : Int) == 0) = false := by simp; omega
        rw [show ((0 : Nat) : Int) = 0 from rfl]
        clear hgood h2
        go_wp2_with fail
        with_reducible refine (HF5.out).mono ?_
        rintro e w6 ⟨rfl, hb6⟩
        have HB6 := Lib.hid (HBA.out.trans ((HB5.out.trans (hb6.mono HB5.out.size)).mono HBA.out.size))
        clear hb6 HF5
        go_wp2
        go_ret
        exact ⟨rfl, HB6.out⟩
      · have z1 : ((e1 : Int) != 0) = true := by simp; omega
        have z3 : na = 0 := by rw [HNA.out, h2]; rfl
        subst z3
        clear hgood h1 h2
        go_wp2_with fail
        with_reducible refine (HF5.out).mono ?_
        rintro e w6 ⟨rfl, hb6⟩
        have HB6 := Lib.hid (HBA.out.trans ((HB5.out.trans (hb6.mono HB5.out.size)).mono HBA.out.size))
        clear hb6 HF5
        go_wp2
        go_ret
        exact ⟨rfl, HB6.out⟩
end frameEach
end Go.Proofs.Ytegcloapadippaa
