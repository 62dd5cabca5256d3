/- Contract of the reference's Find. -/
import Derived.Test.YtcamcfecmjoniaaSGet
namespace Go.Proofs.Ytcamcfecmjoniaa
open Go.RowKit St

def found (n v : ByteArray) : Nat × Nat := fnd n.toList v.toList 61 0
theorem fnd_le (n v : List UInt8) : ∀ f i, (fnd n v f i).1 ≤ i + f ∧ (fnd n v f i).2 ≤ i + f
  | 0, i => by simp [fnd]
  | f + 1, i => by
    have := fnd_le n v f (i + 1)
    rw [fnd]
    split
    · split
      · simp
        try omega
      · simp
        omega
    · omega
def FdPost (w : World) (s : Nat × Nat) (e : Ending) (w' : World) : Prop := e = .returned (.tuple #[.int .i64 ((s.1 : Nat) : Int), .int .i64 ((s.2 : Nat) : Int)]) ∧ Below w.heap.size w w'
def FdR (n v : ByteArray) (b o i : Value) : Prop := ∃ j : Nat, j ≤ 61 ∧ i = .int .i64 ((j : Int) - 1) ∧ b = .int .i64 (((fnd n.toList v.toList (61 - j) j).1 : Nat) : Int) ∧ o = .int .i64 (((fnd n.toList v.toList (61 - j) j).2 : Nat) : Int)
set_option maxRecDepth 100000 in
set_option maxHeartbeats 4000000 in
theorem rfind_any (n v : ByteArray) (w : World) : Calls Try.prog 12 #[.string n, .string v] w (FdPost w (found n v)) := by
  obtain ⟨D, hD⟩ : ∃ D, D = found n v := ⟨_, rfl⟩
  rw [← hD]
  have HD := Lib.hid hD
  clear hD
  go_enter Try.func12, Try.ntmps12
  go_wp2_with fail
  with_reducible refine (rknown_any w).mono ?_
  rintro e w2 ⟨g, rfl, hat, hb2⟩
  have HAT := Lib.hid hat
  clear hat
  go_wp2
  go_loop [7, 8, 9] (fun b o i => FdR n v b o i) (fun _ _ i => (intOf i + 1).toNat)
  case atStart => exact ⟨61, by omega, rfl, rfl, rfl⟩
  case round =>
    obtain ⟨j, hj, rfl, rfl, rfl⟩ := hrel
    by_cases h0 : 0 < j
    · obtain ⟨I, hI⟩ : ∃ I, I = j - 1 := ⟨_, rfl⟩
      rw [show (j : Int) - 1 = (I : Int) by omega]
      have HN : Hid (fnd n.toList v.toList (61 - I) I = if (nm I).toList == n.toList then (if (vl I).toList == v.toList then (I + 1, I + 1) else ((fnd n.toList v.toList (61 - j) j).1, I + 1)) else fnd n.toList v.toList (61 - j) j) := Lib.hid (by
        rw [show 61 - I = 61 - j + 1 by omega, fnd, show I + 1 = j by omega])
      obtain ⟨S, hS⟩ : ∃ S, S = fnd n.toList v.toList (61 - j) j := ⟨_, rfl⟩
      rw [← hS] at HN ⊢
      obtain ⟨P, hP⟩ : ∃ P, P = 2 * I := ⟨_, rfl⟩
      obtain ⟨Q, hQ⟩ : ∃ Q, Q = 2 * I + 1 := ⟨_, rfl⟩
      obtain ⟨c0, c1⟩ := tab_at HAT.out I (by omega)
      rw [← hP] at c0
      rw [← hQ] at c1
      obtain ⟨X, hX⟩ : ∃ X, X = nm I := ⟨_, rfl⟩
      obtain ⟨Y, hY⟩ : ∃ Y, Y = vl I := ⟨_, rfl⟩
      rw [← hX] at c0 HN
      rw [← hY] at c1 HN
      have e1 : 2 * (I : Int) = (P : Int) := by omega
      have e2 : (P : Int) + 1 = (Q : Int) := by omega
      have p1 : (P : Int) < 122 := by omega
      have p2 : (Q : Int) < 122 := by omega
      have p1' : P < 122 := by omega
      have p2' : Q < 122 := by omega
      have hI61 : I < 61 := by omega
      obtain ⟨s1, s2⟩ := S
      clear hI hP hQ hX hY hS
      cases hN : X.toList == n.toList with
      | false =>
        have HN2 : Hid (fnd n.toList v.toList (61 - I) I = (s1, s2)) := Lib.hid (by rw [HN.out, hN]; rfl)
        go_wp2
        go_round
        case rel => exact ⟨I, by omega, by go_num, by rw [HN2.out], by rw [HN2.out]⟩
        case measure => simp [intOf]
      | true =>
        cases hV : Y.toList == v.toList with
        | false =>
          have HN2 : Hid (fnd n.toList v.toList (61 - I) I = (s1, I + 1)) := Lib.hid (by rw [HN.out, hN, hV]; rfl)
          go_wp2
          go_round
          case rel => exact ⟨I, by omega, by go_num, by rw [HN2.out], by rw [HN2.out]; go_num⟩
          case measure => simp [intOf]
        | true =>
          have HN2 : Hid (fnd n.toList v.toList (61 - I) I = (I + 1, I + 1)) := Lib.hid (by rw [HN.out, hN, hV]; rfl)
          go_wp2
          go_round
          case rel => exact ⟨I, by omega, by go_num, by rw [HN2.out]; go_num, by rw [HN2.out]; go_num⟩
          case measure => simp [intOf]
    · obtain rfl : j = 0 := by omega
      have HE : Hid (fnd n.toList v.toList (61 - 0) 0 = D) := Lib.hid (by rw [HD.out]; rfl)
      rw [HE.out]
      obtain ⟨d1, d2⟩ := D
      go_wp2
      go_ret2
      exact ⟨rfl, hb2⟩
end Go.Proofs.Ytcamcfecmjoniaa
