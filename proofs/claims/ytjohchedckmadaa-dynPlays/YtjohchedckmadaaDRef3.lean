/- Contract of Find of the document's table. -/
import Derived.Test.YtjohchedckmadaaDRef2
namespace Go.Proofs.Ytjohchedckmadaa
open Go.RowKit

set_option maxRecDepth 100000 in
set_option maxHeartbeats 4000000 in
theorem rtfind_any (w : World) (S : Nat → Prop) (p m : Nat) (l : List Fld) (nm vl : ByteArray) (h : RT w S p m l) :
    Calls Try.prog 18 #[.pointer (some ⟨p, 0, none⟩), .string nm, .string vl] w fun e w' => e = .returned (.tuple #[.int .i64 (((fndL nm.toList vl.toList l 0).1 : Nat) : Int), .int .i64 (((fndL nm.toList vl.toList l 0).2 : Nat) : Int)]) ∧ w' = w := by
  obtain ⟨⟨A, c, hh, hat, hA0, hnc, hAS⟩, hSp, hlow, hsm⟩ := h
  obtain ⟨n, hn⟩ : ∃ n, n = l.length := ⟨_, rfl⟩
  rw [← hn] at hh
  have hn2 : n ≤ 2900 := by have := tot_pos l; omega
  have y1 : w.cell? ⟨p, 1, none⟩ = some (.slice A n c) := cell_of_row _ p 1 _ 45 _ hh
  have HN := Lib.hid hn
  have HAT := Lib.hid hat
  obtain ⟨D, hD⟩ : ∃ D, D = fndL nm.toList vl.toList l 0 := ⟨_, rfl⟩
  rw [← hD]
  have HD := Lib.hid hD
  clear hn hat hD hh
  go_enter Try.func18, Try.ntmps18
  go_wp2
  go_loop [8, 9, 10] (fun b o i => ∃ j : Nat, j ≤ n ∧ i = .int .i64 (j : Int) ∧ b = .int .i64 (((fndL nm.toList vl.toList (l.drop j) j).1 : Nat) : Int) ∧ o = .int .i64 (((fndL nm.toList vl.toList (l.drop j) j).2 : Nat) : Int)) (fun _ _ i => (intOf i).toNat)
  case atStart =>
    refine ⟨n, Nat.le_refl _, rfl, ?_, ?_⟩
    · rw [List.drop_of_length_le (by have := HN.out; omega)]; rfl
    · rw [List.drop_of_length_le (by have := HN.out; omega)]; rfl
  case round =>
    obtain ⟨j, hj, rfl, rfl, rfl⟩ := hrel
    by_cases h0 : 0 < j
    · obtain ⟨I, hI⟩ : ∃ I, I = j - 1 := ⟨_, rfl⟩
      have hIl : I < l.length := by have := HN.out; omega
      obtain ⟨b, o, rfl, hbl, hc⟩ := HAT.out.pos (by omega)
      obtain ⟨c0, c1, _⟩ := hc I hIl
      have HX : Hid (fndL nm.toList vl.toList (l.drop I) I = if l[I].name.toList == nm.toList then (if l[I].value.toList == vl.toList then (I + 1, I + 1) else ((fndL nm.toList vl.toList (l.drop j) j).1, I + 1)) else fndL nm.toList vl.toList (l.drop j) j) := Lib.hid (by
        rw [List.drop_eq_getElem_cons hIl, fndL, show I + 1 = j by omega])
      generalize fndL nm.toList vl.toList (l.drop j) j = R at HX
      obtain ⟨s1, s2⟩ := R
      generalize l[I].name = X at c0 HX
      generalize l[I].value = Y at c1 HX
      have ej : (j : Int) - 1 = (I : Int) := by omega
      have ewi : IntKind.i64.wrap (I : Int) = (I : Int) := IntWalk.i64_in _ (by omega)
      have In : (I : Int) < (n : Int) := by omega
      have j0 : (0 : Int) < (j : Int) := by omega
      have HIJ : Hid (j = I + 1) := Lib.hid (by omega)
      clear hI hc hbl
      cases hN : X.toList == nm.toList with
      | false =>
        have HN2 : Hid (fndL nm.toList vl.toList (l.drop I) I = (s1, s2)) := Lib.hid (by rw [HX.out, hN]; rfl)
        go_wp2
        go_round
        case rel => exact ⟨I, by omega, by go_num, by rw [HN2.out], by rw [HN2.out]⟩
        case measure => simp [intOf]; omega
      | true =>
        cases hV : Y.toList == vl.toList with
        | false =>
          have HN2 : Hid (fndL nm.toList vl.toList (l.drop I) I = (s1, I + 1)) := Lib.hid (by rw [HX.out, hN, hV]; rfl)
          go_wp2
          go_round
          case rel => exact ⟨I, by omega, by go_num, by rw [HN2.out], by rw [HN2.out, HIJ.out]⟩
          case measure => simp [intOf]; omega
        | true =>
          have HN2 : Hid (fndL nm.toList vl.toList (l.drop I) I = (I + 1, I + 1)) := Lib.hid (by rw [HX.out, hN, hV]; rfl)
          go_wp2
          go_round
          case rel => exact ⟨I, by omega, by go_num, by rw [HN2.out, HIJ.out], by rw [HN2.out, HIJ.out]⟩
          case measure => simp [intOf]; omega
    · obtain rfl : j = 0 := by omega
      have HE : Hid (fndL nm.toList vl.toList (l.drop 0) 0 = D) := Lib.hid (by rw [HD.out]; rfl)
      rw [HE.out]
      obtain ⟨d1, d2⟩ := D
      go_wp2
      go_ret2
      exact ⟨rfl, rfl⟩
end Go.Proofs.Ytjohchedckmadaa
