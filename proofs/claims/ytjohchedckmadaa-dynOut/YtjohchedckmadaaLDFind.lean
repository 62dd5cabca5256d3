/- The landed table: Find. -/
import Derived.Test.YtjohchedckmadaaDObj
namespace Go.Proofs.Ytjohchedckmadaa
open Go.RowKit
def NPost (w : World) (s : Nat × Nat) (e : Ending) (w' : World) : Prop := e = .returned (.tuple #[.int .i64 ((s.1 : Nat) : Int), .int .i64 ((s.2 : Nat) : Int)]) ∧ Below w.heap.size w w'
/-- Behind k places: nd is the newest with the name so far (0: none), the rest is still to be looked at. -/
def FdR (w : World) (D : Nat × Nat) (N V : List UInt8) (l : List Fld) (nd i : Value) (wr : World) : Prop :=
  ∃ k d : Nat, k ≤ l.length ∧ i = .int .i64 ((k + 1 : Nat) : Int) ∧ nd = .int .i64 (d : Int) ∧ D = (if d = 0 then fndL N V (l.drop k) k else ((fndL N V (l.drop k) k).1, d)) ∧ Below w.heap.size w wr
theorem rev_get (l : List Fld) (k I : Nat) (hk : k + I + 1 = l.length) (hI : I < l.reverse.length) (hk2 : k < l.length) : l.reverse[I] = l[k] := by
  rw [List.getElem_reverse]
  congr 1
  omega
set_option maxRecDepth 100000 in
set_option maxHeartbeats 8000000 in
theorem dfind_f (w : World) (S : Nat → Prop) (p m : Nat) (l : List Fld) (nm vl : ByteArray) (_ : Rdy w) (h : DT w S p m l) (_ : nm.size ≤ 140737488355328) (_ : vl.size ≤ 140737488355328) :
    Calls Try.prog 17 #[.pointer (some ⟨p, 0, none⟩), .string nm, .string vl] w (NPost w (fndL nm.toList vl.toList l 0)) := by
  obtain ⟨⟨v, hh, ho, hx1, hx2, ht, hx3⟩, hx4⟩ := h
  have hpl := lt_of_heap hh
  obtain ⟨n, hn⟩ : ∃ n, n = l.length := ⟨_, rfl⟩
  rw [← hn] at ho
  obtain ⟨A, c, rfl, hnc, hx5⟩ := rowF_shape ho
  have hat := AtF.of_own ho
  have hnn : n ≤ 128 := by have := tot_pos l; omega
  have HC : Hid (w.cell? ⟨p, 0, none⟩ = some (.slice A n c)) := Lib.hid (cell_of_row _ p 0 _ 53 _ hh)
  have HN := Lib.hid hn
  have HAT := Lib.hid hat
  obtain ⟨D, hD⟩ : ∃ D, D = fndL nm.toList vl.toList l 0 := ⟨_, rfl⟩
  rw [← hD]
  have HD := Lib.hid hD
  have HP := Lib.hid hpl
  clear hn hat hD hh ho hx1 hx2 hx3 hx4 hx5 ht hpl
  go_enter Try.func17, Try.ntmps17
  go_wp2
  go_loopw [8, 9] (fun nd i wr => FdR w D nm.toList vl.toList l nd i wr) (fun _ i _ => n + 2 - (intOf i).toNat)
  case atStart => exact ⟨0, 0, Nat.zero_le _, rfl, rfl, by rw [HD.out]; rfl, Below.refl _ _⟩
  case round =>
    obtain ⟨k, d, hk, rfl, rfl, hDk, hbw⟩ := hrel
    have HDk := Lib.hid hDk
    have y1 : wr.cell? ⟨p, 0, none⟩ = some (.slice A n c) := (hbw.cell (p := ⟨p, 0, none⟩) HP.out).trans HC.out
    have HBW := Lib.hid hbw
    clear hDk hbw
    by_cases hlt : k < n
    · obtain ⟨I, hI⟩ : ∃ I, I = n - (k + 1) := ⟨_, rfl⟩
      have hkl : k < l.length := by have := HN.out; omega
      have hIl : I < l.reverse.length := by rw [List.length_reverse]; have := HN.out; omega
      obtain ⟨b, o, rfl, hbl, hc⟩ := HAT.out.pos (by omega)
      obtain ⟨c0, c1, c2⟩ := hc I hIl
      rw [rev_get l k I (by have := HN.out; omega) hIl hkl] at c0 c1 c2
      have HX : Hid (fndL nm.toList vl.toList (l.drop k) k = if l[k].name.toList == nm.toList then (if l[k].value.toList == vl.toList then (k + 1, k + 1) else ((fndL nm.toList vl.toList (l.drop (k + 1)) (k + 1)).1, k + 1)) else fndL nm.toList vl.toList (l.drop (k + 1)) (k + 1)) := Lib.hid (by
        rw [List.drop_eq_getElem_cons hkl, fndL])
      have d0 : wr.cell? ⟨b, o + I * 3, none⟩ = some (.string l[k].name) := (HBW.out.cell (p := ⟨b, o + I * 3, none⟩) hbl).trans c0
      have d1 : wr.cell? ⟨b, o + I * 3 + 1, none⟩ = some (.string l[k].value) := (HBW.out.cell (p := ⟨b, o + I * 3 + 1, none⟩) hbl).trans c1
      have d2 : wr.cell? ⟨b, o + I * 3 + 2, none⟩ = some (.bool l[k].never) := (HBW.out.cell (p := ⟨b, o + I * 3 + 2, none⟩) hbl).trans c2
      generalize fndL nm.toList vl.toList (l.drop k) k = R0 at HDk HX
      have HR : Hid (∀ D' : Nat × Nat, D' = fndL nm.toList vl.toList (l.drop (k + 1)) (k + 1) → D' = fndL nm.toList vl.toList (l.drop (k + 1)) (k + 1)) := Lib.hid (fun _ h => h)
      obtain ⟨R, hR⟩ : ∃ R, R = fndL nm.toList vl.toList (l.drop (k + 1)) (k + 1) := ⟨_, rfl⟩
      rw [← hR] at HX
      have HRR := Lib.hid hR
      clear HR hR
      generalize l[k].name = X at d0 HX
      generalize l[k].value = Y at d1 HX
      generalize l[k].never = Z at d2
      obtain ⟨j, hj⟩ : ∃ j, j = k + 1 := ⟨_, rfl⟩
      rw [← hj] at HX ⊢
      have eI : (n : Int) - (j : Int) = (I : Int) := by omega
      have In : (I : Int) < (n : Int) := by omega
      have ewi : IntKind.i64.wrap (I : Int) = (I : Int) := IntWalk.i64_in _ (by omega)
      have jn : (j : Int) ≤ (n : Int) := by omega
      have hbZ : Below w.heap.size w (wr.alloc (.cells #[.string X, .string Y, .bool Z] 33)).drew := (HBW.out.alloc HBW.out.size _).drew
      have HBZ := Lib.hid hbZ
      have HJ : Hid (j = k + 1) := Lib.hid hj
      have HI : Hid (I = n - (k + 1)) := Lib.hid hI
      have hj9 : j ≤ 128 := by omega
      have hKN := Lib.hid hlt
      clear hI hc hbl c0 c1 c2 hbZ hj hkl hIl hlt
      have hba : Below wr.heap.size wr (wr.alloc (.cells #[.string ⟨#[]⟩, .string ⟨#[]⟩, .bool false] 33)) := (Below.refl _ _).alloc (Nat.le_refl _) _
      have ya : (wr.alloc (.cells #[.string ⟨#[]⟩, .string ⟨#[]⟩, .bool false] 33)).cell? ⟨p, 0, none⟩ = some (.slice (some ⟨b, o, none⟩) n c) := (hba.cell (p := ⟨p, 0, none⟩) (World.block_lt_of_cell? wr _ y1)).trans y1
      have e0 : (wr.alloc (.cells #[.string ⟨#[]⟩, .string ⟨#[]⟩, .bool false] 33)).cell? ⟨b, o + I * 3, none⟩ = some (.string X) := (hba.cell (p := ⟨b, o + I * 3, none⟩) (World.block_lt_of_cell? wr _ d0)).trans d0
      have e1 : (wr.alloc (.cells #[.string ⟨#[]⟩, .string ⟨#[]⟩, .bool false] 33)).cell? ⟨b, o + I * 3 + 1, none⟩ = some (.string Y) := (hba.cell (p := ⟨b, o + I * 3 + 1, none⟩) (World.block_lt_of_cell? wr _ d1)).trans d1
      have e2 : (wr.alloc (.cells #[.string ⟨#[]⟩, .string ⟨#[]⟩, .bool false] 33)).cell? ⟨b, o + I * 3 + 2, none⟩ = some (.bool Z) := (hba.cell (p := ⟨b, o + I * 3 + 2, none⟩) (World.block_lt_of_cell? wr _ d2)).trans d2
      clear hba
      go_wp2
      go_region
      cases hN : X.toList == nm.toList with
      | false =>
        go_wp2
        go_roundw
        case rel =>
          refine ⟨k + 1, d, by have := HN.out; have := hKN.out; omega, by rw [HJ.out]; go_num, rfl, ?_, HBZ.out⟩
          rw [HDk.out, HX.out, hN, HRR.out]
          rfl
        case measure => simp [intOf]; have := HJ.out; have := hKN.out; omega
      | true =>
        cases hV : Y.toList == vl.toList with
        | false =>
          rcases Nat.eq_zero_or_pos d with h0 | h0
          · subst h0
            go_wp2
            go_roundw
            case rel =>
              refine ⟨k + 1, k + 1, by have := HN.out; have := hKN.out; omega, by rw [HJ.out]; go_num, by rw [HJ.out], ?_, HBZ.out⟩
              rw [HDk.out, HX.out, hN, hV, HRR.out, HJ.out]
              simp
            case measure => simp [intOf]; have := HJ.out; have := hKN.out; omega
          · have hd0 : ¬ (d : Int) = 0 := by omega
            go_wp2
            go_roundw
            case rel =>
              refine ⟨k + 1, d, by have := HN.out; have := hKN.out; omega, by rw [HJ.out]; go_num, rfl, ?_, HBZ.out⟩
              rw [HDk.out, if_neg (show ¬ d = 0 by omega), if_neg (show ¬ d = 0 by omega), HX.out, hN, hV, HRR.out]
              simp
            case measure => simp [intOf]; have := HJ.out; have := hKN.out; omega
        | true =>
          rcases Nat.eq_zero_or_pos d with h0 | h0
          · subst h0
            have HE : Hid (D = (j, j)) := Lib.hid (by rw [HDk.out, HX.out, hN, hV, HJ.out]; rfl)
            go_wp2
            go_ret2
            rw [HE.out]
            exact ⟨rfl, HBZ.out⟩
          · have hd0 : ¬ (d : Int) = 0 := by omega
            have HE : Hid (D = (j, d)) := Lib.hid (by rw [HDk.out, if_neg (show ¬ d = 0 by omega), HX.out, hN, hV, HJ.out]; rfl)
            go_wp2
            go_ret2
            rw [HE.out]
            exact ⟨rfl, HBZ.out⟩
    · have HE : Hid (D = (0, d)) := Lib.hid (by
        rw [HDk.out, List.drop_of_length_le (by have := HN.out; omega)]
        split
        · rw [fndL]; simp_all
        · rfl)
      have jn : ¬ ((k + 1 : Nat) : Int) ≤ (n : Int) := by omega
      go_wp2
      go_ret2
      rw [HE.out]
      exact ⟨rfl, HBW.out⟩
end Go.Proofs.Ytjohchedckmadaa
