/- Contracts of the program's appendWord and ending. -/
import Derived.Test.YthaecckneblecaaDoorSalted
import Derived.Laws.MakeOwn
namespace Go.Proofs.YthaecckneblecaaDoor
open Go.RowKit Sh

/-- A row of the call's own, from block B on, with the bytes s; nothing below B has turned. -/
def Row (B : Nat) (w : World) (s : List Nat) (v : Value) (w' : World) : Prop := w'.ownsRow B 5 1 v s.length (cn .u8 s) ∧ Below B w w'
def RowPost (B : Nat) (w : World) (s : List Nat) (e : Ending) (w' : World) : Prop := ∃ v, e = .returned v ∧ Row B w s v w'
set_option maxHeartbeats 2000000 in
theorem appendWord_any (B : Nat) (v : Value) (l : List Nat) (x : Nat) (w : World) (hown : w.ownsRow B 5 1 v l.length (cn .u8 l)) (hl : l.length ≤ 100000) (hB : B ≤ w.heap.size) :
    Calls Tryd.prog 17 #[v, .int .u32 x] w (RowPost B w (l ++ bytes4 x)) := by
  obtain ⟨y0, hy0⟩ : ∃ y, y = x / 16777216 % 256 := ⟨_, rfl⟩
  obtain ⟨y1, hy1⟩ : ∃ y, y = x / 65536 % 256 := ⟨_, rfl⟩
  obtain ⟨y2, hy2⟩ : ∃ y, y = x / 256 % 256 := ⟨_, rfl⟩
  obtain ⟨y3, hy3⟩ : ∃ y, y = x % 256 := ⟨_, rfl⟩
  have r0 : IntKind.u8.wrap ((x : Int) / 16777216) = (y0 : Int) := by rw [IntKind.wrap_u8']; omega
  have r1 : IntKind.u8.wrap ((x : Int) / 65536) = (y1 : Int) := by rw [IntKind.wrap_u8']; omega
  have r2 : IntKind.u8.wrap ((x : Int) / 256) = (y2 : Int) := by rw [IntKind.wrap_u8']; omega
  have r3 : IntKind.u8.wrap (x : Int) = (y3 : Int) := by rw [IntKind.wrap_u8']; omega
  have HY4 : Hid (bytes4 x = [y0, y1, y2, y3]) := by apply Lib.hid; rw [bytes4, hy0, hy1, hy2, hy3]
  have hown9 := hown.alloc (.cells #[.int .u8 (y0 : Int), .int .u8 (y1 : Int), .int .u8 (y2 : Int), .int .u8 (y3 : Int)] 5)
  have HO := Lib.hid hown
  have HO9 := Lib.hid hown9
  clear hy0 hy1 hy2 hy3 hown hown9
  go_enter Tryd.func17, Tryd.ntmps17
  go_wp2_with (at_builtin; refine wpList_append_at rfl (.tmp 5) (.tmp 17) rfl B v l rfl HO9.out (some ⟨w.heap.size, 0, none⟩) [y0, y1, y2, y3] _ 4 rfl rfl (fun h => by cases h) _ (At.new w [y0, y1, y2, y3] 5 (0, 0)) ?_ ?_ ?_; (rotate_right; intro v4 w4 hown4 hg4))
  · have hb4 : Below B w w4 := ((Below.refl _ _).alloc hB _).grown hg4 (by simp; omega) (own_block HO.out)
    clear hg4
    go_wp2
    go_ret
    refine ⟨v4, rfl, ?_, hb4⟩
    rw [HY4.out]
    exact hown4
  all_goals first | (simp; omega) | simp
def EndR (w : World) (r : List Nat) (v : Value) (w' : World) : Prop := ∃ j : Nat, j ≤ zer r.length ∧ Row w.heap.size w (r ++ [128] ++ List.replicate j 0) v w'
def endB (r : List Nat) (N : Nat) : List Nat := r ++ [128] ++ List.replicate (zer r.length) 0 ++ lenBytes N
theorem endB_len (r : List Nat) (N : Nat) : (endB r N).length = r.length + zer r.length + 9 := by
  simp [endB, lenBytes]; omega
theorem lenBytes_eq (N : Nat) (hN : N ≤ 1000000) : lenBytes N = bytes4 (N * 8 / 4294967296) ++ bytes4 (N * 8 % 4294967296) := by
  have h0 : N * 8 / 4294967296 = 0 := by omega
  have h1 : N * 8 % 4294967296 = N * 8 := by omega
  have a0 : N * 8 / 72057594037927936 % 256 = 0 := by omega
  have a1 : N * 8 / 281474976710656 % 256 = 0 := by omega
  have a2 : N * 8 / 1099511627776 % 256 = 0 := by omega
  unfold lenBytes bytes4
  rw [a0, a1, a2, h0, h1]
  rfl
set_option maxHeartbeats 4000000 in
theorem ending_any (A : Option Addr) (r : List Nat) (n c N : Nat) (w : World) (hn : r.length = n) (hA : At .u8 w w.heap.size A r) (hc : A = none → c = 0) (hr : n < 64) (hN : N ≤ 1000000) :
    Calls Tryd.prog 16 #[.slice A n c, .int .u64 N] w (RowPost w.heap.size w (endB r N)) := by
  obtain ⟨i0, hi0, hz0, hz1, hz2⟩ := info_parts infoU8
  have HC := Lib.hid hc
  have HN := Lib.hid hn
  clear hc hn
  go_enter Tryd.func16, Tryd.ntmps16
  go_wp2_with (first
    | (at_make; refine wpList_make_own _ rfl _ _ 22 rfl w.heap.size 5 i0 _ 1 Tryd.underlying22 hi0 hz0 hz1 _ _ _ 128 rfl rfl (by omega) (by rw [hz2]; omega) (by unfold maxLen; omega) (Nat.le_refl _) ?_; intro w1 hown1 hg1; have hb1 : Below w.heap.size w w1 := (Below.refl _ _).grown hg1 (Nat.le_refl _) (fun k hk => by cases hk))
    | (at_builtin; refine wpList_append_at rfl (.tmp 8) (.tmp 9) rfl w.heap.size _ [] rfl hown1 A r _ c HN.out rfl HC.out _ (hA.below hb1 (Nat.le_refl _)) ?_ ?_ ?_; (rotate_right; intro v4 w4 hown4 hg4; have hb4 : Below w.heap.size w w4 := hb1.grown hg4 hb1.size (own_block hown1)))
    | (at_builtin; refine wpList_append_at rfl (.tmp 11) (.tmp 12) rfl w.heap.size _ r rfl (hown4.alloc _) (some ⟨w4.heap.size, 0, none⟩) [128] _ 1 rfl rfl (fun h => by cases h) _ (At.new w4 [128] 5 (0, 0)) ?_ ?_ ?_; (rotate_right; intro v5 w5 hown5 hg5)))
  · have hb5 : Below w.heap.size w w5 := (hb4.alloc hb4.size _).grown hg5 (by have := hb4.size; simp; omega) (own_block hown4)
    clear hown1 hg1 hb1 hown4 hg4 hg5 hb4
    go_wp2
    go_loopw [5] (fun v w' => EndR w r v w') (fun v _ => r.length + 1 + zer r.length - mLen v)
    case atStart => exact ⟨0, Nat.zero_le _, by simpa using hown5, hb5⟩
    case round =>
      clear hown5 hb5
      obtain ⟨j, hj, hown, hbel⟩ := hrel
      obtain ⟨M, hM⟩ : ∃ M, M = (r ++ [128] ++ List.replicate j 0).length := ⟨_, rfl⟩
      rw [← hM] at hown
      have hM1 : M = r.length + 1 + j := by rw [hM]; simp; omega
      obtain ⟨A6, c6, rfl⟩ := own_shape hown
      have HMM := Lib.hid hM
      have HM1 := Lib.hid hM1
      have hM5 : M ≤ 200 := by have : zer r.length < 64 := Nat.mod_lt _ (by omega); have := HN.out; omega
      by_cases hjz : j < zer r.length
      · have hq : ((M : Int) % 64 != 56) = true := by
          have : (r.length + 1 + j) % 64 ≠ 56 := by unfold zer at hjz; omega
          simp
          omega
        clear hM hM1
        go_wp2_with (at_builtin; refine wpList_append_own _ rfl _ _ 22 rfl w.heap.size 5 i0 _ 1 1 Tryd.underlying22 hi0 hz0 hz1 hz2 rfl (by decide) _ _ _ rfl (hown.alloc _) ⟨wr.heap.size, 0, none⟩ 1 1 _ rfl rfl (cell_one_new _ _ _) ?c2 ?c3 ?c4 ?c5 ?_)
        case c2 => first | rfl | (intro u hu; simp at hu; subst hu; rfl)
        case c3 => unfold maxLen; omega
        case c4 => omega
        case c5 => have := hbel.size; simp; omega
        intro v' w2 hown3 hg3 _
        have hbelF := below_app hbel hown hg3
        obtain ⟨A7, c7, rfl⟩ := own_shape hown3
        clear hg3 hown hbel
        go_wp2
        go_roundw
        case rel =>
          refine ⟨j + 1, by omega, ?_, hbelF⟩
          have e : r ++ [128] ++ List.replicate (j + 1) 0 = (r ++ [128] ++ List.replicate j 0) ++ [0] := by rw [List.replicate_succ', ← List.append_assoc]
          rw [e, ← cn_snoc, List.length_append, ← HMM.out]
          simpa using hown3
        case measure => simp [mLen]; have := HM1.out; omega
      · have hjz' : j = zer r.length := by omega
        have hq : ((M : Int) % 64 != 56) = false := by
          have : (r.length + 1 + j) % 64 = 56 := by rw [hjz']; unfold zer; omega
          simp
          omega
        clear hM hM1
        subst hjz'
        obtain ⟨M0, hM0⟩ : ∃ M, M = r ++ [128] ++ List.replicate (zer r.length) 0 := ⟨_, rfl⟩
        rw [HMM.out, ← hM0] at hown
        have HM0 := Lib.hid hM0
        have hML : M0.length ≤ 200 := by rw [hM0, ← HMM.out]; exact hM5
        have hq' : ((M0.length : Int) % 64 != 56) = false := by rw [hM0, ← HMM.out]; exact hq
        rw [HMM.out, ← hM0]
        clear hM0 HMM HM1 hM5 hq
        obtain ⟨x1, hx1⟩ : ∃ x, x = N * 8 / 4294967296 := ⟨_, rfl⟩
        obtain ⟨x2, hx2⟩ : ∃ x, x = N * 8 % 4294967296 := ⟨_, rfl⟩
        have u0 : IntKind.u64.wrap ((N : Int) * 8) = (N : Int) * 8 := by
          have e : ∀ z : Int, IntKind.u64.wrap z = z % 18446744073709551616 := fun z => by simp [IntKind.wrap, IntKind.bits, IntKind.signed]
          rw [e]
          omega
        have u1 : IntKind.u32.wrap ((N : Int) * 8 / 4294967296) = (x1 : Int) := by rw [IntKind.wrap_u32']; omega
        have u2 : IntKind.u32.wrap ((N : Int) * 8) = (x2 : Int) := by rw [IntKind.wrap_u32']; omega
        have HX1 := Lib.hid hx1
        have HX2 := Lib.hid hx2
        clear hx1 hx2
        go_wp2_with fail
        with_reducible refine (appendWord_any w.heap.size (.slice A6 M0.length c6) M0 x1 wr hown (by omega) hbel.size).mono ?_
        rintro e w7 ⟨v7, rfl, hown7, hb7⟩
        have hbA : Below w.heap.size w w7 := hbel.trans hb7
        clear hb7 hbel hown
        go_wp2_with fail
        with_reducible refine (appendWord_any w.heap.size v7 (M0 ++ bytes4 x1) x2 w7 hown7 (by simp [bytes4]; omega) hbA.size).mono ?_
        rintro e w8 ⟨v8, rfl, hown8, hb8⟩
        have hbB : Below w.heap.size w w8 := hbA.trans hb8
        clear hb8 hbA hown7
        go_wp2
        go_ret
        refine ⟨v8, rfl, ?_, hbB⟩
        have e : endB r N = M0 ++ bytes4 x1 ++ bytes4 x2 := by rw [endB, ← HM0.out, lenBytes_eq N hN, ← HX1.out, ← HX2.out, List.append_assoc]
        rw [e]
        exact hown8
  all_goals first | (have := HN.out; simp; omega) | (have := hb1.size; simp; omega) | (have := hb4.size; simp; omega) | simp
end Go.Proofs.YthaecckneblecaaDoor
