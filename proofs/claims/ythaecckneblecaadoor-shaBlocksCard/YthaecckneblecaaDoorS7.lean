/- Contracts of the program's Salted and Equal, and of the statements' helpers Bytes, Copy and first. -/
import Derived.Test.YthaecckneblecaaDoorS6
import Derived.Lib.AppendStr
namespace Go.Proofs.YthaecckneblecaaDoor
open Go.RowKit Sh

theorem Row.at {B : Nat} {w w' : World} {s : List Nat} {v : Value} (h : Row B w s v w') : ∃ A c, v = .slice A s.length c ∧ At .u8 w' w'.heap.size A s ∧ (A = none → c = 0) ∧ s.length ≤ c := by
  obtain ⟨A, c, rfl⟩ := own_shape h.1
  exact ⟨A, c, rfl, At.of_own h.1, own_none h.1, own_cap h.1⟩
theorem RowPost.more {w w1 : World} {s : List Nat} {e : Ending} {w' : World} (h : RowPost w1.heap.size w1 s e w') (hb : Below w.heap.size w w1) : RowPost w.heap.size w s e w' := by
  obtain ⟨v, rfl, h1, h2⟩ := h
  exact ⟨v, rfl, own_more h1 hb.size, hb.trans (h2.mono hb.size)⟩
theorem sum_byte (l : List Nat) : ∀ x ∈ sum l, x < 256 := outB_byte _
set_option maxHeartbeats 2000000 in
theorem ssalted_any (A A' : Option Addr) (s l J : List Nat) (hJ : J = s ++ [0] ++ l) (n n' c c' : Nat) (w : World) (hA : At .u8 w w.heap.size A s) (hA' : At .u8 w w.heap.size A' l) (hs : ∀ x ∈ s, x < 256) (hb : ∀ x ∈ l, x < 256) (hn : s.length = n) (hn' : l.length = n') (hc : A = none → c = 0) (hc' : A' = none → c' = 0) (hm : n ≤ 2400) (hm' : n' ≤ 2400) (hT : Tab w) :
    Calls Tryd.prog 11 #[.slice A n c, .slice A' n' c'] w (RowPost w.heap.size w (sum J)) := by
  have HJ := Lib.hid hJ
  clear hJ
  obtain ⟨i0, hi0, hz0, hz1, hz2⟩ := info_parts infoU8
  have HC := Lib.hid hc
  have HC' := Lib.hid hc'
  have HS := Lib.hid hs
  have HB := Lib.hid hb
  have HN := Lib.hid hn
  have HN' := Lib.hid hn'
  have HT := Lib.hid hT
  clear hc hc' hs hb hn hn' hT
  go_enter Tryd.func11, Tryd.ntmps11
  go_wp2_with (first
    | (at_make; refine wpList_make_own _ rfl _ _ 22 rfl w.heap.size 5 i0 _ 1 Tryd.underlying22 hi0 hz0 hz1 _ _ _ (n + 1 + n') rfl rfl (by first | omega | (simp; omega)) (by rw [hz2]; omega) (by unfold maxLen; omega) (Nat.le_refl _) ?_; intro w1 hown1 hg1; have hb1 : Below w.heap.size w w1 := (Below.refl _ _).grown hg1 (Nat.le_refl _) (fun k hk => by cases hk))
    | (at_builtin; refine wpList_append_at rfl (.tmp 13) (.tmp 14) rfl w.heap.size _ [] rfl hown1 A s _ c HN.out rfl HC.out _ (hA.below hb1 (Nat.le_refl _)) ?_ ?_ ?_; (rotate_right; intro v4 w4 hown4 hg4; have hb4 : Below w.heap.size w w4 := hb1.grown hg4 hb1.size (own_block hown1)))
    | (at_builtin; refine wpList_append_at rfl (.tmp 16) (.tmp 17) rfl w.heap.size _ s rfl (hown4.alloc _) (some ⟨w4.heap.size, 0, none⟩) [0] _ 1 rfl rfl (fun h => by cases h) _ (At.new w4 [0] 5 (0, 0)) ?_ ?_ ?_; (rotate_right; intro v5 w5 hown5 hg5; have hb5 : Below w.heap.size w w5 := (hb4.alloc hb4.size _).grown hg5 (by have := hb4.size; simp; omega) (own_block hown4)))
    | (at_builtin; refine wpList_append_at rfl (.tmp 19) (.tmp 20) rfl w.heap.size _ (s ++ [0]) rfl hown5 A' l _ c' HN'.out rfl HC'.out _ (hA'.below hb5 (Nat.le_refl _)) ?_ ?_ ?_; (rotate_right; intro v6 w6 hown6 hg6; rw [← HJ.out] at hown6; obtain ⟨A6, c6, rfl⟩ := own_shape hown6)))
  · have hb6 : Below w.heap.size w w6 := hb5.grown hg6 hb5.size (own_block hown5)
    have hby : ∀ x ∈ J, x < 256 := by
      intro x hx
      rw [HJ.out] at hx
      rw [List.mem_append, List.mem_append, List.mem_singleton] at hx
      rcases hx with (h | h) | h
      · exact HS.out x h
      · omega
      · exact HB.out x h
    have HCC := Lib.hid (sone_any A6 J _ c6 w6 (At.of_own hown6) hby rfl (own_none hown6) (own_cap hown6) (by rw [HJ.out]; simp; have := HN.out; have := HN'.out; omega) (HT.out.below hb6))
    clear hown6 hg6 hown5 hg5 hown4 hg4 hown1 hg1 hb1 hb4 hb5 hby
    go_wp2_with fail
    with_reducible refine (HCC.out).mono ?_
    rintro e w7 hp
    obtain ⟨v7, rfl, hr7⟩ := hp.more hb6
    go_wp2
    go_ret
    exact ⟨v7, rfl, hr7⟩
  all_goals (have := HN.out; have := HN'.out; first | (simp; omega) | (have := hb1.size; simp; omega) | (have := hb4.size; simp; omega) | (have := hb5.size; simp; omega) | simp)
theorem rrow_one (A : Option Addr) (l : List Nat) (n c : Nat) (w : World) (hA : At .u8 w w.heap.size A l) (hb : ∀ x ∈ l, x < 256) (hl : l.length = n) (hc : A = none → c = 0) (hn : n ≤ 5000) :
    Calls Tryd.prog 10 #[.slice A n c] w (OnePost w (sum l)) := by
  subst hl
  exact one_any A l c w hA hb hc hn
/-- Equal's round: the differences so far. -/
def EqR (l l' : List Nat) (w : World) (d i : Value) (wr : World) : Prop := ∃ k a : Nat, k ≤ l.length ∧ i = .int .i64 k ∧ d = .int .u8 a ∧ a < 256 ∧ (a = 0 ↔ l.take k = l'.take k) ∧ ∃ j, wr = w.drewN j
theorem or_zero (a b : Nat) : a ||| b = 0 ↔ a = 0 ∧ b = 0 := by
  constructor
  · intro h
    refine ⟨?_, ?_⟩
    · apply Nat.eq_of_testBit_eq
      intro i
      have := congrArg (·.testBit i) h
      simp at this
      simp [this.1]
    · apply Nat.eq_of_testBit_eq
      intro i
      have := congrArg (·.testBit i) h
      simp at this
      simp [this.2]
  · rintro ⟨rfl, rfl⟩
    rfl
theorem xor_zero (a b : Nat) : a ^^^ b = 0 ↔ a = b := by
  constructor
  · intro h
    apply Nat.eq_of_testBit_eq
    intro i
    have := congrArg (·.testBit i) h
    simpa using this
  · rintro rfl
    simp
theorem take_step (l l' : List Nat) (k : Nat) (h : k < l.length) (h' : k < l'.length) : l.take (k + 1) = l'.take (k + 1) ↔ l.take k = l'.take k ∧ l[k] = l'[k] := by
  rw [List.take_succ_eq_append_getElem h, List.take_succ_eq_append_getElem h']
  constructor
  · intro e
    have hl : (l.take k).length = (l'.take k).length := by simp; omega
    obtain ⟨e1, e2⟩ := List.append_inj e hl
    exact ⟨e1, by simpa using e2⟩
  · rintro ⟨e1, e2⟩
    rw [e1, e2]
set_option maxHeartbeats 2000000 in
theorem equal_any (A A' : Option Addr) (l l' : List Nat) (n n' c c' : Nat) (w : World) (B B' : Nat) (hA : At .u8 w B A l) (hA' : At .u8 w B' A' l') (hb : ∀ x ∈ l, x < 256) (hb' : ∀ x ∈ l', x < 256) (hn : l.length = n) (hn' : l'.length = n') (hm : n ≤ 100000) (hm' : n' ≤ 100000) :
    Calls Tryd.prog 13 #[.slice A n c, .slice A' n' c'] w (Drawn (.bool (decide (l = l'))) w) := by
  have HN := Lib.hid hn
  have HN' := Lib.hid hn'
  have HA := Lib.hid hA
  have HA' := Lib.hid hA'
  have HB := Lib.hid hb
  have HB' := Lib.hid hb'
  clear hn hn' hA hA' hb hb'
  by_cases hnn : n = n'
  · subst hnn
    have q1 : ((n : Int) != (n : Int)) = false := by simp
    go_enter Tryd.func13, Tryd.ntmps13
    go_wp2
    go_loopw [5, 14] (fun d i wr => EqR l l' w d i wr) (fun _ i _ => n - (intOf i).toNat)
    case atStart => exact ⟨0, 0, Nat.zero_le _, rfl, rfl, by omega, by simp, 0, rfl⟩
    case round =>
      obtain ⟨k, a, hk, rfl, rfl, ha, hz, j, rfl⟩ := hrel
      have hkn : k ≤ n := by have := HN.out; omega
      by_cases hlt : k < n
      · have hk1 : k < l.length := by have := HN.out; omega
        have hk2 : k < l'.length := by have := HN'.out; omega
        obtain ⟨b, o, rfl, _, hc1⟩ := HA.out.pos (by omega)
        obtain ⟨b', o', rfl, _, hc2⟩ := HA'.out.pos (by omega)
        obtain ⟨x, hx⟩ : ∃ x, x = l[k] := ⟨_, rfl⟩
        obtain ⟨y, hy⟩ : ∃ y, y = l'[k] := ⟨_, rfl⟩
        have cx : (w.drewN j).cell? ⟨b, o + k, none⟩ = some (.int .u8 (x : Int)) := by rw [hx]; exact hc1 k hk1
        have cy : (w.drewN j).cell? ⟨b', o' + k, none⟩ = some (.int .u8 (y : Int)) := by rw [hy]; exact hc2 k hk2
        have bx : x < 256 := by rw [hx]; exact HB.out _ (List.getElem_mem _)
        have by' : y < 256 := by rw [hy]; exact HB'.out _ (List.getElem_mem _)
        obtain ⟨z, hzz⟩ : ∃ z, z = x ^^^ y := ⟨_, rfl⟩
        obtain ⟨a2, ha2⟩ : ∃ a2, a2 = a ||| z := ⟨_, rfl⟩
        have bz : z < 256 := by rw [hzz]; exact Nat.xor_lt_two_pow (n := 8) bx by'
        have ba : a2 < 256 := by rw [ha2]; exact Nat.or_lt_two_pow (n := 8) ha bz
        have u1 : bits BinOp.xor IntKind.u8 (x : Int) (y : Int) = (z : Int) := by rw [hzz]; exact u8_xor_nat x y bx by'
        have u2 : bits BinOp.or IntKind.u8 (a : Int) (z : Int) = (a2 : Int) := by rw [ha2]; exact u8_or_nat a z ha bz
        have HZ : Hid (a2 = 0 ↔ l.take (k + 1) = l'.take (k + 1)) := by
          apply Lib.hid
          rw [ha2, or_zero, hzz, xor_zero, take_step l l' k hk1 hk2, ← hx, ← hy, hz]
        have i1 : (k : Int) < (n : Int) := by omega
        clear hx hy hzz ha2 hz hc1 hc2
        generalize hwj : w.drewN j = w5 at cx cy ⊢
        have HW := Lib.hid hwj
        clear hwj
        go_wp2
        go_quiet (fail)
        go_wp2
        go_roundw
        case rel =>
          refine ⟨k + 1, a2, by have := HN.out; omega, by go_num, rfl, ba, HZ.out, j + nq, ?_⟩
          rw [← HW.out, World.drewN_drewN]
        case measure => simp [intOf]; omega
      · obtain rfl : k = n := by omega
        have hl1 : l.take k = l := List.take_of_length_le (by have := HN.out; omega)
        have hl2 : l'.take k = l' := List.take_of_length_le (by have := HN'.out; omega)
        rw [hl1, hl2] at hz
        have HD : Hid (((a : Int) == 0) = decide (l = l')) := by
          apply Lib.hid
          rw [Bool.eq_iff_iff]
          simp only [beq_iff_eq, decide_eq_true_eq]
          rw [← hz]
          omega
        clear hz hl1 hl2
        go_wp2
        go_ret
        exact ⟨ret_bool HD.out, j, rfl⟩
  · have q1 : ((n : Int) != (n' : Int)) = true := by simp; omega
    have hd : decide (l = l') = false := by
      have := HN.out
      have := HN'.out
      simp
      rintro rfl
      omega
    rw [hd]
    go_enter Tryd.func13, Tryd.ntmps13
    go_wp2
    go_ret
    exact ⟨rfl, 0, rfl⟩
end Go.Proofs.YthaecckneblecaaDoor
