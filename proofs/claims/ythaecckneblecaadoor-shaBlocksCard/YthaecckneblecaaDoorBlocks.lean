/-
  For every int n and every byte c: wlvlaw3.ShaBlocks answers true: of n bytes c, and of one more, One is the document's sum; Salted with no salt is One of a byte 0 and the bytes.
  The card's own condition: the listed package-level variable starts as the program's text lays it (tied). No other condition.
-/
import Derived.Test.YthaecckneblecaaDoorIn
import Derived.Test.YthaecckneblecaaDoorTie
import Derived.Test.YthaecckneblecaaDoorCards
import Derived.SevenTiedAt
import Derived.ArgAppend
import Derived.OwnWalk
namespace Go.Proofs.YthaecckneblecaaDoor.shaBlocks
open Go.ChangeShapes Go.WideShapes Go.ChangeAt Go.RowKit Sh

theorem walk_long (i u : Int) (w : World) (hT : Tab w) (hl : i < 0 ∨ 300 < i) : Calls Tryd.prog 6 #[.int .i64 i, .int .u8 u] w (Yes w) := by
  have HT := Lib.hid hT
  clear hT
  by_cases h1 : i < 0
  · have q1 : decide (i < 0) = true := decide_eq_true h1
    clear hl
    go_enter Tryd.func6, Tryd.ntmps6
    go_wp2_with fail
    with_reducible refine (first_any w HT.out).mono ?_
    rintro e w1 ⟨rfl, hb1⟩
    go_wp2_with fail
    with_reducible refine (first_any w1 (HT.out.below hb1)).mono ?_
    rintro e w2 ⟨rfl, hb2⟩
    go_wp2_with fail
    go_ret
    exact ⟨rfl, hb1.trans (hb2.mono hb1.size)⟩
  · have q1 : decide (i < 0) = false := decide_eq_false h1
    have q2 : decide ((300 : Int) < i) = true := decide_eq_true (by omega)
    clear hl
    go_enter Tryd.func6, Tryd.ntmps6
    go_wp2_with fail
    with_reducible refine (first_any w HT.out).mono ?_
    rintro e w1 ⟨rfl, hb1⟩
    go_wp2_with fail
    with_reducible refine (first_any w1 (HT.out.below hb1)).mono ?_
    rintro e w2 ⟨rfl, hb2⟩
    go_wp2_with fail
    go_ret
    exact ⟨rfl, hb1.trans (hb2.mono hb1.size)⟩
theorem fill_step (n k u : Nat) (h : k < n) : (List.replicate k u ++ List.replicate (n - k) 0).set k u = List.replicate (k + 1) u ++ List.replicate (n - (k + 1)) 0 := by
  rw [show n - k = (n - (k + 1)) + 1 by omega, List.replicate_succ, List.set_append_right _ _ (by simp), List.length_replicate, Nat.sub_self, List.replicate_succ', List.append_assoc]
  rfl
def BlR (w1 : World) (n u : Nat) (i : Value) (wr : World) : Prop :=
  ∃ k : Nat, k ≤ n ∧ i = .int .i64 k ∧ wr.ownsRow w1.heap.size 5 1 (.slice (some ⟨w1.heap.size, 0, none⟩) n n) n (cn .u8 (List.replicate k u ++ List.replicate (n - k) 0)) ∧ Below w1.heap.size w1 wr
theorem own_zero (w : World) : (w.alloc (.cells #[.int .u8 0] 5)).ownsRow w.heap.size 5 1 (.slice (some ⟨w.heap.size, 0, none⟩) 1 1) [0].length (cn .u8 [0]) :=
  ⟨rfl, .inr ⟨w.heap.size, 1, #[.int .u8 0], rfl, Nat.le_refl _, heap_alloc_new w _, Nat.le_refl _, by unfold maxLen; omega, rfl, rfl⟩⟩
/-- A byte more, onto a slice that is full: new memory. -/
theorem grow (L L1 : List Nat) (u : Nat) (hL1 : L1 = L ++ [u]) (k g : Nat) (w : World) (hl : L.length = k) (hA : At .u8 (w.alloc (.cells #[.int .u8 (u : Int)] 5)) (w.alloc (.cells #[.int .u8 (u : Int)] 5)).heap.size (some ⟨g, 0, none⟩) L) (hk : k ≤ 300)
    {ops : Array Oper} {rest : List Oper} {o : Oper} {a : Act} {Q : Exit → Act → World → Prop} (hw : Region.wanted o (yielded ops a.tmps) = true) (s x : Operand) (ho : o.op = .call { callee := .builtin .append, args := #[s, x], argTypes := #[22, 22] })
    (hs : a.eval s = .slice (some ⟨g, 0, none⟩) k k) (hx : a.eval x = .slice (some ⟨w.heap.size, 0, none⟩) 1 1)
    (h : ∀ v' w', w'.ownsRow w.heap.size 5 1 v' (k + 1) (cn .u8 L1) → Below w.heap.size w w' → wpList Tryd.prog ops Q rest (a.put o.dst v') w') : wpList Tryd.prog ops Q (o :: rest) a (w.alloc (.cells #[.int .u8 (u : Int)] 5)) := by
  obtain ⟨i0, hi0, hz0, hz1, hz2⟩ := info_parts infoU8
  refine wpList_step fun K hK => ?_
  rw [if_pos hw]
  obtain ⟨v', w', hrun, h1, h2⟩ := run_append_arg_grows (P := Tryd.prog) (w.alloc (.cells #[.int .u8 (u : Int)] 5)) 22 o.type 5 i0 _ 1 1 Tryd.underlying22 hi0 hz0 hz1 hz2 rfl (by decide) ⟨g, 0, none⟩ k k (cn .u8 L) (by simp [cn, hl]) hA.cells
    ⟨w.heap.size, 0, none⟩ 1 1 (cn .u8 [u]) rfl (new_cells w (cn .u8 [u]) 5) (by omega) (by unfold maxLen; omega) (by omega)
  rw [cn_app, ← hL1] at h1
  unfold Oper.wp
  simp [execOp, ho, resolve, invoke, builtin, hs, hx, hrun, Result.andThen]
  exact hK _ _ (h v' w' (own_more h1 (by simp)) (((Below.refl _ _).alloc (Nat.le_refl _) _).grown h2 (by simp) (fun k hk => by cases hk)))
/-- The bytes L behind a byte 0. -/
theorem behind (L J : List Nat) (hJ : J = [] ++ [0] ++ L) (k g : Nat) (w : World) (hl : L.length = k) (hA : At .u8 (w.alloc (.cells #[.int .u8 0] 5)) (w.alloc (.cells #[.int .u8 0] 5)).heap.size (some ⟨g, 0, none⟩) L) (hk : k ≤ 300)
    {ops : Array Oper} {rest : List Oper} {o : Oper} {a : Act} {Q : Exit → Act → World → Prop} (hw : Region.wanted o (yielded ops a.tmps) = true) (s x : Operand) (ho : o.op = .call { callee := .builtin .append, args := #[s, x], argTypes := #[22, 22] })
    (hs : a.eval s = .slice (some ⟨w.heap.size, 0, none⟩) 1 1) (hx : a.eval x = .slice (some ⟨g, 0, none⟩) k k)
    (h : ∀ v' w', w'.ownsRow w.heap.size 5 1 v' (k + 1) (cn .u8 J) → Below w.heap.size w w' → wpList Tryd.prog ops Q rest (a.put o.dst v') w') : wpList Tryd.prog ops Q (o :: rest) a (w.alloc (.cells #[.int .u8 0] 5)) := by
  obtain ⟨i0, hi0, hz0, hz1, hz2⟩ := info_parts infoU8
  refine wpList_step fun K hK => ?_
  rw [if_pos hw]
  refine wp_append_own _ s x 22 ho w.heap.size 5 i0 _ 1 1 Tryd.underlying22 hi0 hz0 hz1 hz2 rfl (by decide) (.slice (some ⟨w.heap.size, 0, none⟩) 1 1) 1 (cn .u8 [0]) hs (own_zero w) ⟨g, 0, none⟩ k k (cn .u8 L) hx (by simp [cn, hl]) hA.cells (cn_one _ _) (by unfold maxLen; omega) (by omega) (by simp) ?_
  intro v' w' h1 h2 _
  rw [cn_app] at h1
  have e : J = [0] ++ L := by rw [hJ]; rfl
  rw [← e, Nat.add_comm 1 k] at h1
  exact hK _ _ (h v' w' h1 (((Below.refl _ _).alloc (Nat.le_refl _) _).grown h2 (by simp) (fun j hj => by injection hj with hj; subst hj; exact Nat.le_refl _)))
set_option maxRecDepth 100000 in
set_option maxHeartbeats 4000000 in
theorem walk_short (n u : Nat) (w : World) (hT : Tab w) (hn : n ≤ 300) (hu : u < 256) : Calls Tryd.prog 6 #[.int .i64 n, .int .u8 u] w (Yes w) := by
  obtain ⟨i0, hi0, hz0, hz1, hz2⟩ := info_parts infoU8
  have q1 : decide ((n : Int) < 0) = false := decide_eq_false (by omega)
  have q2 : decide ((300 : Int) < (n : Int)) = false := decide_eq_false (by omega)
  have HT := Lib.hid hT
  clear hT
  go_enter Tryd.func6, Tryd.ntmps6
  go_wp2_with fail
  with_reducible refine (first_any w HT.out).mono ?_
  rintro e w1 ⟨rfl, hb1⟩
  go_wp2_with (at_make; refine wpList_make_full _ rfl _ _ 22 rfl w1.heap.size 5 i0 _ 1 Tryd.underlying22 hi0 hz0 hz1 _ _ _ _ n rfl rfl (by omega) (by omega) (by rw [hz2]; omega) (by unfold maxLen; omega) (Nat.le_refl _) ?_; intro w2 hown1 hg1)
  have hb2 : Below w1.heap.size w1 w2 := (Below.refl _ _).grown hg1 (Nat.le_refl _) (by simp)
  have hown2 : w2.ownsRow w1.heap.size 5 1 (.slice (some ⟨w1.heap.size, 0, none⟩) n n) n (cn .u8 (List.replicate 0 u ++ List.replicate (n - 0) 0)) := by
    have e : cn .u8 (List.replicate 0 u ++ List.replicate (n - 0) 0) = (madeCells (Value.int .u8 0).cells (n * 1)).toList := by
      rw [show (Value.int .u8 0).cells = #[Value.int .u8 0] from rfl, toList_madeCells_one]
      simp [cn]
    rw [e]
    exact hown1
  clear hg1 hown1
  go_loopw [6] (fun i wr => BlR w1 n u i wr) (fun i _ => n - (intOf i).toNat)
  case atStart => exact ⟨0, Nat.zero_le _, rfl, hown2, hb2⟩
  case round =>
    clear hown2 hb2
    obtain ⟨k, hk, rfl, hown, hbel⟩ := hrel
    by_cases hlt : k < n
    · have hkl : k < (List.replicate k u ++ List.replicate (n - k) 0).length := by simp; omega
      obtain ⟨z, hz⟩ : ∃ z, wr.cell? ⟨w1.heap.size, k, none⟩ = some z := ⟨_, own_at hown hkl⟩
      have hf : wr.frozen? ⟨w1.heap.size, k, none⟩ = false := own_free hown
      have hst := (hown.stored k (.int .u8 (u : Int))).1
      rw [cn_set, fill_step n k u hlt] at hst
      have hbs := hbel.setCell (p := ⟨w1.heap.size, k, none⟩) (Nat.le_refl _) (.int .u8 (u : Int))
      have HST := Lib.hid hst
      have i1 : (k : Int) < (n : Int) := by omega
      clear hown hbel hkl hst
      go_wp2
      go_roundw
      case rel => exact ⟨k + 1, by omega, by go_num, HST.out, hbs⟩
      case measure => simp [intOf]; omega
    · obtain rfl : k = n := by omega
      obtain ⟨L, hL⟩ : ∃ L, L = List.replicate k u := ⟨_, rfl⟩
      have hown' : wr.ownsRow w1.heap.size 5 1 (.slice (some ⟨w1.heap.size, 0, none⟩) k k) k (cn .u8 L) := by
        rw [hL]
        simpa using hown
      have HLL : Hid (L.length = k) := Lib.hid (by rw [hL]; simp)
      have HLB : Hid (∀ x ∈ L, x < 256) := Lib.hid (by rw [hL]; intro x hx; rw [List.eq_of_mem_replicate hx]; exact hu)
      obtain ⟨L1, hL1⟩ : ∃ L1, L1 = L ++ [u] := ⟨_, rfl⟩
      have HL1L : Hid (L1.length = k + 1) := Lib.hid (by rw [hL1, List.length_append, HLL.out]; rfl)
      have HL1B : Hid (∀ x ∈ L1, x < 256) := Lib.hid (by
        rw [hL1]
        intro x hx
        rw [List.mem_append, List.mem_singleton] at hx
        rcases hx with h | h
        · exact HLB.out x h
        · omega)
      have HL1 := Lib.hid hL1
      obtain ⟨J, hJ⟩ : ∃ J, J = [] ++ [0] ++ L := ⟨_, rfl⟩
      have HJL : Hid (J.length = k + 1) := Lib.hid (by rw [hJ]; simp; have := HLL.out; omega)
      have HJB : Hid (∀ x ∈ J, x < 256) := Lib.hid (by
        rw [hJ]
        intro x hx
        simp at hx
        rcases hx with h | h
        · omega
        · exact HLB.out x h)
      have HJ := Lib.hid hJ
      have HB3 := Lib.hid (At.of_own hown')
      have hb3 : Below w.heap.size w wr := hb1.trans (hbel.mono hb1.size)
      obtain ⟨g, hg⟩ : ∃ g, g = w1.heap.size := ⟨_, rfl⟩
      rw [← hg] at HB3 ⊢
      clear hL hL1 hJ hown hown' hbel hb1 hg
      go_wp2_with fail
      with_reducible refine (first_any wr (HT.out.below hb3)).mono ?_
      rintro e w4 ⟨rfl, hbn⟩
      have HB4 := Lib.hid (HB3.out.up hbn)
      have hb4 := hb3.trans (hbn.mono hb3.size)
      clear HB3 hb3 hbn
      go_wp2_with fail
      with_reducible refine (sone_any (some ⟨g, 0, none⟩) L k k w4 HB4.out HLB.out HLL.out (fun h => by cases h) (Nat.le_refl _) (by omega) (HT.out.below hb4)).mono ?_
      rintro e w5 ⟨v5, rfl, hr5⟩
      obtain ⟨A5, c5, rfl, hat5, _, _⟩ := hr5.sum
      have HB5 := Lib.hid (HB4.out.up hr5.2)
      have hb5 := hb4.trans (hr5.2.mono hb4.size)
      clear HB4 hb4 hr5
      go_wp2_with fail
      with_reducible refine (rrow_one (some ⟨g, 0, none⟩) L k k w5 HB5.out HLB.out HLL.out (fun h => by cases h) (by omega)).mono ?_
      rintro e w6 ⟨A6, c6, rfl, hat6, hbn⟩
      have HB6 := Lib.hid (HB5.out.up hbn)
      have hat56 := hat5.up hbn
      have hb6 := hb5.trans (hbn.mono hb5.size)
      clear HB5 hb5 hbn hat5
      go_wp2_with fail
      with_reducible refine (bytes_any A5 A6 (sum L) (sum L) 32 32 c5 c6 w6 _ _ hat56 hat6 (sum_byte L) (sum_byte L) (sum_len L) (sum_len L)).mono ?_
      rw [decide_eq_true (rfl : sum L = sum L)]
      rintro e w' ⟨rfl, rfl⟩
      clear hat56 hat6
      have HBa := Lib.hid (HB6.out.up ((Below.refl _ _).alloc (Nat.le_refl _) (.cells #[.int .u8 (u : Int)] 5)))
      go_wp2_with (at_builtin; refine grow L L1 u HL1.out k g w6 HLL.out HBa.out hn rfl (.tmp 36) (.tmp 38) rfl rfl rfl ?_; intro v7 w7 hown7 hb67; obtain ⟨A7, c7, rfl⟩ := own_shape hown7)
      have HB7 := Lib.hid (HB6.out.up hb67)
      have hb7 := hb6.trans (hb67.mono hb6.size)
      have HC7 := Lib.hid (sone_any A7 L1 (k + 1) c7 w7 (At.of_own hown7) HL1B.out HL1L.out (own_none hown7) (own_cap hown7) (by omega) (HT.out.below hb7))
      clear HB6 hb6 hb67 hown7 HBa
      with_reducible refine (HC7.out).mono ?_
      rintro e w8 ⟨v8, rfl, hr8⟩
      obtain ⟨A8, c8, rfl, hat8, _, _⟩ := hr8.sum
      have HB8 := Lib.hid (HB7.out.up hr8.2)
      have hb8 := hb7.trans (hr8.2.mono hb7.size)
      have HD8 := Lib.hid hat8
      clear HB7 hb7 hr8 hat8 HC7
      have HBb := Lib.hid (HB8.out.up ((Below.refl _ _).alloc (Nat.le_refl _) (.cells #[.int .u8 (u : Int)] 5)))
      go_wp2_with (at_builtin; refine grow L L1 u HL1.out k g w8 HLL.out HBb.out hn rfl (.tmp 41) (.tmp 43) rfl rfl rfl ?_; intro v9 w9 hown9 hb89; obtain ⟨A9, c9, rfl⟩ := own_shape hown9)
      have HB9 := Lib.hid (HB8.out.up hb89)
      have HD9 := Lib.hid (HD8.out.up hb89)
      have hb9 := hb8.trans (hb89.mono hb8.size)
      have HC9 := Lib.hid (rrow_one A9 L1 (k + 1) c9 w9 (At.of_own hown9) HL1B.out HL1L.out (own_none hown9) (by omega))
      clear HB8 HD8 hb8 hb89 hown9 HBb
      with_reducible refine (HC9.out).mono ?_
      rintro e w10 ⟨A10, c10, rfl, hat10, hbn⟩
      have HB10 := Lib.hid (HB9.out.up hbn)
      have HD10 := Lib.hid (HD9.out.up hbn)
      have hb10 := hb9.trans (hbn.mono hb9.size)
      clear HB9 HD9 hb9 hbn HC9
      go_wp2_with fail
      with_reducible refine (bytes_any A8 A10 (sum L1) (sum L1) 32 32 c8 c10 w10 _ _ HD10.out hat10 (sum_byte L1) (sum_byte L1) (sum_len L1) (sum_len L1)).mono ?_
      rw [decide_eq_true (rfl : sum L1 = sum L1)]
      rintro e w' ⟨rfl, rfl⟩
      clear HD10 hat10
      go_wp2_with fail
      with_reducible refine (ssalted_any none (some ⟨g, 0, none⟩) [] L J HJ.out 0 k 0 k w10 (at_nil _ _ _ _) HB10.out (fun x hx => by simp at hx) HLB.out rfl HLL.out (fun _ => rfl) (fun h => by cases h) (by omega) (by omega) (HT.out.below hb10)).mono ?_
      rintro e w11 ⟨v11, rfl, hr11⟩
      obtain ⟨A11, c11, rfl, hat11, _, _⟩ := hr11.sum
      have HB11 := Lib.hid (HB10.out.up hr11.2)
      have HD11 := Lib.hid hat11
      have hb11 := hb10.trans (hr11.2.mono hb10.size)
      clear HB10 hb10 hr11 hat11
      have HBc := Lib.hid (HB11.out.up ((Below.refl _ _).alloc (Nat.le_refl _) (.cells #[.int .u8 0] 5)))
      go_wp2_with (at_builtin; refine behind L J HJ.out k g w11 HLL.out HBc.out hn rfl (.tmp 51) (.tmp 52) rfl rfl rfl ?_; intro v12 w12 hown12 hb1112; obtain ⟨A12, c12, rfl⟩ := own_shape hown12)
      have HD12 := Lib.hid (HD11.out.up hb1112)
      have hb12 := hb11.trans (hb1112.mono hb11.size)
      have HC12 := Lib.hid (sone_any A12 J (k + 1) c12 w12 (At.of_own hown12) HJB.out HJL.out (own_none hown12) (own_cap hown12) (by omega) (HT.out.below hb12))
      clear HB11 HD11 hb11 hb1112 hown12 HBc
      with_reducible refine (HC12.out).mono ?_
      rintro e w13 ⟨v13, rfl, hr13⟩
      obtain ⟨A13, c13, rfl, hat13, _, _⟩ := hr13.sum
      have HD13 := Lib.hid (HD12.out.up hr13.2)
      have hb13 := hb12.trans (hr13.2.mono hb12.size)
      clear HD12 hb12 hr13 HC12
      go_wp2_with fail
      with_reducible refine (bytes_any A11 A13 (sum J) (sum J) 32 32 c11 c13 w13 _ _ HD13.out hat13 (sum_byte J) (sum_byte J) (sum_len J) (sum_len J)).mono ?_
      rw [decide_eq_true (rfl : sum J = sum J)]
      rintro e w' ⟨rfl, rfl⟩
      clear HD13 hat13
      go_wp2_with fail
      go_ret
      exact ⟨rfl, hb13⟩
theorem walk (i u : Int) (w : World) (hT : Tab w) (hu : (Lit.int .u8 u).wf = true) : Calls Tryd.prog 6 #[.int .i64 i, .int .u8 u] w (Yes w) := by
  by_cases hl : i < 0 ∨ 300 < i
  · exact walk_long i u w hT hl
  · have hu' := bounds_u8 hu
    obtain ⟨k, rfl⟩ : ∃ k : Nat, i = (k : Int) := ⟨i.toNat, by omega⟩
    obtain ⟨v, rfl⟩ : ∃ v : Nat, u = (v : Int) := ⟨u.toNat, by omega⟩
    exact walk_short k v w hT (by omega) (by omega)

set_option maxRecDepth 100000 in
theorem lifted (os : Os) (started : os.Started) (H : Type) (enc : TypeId × Value → H) :
    ReturnsInHanded {} Tryd.checked os 6 .any (fun w args => (Rows.shaBlocksSpec.pre enc Tryd.prog Tryd.f6 [] false w args ∧ laidMetH Tryd.prog laid1 w) ∧ sizedMet enc Tryd.prog Tryd.f6 (OpenSpec.ofChange Rows.shaBlocksSpec) false w args)
      (Rows.shaBlocksSpec.post enc Tryd.prog Tryd.f6 false true false false) := by
  refine returnsInHanded_of_change_and (C := Tryd.checked) (X := fun w _ => laidMetH Tryd.prog laid1 w) (fun _ _ _ hh h => h.of_heap hh) own started (by kernel_rfl) Tryd.func6
    (ChangeSpec.witness_shaped (enc := enc) (C := Tryd.checked) (os := os) (X := fun w _ => laidMetH Tryd.prog laid1 w) false (World.doorLaid Tryd.prog 14 os) #[.int .i64 0, .int .u8 0] 8 rfl (World.shaped_of_RefB (by kernel_rfl) (by kernel_rfl)) (by kernel_rfl) (by kernel_rfl) (by kernel_rfl) (door_met os _)) ?_
  intro W base args ds gs before hval0 hW _ _ hL _
  have hval : ∀ (j : Nat) t v, Tryd.f6.params[j]? = some t → args[j]? = some v → Value.okWide Tryd.prog W .any base t v := hval0
  have hW' := hW
  obtain ⟨p, q, hA0, hV, rfl, hfz, hnd⟩ := hW
  have hA : DataW.TrodAll enc Tryd.prog W 0 (fun _ => true) true Tryd.f6.params.toList args.toList ds p := hA0
  rw [Tryd.params6] at hA hval
  obtain ⟨v0, vs0, d0, ds0, p0, q0, hargs, rfl, rfl, h0, r0⟩ := trodAll_cons hA
  obtain ⟨v1, vs1, d1, ds1, p1, q1, rfl, rfl, rfl, h1, r1⟩ := trodAll_cons r0
  obtain ⟨rfl, rfl, rfl⟩ := trodAll_nil r1
  obtain rfl : args = #[v0, v1] := by cases args; simp_all
  obtain ⟨rfl, rfl⟩ := trodVars_none hV
  obtain ⟨i0, rfl, rfl, rfl, w0⟩ := open_int Tryd.underlying3 (hval 0 3 v0 rfl rfl) h0
  obtain ⟨i1, rfl, rfl, rfl, w1⟩ := open_int Tryd.underlying5 (hval 1 5 v1 rfl rfl) h1
  have hT := tab_of_laid hL
  clear hA0 hval0
  refine (walk i0 i1 W hT w1).mono fun e W' ⟨he, bel⟩ => ?_
  subst he
  exact ⟨_, rfl, _, _, _, [], _, [], hW', trodAll_mk1 (shut_bool Tryd.underlying4 _), (trodAll_cons_mk (shut_int Tryd.underlying3 w0) (trodAll_cons_mk (shut_int Tryd.underlying5 w1) trodAll_mk0)), rfl, bel.frame _, fun h => by cases h⟩

theorem over : Rows.shaBlocksRow.holds Tryd.pinned (OpenSpec.ofChange Rows.shaBlocksSpec) :=
  OpenClaim.holds_of_wide 6 Tryd.f6 rfl rfl rfl rfl rfl rfl rfl ⟨rfl, rfl, rfl, rfl, rfl⟩ rfl rfl rfl rfl rfl (by kernel_rfl) Tryd.func6 (by kernel_rfl)
    (of_decide_eq_true (by kernel_rfl)) (by unfold Func.isWrapper; first | (rw [if_pos (by decide +kernel)]; kernel_rfl) | (rw [if_neg (by decide +kernel)]; exact ⟨rfl, rfl⟩))
    (fun os started H enc _ => lifted os started H enc)

end Go.Proofs.YthaecckneblecaaDoor.shaBlocks
namespace Go.Proofs.YthaecckneblecaaDoor
theorem shaBlocks_holds : Rows.ShaBlocksCardSaid :=
  Claim7.holds_tied_plain_at .later [] [.data] true (true, "49f9cc08ee9b641f6f38c9c905c1d8a058b6377c34e7407e40867af2676a575d") false
    shaBlocks.over (fun _ h => by cases h) (by kernel_rfl) (fun _ h => by cases h) shaBlocks_row_tie rfl ⟨rfl, rfl⟩ (by kernel_rfl) rfl
    (fun f fn hf hfn => by
      obtain rfl : f = 6 := Option.some.inj ((show Tryd.prog.funcNamed Rows.shaBlocksRow.func = some 6 by kernel_rfl).symm.trans hf) |>.symm
      obtain rfl : fn = Tryd.f6 := (Option.some.inj (Tryd.func6.symm.trans hfn)).symm
      exact ⟨by kernel_rfl, fun j t ht => by
        rw [Tryd.params6] at ht
        have hm : t ∈ [3, 5] := by simpa using Array.mem_of_getElem? ht
        have hall : ([3, 5].all fun u => !Tryd.prog.wantsStandIn u) = true := by kernel_rfl
        exact (show Tryd.prog.wantsStandIn t = false by simpa using List.all_eq_true.1 hall t hm)⟩)
    (by kernel_rfl)
#print axioms shaBlocks_holds
end Go.Proofs.YthaecckneblecaaDoor
