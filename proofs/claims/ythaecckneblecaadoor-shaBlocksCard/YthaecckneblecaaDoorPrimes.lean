/- Contract of the reference's primes: the first 64. -/
import Derived.Test.YthaecckneblecaaDoorMem
namespace Go.Proofs.YthaecckneblecaaDoor
open Go.RowKit Sh

theorem infoInt : (Tryd.prog.info? 3).map (fun i => (i.zero, i.size, i.bytes)) = some (some (.int .i64 0), 1, 8) := by kernel_rfl
def PrR (w : World) (v p : Value) (wr : World) : Prop :=
  ∃ m : Nat, m ≤ 310 ∧ p = .int .i64 ((m : Int) + 2) ∧ wr.ownsRow w.heap.size 3 1 v (pst m).length (cn .i64 (pst m)) ∧ Below w.heap.size w wr
def PrI (p : Nat) (o : List Nat) (b i : Value) : Prop := ∃ j : Nat, j ≤ o.length ∧ i = .int .i64 j ∧ b = .bool (isNew p (o.take j))
def PrPost (w : World) (e : Ending) (w' : World) : Prop := ∃ A c, e = .returned (.slice A 64 c) ∧ At .i64 w' w'.heap.size A primes64 ∧ Below w.heap.size w w'
theorem below_app {w wr w2 : World} {T : Nat} {A : Option Addr} {n c : Nat} {xs : List Value} {o : Obj} (hb : Below w.heap.size w wr) (hown : wr.ownsRow w.heap.size T 1 (.slice A n c) n xs) (hg : (wr.alloc o).grownBy w2 (Value.ownBlock (.slice A n c))) : Below w.heap.size w w2 :=
  (hb.alloc hb.size o).grown hg (by have := hb.size; simp; omega) (own_block hown)
theorem ne_cast (m y : Nat) : (((m : Int) + 2) % (y : Int) != 0) = ((m + 2) % y != 0) := by
  rw [show (m : Int) + 2 = ((m + 2 : Nat) : Int) by omega, ← Int.natCast_emod, Bool.eq_iff_iff]
  simp only [bne_iff_ne, ne_eq]
  omega
set_option maxHeartbeats 2000000 in
theorem primes_any (w : World) : Calls Tryd.prog 18 #[.int .i64 64] w (PrPost w) := by
  obtain ⟨i0, hi0, hz0, hz1, hz2⟩ := info_parts infoInt
  go_enter Tryd.func18, Tryd.ntmps18
  go_wp2
  go_loopw [3, 4] (fun v p wr => PrR w v p wr) (fun _ p _ => 312 - (intOf p).toNat)
  case atStart => exact ⟨0, by omega, rfl, World.ownsRow_nil _ _ _ _, Below.refl _ _⟩
  case round =>
    obtain ⟨m, hm, rfl, hown, hbel⟩ := hrel
    obtain ⟨A, c, rfl⟩ := own_shape hown
    by_cases hlt : m < 310
    · have hlen : (pst m).length ≤ 63 := Nat.le_trans (pst_mono (show m ≤ 309 by omega)) (Nat.le_of_eq pst_309)
      obtain ⟨o, ho⟩ : ∃ o, o = pst m := ⟨_, rfl⟩
      have hge : ∀ q ∈ o, 2 ≤ q := by rw [ho]; exact pst_ge m
      rw [← ho] at hown hlen
      rw [← ho]
      have HO := Lib.hid ho
      have HG := Lib.hid hge
      clear ho hge
      have hat := At.of_own hown
      go_wp2
      go_loop [5, 6] (fun b i => PrI (m + 2) o b i) (fun _ i => o.length - (intOf i).toNat)
      case atStart => exact ⟨0, Nat.zero_le _, rfl, rfl⟩
      case round =>
        obtain ⟨j, hj, rfl, rfl⟩ := hrel
        by_cases hjlt : j < o.length
        · obtain ⟨ab, ao, rfl, hab, hc⟩ := hat.pos (by omega)
          have hcj := hc j hjlt
          obtain ⟨y, hy⟩ : ∃ y, y = o[j] := ⟨_, rfl⟩
          have hy2 : 2 ≤ y := by rw [hy]; exact HG.out _ (List.getElem_mem _)
          rw [← hy] at hcj
          have HY := Lib.hid hy
          have HC := Lib.hid hc
          clear hy hc
          have hsn := isNew_snoc (m + 2) o j hjlt
          rw [← HY.out] at hsn
          have HS := Lib.hid hsn
          clear hsn
          cases hb : isNew (m + 2) (o.take j) with
          | true =>
            go_wp2
            go_round
            case rel => exact ⟨j + 1, by omega, by go_num, by rw [HS.out, hb, Bool.true_and, ne_cast]⟩
            case measure => simp [intOf]; omega
          | false =>
            go_wp2
            go_round
            case rel => exact ⟨j + 1, by omega, by go_num, by rw [HS.out, hb, Bool.false_and]⟩
            case measure => simp [intOf]; omega
        · obtain rfl : j = o.length := by omega
          rw [List.take_length]
          have hps : pst (m + 1) = if isNew (m + 2) o then o ++ [m + 2] else o := by rw [pst, ← HO.out]
          cases hb : isNew (m + 2) o with
          | true =>
            rw [hb, if_pos rfl] at hps
            have HP := Lib.hid hps
            have HB := Lib.hid hb
            clear hps hb hat
            go_wp2_with (at_builtin; refine wpList_append_own _ rfl _ _ 36 rfl w.heap.size 3 i0 _ 1 8 Tryd.underlying36 hi0 hz0 hz1 hz2 rfl (by decide) _ _ _ rfl (hown.alloc _) ⟨wr.heap.size, 0, none⟩ 1 1 _ rfl rfl (cell_one_new _ _ _) ?c2 ?c3 ?c4 ?c5 ?_)
            case c2 => first | rfl | (intro u hu; simp at hu; subst hu; rfl)
            case c3 => unfold maxLen; omega
            case c4 => omega
            case c5 => have := hbel.size; simp; omega
            intro v' w2 hown3 hg3 _
            have hbelF := below_app hbel hown hg3
            clear hg3 hown hbel
            go_wp2
            go_roundw
            case rel =>
              refine ⟨m + 1, by omega, by go_num, ?_, hbelF⟩
              rw [HP.out]
              have e : cn .i64 (o ++ [m + 2]) = cn .i64 o ++ [.int .i64 ((m : Int) + 2)] := by simp [cn]
              rw [e]
              simpa using hown3
            case measure => simp [intOf]; omega
          | false =>
            rw [hb, if_neg (by simp)] at hps
            have HP := Lib.hid hps
            have HB := Lib.hid hb
            clear hps hb hat
            go_wp2
            go_roundw
            case rel => exact ⟨m + 1, by omega, by go_num, by rw [HP.out]; exact hown, hbel⟩
            case measure => simp [intOf]; omega
    · obtain rfl : m = 310 := by omega
      rw [pst_310] at hown
      rw [pst_310]
      have hl : primes64.length = 64 := rfl
      have hat := At.of_own hown
      clear hown
      go_wp2
      go_ret
      exact ⟨A, c, rfl, hat, hbel⟩
end Go.Proofs.YthaecckneblecaaDoor
