/- Contract of the reference's Encode: the same text. -/
import Derived.Test.YtidajbmbadgnmaaW5
import Derived.Test.YtidajbmbadgnmaaMathB
import Derived.Laws.CopyOwn
import Derived.RegionTactic
import Derived.Deep.RegionLaw
namespace Go.Proofs.Ytidajbmbadgnmaa
open Go.RowKit Bm

theorem i64_or (a b : Nat) (i : Nat) (ha : a < 1073741824) (hb : b < 1073741824) (h1 : a % 2 ^ i = 0) (h2 : b < 2 ^ i) : bits BinOp.or IntKind.i64 (a : Int) (b : Int) = ((a + b : Nat) : Int) := by
  show IntKind.i64.wrap ((BitVec.ofInt 64 (a : Int) ||| BitVec.ofInt 64 (b : Int)).toNat : Int) = _
  rw [BitVec.toNat_or, ofInt_u64 a (by omega), ofInt_u64 b (by omega), nat_join i a b h1 h2]
  exact IntWalk.i64_in _ (by omega)
theorem join3 (a b c : Nat) (ha : a < 256) (hb : b < 256) (hc : c < 256) :
    bits BinOp.or IntKind.i64 (bits BinOp.or IntKind.i64 ((a : Int) * 65536) ((b : Int) * 256)) (c : Int) = ((a * 65536 + b * 256 + c : Nat) : Int) := by
  have e1 := i64_or (a * 65536) (b * 256) 16 (by omega) (by omega) (by omega) (by omega)
  have e2 := i64_or (a * 65536 + b * 256) c 8 (by omega) (by omega) (by omega) (by omega)
  simp only [Int.natCast_mul, Int.natCast_add] at e1 e2
  rw [show (Nat.cast 65536 : Int) = 65536 from rfl, show (Nat.cast 256 : Int) = 256 from rfl] at e1 e2
  rw [e1, e2]
  simp

theorem join3i (a b c W : Nat) (B C : Int) (hB : B = (b : Int) * 256) (hC : C = (c : Int)) (ha : a < 256) (hb : b < 256) (hc : c < 256) (hW : W = a * 65536 + b * 256 + c) :
    bits BinOp.or IntKind.i64 (bits BinOp.or IntKind.i64 ((a : Int) * 65536) B) C = (W : Int) := by
  rw [hB, hC, join3 a b c ha hb hc, hW]

theorem own_keep {wr w' : World} {B : Nat} {v : Value} {n : Nat} {xs : List Value} (h : wr.ownsRow B 5 1 v n xs) (hb : Below wr.heap.size wr w') : w'.ownsRow B 5 1 v n xs := by
  refine ⟨h.1, ?_⟩
  rcases h.2 with h0 | ⟨g, cap, cur, hv, hB, hh, r⟩
  · exact .inl h0
  · refine .inr ⟨g, cap, cur, hv, hB, ?_, r⟩
    rw [hb.block g ?_, hh]
    rcases Nat.lt_or_ge g wr.heap.size with hlt | hge
    · exact hlt
    · rw [Array.getElem?_eq_none hge] at hh; cases hh

theorem own_form {w : World} {B N : Nat} {v : Value} {l : List UInt8} (h : w.ownsRow B 5 1 v l.length (cel l)) (hN : l.length = N) (hl : 0 < N) : ∃ g c, v = .slice (some ⟨g, 0, none⟩) N c ∧ B ≤ g ∧ w.ownsRow B 5 1 (.slice (some ⟨g, 0, none⟩) N c) N (cel l) := by
  subst hN
  rcases h.2 with ⟨_, hn⟩ | ⟨g, cap, _, hv, hB, _⟩
  · omega
  · subst hv
    exact ⟨g, cap, rfl, hB, h⟩
theorem cel_set (l : List UInt8) (i : Nat) (x : UInt8) : (cel l).set i (.int .u8 (x.toNat : Int)) = cel (l.set i x) := by simp [cel]
theorem set4d (acc : List UInt8) (a b c d x : UInt8) : (acc ++ [a, b, c, d]).set (acc.length + 4 - 1) x = acc ++ [a, b, c, x] := by
  rw [show acc.length + 4 - 1 = acc.length + 3 by omega, List.set_append_right _ _ (by omega)]
  simp
theorem set4c (acc : List UInt8) (a b c d x : UInt8) : (acc ++ [a, b, c, d]).set (acc.length + 4 - 2) x = acc ++ [a, b, x, d] := by
  rw [show acc.length + 4 - 2 = acc.length + 2 by omega, List.set_append_right _ _ (by omega)]
  simp
theorem fnc_len {acc r : List UInt8} {l : List UInt8} (h : acc ++ r = enc l) (hn : l.length ≤ 5000) : acc.length ≤ 6668 := by
  have := congrArg List.length h
  rw [List.length_append, enc_len] at this
  omega

def FncR (w : World) (l : List UInt8) (v i : Value) (wr : World) : Prop :=
  ∃ (k : Nat) (acc : List UInt8), k ≤ l.length + 2 ∧ i = .int .i64 k ∧ acc ++ enc (l.drop k) = enc l ∧ wr.ownsRow w.heap.size 5 1 v acc.length (cel acc) ∧ Below w.heap.size w wr

theorem size5 : (Try.prog.info? 5).map (·.size) = some 1 := by kernel_rfl
theorem cel_one (l : List UInt8) : ∀ u ∈ cel l, u.oneCell' = true := by
  intro u hu; simp [cel] at hu; obtain ⟨y, _, rfl⟩ := hu; rfl
/-- The source's cells, from place k on. -/
theorem src_cells {w wr : World} {l : List UInt8} {ab ao k : Nat} (hab : ab < w.heap.size) (hb : Below w.heap.size w wr) (hc : ∀ i (h : i < l.length), w.cell? ⟨ab, ao + i, none⟩ = some (.int .u8 (l[i].toNat : Int))) (o : Obj) (p q : List UInt8) (hp : l.drop k = p ++ q) :
    ∀ j v, (cel p)[j]? = some v → (wr.alloc o).drew.cell? ((⟨ab, ao + k, none⟩ : Addr).add j) = some v := by
  intro j v hj
  have hjl : j < p.length := by
    rcases Nat.lt_or_ge j p.length with h | h
    · exact h
    · rw [List.getElem?_eq_none (by rw [cel_len]; exact h)] at hj; cases hj
  have hlen := congrArg List.length hp
  rw [List.length_drop, List.length_append] at hlen
  have hplain : (⟨ab, ao + k, none⟩ : Addr).add j = ⟨ab, ao + (k + j), none⟩ := by unfold Addr.add; split <;> simp_all [Nat.add_assoc]
  have hlt : ab < wr.heap.size := Nat.lt_of_lt_of_le hab hb.size
  show (wr.alloc o).cell? _ = _
  rw [hplain, World.cell?_alloc_lt wr o ⟨ab, ao + (k + j), none⟩ hlt, hb.cell (p := ⟨ab, ao + (k + j), none⟩) hab, hc (k + j) (by omega)]
  have he : l[k + j]? = some p[j] := by
    rw [← List.getElem?_drop, hp, List.getElem?_append_left hjl, List.getElem?_eq_getElem hjl]
  rw [List.getElem?_eq_getElem (by omega)] at he
  injection he with he
  simp [cel, hjl] at hj
  rw [he, hj]
theorem sign_at (x : Int) (n q : Nat) (hx : x = (n : Int)) (hn : n < 1073741824) (hq : n % 64 = q) (S : UInt8) (hS : S = sgn q) (w : World) :
    Calls Try.prog 19 #[.int .i64 x] w fun e w' => e = .returned (.int .u8 (S.toNat : Int)) ∧ w = w' := by
  subst hx
  subst hS
  subst hq
  exact sign_any n w hn
theorem new_cells (w : World) (cs : List Value) (t : TypeId) : ∀ j u, cs[j]? = some u → (w.alloc (.cells cs.toArray t)).cell? ((⟨w.heap.size, 0, none⟩ : Addr).add j) = some u := by
  intro j u hj
  have hplain : (⟨w.heap.size, 0, none⟩ : Addr).add j = ⟨w.heap.size, j, none⟩ := by unfold Addr.add; split <;> simp_all
  rw [hplain, cell_of_row _ w.heap.size j _ t _ (heap_alloc_new w _)]
  simpa using hj
theorem own_four {w : World} {B : Nat} {v : Value} {l : List UInt8} {a b c d : UInt8} (h : w.ownsRow B 5 1 v (l.length + 4) (cel l ++ [.int .u8 (a.toNat : Int), .int .u8 (b.toNat : Int), .int .u8 (c.toNat : Int), .int .u8 (d.toNat : Int)])) :
    w.ownsRow B 5 1 v (l ++ [a, b, c, d]).length (cel (l ++ [a, b, c, d])) := by
  rw [show cel (l ++ [a, b, c, d]) = cel l ++ [.int .u8 (a.toNat : Int), .int .u8 (b.toNat : Int), .int .u8 (c.toNat : Int), .int .u8 (d.toNat : Int)] by simp [cel]]
  simpa using h

set_option maxHeartbeats 2000000 in
theorem fenc_any (A : Option Addr) (l : List UInt8) (c : Nat) (w : World) (hr : Has w w.heap.size A l) (hlc : l.length ≤ c) (hn : l.length ≤ 5000) :
    Calls Try.prog 11 #[.slice A l.length c] w fun e w' => e = .returned (.string (str (enc l))) ∧ Below w.heap.size w w' := by
  obtain ⟨i0, hi0, hz0, hz1, hz2⟩ := info_parts info5
  go_enter Try.func11, Try.ntmps11
  go_wp2
  go_loopw [3, 4] (fun v i wr => FncR w l v i wr) (fun _ i _ => l.length + 2 - (intOf i).toNat)
  case atStart => exact ⟨0, [], by omega, rfl, rfl, World.ownsRow_nil _ _ _ _, Below.refl _ _⟩
  case round =>
    obtain ⟨k, acc, hk, rfl, hacc, hown, hbel⟩ := hrel
    have HA := Lib.hid hacc
    clear hacc
    have hal := fnc_len HA.out hn
    obtain ⟨A2, cap2, rfl⟩ := own_shape hown
    by_cases hlt : k < l.length
    · obtain ⟨ab, ao, rfl, hab, hcell⟩ := hr (by rintro rfl; simp at hlt)
      have hsrc := fun o => src_cells (k := k) hab hbel hcell o
      have HS := Lib.hid hsrc
      have HC := Lib.hid hcell
      clear hsrc hcell
      have hkl : k ≤ l.length := by omega
      have hck : ¬ c = k := by omega
      rcases hd : l.drop k with _ | ⟨a, _ | ⟨b, _ | ⟨d, r⟩⟩⟩
      · have := congrArg List.length hd
        simp at this
        omega
      · have hll : l.length = k + 1 := by have := congrArg List.length hd; simp at this; omega
        have HP := Lib.hid (show l.drop k = [a] ++ [] from hd)
        clear hd
        have HN : Hid ((cel [a]).length = Nat.min (l.length - k) 3) := by apply Lib.hid; rw [cel_len]; show 1 = min (l.length - k) 3; omega
        have hl1 : (cel [a]).length = 1 := rfl
        have HLL := Lib.hid hll
        clear hll
        have haw : a.toNat < 256 := a.toNat_lt
        obtain ⟨W, hWd⟩ : ∃ W, W = a.toNat * 65536 + 0 * 256 + 0 := ⟨_, rfl⟩
        have hW := join3i a.toNat 0 0 W 0 0 (by simp) (by simp) (by omega) (by omega) (by omega) hWd
        obtain ⟨S1, hS1⟩ : ∃ S, S = sgn (a.toNat / 4) := ⟨_, rfl⟩
        have H1 := Lib.hid (sign_at ((W : Int) / 262144) (W / 262144) (a.toNat / 4) (by omega) (by omega) (by omega) S1 hS1)
        have HS1 := Lib.hid hS1
        obtain ⟨S2, hS2⟩ : ∃ S, S = sgn (a.toNat % 4 * 16) := ⟨_, rfl⟩
        have H2 := Lib.hid (sign_at ((W : Int) / 4096) (W / 4096) (a.toNat % 4 * 16) (by omega) (by omega) (by omega) S2 hS2)
        have HS2 := Lib.hid hS2
        obtain ⟨S3, hS3⟩ : ∃ S, S = sgn (0) := ⟨_, rfl⟩
        have H3 := Lib.hid (sign_at ((W : Int) / 64) (W / 64) (0) (by omega) (by omega) (by omega) S3 hS3)
        have HS3 := Lib.hid hS3
        obtain ⟨S4, hS4⟩ : ∃ S, S = sgn (0) := ⟨_, rfl⟩
        have H4 := Lib.hid (sign_at ((W : Int)) W (0) (by omega) (by omega) (by omega) S4 hS4)
        have HS4 := Lib.hid hS4
        clear hWd hS1 hS2 hS3 hS4
        have HB : Hid (Below wr.heap.size wr (wr.alloc (.cells #[.int .u8 0, .int .u8 0, .int .u8 0] 38)).drew) := Lib.hid (Below.drew ((Below.refl _ _).alloc (Nat.le_refl _) _))
        have HG : Hid ((wr.alloc (.cells #[.int .u8 0, .int .u8 0, .int .u8 0] 38)).drew.heap[wr.heap.size]? = some (.cells [Value.int .u8 0, .int .u8 0, .int .u8 0].toArray 38 (0, 0))) := Lib.hid (heap_alloc_new wr _)
        have HF : Hid (0 + (cel [a]).length ≤ 3) := Lib.hid (by rw [cel_len]; simp)
        go_wp2
        go_region_law (refine step_copy_splice rfl (.tmp 14) (.tmp 17) 22 22 rfl 5 Try.underlying22 size5 (some ⟨wr.heap.size, 0, none⟩) (some ⟨ab, ao + k, none⟩) 3 3 (l.length - k) (c - k) (by simp [Act.eval, Act.put]) (by simp [Act.eval, Act.put]) wr.heap.size 0 _ 38 HG.out (cel [a]) HN.out (fun _ => ⟨rfl, _, rfl, HS.out _ [a] [] HP.out⟩) HF.out (cel_one _) wr.heap.size wr HB.out (Nat.le_refl _) ?_; intro w3 HG3 hb3)
        have hrow : w3.heap[wr.heap.size]? = some (.cells #[.int .u8 (a.toNat : Int), .int .u8 0, .int .u8 0] 38 (0, 0)) := HG3.out
        have x0 : w3.cell? ⟨wr.heap.size, 0, none⟩ = some (.int .u8 (a.toNat : Int)) := cell_of_row w3 wr.heap.size 0 _ 38 _ hrow
        have x1 : w3.cell? ⟨wr.heap.size, 1, none⟩ = some (.int .u8 0) := cell_of_row w3 wr.heap.size 1 _ 38 _ hrow
        have x2 : w3.cell? ⟨wr.heap.size, 2, none⟩ = some (.int .u8 0) := cell_of_row w3 wr.heap.size 2 _ 38 _ hrow
        have hown3 := own_keep hown hb3
        have hbel3 := hbel.trans (hb3.mono hbel.size)
        clear hrow HG3 HG HB HF hown hbel hb3
        go_wp2_with (first | (go_at_call 19; (first | with_reducible refine (H1.out _).mono ?_ | with_reducible refine (H2.out _).mono ?_ | with_reducible refine (H3.out _).mono ?_ | with_reducible refine (H4.out _).mono ?_); rintro e w' ⟨rfl, rfl⟩) | (at_builtin; refine wpList_append_own _ rfl _ _ 22 rfl w.heap.size 5 i0 _ 1 1 Try.underlying22 hi0 hz0 hz1 hz2 rfl (by decide) _ _ _ rfl (hown3.alloc _) ⟨w3.heap.size, 0, none⟩ 4 4 [.int .u8 (S1.toNat : Int), .int .u8 (S2.toNat : Int), .int .u8 (S3.toNat : Int), .int .u8 (S4.toNat : Int)] rfl rfl (new_cells _ _ _) ?c12 ?c13 ?c14 ?c15 ?_))
        case c12 => intro u hu; simp at hu; rcases hu with rfl | rfl | rfl | rfl <;> rfl
        case c13 => unfold maxLen; omega
        case c14 => omega
        case c15 => have := hbel3.size; simp; omega
        intro v4 w4 hown4' hg4 _
        have hbel4 := below_app hbel3 hown3 hg4
        have hown4 := own_four hown4'
        obtain ⟨N, hN⟩ : ∃ N, N = acc.length + 4 := ⟨_, rfl⟩
        have hN4 : 4 ≤ N := by omega
        have hN5 : N ≤ 10000 := by omega
        obtain ⟨g4, c4, rfl, hg4B, hown5⟩ := own_form hown4 (show (acc ++ [S1, S2, S3, S4]).length = N by rw [hN]; simp) (by omega)
        have HN4 := Lib.hid hN
        clear hN hown4 hown4' hg4 hown3 hbel3 x0 x1 x2 hW
        have hst := hown5.stored (N - 1) (.int .u8 ((61 : UInt8).toNat : Int))
        have hst2 := hst.1.stored (N - 2) (.int .u8 ((61 : UInt8).toNat : Int))
        rw [cel_set, HN4.out, set4d, cel_set, set4c, ← HN4.out] at hst2
        have hc1 := hown5.cellAt (N - 1) (by omega)
        have hf1 := hown5.frozenAt (N - 1)
        have hc2 := hst.1.cellAt (N - 2) (by omega)
        have hf2 : (w4.setCell ⟨g4, N - 1, none⟩ (.int .u8 61)).frozen? ⟨g4, N - 2, none⟩ = false := hst.1.frozenAt (N - 2)
        have HST := Lib.hid hst2
        have hc1' : ∃ u, w4.cell? ⟨g4, N - 1, none⟩ = some u := by
          rw [hc1]
          exact ⟨_, List.getElem?_eq_getElem (by rw [cel_len, HN4.out]; simp)⟩
        obtain ⟨u1, hu1⟩ := hc1'
        have hc2' : ∃ u, (w4.setCell ⟨g4, N - 1, none⟩ (.int .u8 61)).cell? ⟨g4, N - 2, none⟩ = some u := by
          refine ⟨_, hc2.trans (List.getElem?_eq_getElem ?_)⟩
          rw [List.length_set, cel_len, HN4.out]
          simp
        obtain ⟨u2, hu2⟩ := hc2'
        clear hst hst2 hc1 hc2 hown5
        go_wp2
        go_roundw
        case rel =>
          refine ⟨k + 3, acc ++ [S1, S2, 61, 61], by have := HLL.out; omega, by go_num, ?_, ?_, (hbel4.setCell hg4B _).setCell hg4B _⟩
          · have := HA.out
            rw [HP.out, List.append_nil, enc1, ← HS1.out, ← HS2.out] at this
            rw [← List.drop_drop, HP.out, ← this]
            simp [enc0]
          · rw [show (acc ++ [S1, S2, 61, 61]).length = N by rw [HN4.out]; simp]
            exact HST.out.1
        case measure => simp [intOf]; have := HLL.out; omega
      · have hll : l.length = k + 2 := by have := congrArg List.length hd; simp at this; omega
        have HP := Lib.hid (show l.drop k = [a, b] ++ [] from hd)
        clear hd
        have HN : Hid ((cel [a, b]).length = Nat.min (l.length - k) 3) := by apply Lib.hid; rw [cel_len]; show 2 = min (l.length - k) 3; omega
        have hl2 : (cel [a, b]).length = 2 := rfl
        have HLL := Lib.hid hll
        clear hll
        have haw : a.toNat < 256 := a.toNat_lt
        have hbw : b.toNat < 256 := b.toNat_lt
        obtain ⟨W, hWd⟩ : ∃ W, W = a.toNat * 65536 + b.toNat * 256 + 0 := ⟨_, rfl⟩
        have hW := join3i a.toNat b.toNat 0 W ((b.toNat : Int) * 256) 0 (by simp) (by simp) (by omega) (by omega) (by omega) hWd
        obtain ⟨S1, hS1⟩ : ∃ S, S = sgn (a.toNat / 4) := ⟨_, rfl⟩
        have H1 := Lib.hid (sign_at ((W : Int) / 262144) (W / 262144) (a.toNat / 4) (by omega) (by omega) (by omega) S1 hS1)
        have HS1 := Lib.hid hS1
        obtain ⟨S2, hS2⟩ : ∃ S, S = sgn (a.toNat % 4 * 16 + b.toNat / 16) := ⟨_, rfl⟩
        have H2 := Lib.hid (sign_at ((W : Int) / 4096) (W / 4096) (a.toNat % 4 * 16 + b.toNat / 16) (by omega) (by omega) (by omega) S2 hS2)
        have HS2 := Lib.hid hS2
        obtain ⟨S3, hS3⟩ : ∃ S, S = sgn (b.toNat % 16 * 4) := ⟨_, rfl⟩
        have H3 := Lib.hid (sign_at ((W : Int) / 64) (W / 64) (b.toNat % 16 * 4) (by omega) (by omega) (by omega) S3 hS3)
        have HS3 := Lib.hid hS3
        obtain ⟨S4, hS4⟩ : ∃ S, S = sgn (0) := ⟨_, rfl⟩
        have H4 := Lib.hid (sign_at ((W : Int)) W (0) (by omega) (by omega) (by omega) S4 hS4)
        have HS4 := Lib.hid hS4
        clear hWd hS1 hS2 hS3 hS4
        have HB : Hid (Below wr.heap.size wr (wr.alloc (.cells #[.int .u8 0, .int .u8 0, .int .u8 0] 38)).drew) := Lib.hid (Below.drew ((Below.refl _ _).alloc (Nat.le_refl _) _))
        have HG : Hid ((wr.alloc (.cells #[.int .u8 0, .int .u8 0, .int .u8 0] 38)).drew.heap[wr.heap.size]? = some (.cells [Value.int .u8 0, .int .u8 0, .int .u8 0].toArray 38 (0, 0))) := Lib.hid (heap_alloc_new wr _)
        have HF : Hid (0 + (cel [a, b]).length ≤ 3) := Lib.hid (by rw [cel_len]; simp)
        go_wp2
        go_region_law (refine step_copy_splice rfl (.tmp 14) (.tmp 17) 22 22 rfl 5 Try.underlying22 size5 (some ⟨wr.heap.size, 0, none⟩) (some ⟨ab, ao + k, none⟩) 3 3 (l.length - k) (c - k) (by simp [Act.eval, Act.put]) (by simp [Act.eval, Act.put]) wr.heap.size 0 _ 38 HG.out (cel [a, b]) HN.out (fun _ => ⟨rfl, _, rfl, HS.out _ [a, b] [] HP.out⟩) HF.out (cel_one _) wr.heap.size wr HB.out (Nat.le_refl _) ?_; intro w3 HG3 hb3)
        have hrow : w3.heap[wr.heap.size]? = some (.cells #[.int .u8 (a.toNat : Int), .int .u8 (b.toNat : Int), .int .u8 0] 38 (0, 0)) := HG3.out
        have x0 : w3.cell? ⟨wr.heap.size, 0, none⟩ = some (.int .u8 (a.toNat : Int)) := cell_of_row w3 wr.heap.size 0 _ 38 _ hrow
        have x1 : w3.cell? ⟨wr.heap.size, 1, none⟩ = some (.int .u8 (b.toNat : Int)) := cell_of_row w3 wr.heap.size 1 _ 38 _ hrow
        have x2 : w3.cell? ⟨wr.heap.size, 2, none⟩ = some (.int .u8 0) := cell_of_row w3 wr.heap.size 2 _ 38 _ hrow
        have hown3 := own_keep hown hb3
        have hbel3 := hbel.trans (hb3.mono hbel.size)
        clear hrow HG3 HG HB HF hown hbel hb3
        go_wp2_with (first | (go_at_call 19; (first | with_reducible refine (H1.out _).mono ?_ | with_reducible refine (H2.out _).mono ?_ | with_reducible refine (H3.out _).mono ?_ | with_reducible refine (H4.out _).mono ?_); rintro e w' ⟨rfl, rfl⟩) | (at_builtin; refine wpList_append_own _ rfl _ _ 22 rfl w.heap.size 5 i0 _ 1 1 Try.underlying22 hi0 hz0 hz1 hz2 rfl (by decide) _ _ _ rfl (hown3.alloc _) ⟨w3.heap.size, 0, none⟩ 4 4 [.int .u8 (S1.toNat : Int), .int .u8 (S2.toNat : Int), .int .u8 (S3.toNat : Int), .int .u8 (S4.toNat : Int)] rfl rfl (new_cells _ _ _) ?c22 ?c23 ?c24 ?c25 ?_))
        case c22 => intro u hu; simp at hu; rcases hu with rfl | rfl | rfl | rfl <;> rfl
        case c23 => unfold maxLen; omega
        case c24 => omega
        case c25 => have := hbel3.size; simp; omega
        intro v4 w4 hown4' hg4 _
        have hbel4 := below_app hbel3 hown3 hg4
        have hown4 := own_four hown4'
        obtain ⟨N, hN⟩ : ∃ N, N = acc.length + 4 := ⟨_, rfl⟩
        have hN4 : 4 ≤ N := by omega
        have hN5 : N ≤ 10000 := by omega
        obtain ⟨g4, c4, rfl, hg4B, hown5⟩ := own_form hown4 (show (acc ++ [S1, S2, S3, S4]).length = N by rw [hN]; simp) (by omega)
        have HN4 := Lib.hid hN
        clear hN hown4 hown4' hg4 hown3 hbel3 x0 x1 x2 hW
        have hst := hown5.stored (N - 1) (.int .u8 ((61 : UInt8).toNat : Int))
        rw [cel_set, HN4.out, set4d, ← HN4.out] at hst
        have hc1 := hown5.cellAt (N - 1) (by omega)
        have hf1 := hown5.frozenAt (N - 1)
        have HST := Lib.hid hst
        have hc1' : ∃ u, w4.cell? ⟨g4, N - 1, none⟩ = some u := by
          rw [hc1]
          exact ⟨_, List.getElem?_eq_getElem (by rw [cel_len, HN4.out]; simp)⟩
        obtain ⟨u1, hu1⟩ := hc1'
        clear hst hc1 hown5
        go_wp2
        go_roundw
        case rel =>
          refine ⟨k + 3, acc ++ [S1, S2, S3, 61], by have := HLL.out; omega, by go_num, ?_, ?_, hbel4.setCell hg4B _⟩
          · have := HA.out
            rw [HP.out, List.append_nil, enc2, ← HS1.out, ← HS2.out, ← HS3.out] at this
            rw [← List.drop_drop, HP.out, ← this]
            simp [enc0]
          · rw [show (acc ++ [S1, S2, S3, 61]).length = N by rw [HN4.out]; simp]
            exact HST.out.1
        case measure => simp [intOf]; have := HLL.out; omega
      · have hll : l.length = k + 3 + r.length := by have := congrArg List.length hd; simp at this; omega
        have HP := Lib.hid (show l.drop k = [a, b, d] ++ r from hd)
        clear hd
        have HN : Hid ((cel [a, b, d]).length = Nat.min (l.length - k) 3) := by apply Lib.hid; rw [cel_len]; show 3 = min (l.length - k) 3; omega
        have hl3 : (cel [a, b, d]).length = 3 := rfl
        have HLL := Lib.hid hll
        clear hll
        have haw : a.toNat < 256 := a.toNat_lt
        have hbw : b.toNat < 256 := b.toNat_lt
        have hdw : d.toNat < 256 := d.toNat_lt
        obtain ⟨W, hWd⟩ : ∃ W, W = a.toNat * 65536 + b.toNat * 256 + d.toNat := ⟨_, rfl⟩
        have hW := join3i a.toNat b.toNat d.toNat W ((b.toNat : Int) * 256) (d.toNat : Int) (by simp) (by simp) (by omega) (by omega) (by omega) hWd
        obtain ⟨S1, hS1⟩ : ∃ S, S = sgn (a.toNat / 4) := ⟨_, rfl⟩
        have H1 := Lib.hid (sign_at ((W : Int) / 262144) (W / 262144) (a.toNat / 4) (by omega) (by omega) (by omega) S1 hS1)
        have HS1 := Lib.hid hS1
        obtain ⟨S2, hS2⟩ : ∃ S, S = sgn (a.toNat % 4 * 16 + b.toNat / 16) := ⟨_, rfl⟩
        have H2 := Lib.hid (sign_at ((W : Int) / 4096) (W / 4096) (a.toNat % 4 * 16 + b.toNat / 16) (by omega) (by omega) (by omega) S2 hS2)
        have HS2 := Lib.hid hS2
        obtain ⟨S3, hS3⟩ : ∃ S, S = sgn (b.toNat % 16 * 4 + d.toNat / 64) := ⟨_, rfl⟩
        have H3 := Lib.hid (sign_at ((W : Int) / 64) (W / 64) (b.toNat % 16 * 4 + d.toNat / 64) (by omega) (by omega) (by omega) S3 hS3)
        have HS3 := Lib.hid hS3
        obtain ⟨S4, hS4⟩ : ∃ S, S = sgn (d.toNat % 64) := ⟨_, rfl⟩
        have H4 := Lib.hid (sign_at ((W : Int)) W (d.toNat % 64) (by omega) (by omega) (by omega) S4 hS4)
        have HS4 := Lib.hid hS4
        clear hWd hS1 hS2 hS3 hS4
        have HB : Hid (Below wr.heap.size wr (wr.alloc (.cells #[.int .u8 0, .int .u8 0, .int .u8 0] 38)).drew) := Lib.hid (Below.drew ((Below.refl _ _).alloc (Nat.le_refl _) _))
        have HG : Hid ((wr.alloc (.cells #[.int .u8 0, .int .u8 0, .int .u8 0] 38)).drew.heap[wr.heap.size]? = some (.cells [Value.int .u8 0, .int .u8 0, .int .u8 0].toArray 38 (0, 0))) := Lib.hid (heap_alloc_new wr _)
        have HF : Hid (0 + (cel [a, b, d]).length ≤ 3) := Lib.hid (by rw [cel_len]; simp)
        go_wp2
        go_region_law (refine step_copy_splice rfl (.tmp 14) (.tmp 17) 22 22 rfl 5 Try.underlying22 size5 (some ⟨wr.heap.size, 0, none⟩) (some ⟨ab, ao + k, none⟩) 3 3 (l.length - k) (c - k) (by simp [Act.eval, Act.put]) (by simp [Act.eval, Act.put]) wr.heap.size 0 _ 38 HG.out (cel [a, b, d]) HN.out (fun _ => ⟨rfl, _, rfl, HS.out _ [a, b, d] r HP.out⟩) HF.out (cel_one _) wr.heap.size wr HB.out (Nat.le_refl _) ?_; intro w3 HG3 hb3)
        have hrow : w3.heap[wr.heap.size]? = some (.cells #[.int .u8 (a.toNat : Int), .int .u8 (b.toNat : Int), .int .u8 (d.toNat : Int)] 38 (0, 0)) := HG3.out
        have x0 : w3.cell? ⟨wr.heap.size, 0, none⟩ = some (.int .u8 (a.toNat : Int)) := cell_of_row w3 wr.heap.size 0 _ 38 _ hrow
        have x1 : w3.cell? ⟨wr.heap.size, 1, none⟩ = some (.int .u8 (b.toNat : Int)) := cell_of_row w3 wr.heap.size 1 _ 38 _ hrow
        have x2 : w3.cell? ⟨wr.heap.size, 2, none⟩ = some (.int .u8 (d.toNat : Int)) := cell_of_row w3 wr.heap.size 2 _ 38 _ hrow
        have hown3 := own_keep hown hb3
        have hbel3 := hbel.trans (hb3.mono hbel.size)
        clear hrow HG3 HG HB HF hown hbel hb3
        go_wp2_with (first | (go_at_call 19; (first | with_reducible refine (H1.out _).mono ?_ | with_reducible refine (H2.out _).mono ?_ | with_reducible refine (H3.out _).mono ?_ | with_reducible refine (H4.out _).mono ?_); rintro e w' ⟨rfl, rfl⟩) | (at_builtin; refine wpList_append_own _ rfl _ _ 22 rfl w.heap.size 5 i0 _ 1 1 Try.underlying22 hi0 hz0 hz1 hz2 rfl (by decide) _ _ _ rfl (hown3.alloc _) ⟨w3.heap.size, 0, none⟩ 4 4 [.int .u8 (S1.toNat : Int), .int .u8 (S2.toNat : Int), .int .u8 (S3.toNat : Int), .int .u8 (S4.toNat : Int)] rfl rfl (new_cells _ _ _) ?c32 ?c33 ?c34 ?c35 ?_))
        case c32 => intro u hu; simp at hu; rcases hu with rfl | rfl | rfl | rfl <;> rfl
        case c33 => unfold maxLen; omega
        case c34 => omega
        case c35 => have := hbel3.size; simp; omega
        intro v4 w4 hown4' hg4 _
        have hbel4 := below_app hbel3 hown3 hg4
        have hown4 := own_four hown4'
        obtain ⟨N, hN⟩ : ∃ N, N = acc.length + 4 := ⟨_, rfl⟩
        have hN4 : 4 ≤ N := by omega
        have hN5 : N ≤ 10000 := by omega
        obtain ⟨g4, c4, rfl, hg4B, hown5⟩ := own_form hown4 (show (acc ++ [S1, S2, S3, S4]).length = N by rw [hN]; simp) (by omega)
        have HN4 := Lib.hid hN
        clear hN hown4 hown4' hg4 hown3 hbel3 x0 x1 x2 hW
        go_wp2
        go_roundw
        case rel =>
          refine ⟨k + 3, acc ++ [S1, S2, S3, S4], by have := HLL.out; omega, by go_num, ?_, ?_, hbel4⟩
          · have := HA.out
            rw [HP.out] at this
            rw [show [a, b, d] ++ r = a :: b :: d :: r from rfl, enc3, ← HS1.out, ← HS2.out, ← HS3.out, ← HS4.out] at this
            rw [← List.drop_drop, HP.out, ← this]
            simp
          · rw [show (acc ++ [S1, S2, S3, S4]).length = N by rw [HN4.out]; simp]
            exact hown5
        case measure => simp [intOf]; have := HLL.out; omega
    · have hcv := run_str wr _ A2 acc cap2 (Has.of_own hown)
      go_wp2
      go_ret
      refine ⟨ret_str ?_, hbel⟩
      have := HA.out
      rw [List.drop_eq_nil_of_le (by omega), enc0, List.append_nil] at this
      rw [this]
end Go.Proofs.Ytidajbmbadgnmaa
