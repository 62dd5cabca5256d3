/- The walk of HuffLong. -/
import Derived.Test.YtpoffmnaoohkpaaDoorHBack
namespace Go.Proofs.YtpoffmnaoohkpaaDoor
open Go.RowKit Hf
namespace huffLong
def letters : List Nat := [48, 49, 50, 51, 52, 53, 54, 55, 56, 57, 97, 99, 101, 105, 111, 115, 116]
def lt (u i : Nat) : Nat := letters.getD ((i + u) % 17) 0
def row (u : Nat) : Nat → List Nat
  | 0 => []
  | k + 1 => row u k ++ [lt u k]
theorem row_len (u : Nat) : ∀ k, (row u k).length = k
  | 0 => rfl
  | k + 1 => by rw [row, List.length_append, row_len u k]; rfl
theorem letters_ok : ∀ i : Fin 17, letters.getD i.1 0 < 256 ∧ 5 ≤ ln (letters.getD i.1 0) ∧ ln (letters.getD i.1 0) ≤ 6 := by decide +kernel
theorem row_byte (u : Nat) : ∀ k, ∀ x ∈ row u k, x < 256
  | 0 => fun x hx => by simp [row] at hx
  | k + 1 => fun x hx => by
    rw [row, List.mem_append, List.mem_singleton] at hx
    rcases hx with h | h
    · exact row_byte u k x h
    · rw [h]; exact (letters_ok ⟨(k + u) % 17, Nat.mod_lt _ (by omega)⟩).1
theorem row_bits (u : Nat) : ∀ k, 5 * k ≤ nBits (row u k) ∧ nBits (row u k) ≤ 6 * k
  | 0 => by simp [row, nBits]
  | k + 1 => by
    have h := row_bits u k
    have h2 := (letters_ok ⟨(k + u) % 17, Nat.mod_lt _ (by omega)⟩).2
    have e : nBits [lt u k] = ln (lt u k) := by rw [nBits, nBits, Nat.add_zero]
    rw [row, nBits_app, e]
    have h3 : 5 ≤ ln (lt u k) ∧ ln (lt u k) ≤ 6 := h2
    omega
theorem fill_step (a : List Nat) (n k x : Nat) (h : k < n) (ha : a.length = k) : (a ++ List.replicate (n - k) 0).set k x = (a ++ [x]) ++ List.replicate (n - (k + 1)) 0 := by
  rw [show n - k = (n - (k + 1)) + 1 by omega, List.replicate_succ, List.set_append_right _ _ (by omega), ha, Nat.sub_self, List.append_assoc]
  rfl
def LnR (w1 : World) (g n u : Nat) (i : Value) (wr : World) : Prop :=
  ∃ k : Nat, k ≤ n ∧ i = .int .i64 (k : Int) ∧ wr.ownsRow w1.heap.size 5 1 (.slice (some ⟨g, 0, none⟩) n n) n (cn .u8 (row u k ++ List.replicate (n - k) 0)) ∧ Below w1.heap.size w1 wr
theorem index_letter (w : World) (r : Nat) (h : r < 17) : (Instr.index 9 (.string ⟨#[48, 49, 50, 51, 52, 53, 54, 55, 56, 57, 97, 99, 101, 105, 111, 115, 116]⟩) (.int .i64 (r : Int))).run Tryd.prog w = .ok (.int .u8 ((letters.getD r 0 : Nat) : Int)) w := by
  rcases (show r = 0 ∨ r = 1 ∨ r = 2 ∨ r = 3 ∨ r = 4 ∨ r = 5 ∨ r = 6 ∨ r = 7 ∨ r = 8 ∨ r = 9 ∨ r = 10 ∨ r = 11 ∨ r = 12 ∨ r = 13 ∨ r = 14 ∨ r = 15 ∨ r = 16 by omega) with rfl | rfl | rfl | rfl | rfl | rfl | rfl | rfl | rfl | rfl | rfl | rfl | rfl | rfl | rfl | rfl | rfl
  all_goals kernel_rfl
theorem walk_long (i u : Int) (w : World) (hR : Rdy w) (hl : i < 0 ∨ 200 < i) : Calls Tryd.prog 7 #[.int .i64 i, .int .u8 u] w (Yes w) := by
  have HR := Lib.hid hR
  clear hR
  by_cases h1 : i < 0
  · have q1 : decide (i < 0) = true := decide_eq_true h1
    clear hl
    go_enter Tryd.func7, Tryd.ntmps7
    go_wp2_with fail
    with_reducible refine (first_any w HR.out).mono ?_
    rintro e w1 ⟨rfl, hb1⟩
    go_wp2_with fail
    with_reducible refine (first_any w1 (HR.out.below hb1)).mono ?_
    rintro e w2 ⟨rfl, hb2⟩
    go_wp2_with fail
    go_ret
    exact ⟨rfl, hb1.trans (hb2.mono hb1.size)⟩
  · have q1 : decide (i < 0) = false := decide_eq_false h1
    have q2 : decide ((200 : Int) < i) = true := decide_eq_true (by omega)
    clear hl
    go_enter Tryd.func7, Tryd.ntmps7
    go_wp2_with fail
    with_reducible refine (first_any w HR.out).mono ?_
    rintro e w1 ⟨rfl, hb1⟩
    go_wp2_with fail
    with_reducible refine (first_any w1 (HR.out.below hb1)).mono ?_
    rintro e w2 ⟨rfl, hb2⟩
    go_wp2_with fail
    go_ret
    exact ⟨rfl, hb1.trans (hb2.mono hb1.size)⟩
set_option maxRecDepth 100000 in
set_option maxHeartbeats 4000000 in
theorem walk_short (n u : Nat) (w : World) (hR : Rdy w) (hn : n ≤ 200) (hu : u < 256) : Calls Tryd.prog 7 #[.int .i64 n, .int .u8 u] w (Yes w) := by
  obtain ⟨i0, hi0, hz0, hz1, hz2⟩ := info_parts infoU8
  have HR := Lib.hid hR
  have q1 : decide ((n : Int) < 0) = false := decide_eq_false (by omega)
  have q2 : decide ((200 : Int) < (n : Int)) = false := decide_eq_false (by omega)
  obtain ⟨L, hL⟩ : ∃ L, L = row u n := ⟨_, rfl⟩
  obtain ⟨N, hN⟩ : ∃ N, N = nBits L := ⟨_, rfl⟩
  have hNb : 5 * n ≤ N ∧ N ≤ 6 * n := by rw [hN, hL]; exact row_bits u n
  obtain ⟨E, hE⟩ : ∃ E, E = enc L := ⟨_, rfl⟩
  obtain ⟨M, hM⟩ : ∃ M, M = E.length := ⟨_, rfl⟩
  have hML : M = (N + 7) / 8 := by rw [hM, hE, enc_len, ← hN]
  have eM : ((N : Int) + 7) / 8 = (M : Int) := by omega
  have qM : ((M : Int) == (M : Int)) = true := by simp
  have HLL : Hid (L.length = n) := Lib.hid (by rw [hL]; exact row_len u n)
  have HLB : Hid (∀ x ∈ L, x < 256) := Lib.hid (by rw [hL]; exact row_byte u n)
  obtain ⟨y1, hy1⟩ : ∃ z, z = ln u := ⟨_, rfl⟩
  obtain ⟨y2, hy2⟩ : ∃ z, z = cd u := ⟨_, rfl⟩
  have b1 : 5 ≤ y1 ∧ y1 ≤ 30 := by have := (tab_lim ⟨u, by omega⟩).2; simp only at this; omega
  have HX := Lib.hid fun w hw => code_f u w hw hu
  unfold CodePost at HX
  rw [← hy1, ← hy2] at HX
  have HU : Hid (nBits [u] = y1) := Lib.hid (by rw [nBits, nBits, hy1]; simp)
  have qy : ((y1 : Int) == (y1 : Int)) = true := by simp
  have HL := Lib.hid hL
  have HN := Lib.hid hN
  have HE := Lib.hid hE
  have HM := Lib.hid hM
  have c1 : (5 : Int) * (n : Int) ≤ (N : Int) := by omega
  have c2 : (N : Int) ≤ 6 * (n : Int) := by omega
  have c3 : (5 : Int) ≤ (y1 : Int) := by omega
  have c4 : (y1 : Int) ≤ 30 := by omega
  clear hR hL hN hE hM hML hy1 hy2
  go_enter Tryd.func7, Tryd.ntmps7
  go_wp2_with fail
  with_reducible refine (first_any w HR.out).mono ?_
  rintro e w1 ⟨rfl, hb1⟩
  go_wp2_with (at_make; refine wpList_make_full _ rfl _ _ 22 rfl w1.heap.size 5 i0 _ 1 Tryd.underlying22 hi0 hz0 hz1 _ _ _ _ n rfl rfl (by omega) (by omega) (by rw [hz2]; omega) (by unfold maxLen; omega) (Nat.le_refl _) ?_; intro w2 hown1 hg1)
  have hb2 : Below w1.heap.size w1 w2 := (Below.refl _ _).grown hg1 (Nat.le_refl _) (by simp)
  have hown2 : w2.ownsRow w1.heap.size 5 1 (.slice (some ⟨w1.heap.size, 0, none⟩) n n) n (cn .u8 (row u 0 ++ List.replicate (n - 0) 0)) := by
    have e : cn .u8 (row u 0 ++ List.replicate (n - 0) 0) = (madeCells (Value.int .u8 0).cells (n * 1)).toList := by
      rw [show (Value.int .u8 0).cells = #[Value.int .u8 0] from rfl, toList_madeCells_one]
      simp [cn, row]
    rw [e]
    exact hown1
  clear hg1 hown1
  obtain ⟨g, hg⟩ : ∃ g, g = w1.heap.size := ⟨_, rfl⟩
  have hrel0 : LnR w1 g n u (.int .i64 0) w2 := ⟨0, Nat.zero_le _, rfl, by rw [hg]; exact hown2, hb2⟩
  rw [← hg]
  have HG : Hid (w1.heap.size ≤ g) := Lib.hid (by rw [hg]; exact Nat.le_refl _)
  clear hg hown2 hb2
  go_loopw [6] (fun i wr => LnR w1 g n u i wr) (fun i _ => n - (intOf i).toNat)
  case atStart => exact hrel0
  case round =>
    clear hrel0
    obtain ⟨k, hk, rfl, hown, hbel⟩ := hrel
    by_cases hlt : k < n
    · have hkl : k < (row u k ++ List.replicate (n - k) 0).length := by rw [List.length_append, row_len, List.length_replicate]; omega
      obtain ⟨z, hz⟩ : ∃ z, wr.cell? ⟨g, k, none⟩ = some z := ⟨_, own_at hown hkl⟩
      have hf : wr.frozen? ⟨g, k, none⟩ = false := own_free hown
      obtain ⟨r, hr⟩ : ∃ r, r = (k + u) % 17 := ⟨_, rfl⟩
      have er : ((k : Int) + (u : Int)) % 17 = (r : Int) := by omega
      have hr17 : r < 17 := by omega
      obtain ⟨y, hy⟩ : ∃ y, y = letters.getD r 0 := ⟨_, rfl⟩
      have hix := index_letter wr r hr17
      rw [← hy] at hix
      have hst := (hown.stored k (.int .u8 (y : Int))).1
      rw [cn_set, fill_step _ n k y hlt (row_len u k)] at hst
      have HST : Hid ((wr.setCell ⟨g, k, none⟩ (.int .u8 (y : Int))).ownsRow w1.heap.size 5 1 (.slice (some ⟨g, 0, none⟩) n n) n (cn .u8 (row u (k + 1) ++ List.replicate (n - (k + 1)) 0))) := Lib.hid (by
        rw [row, lt, ← hr, ← hy]
        exact hst)
      have hbs := hbel.setCell (p := ⟨g, k, none⟩) HG.out (.int .u8 (y : Int))
      have i1 : (k : Int) < (n : Int) := by omega
      have wu : IntKind.i64.wrap (u : Int) = (u : Int) := IntWalk.i64_in _ (by omega)
      have r17 : (r : Int) < 17 := by omega
      clear hown hbel hkl hst hr hy
      go_wp2
      go_roundw
      case rel => exact ⟨k + 1, by omega, by go_num, HST.out, hbs⟩
      case measure => simp [intOf]; omega
    · obtain rfl : k = n := by omega
      have hown' : wr.ownsRow w1.heap.size 5 1 (.slice (some ⟨g, 0, none⟩) k k) k (cn .u8 L) := by
        rw [HL.out]
        simpa using hown
      have HB3 := Lib.hid (At.of_own hown')
      have hb3 : Below w.heap.size w wr := hb1.trans (hbel.mono hb1.size)
      clear hown hown' hbel hb1
      go_wp2_with fail
      with_reducible refine (bits_f (some ⟨g, 0, none⟩) L k k wr (HR.out.below hb3) HB3.out HLB.out HLL.out (fun h => by cases h) (Nat.le_refl _) (by omega)).mono ?_
      rw [← HN.out]
      rintro e w4 ⟨rfl, hbn⟩
      have hb4 := hb3.trans (hbn.mono hb3.size)
      have HB4 := Lib.hid (HB3.out.up hbn)
      clear hb3 hbn HB3
      go_wp2_with fail
      with_reducible refine (HX.out w4 (HR.out.below hb4)).mono ?_
      rintro e w5 ⟨rfl, hbn⟩
      have hb5 := hb4.trans (hbn.mono hb4.size)
      have HB5 := Lib.hid (HB4.out.up hbn)
      clear hb4 hbn HB4
      go_wp2_with fail
      with_reducible refine (first_any w5 (HR.out.below hb5)).mono ?_
      rintro e w6 ⟨rfl, hbn⟩
      have hb6 := hb5.trans (hbn.mono hb5.size)
      have HB6 := Lib.hid (HB5.out.up hbn)
      clear hb5 hbn HB5
      go_wp2_with fail
      with_reducible refine (enc_f (some ⟨g, 0, none⟩) L k k w6 (HR.out.below hb6) HB6.out HLB.out HLL.out (fun h => by cases h) (Nat.le_refl _) (by omega)).mono ?_
      rw [← HE.out]
      rintro e w7 ⟨v7, rfl, hr7⟩
      obtain ⟨A7, c7, rfl, _, _, _⟩ := hr7.at
      rw [← HM.out]
      have hb7 := hb6.trans (hr7.2.mono hb6.size)
      clear hb6 hr7 HB6
      have hba : Below w7.heap.size w7 (w7.alloc (.cells #[.int .u8 (u : Int)] 5)) := (Below.refl _ _).alloc (Nat.le_refl _) _
      have HBU := Lib.hid (bits_f (some ⟨w7.heap.size, 0, none⟩) [u] 1 1 (w7.alloc (.cells #[.int .u8 (u : Int)] 5)) ((HR.out.below hb7).below hba) (At.new w7 [u] 5 (0, 0)) (fun x hx => by simp at hx; omega) rfl (fun h => by cases h) (Nat.le_refl _) (by omega))
      rw [HU.out] at HBU
      go_wp2_with fail
      with_reducible refine (HBU.out).mono ?_
      rintro e w8 ⟨rfl, hbn⟩
      have hb78 := hba.trans (hbn.mono hba.size)
      have hb8 := hb7.trans (hb78.mono hb7.size)
      clear hb7 hbn hba hb78 HBU
      go_wp2_with fail
      go_ret
      exact ⟨rfl, hb8⟩
theorem walk (i u : Int) (w : World) (hR : Rdy w) (hu : (Lit.int .u8 u).wf = true) : Calls Tryd.prog 7 #[.int .i64 i, .int .u8 u] w (Yes w) := by
  by_cases hl : i < 0 ∨ 200 < i
  · exact walk_long i u w hR hl
  · have hu' := bounds_u8 hu
    obtain ⟨k, rfl⟩ : ∃ k : Nat, i = (k : Int) := ⟨i.toNat, by omega⟩
    obtain ⟨v, rfl⟩ : ∃ v : Nat, u = (v : Int) := ⟨u.toNat, by omega⟩
    exact walk_short k v w hR (by omega) (by omega)
end huffLong
end Go.Proofs.YtpoffmnaoohkpaaDoor
