/- Contract of b64.Encode: the text of the bytes; of what was there nothing has turned. -/
import Derived.Test.YtidajbmbadgnmaaW1
import Derived.Lib.AppendStr
namespace Go.Proofs.Ytidajbmbadgnmaa
open Go.RowKit Bm

/-- The cells of bytes. -/
def cel (l : List UInt8) : List Value := l.map fun c => Value.int .u8 (c.toNat : Int)
theorem cel_len (l : List UInt8) : (cel l).length = l.length := by simp [cel]
theorem cel_snoc (l : List UInt8) (c : UInt8) : cel l ++ [Value.int .u8 (c.toNat : Int)] = cel (l ++ [c]) := by simp [cel]
/-- The bytes l lie at A, below block B; where there is none, A is whatever. -/
def Has (w : World) (B : Nat) (A : Option Addr) (l : List UInt8) : Prop :=
  l ≠ [] → ∃ b o, A = some ⟨b, o, none⟩ ∧ b < B ∧ ∀ i (h : i < l.length), w.cell? ⟨b, o + i, none⟩ = some (.int .u8 (l[i].toNat : Int))
theorem Has.nil (w : World) (B : Nat) (A : Option Addr) : Has w B A [] := fun h => absurd rfl h
theorem Has.below {w w' : World} {B C : Nat} {A : Option Addr} {l : List UInt8} (h : Has w B A l) (hb : Below C w w') (hC : B ≤ C) : Has w' B A l := fun hl => by
  obtain ⟨b, o, e, hB, hc⟩ := h hl
  exact ⟨b, o, e, hB, fun i hi => (hb.cell (p := ⟨b, o + i, none⟩) (by show b < C; omega)).trans (hc i hi)⟩
theorem Has.more {w : World} {B C : Nat} {A : Option Addr} {l : List UInt8} (h : Has w B A l) (hC : B ≤ C) : Has w C A l := fun hl => by
  obtain ⟨b, o, e, hB, hc⟩ := h hl
  exact ⟨b, o, e, by omega, hc⟩
theorem Has.of_own {w : World} {B : Nat} {A : Option Addr} {n c : Nat} {l : List UInt8} (h : w.ownsRow B 5 1 (.slice A n c) n (cel l)) : Has w w.heap.size A l := fun hl => by
  have hlen : l.length = n := by simpa [cel] using h.1
  have hpos : 0 < l.length := List.length_pos_iff.2 hl
  rcases h.2 with ⟨he, hn⟩ | ⟨g, cap, cur, he, hB, hh, _⟩
  · omega
  · injection he with hA _ hc
    subst hA
    subst hc
    refine ⟨g, 0, rfl, ?_, fun i hi => ?_⟩
    · rcases Nat.lt_or_ge g w.heap.size with hlt | hge
      · exact hlt
      · rw [Array.getElem?_eq_none hge] at hh; cases hh
    · rw [Nat.zero_add, h.cellAt i (by omega)]
      simp [cel, hi]
theorem info5 : (Try.prog.info? 5).map (fun i => (i.zero, i.size, i.bytes)) = some (some (.int .u8 0), 1, 1) := by kernel_rfl

/-- The string that a slice of bytes makes. -/
theorem run_str (w : World) (B : Nat) (A : Option Addr) (l : List UInt8) (c : Nat) (h : Has w B A l) : (convert 22 9 (.slice A l.length c)).run Try.prog w = .ok (.string (str l)) w := by
  by_cases hl : l = []
  · subst hl
    cases A with
    | none => exact run_convert_bytes_nil w 22 5 Try.underlying22 Try.underlying5 0 c 9 Try.underlying9
    | some a =>
      rw [run_convert_bytes_string w 22 9 5 _ _ c Try.underlying22 Try.underlying5 Try.underlying9]
      have := run_bytesToString (P := Try.prog) w a 0 c [] (by rfl)
      exact this
  · obtain ⟨b, o, rfl, hB, hc⟩ := h hl
    rw [run_convert_bytes_arg w 22 5 Try.underlying22 Try.underlying5 b o l.length c (l.map fun x => (x.toNat : Int)) (by simp) (fun i hi => by rw [hc i hi]; simp [List.getD, hi]) 9 Try.underlying9]
    simp [strOfNums, str, Function.comp_def]

theorem or_bits (b c : Nat) (hb : b < 256) (hc : c < 256) : bits BinOp.or IntKind.u64 ((b : Int) * 256) (c : Int) = ((b * 256 + c : Nat) : Int) := by
  rw [show ((b : Int) * 256) = ((b * 256 : Nat) : Int) by simp, u64_or_nat _ _ (by omega) (by omega), nat_join 8 _ _ (by omega) (by omega)]

/-- At a round's head of the loop over the bytes. -/
def EncR (w : World) (l : List UInt8) (v bb hh i : Value) (wr : World) : Prop :=
  ∃ (k b h : Nat) (acc : List UInt8), k ≤ l.length ∧ i = .int .i64 k ∧ bb = .int .u64 b ∧ hh = .int .u64 h ∧ h < 6 ∧ h % 2 = 0 ∧ b < 2 ^ h ∧ acc ++ encS b h (l.drop k) = core l ∧
    wr.ownsRow w.heap.size 5 1 v acc.length (cel acc) ∧ Below w.heap.size w wr
/-- At a round's head of the loop over the bits at hand. -/
def DrnR (w : World) (l r : List UInt8) (v bb hh : Value) (wr : World) : Prop :=
  ∃ (b h : Nat) (acc : List UInt8), bb = .int .u64 b ∧ hh = .int .u64 h ∧ h < 14 ∧ h % 2 = 0 ∧ b < 2 ^ h ∧ acc ++ ((drn b h).1 ++ encS (drn b h).2.1 (drn b h).2.2 r) = core l ∧
    wr.ownsRow w.heap.size 5 1 v acc.length (cel acc) ∧ Below w.heap.size w wr
/-- At a round's head of the loop of pads. -/
def PadR (w : World) (l : List UInt8) (v : Value) (wr : World) : Prop :=
  ∃ acc : List UInt8, acc.length ≤ 20000 ∧ padTo acc = enc l ∧ wr.ownsRow w.heap.size 5 1 v acc.length (cel acc) ∧ Below w.heap.size w wr
theorem acc_len {acc r : List UInt8} {l : List UInt8} (h : acc ++ r = core l) (hn : l.length ≤ 5000) : acc.length ≤ 6667 := by
  have := congrArg List.length h
  rw [List.length_append, core_len] at this
  omega

/-- The pads that are still to come, off a slice's length. -/
def padM : Value → Nat
  | .slice _ n _ => (4 - n % 4) % 4
  | _ => 0
theorem own_shape {w : World} {B : Nat} {v : Value} {l : List UInt8} (h : w.ownsRow B 5 1 v l.length (cel l)) : ∃ A c, v = .slice A l.length c := by
  rcases h.2 with ⟨rfl, hn⟩ | ⟨g, cap, _, rfl, _⟩
  · exact ⟨none, 0, by rw [hn]⟩
  · exact ⟨_, cap, rfl⟩
theorem own_block {w : World} {B : Nat} {v : Value} {n : Nat} {xs : List Value} (h : w.ownsRow B 5 1 v n xs) : ∀ k, v.ownBlock = some k → B ≤ k := by
  intro k hk
  rcases h.2 with ⟨rfl, hn⟩ | ⟨g, cap, _, rfl, hB, _⟩
  · cases hk
  · injection hk with hk
    subst hk
    exact hB
theorem own_snoc {w : World} {B : Nat} {v : Value} {l : List UInt8} {x : UInt8} (h : w.ownsRow B 5 1 v (l.length + 1) (cel l ++ [.int .u8 (x.toNat : Int)])) : w.ownsRow B 5 1 v (l ++ [x]).length (cel (l ++ [x])) := by
  rw [cel_snoc] at h
  simpa using h
theorem below_app {w wr w2 : World} {A : Option Addr} {n c : Nat} {xs : List Value} {o : Obj} (hb : Below w.heap.size w wr) (hown : wr.ownsRow w.heap.size 5 1 (.slice A n c) n xs) (hg : (wr.alloc o).grownBy w2 (Value.ownBlock (.slice A n c))) : Below w.heap.size w w2 :=
  (hb.alloc hb.size o).grown hg (by have := hb.size; simp; omega) (own_block hown)
theorem idx_nat (b g : Nat) : ((b : Int) / 2 ^ g).toNat = b / 2 ^ g := by
  rw [show ((2 : Int) ^ g) = ((2 ^ g : Nat) : Int) by simp, ← Int.natCast_ediv, Int.toNat_natCast]
theorem idx_lt {b g : Nat} (h : b < 2 ^ (g + 6)) : b / 2 ^ g < 64 := by
  rw [Nat.pow_add] at h
  exact Nat.div_lt_of_lt_mul h
theorem idx_int {b g : Nat} (h : b < 2 ^ (g + 6)) : (0 : Int) ≤ (b : Int) / 2 ^ g ∧ (b : Int) / 2 ^ g < 64 := by
  have := idx_lt h
  have e : (b : Int) / 2 ^ g = ((b / 2 ^ g : Nat) : Int) := by
    rw [show ((2 : Int) ^ g) = ((2 ^ g : Nat) : Int) by simp, ← Int.natCast_ediv]
  rw [e]
  generalize b / 2 ^ g = q at *
  omega
theorem drn_step {b g : Nat} {acc r l : List UInt8} (h : acc ++ ((drn b (g + 6)).1 ++ encS (drn b (g + 6)).2.1 (drn b (g + 6)).2.2 r) = l) :
    (acc ++ [sgn (b / 2 ^ g)]) ++ ((drn (b % 2 ^ g) g).1 ++ encS (drn (b % 2 ^ g) g).2.1 (drn (b % 2 ^ g) g).2.2 r) = l := by
  rw [drain_ge (by omega), Nat.add_sub_cancel] at h
  rw [← h]
  simp

set_option maxHeartbeats 1000000 in
theorem encode_any (A : Option Addr) (l : List UInt8) (c : Nat) (w : World) (hr : Has w w.heap.size A l) (hn : l.length ≤ 5000) :
    Calls Try.prog 10 #[.slice A l.length c] w fun e w' => e = .returned (.string (str (enc l))) ∧ Below w.heap.size w w' := by
  obtain ⟨i0, hi0, hz0, hz1, hz2⟩ := info_parts info5
  go_enter Try.func10, Try.ntmps10
  go_wp2_with (at_make; refine wpList_make_own _ rfl _ _ 22 rfl w.heap.size 5 i0 _ 1 Try.underlying22 hi0 hz0 hz1 _ _ _ ((l.length + 2) / 3 * 4) rfl rfl (by omega) (by rw [hz2]; omega) (by unfold maxLen; omega) (Nat.le_refl _) ?_; intro w1 hown1 hg1)
  have hb1 : Below w.heap.size w w1 := (Below.refl _ _).grown hg1 (Nat.le_refl _) (by simp)
  clear hg1
  go_loopw [3, 4, 5, 16] (fun v bb hh i wr => EncR w l v bb hh i wr) (fun _ _ _ i _ => l.length - (intOf i).toNat)
  case atStart => exact ⟨0, 0, 0, [], Nat.zero_le _, rfl, rfl, rfl, by omega, rfl, by omega, rfl, hown1, hb1⟩
  case round =>
    clear hown1 hb1
    obtain ⟨k, b, h, acc, hk, rfl, rfl, rfl, hh, hev, hb, hacc, hown, hbel⟩ := hrel
    have HA := Lib.hid hacc
    clear hacc
    by_cases hlt : k < l.length
    · have hne : l ≠ [] := by rintro rfl; simp at hlt
      obtain ⟨ab, ao, rfl, hab, hcell⟩ := hr hne
      have hc1 : wr.cell? ⟨ab, ao + k, none⟩ = some (.int .u8 (l[k].toNat : Int)) := (hbel.cell (p := ⟨ab, ao + k, none⟩) hab).trans (hcell k hlt)
      have HC := Lib.hid hcell
      clear hcell
      have hlk := l[k].toNat_lt
      have hb64 : b < 64 := Nat.lt_of_lt_of_le hb (Nat.pow_le_pow_right (by omega) (by omega : h ≤ 6))
      go_wp2
      go_loopw [3, 4, 5] (fun v bb hh wr => DrnR w l (l.drop (k + 1)) v bb hh wr) (fun _ _ hh _ => (intOf hh).toNat)
      case atStart =>
        refine ⟨b * 256 + l[k].toNat, h + 8, acc, ?_, by go_num, by omega, by omega, ?_, ?_, hown, hbel⟩
        · rw [or_bits b _ (by omega) (by omega)]
        · rw [Nat.pow_add]; omega
        · have := HA.out
          rw [List.drop_eq_getElem_cons hlt, encS_cons] at this
          exact this
      case round =>
        obtain ⟨b2, h2, acc2, rfl, rfl, hh2, hev2, hb2, hacc2, hown2, hbel2⟩ := hrel
        have HA2 := Lib.hid hacc2
        have hal := acc_len hacc2 hn
        clear hacc2
        obtain ⟨A2, cap2, rfl⟩ := own_shape hown2
        by_cases h6 : 6 ≤ h2
        · obtain ⟨g, rfl⟩ : ∃ g, h2 = g + 6 := ⟨h2 - 6, by omega⟩
          have hix := idx_int hb2
          have hsg := alph_get
          have hb3 : b2 < 65536 := Nat.lt_of_lt_of_le hb2 (Nat.pow_le_pow_right (by omega) (by omega : g + 6 ≤ 16))
          go_wp2_with (first | (go_at_call 17; refine (lowest_any b2 g _ hb3 (by omega)).mono ?_; rintro e w' ⟨rfl, rfl⟩) | (at_builtin; refine wpList_append_own _ rfl _ _ 22 rfl w.heap.size 5 i0 _ 1 1 Try.underlying22 hi0 hz0 hz1 hz2 rfl (by decide) _ _ _ rfl (hown2.alloc _) ⟨wr.heap.size, 0, none⟩ 1 1 _ rfl rfl (cell_one_new _ _ _) ?c2 ?c3 ?c4 ?c5 ?_))
          case c2 => intro u hu; simp at hu; subst hu; rfl
          case c3 => unfold maxLen; omega
          case c4 => omega
          case c5 => have := hbel2.size; simp; omega
          · intro v' w2 hown3 hg3 _
            have hbel3 := below_app hbel2 hown2 hg3
            rw [idx_nat] at hown3
            have hown4 := own_snoc hown3
            clear hown3 hg3 hown2 hbel2 hix hsg
            go_wp2_with (go_at_call 17; refine (lowest_any b2 g _ hb3 (by omega)).mono ?_; rintro e w' ⟨rfl, rfl⟩)
            go_roundw
            case rel => exact ⟨b2 % 2 ^ g, g, acc2 ++ [sgn (b2 / 2 ^ g)], rfl, rfl, by omega, by omega, Nat.mod_lt _ (Nat.pow_pos (by omega)), drn_step HA2.out, hown4, hbel3⟩
            case measure => simp [intOf]; omega
        · go_wp2
          go_roundw
          case rel =>
            have := HA2.out
            rw [drain_lt (by omega)] at this
            exact ⟨k + 1, b2, h2, acc2, by omega, by go_num, rfl, rfl, by omega, hev2, hb2, this, hown2, hbel2⟩
          case measure => simp [intOf]; omega
    · have hd := Lib.hid (show l.drop k = [] from List.drop_eq_nil_of_le (by omega))
      have hal := acc_len HA.out hn
      obtain ⟨A2, cap2, rfl⟩ := own_shape hown
      have hsg := alph_get
      have hcl := core_len l
      have HCL := Lib.hid hcl
      clear hcl
      rcases (show h = 0 ∨ h = 2 ∨ h = 4 by omega) with rfl | rfl | rfl
      · obtain rfl : acc = core l := by
          have := HA.out
          rw [hd.out, encS_nil, if_neg (by omega), List.append_nil] at this
          exact this
        have hownF := hown
        have hbelF := hbel
        clear hd HA hr hsg hown hbel
        go_wp2
        go_loopw [3] (fun v wr => PadR w l v wr) (fun v _ => padM v)
        case atStart => exact ⟨core l, by have := HCL.out; omega, rfl, hownF, hbelF⟩
        case round =>
          clear hownF hbelF
          obtain ⟨acc2, hl2, hp2, hown2, hbel2⟩ := hrel
          obtain ⟨A3, cap3, rfl⟩ := own_shape hown2
          have HP := Lib.hid hp2
          clear hp2
          by_cases h4 : acc2.length % 4 = 0
          · have ht : (((acc2.length : Int) % 4) != 0) = false := by simp; omega
            have hcv := run_str wr _ A3 acc2 cap3 (Has.of_own hown2)
            go_wp2
            go_ret
            refine ⟨ret_str ?_, hbel2⟩
            rw [← HP.out, padTo_none h4]
          · have ht : (((acc2.length : Int) % 4) != 0) = true := by simp; omega
            have hlen : acc2.length ≤ 9000 := by
              have := congrArg List.length HP.out
              rw [enc_len, padTo, List.length_append] at this
              omega
            go_wp2_with (at_builtin; refine Lib.wpList_append_own_string _ rfl _ _ 22 9 rfl w.heap.size 5 i0 Try.underlying22 Try.underlying9 hi0 hz0 hz1 hz2 _ _ _ rfl hown2 ⟨#[61]⟩ rfl (by unfold maxLen; have : ByteArray.size ⟨#[61]⟩ = 1 := rfl; omega) (by have : ByteArray.size ⟨#[61]⟩ = 1 := rfl; omega) hbel2.size ?_; intro v' w2 hown3 hg3 _)
            have hbelF : Below w.heap.size w w2 := hbel2.grown hg3 hbel2.size (own_block hown2)
            have hownF := own_snoc (x := 61) hown3
            obtain ⟨A4, cap4, rfl⟩ := own_shape hownF
            clear hown3 hg3 hown2 hbel2
            go_roundw
            case rel => exact ⟨acc2 ++ [61], by simp; omega, by rw [padTo_step h4]; exact HP.out, hownF, hbelF⟩
            case measure => simp [padM]; omega
      · have hfin := HA.out
        rw [hd.out, encS_nil, if_pos (by omega)] at hfin
        have HF := Lib.hid hfin
        clear hfin hd HA hr
        have hb4 : b < 4 := hb
        go_wp2_with (at_builtin; refine wpList_append_own _ rfl _ _ 22 rfl w.heap.size 5 i0 _ 1 1 Try.underlying22 hi0 hz0 hz1 hz2 rfl (by decide) _ _ _ rfl (hown.alloc _) ⟨wr.heap.size, 0, none⟩ 1 1 _ rfl rfl (cell_one_new _ _ _) ?d2 ?d3 ?d4 ?d5 ?_)
        case d2 => first | rfl | (intro u hu; simp at hu; subst hu; rfl)
        case d3 => unfold maxLen; omega
        case d4 => omega
        case d5 => have := hbel.size; simp; omega
        intro v' w2 hown3 hg3 _
        have hbelF := below_app hbel hown hg3
        have hownF := own_snoc hown3
        rw [show sgn (b * 16) = sgn (b * 2 ^ (6 - 2)) from rfl, HF.out] at hownF
        clear hown3 hg3 hown hbel hsg HF
        go_wp2
        go_loopw [3] (fun v wr => PadR w l v wr) (fun v _ => padM v)
        case atStart => exact ⟨core l, by have := HCL.out; omega, rfl, hownF, hbelF⟩
        case round =>
          clear hownF hbelF
          obtain ⟨acc2, hl2, hp2, hown2, hbel2⟩ := hrel
          obtain ⟨A3, cap3, rfl⟩ := own_shape hown2
          have HP := Lib.hid hp2
          clear hp2
          by_cases h4 : acc2.length % 4 = 0
          · have ht : (((acc2.length : Int) % 4) != 0) = false := by simp; omega
            have hcv := run_str wr _ A3 acc2 cap3 (Has.of_own hown2)
            go_wp2
            go_ret
            refine ⟨ret_str ?_, hbel2⟩
            rw [← HP.out, padTo_none h4]
          · have ht : (((acc2.length : Int) % 4) != 0) = true := by simp; omega
            have hlen : acc2.length ≤ 9000 := by
              have := congrArg List.length HP.out
              rw [enc_len, padTo, List.length_append] at this
              omega
            go_wp2_with (at_builtin; refine Lib.wpList_append_own_string _ rfl _ _ 22 9 rfl w.heap.size 5 i0 Try.underlying22 Try.underlying9 hi0 hz0 hz1 hz2 _ _ _ rfl hown2 ⟨#[61]⟩ rfl (by unfold maxLen; have : ByteArray.size ⟨#[61]⟩ = 1 := rfl; omega) (by have : ByteArray.size ⟨#[61]⟩ = 1 := rfl; omega) hbel2.size ?_; intro v' w2 hown3 hg3 _)
            have hbelF : Below w.heap.size w w2 := hbel2.grown hg3 hbel2.size (own_block hown2)
            have hownF := own_snoc (x := 61) hown3
            obtain ⟨A4, cap4, rfl⟩ := own_shape hownF
            clear hown3 hg3 hown2 hbel2
            go_roundw
            case rel => exact ⟨acc2 ++ [61], by simp; omega, by rw [padTo_step h4]; exact HP.out, hownF, hbelF⟩
            case measure => simp [padM]; omega
      · have hfin := HA.out
        rw [hd.out, encS_nil, if_pos (by omega)] at hfin
        have HF := Lib.hid hfin
        clear hfin hd HA hr
        have hb4 : b < 16 := hb
        go_wp2_with (at_builtin; refine wpList_append_own _ rfl _ _ 22 rfl w.heap.size 5 i0 _ 1 1 Try.underlying22 hi0 hz0 hz1 hz2 rfl (by decide) _ _ _ rfl (hown.alloc _) ⟨wr.heap.size, 0, none⟩ 1 1 _ rfl rfl (cell_one_new _ _ _) ?f2 ?f3 ?f4 ?f5 ?_)
        case f2 => first | rfl | (intro u hu; simp at hu; subst hu; rfl)
        case f3 => unfold maxLen; omega
        case f4 => omega
        case f5 => have := hbel.size; simp; omega
        intro v' w2 hown3 hg3 _
        have hbelF := below_app hbel hown hg3
        have hownF := own_snoc hown3
        rw [show sgn (b * 4) = sgn (b * 2 ^ (6 - 4)) from rfl, HF.out] at hownF
        clear hown3 hg3 hown hbel hsg HF
        go_wp2
        go_loopw [3] (fun v wr => PadR w l v wr) (fun v _ => padM v)
        case atStart => exact ⟨core l, by have := HCL.out; omega, rfl, hownF, hbelF⟩
        case round =>
          clear hownF hbelF
          obtain ⟨acc2, hl2, hp2, hown2, hbel2⟩ := hrel
          obtain ⟨A3, cap3, rfl⟩ := own_shape hown2
          have HP := Lib.hid hp2
          clear hp2
          by_cases h4 : acc2.length % 4 = 0
          · have ht : (((acc2.length : Int) % 4) != 0) = false := by simp; omega
            have hcv := run_str wr _ A3 acc2 cap3 (Has.of_own hown2)
            go_wp2
            go_ret
            refine ⟨ret_str ?_, hbel2⟩
            rw [← HP.out, padTo_none h4]
          · have ht : (((acc2.length : Int) % 4) != 0) = true := by simp; omega
            have hlen : acc2.length ≤ 9000 := by
              have := congrArg List.length HP.out
              rw [enc_len, padTo, List.length_append] at this
              omega
            go_wp2_with (at_builtin; refine Lib.wpList_append_own_string _ rfl _ _ 22 9 rfl w.heap.size 5 i0 Try.underlying22 Try.underlying9 hi0 hz0 hz1 hz2 _ _ _ rfl hown2 ⟨#[61]⟩ rfl (by unfold maxLen; have : ByteArray.size ⟨#[61]⟩ = 1 := rfl; omega) (by have : ByteArray.size ⟨#[61]⟩ = 1 := rfl; omega) hbel2.size ?_; intro v' w2 hown3 hg3 _)
            have hbelF : Below w.heap.size w w2 := hbel2.grown hg3 hbel2.size (own_block hown2)
            have hownF := own_snoc (x := 61) hown3
            obtain ⟨A4, cap4, rfl⟩ := own_shape hownF
            clear hown3 hg3 hown2 hbel2
            go_roundw
            case rel => exact ⟨acc2 ++ [61], by simp; omega, by rw [padTo_step h4]; exact HP.out, hownF, hbelF⟩
            case measure => simp [padM]; omega
end Go.Proofs.Ytidajbmbadgnmaa
