/- Contracts of the landed bitAt and Decode (labels and jumps among them). -/
import Derived.Test.YtpoffmnaoohkpaaDoorHEncode
import Derived.Test.YtpoffmnaoohkpaaDoorHDec
namespace Go.Proofs.YtpoffmnaoohkpaaDoor
open Go.RowKit Hf

/-- As Q; by a jump to label l: J l. -/
def jumpsTo (J : Nat → Act → World → Prop) (Q : Exit → Act → World → Prop) : Exit → Act → World → Prop
  | .goto l, a, w => J l a w
  | e, a, w => Q e a w
/-- A scope with many labels: J l holds at every jump to l; every pass from a label lowers the measure. -/
theorem wp_scope_many {P : Program} {a : Act} {w : World} {Q : Exit → Act → World → Prop} {c : Code} (J : Nat → Act → World → Prop) (μ : Nat → Act → World → Nat)
    (first : c.wp P (jumpsTo J Q) a w)
    (pass : ∀ l a w, J l a w → ∃ rest, findLabel c l = some rest ∧ rest.wp P (jumpsTo (fun l' a' w' => J l' a' w' ∧ μ l' a' w' < μ l a w) Q) a w) : (Code.scope c).wp P Q a w := by
  intro b k cs
  have key : ∀ n l a w, μ l a w = n → J l a w → ∃ rest, findLabel c l = some rest ∧ ∃ e a' w', Q e a' w' ∧ Arrives P (lone (b.at a (.code rest :: .inScope c :: k)) cs w) b k cs e a' w' := by
    intro n
    induction n using Nat.strongRecOn with
    | _ n ih =>
      intro l a w hn hJ
      obtain ⟨rest, hf, hp⟩ := pass l a w hJ
      refine ⟨rest, hf, ?_⟩
      obtain ⟨e, a₁, w₁, hq, harr⟩ := hp b (.inScope c :: k) cs
      cases e with
      | normal => exact ⟨.normal, a₁, w₁, hq, Steps.trans harr (.one step_inScope)⟩
      | exit id => exact ⟨.exit id, a₁, w₁, hq, fun k' hk => harr k' (by simp [exitTo, hk])⟩
      | goto l' =>
        obtain ⟨hJ', hlt⟩ := hq
        obtain ⟨rest', hf', e₂, a₂, w₂, hq₂, harr₂⟩ := ih _ (by omega) l' a₁ w₁ rfl hJ'
        have hg : gotoIn l' (.inScope c :: k) = some (.code rest' :: .inScope c :: k) := by simp [gotoIn, hf']
        exact ⟨e₂, a₂, w₂, hq₂, .of_steps (harr _ hg) harr₂⟩
      | ret => exact ⟨_, a₁, w₁, hq, harr⟩
      | panic ch => exact ⟨_, a₁, w₁, hq, harr⟩
      | outgrown => exact ⟨_, a₁, w₁, hq, harr⟩
  obtain ⟨e, a₁, w₁, hq, harr⟩ := first b (.inScope c :: k) cs
  cases e with
  | normal => exact ⟨.normal, a₁, w₁, hq, .head step_scope (Steps.trans harr (.one step_inScope))⟩
  | exit id => exact ⟨.exit id, a₁, w₁, hq, fun k' hk => .head step_scope (harr k' (by simp [exitTo, hk]))⟩
  | goto l' =>
    obtain ⟨rest', hf', e₂, a₂, w₂, hq₂, harr₂⟩ := key _ l' a₁ w₁ rfl hq
    have hg : gotoIn l' (.inScope c :: k) = some (.code rest' :: .inScope c :: k) := by simp [gotoIn, hf']
    exact ⟨e₂, a₂, w₂, hq₂, .of_steps (.head step_scope (harr _ hg)) harr₂⟩
  | ret => exact ⟨_, a₁, w₁, hq, .of_steps (.one step_scope) harr⟩
  | panic ch => exact ⟨_, a₁, w₁, hq, .of_steps (.one step_scope) harr⟩
  | outgrown => exact ⟨_, a₁, w₁, hq, .of_steps (.one step_scope) harr⟩

theorem and1 (n : Nat) (hn : n < 1073741824) : bits BinOp.and IntKind.i64 (n : Int) 1 = ((n % 2 : Nat) : Int) := by
  show IntKind.i64.wrap ((BitVec.ofInt 64 (n : Int) &&& BitVec.ofInt 64 ((1 : Nat) : Int)).toNat : Int) = _
  rw [BitVec.toNat_and, ofInt_u64 n (by omega), ofInt_u64 1 (by omega), Nat.and_one_is_mod]
  exact IntWalk.i64_in _ (by omega)
set_option maxRecDepth 100000 in
theorem bit_any (A : Option Addr) (b : List Nat) (n c k : Nat) (w : World) (hA : At .u8 w w.heap.size A b) (hb : ∀ x ∈ b, x < 256) (hl : b.length = n) (hn : n ≤ 10000) (hk : k < 8 * n) :
    Calls Tryd.prog 21 #[.slice A n c, .int .i64 (k : Int)] w fun e w' => e = .returned (.int .i64 (((unp b).getD k 0 : Nat) : Int)) ∧ w' = w := by
  obtain ⟨q, hq⟩ : ∃ q, q = k / 8 := ⟨_, rfl⟩
  obtain ⟨r8, hr8⟩ : ∃ r, r = k % 8 := ⟨_, rfl⟩
  have hqb : q < b.length := by omega
  obtain ⟨ab, ao, rfl, hab, hc⟩ := hA.pos (by omega)
  obtain ⟨y, hy⟩ : ∃ y, y = b[q] := ⟨_, rfl⟩
  have hy256 : y < 256 := by rw [hy]; exact hb _ (List.getElem_mem _)
  have cy : w.cell? ⟨ab, ao + q, none⟩ = some (.int .u8 (y : Int)) := by rw [hy]; exact hc q hqb
  obtain ⟨s8, hs8⟩ : ∃ s, s = 7 - r8 := ⟨_, rfl⟩
  obtain ⟨Y, hY⟩ : ∃ Y, Y = y / 2 ^ s8 := ⟨_, rfl⟩
  obtain ⟨z, hz⟩ : ∃ z, z = Y % 2 := ⟨_, rfl⟩
  have hku : k < (unp b).length := by rw [unp_len]; omega
  have HBIT : Hid ((unp b).getD k 0 = z) := Lib.hid (by
    rw [List.getD, List.getElem?_eq_getElem hku]
    simp only [unp, List.getElem_map, List.getElem_range, Option.getD_some]
    rw [← hq, ← hr8, ← hs8, List.getD, List.getElem?_eq_getElem hqb, hz, hY, hy]
    rfl)
  have eq8 : (k : Int) / 8 = (q : Int) := by omega
  have er8 : (k : Int) % 8 = (r8 : Int) := by omega
  have es8 : (7 : Int) - (r8 : Int) = (s8 : Int) := by omega
  have hs7 : s8 ≤ 7 := by omega
  have ei : IntKind.i64.wrap (s8 : Int) = (s8 : Int) := IntWalk.i64_in _ (by omega)
  have su : IntKind.u64.wrap (s8 : Int) = (s8 : Int) := u64w _ (by omega) (by omega)
  have em : min s8 8 = s8 := Nat.min_eq_left (by omega)
  have eY : (y : Int) / 2 ^ s8 = (Y : Int) := by rw [hY, show ((2 : Int) ^ s8) = ((2 ^ s8 : Nat) : Int) by simp, ← Int.natCast_ediv]
  have hY256 : Y < 256 := by rw [hY]; exact Nat.lt_of_le_of_lt (Nat.div_le_self _ _) hy256
  have eYi : IntKind.i64.wrap (Y : Int) = (Y : Int) := IntWalk.i64_in _ (by omega)
  have ez : bits BinOp.and IntKind.i64 (Y : Int) 1 = (z : Int) := by rw [and1 Y (by omega), hz]
  have qi : (q : Int) < (n : Int) := by omega
  rw [HBIT.out]
  clear hq hr8 hy hs8 hz hY hku hqb hc hA hb hl HBIT
  go_enter Tryd.func21, Tryd.ntmps21
  go_wp2
  go_ret
  exact ⟨rfl, rfl⟩
end Go.Proofs.YtpoffmnaoohkpaaDoor
