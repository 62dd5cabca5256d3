/-
  For every field and number the call answers true: a limit of nought is told with the next block, nothing is learned from then on, and what was told is not told again (texts to 300 bytes, numbers to 5000; else: the chapter's example alone).
  The card's own condition: the listed package-level variable starts as the program's text lays it (tied). No other condition.
-/
import Derived.Test.YtiandidencnlcaaDoorPGetD
import Derived.Test.YtiandidencnlcaaDoorQLimits
import Derived.Test.YtiandidencnlcaaDoorLRng
import Derived.Test.YtiandidencnlcaaDoorLFldV
import Derived.Test.YtiandidencnlcaaDoorTie
import Derived.Test.YtiandidencnlcaaDoorCards
import Derived.SevenTiedAt
namespace Go.Proofs.YtiandidencnlcaaDoor.packLimits
open Go.ChangeShapes Go.WideShapes Go.ChangeAt Go.RowKit Hf
open Go.ChangeMaps (open_string shut_string)

set_option maxRecDepth 100000 in
theorem lifted (os : Os) (started : os.Started) (H : Type) (enc : TypeId × Value → H) :
    ReturnsInHanded {} Tryd.checked os 6 .any (fun w args => (Rows.packLimitsSpec.pre enc Tryd.prog Tryd.f6 [] false w args ∧ laidMetH Tryd.prog laid1 w) ∧ sizedMet enc Tryd.prog Tryd.f6 (OpenSpec.ofChange Rows.packLimitsSpec) false w args)
      (Rows.packLimitsSpec.post enc Tryd.prog Tryd.f6 false true false false) := by
  refine returnsInHanded_of_change_and (C := Tryd.checked) (X := fun w _ => laidMetH Tryd.prog laid1 w) (fun _ _ _ hh h => h.of_heap hh) own started (by kernel_rfl) Tryd.func6
    (ChangeSpec.witness_shaped (enc := enc) (C := Tryd.checked) (os := os) (X := fun w _ => laidMetH Tryd.prog laid1 w) false (World.doorLaid Tryd.prog 14 os) #[.agg #[.string ByteArray.empty, .string ByteArray.empty, .bool false], .int .i64 0] 8 rfl (World.shaped_of_RefB (by kernel_rfl) (by kernel_rfl)) (by kernel_rfl) (by kernel_rfl) (by kernel_rfl) (door_met os _)) ?_
  intro W base args ds gs before hval0 hW _ _ hL _
  have hval : ∀ (j : Nat) t v, Tryd.f6.params[j]? = some t → args[j]? = some v → Value.okWide Tryd.prog W .any base t v := hval0
  have hW' := hW
  obtain ⟨p, q, hA0, hV, rfl, hfz, hnd⟩ := hW
  have hA : DataW.TrodAll enc Tryd.prog W 0 (fun _ => true) true Tryd.f6.params.toList args.toList ds p := hA0
  rw [Tryd.params6] at hA hval
  obtain ⟨v0, vs0, d0, ds0, p0, q0, hargs, rfl, rfl, h0, r0⟩ := trodAll_cons hA
  obtain ⟨v1, vs1, d1, ds1, p1, q1, rfl, rfl, rfl, h1, r1⟩ := trodAll_cons r0
  obtain ⟨rfl, rfl, rfl⟩ := trodAll_nil r1
  obtain rfl : args = #[v0, v1] := by cases args; simp_all
  obtain ⟨rfl, rfl⟩ := trodVars_none hV
  obtain ⟨a0, c0, z0, rfl, w0, u0, s0⟩ := openedV (hval 0 52 v0 rfl rfl) h0
  obtain ⟨i1, rfl, rfl, rfl, w1⟩ := open_int Tryd.underlying3 (hval 1 3 v1 rfl rfl) h1
  have hT := tab_of_laid hL
  clear hA0 hval0
  refine (walk a0 c0 z0 i1 W hT w0 u0).mono fun e W' ⟨he, bel⟩ => ?_
  subst he
  exact ⟨_, rfl, _, _, _, [], _, [], hW', trodAll_mk1 (shut_bool Tryd.underlying4 _), (trodAll_cons_mk (s0 W' _) (trodAll_cons_mk (shut_int Tryd.underlying3 w1) trodAll_mk0)), rfl, bel.frame _, fun h => by cases h⟩

theorem over : Rows.packLimitsRow.holds Tryd.pinned (OpenSpec.ofChange Rows.packLimitsSpec) :=
  OpenClaim.holds_of_wide 6 Tryd.f6 rfl rfl rfl rfl rfl rfl rfl ⟨rfl, rfl, rfl, rfl, rfl⟩ rfl rfl rfl rfl rfl (by kernel_rfl) Tryd.func6 (by kernel_rfl)
    (of_decide_eq_true (by kernel_rfl)) (by unfold Func.isWrapper; first | (rw [if_pos (by decide +kernel)]; kernel_rfl) | (rw [if_neg (by decide +kernel)]; exact ⟨rfl, rfl⟩))
    (fun os started H enc _ => lifted os started H enc)

end Go.Proofs.YtiandidencnlcaaDoor.packLimits
namespace Go.Proofs.YtiandidencnlcaaDoor
theorem packLimits_holds : Rows.PackLimitsCardSaid :=
  Claim7.holds_tied_plain_at .later [] [.data] true (true, "68fe0985b14f19ba199c4afa197dde4a5ba04b66f5bed75b9ab184f20eebb8f5") false
    packLimits.over (fun _ h => by cases h) (by kernel_rfl) (fun _ h => by cases h) packLimits_row_tie rfl ⟨rfl, rfl⟩ (by kernel_rfl) rfl
    (fun f fn hf hfn => by
      obtain rfl : f = 6 := Option.some.inj ((show Tryd.prog.funcNamed Rows.packLimitsRow.func = some 6 by kernel_rfl).symm.trans hf) |>.symm
      obtain rfl : fn = Tryd.f6 := (Option.some.inj (Tryd.func6.symm.trans hfn)).symm
      exact ⟨by kernel_rfl, fun j t ht => by
        rw [Tryd.params6] at ht
        have hm : t ∈ [52, 3] := by simpa using Array.mem_of_getElem? ht
        have hall : ([52, 3].all fun u => !Tryd.prog.wantsStandIn u) = true := by kernel_rfl
        exact (show Tryd.prog.wantsStandIn t = false by simpa using List.all_eq_true.1 hall t hm)⟩)
    (by kernel_rfl)
#print axioms packLimits_holds
end Go.Proofs.YtiandidencnlcaaDoor
