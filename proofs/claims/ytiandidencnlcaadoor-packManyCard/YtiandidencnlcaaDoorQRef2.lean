/- Contract of Peer of the document's encoder. -/
import Derived.Test.YtiandidencnlcaaDoorQRef
namespace Go.Proofs.YtiandidencnlcaaDoor
open Go.RowKit

theorem REPost.quiet {S : Nat → Prop} {w : World} {p q : Nat} {s : EncS} (h : RE w S p q s) : REPost S w p q s w := ⟨S, h, fun _ hx => .inl hx, Keeps.refl _ _⟩
set_option maxRecDepth 100000 in
set_option maxHeartbeats 4000000 in
theorem rqpeer_any (n : Int) (w : World) (S : Nat → Prop) (p q : Nat) (s : EncS) (h : RE w S p q s) :
    Calls Tryd.prog 13 #[.pointer (some ⟨p, 0, none⟩), .int .i64 n] w fun e w' => e = .returned (.tuple #[]) ∧ REPost S w p q (s.peer n) w' := by
  have hk := clampT_le n
  have hkk : clampT n = (min (max n 0) 4096).toNat := rfl
  obtain ⟨k, hkn⟩ : ∃ k, k = clampT n := ⟨_, rfl⟩
  rw [← hkn] at hk hkk
  obtain ⟨a, ha⟩ : ∃ a, (if n < 0 then 0 else n) = a := ⟨_, rfl⟩
  have hb : (if 4096 < a then 4096 else a) = (k : Int) := by
    rw [hkk, ← ha]
    split <;> split <;> omega
  have ek : min (max n 0) 4096 = (k : Int) := by rw [hkk]; omega
  have HS : Hid (s.peer n = ⟨k, fitL k s.tab, s.told, if s.set = false ∨ k < s.least then k else s.least, true⟩) := Lib.hid (by rw [EncS.peer, ← hkn])
  have c2 := h.c2
  have c3 := h.c3
  have f2 := h.fz 2
  have f3 := h.fz 3
  obtain ⟨M, T, tl, ls, st⟩ := s
  simp only [] at c2 c3 HS
  have HLIM : Hid (∀ (w1 : World) (l1 : Nat), RE w1 S p q ⟨M, T, tl, l1, st⟩ → Keeps S w w1 → (∃ S1, RT (w1.setCell ⟨p, 3, none⟩ (.bool true)) S1 q M T ∧ ∀ w2, TPost S1 (w1.setCell ⟨p, 3, none⟩ (.bool true)) q k (fitL k T) w2 → REPost S w p q ⟨k, fitL k T, tl, l1, true⟩ w2) ∧ (w1.setCell ⟨p, 3, none⟩ (.bool true)).cell? ⟨p, 0, none⟩ = some (.pointer (some ⟨q, 0, none⟩))) := Lib.hid (fun w1 l1 hR hK => by
    obtain ⟨h3, hK3⟩ := hR.set3 true
    simp only [] at h3
    obtain ⟨S1, hT, _, hF⟩ := h3.table
    refine ⟨⟨S1, hT, fun w2 hP => ?_⟩, h3.c0⟩
    exact REPost.then (fun x hx => .inl hx) (hK.trans hK3 (fun x hx _ => hx)) (hF w2 k (fitL k T) hP (fit_tot _ _) hk))
  cases st with
  | false =>
    obtain ⟨h2, hK2⟩ := h.set2 k hk
    simp only [] at h2
    obtain ⟨⟨S1, hT, hF⟩, x0⟩ := HLIM.out _ k h2 hK2
    have y3 := h2.c3
    have z3 := h2.fz 3
    simp only [] at y3
    have HL := Lib.hid (rlimit_ok _ S1 q M k T hT hk)
    have HF := Lib.hid hF
    have HS2 : Hid (EncS.peer ⟨M, T, tl, ls, false⟩ n = ⟨k, fitL k T, tl, k, true⟩) := Lib.hid (by rw [HS.out, if_pos (.inl rfl)])
    clear HLIM hF hT h h2 hK2 HS hkn hkk f3 hk
    go_enter Tryd.func13, Tryd.ntmps13
    go_wp2_with fail
    with_reducible refine (HL.out).mono ?_
    rintro e w2 ⟨rfl, hP⟩
    have HP := Lib.hid (HF.out _ hP)
    clear x0 y3 z3 c2 c3 f2 hP HL
    go_wp2
    go_end0
    rw [HS2.out]
    exact ⟨rfl, HP.out⟩
  | true =>
    by_cases hlt : k < ls
    · have lt' : (k : Int) < (ls : Int) := by omega
      obtain ⟨h2, hK2⟩ := h.set2 k hk
      simp only [] at h2
      obtain ⟨⟨S1, hT, hF⟩, x0⟩ := HLIM.out _ k h2 hK2
      have y3 := h2.c3
      have z3 := h2.fz 3
      simp only [] at y3
      have HL := Lib.hid (rlimit_ok _ S1 q M k T hT hk)
      have HF := Lib.hid hF
      have HS2 : Hid (EncS.peer ⟨M, T, tl, ls, true⟩ n = ⟨k, fitL k T, tl, k, true⟩) := Lib.hid (by rw [HS.out, if_pos (.inr hlt)])
      clear HLIM hF hT h h2 hK2 HS hkn hkk f3 hk hlt
      go_enter Tryd.func13, Tryd.ntmps13
      go_wp2_with fail
      with_reducible refine (HL.out).mono ?_
      rintro e w2 ⟨rfl, hP⟩
      have HP := Lib.hid (HF.out _ hP)
      clear x0 y3 z3 c2 c3 f2 hP HL
      go_wp2
      go_end0
      rw [HS2.out]
      exact ⟨rfl, HP.out⟩
    · have lt' : ¬ (k : Int) < (ls : Int) := by omega
      obtain ⟨⟨S1, hT, hF⟩, x0⟩ := HLIM.out w ls h (Keeps.refl _ _)
      have HL := Lib.hid (rlimit_ok _ S1 q M k T hT hk)
      have HF := Lib.hid hF
      have HS2 : Hid (EncS.peer ⟨M, T, tl, ls, true⟩ n = ⟨k, fitL k T, tl, ls, true⟩) := Lib.hid (by rw [HS.out, if_neg (by simp; omega)])
      clear HLIM hF hT h HS hkn hkk hk hlt
      go_enter Tryd.func13, Tryd.ntmps13
      go_wp2_with fail
      with_reducible refine (HL.out).mono ?_
      rintro e w2 ⟨rfl, hP⟩
      have HP := Lib.hid (HF.out _ hP)
      clear x0 c2 c3 f2 f3 hP HL
      go_wp2
      go_end0
      rw [HS2.out]
      exact ⟨rfl, HP.out⟩
end Go.Proofs.YtiandidencnlcaaDoor
