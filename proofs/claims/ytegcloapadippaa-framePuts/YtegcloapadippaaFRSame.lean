/- Contract of the reference's Same. -/
import Derived.Test.YtegcloapadippaaFFrm
import Derived.Test.YtegcloapadippaaLMem
import Derived.Test.YtegcloapadippaaLPost
import Derived.Test.YtegcloapadippaaLBytes
namespace Go.Proofs.Ytegcloapadippaa
open Go.RowKit Fr

set_option maxRecDepth 100000 in
set_option maxHeartbeats 4000000 in
theorem rfsame_any (f g : Frm) (A B : Option Addr) (c d : Nat) (w : World) (hA : At .u8 w w.heap.size A f.body) (hB : At .u8 w w.heap.size B g.body) (hf : ∀ x ∈ f.body, x < 256) (hg : ∀ x ∈ g.body, x < 256) : Calls Try.prog 14 #[frm f A c, frm g B d] w (BoolPost w (same f g)) := by
  unfold frm
  obtain ⟨k1, f1, s1, b1⟩ := f
  obtain ⟨k2, f2, s2, b2⟩ := g
  simp only [] at hA hB hf hg ⊢
  have HBY := Lib.hid fun (W : World) (hb : Below w.heap.size w W) => bytes_any A B b1 b2 b1.length b2.length c d W _ _ (hA.up hb) (hB.up hb) hf hg rfl rfl
  have hbb : Below w.heap.size w ((w.alloc (.cells #[.int .i64 k1, .int .i64 f1, .int .i64 s1, .slice A b1.length c] 30)).alloc (.cells #[.int .i64 k2, .int .i64 f2, .int .i64 s2, .slice B b2.length d] 30)) := ((Below.refl _ _).alloc (Nat.le_refl _) _).alloc (by simp) _
  have HB := Lib.hid hbb
  obtain ⟨n1, hn1⟩ : ∃ n, n = b1.length := ⟨_, rfl⟩
  obtain ⟨n2, hn2⟩ : ∃ n, n = b2.length := ⟨_, rfl⟩
  rw [← hn1, ← hn2] at HBY HB ⊢
  obtain ⟨eb, heb⟩ : ∃ e, e = decide (b1 = b2) := ⟨_, rfl⟩
  rw [← heb] at HBY
  have HS : Hid (same ⟨k1, f1, s1, b1⟩ ⟨k2, f2, s2, b2⟩ = (decide (k1 = k2) && decide (f1 = f2) && decide (s1 = s2) && eb)) := Lib.hid (by rw [heb]; rfl)
  generalize same ⟨k1, f1, s1, b1⟩ ⟨k2, f2, s2, b2⟩ = R at HS ⊢
  clear hA hB hf hg hbb hn1 hn2 heb
  by_cases hk : k1 = k2
  · subst hk
    by_cases hf : f1 = f2
    · subst hf
      by_cases hs : s1 = s2
      · subst hs
        have HS2 : Hid (R = eb) := Lib.hid (by rw [HS.out]; simp)
        go_enter Try.func14, Try.ntmps14
        go_wp2_with fail
        with_reducible refine (HBY.out _ HB.out).mono ?_
        rintro e w1 ⟨rfl, rfl⟩
        go_wp2
        go_ret
        rw [HS2.out]
        exact ⟨rfl, HB.out⟩
      · have q : (s1 == s2) = false := by simpa using hs
        have HS2 : Hid (R = false) := Lib.hid (by rw [HS.out, decide_eq_false hs]; simp)
        go_enter Try.func14, Try.ntmps14
        go_wp2
        go_ret
        rw [HS2.out]
        exact ⟨rfl, HB.out⟩
    · have q : (f1 == f2) = false := by simpa using hf
      have HS2 : Hid (R = false) := Lib.hid (by rw [HS.out, decide_eq_false hf]; simp)
      go_enter Try.func14, Try.ntmps14
      go_wp2
      go_ret
      rw [HS2.out]
      exact ⟨rfl, HB.out⟩
  · have q : (k1 == k2) = false := by simpa using hk
    have HS2 : Hid (R = false) := Lib.hid (by rw [HS.out, decide_eq_false hk]; simp)
    go_enter Try.func14, Try.ntmps14
    go_wp2
    go_ret
    rw [HS2.out]
    exact ⟨rfl, HB.out⟩
end Go.Proofs.Ytegcloapadippaa
