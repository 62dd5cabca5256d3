/- The landed frames: inByte, bytes.Equal, bytes.Clone, Same. -/
import Derived.Test.YtegcloapadippaaFObj
import Derived.Test.YtegcloapadippaaLStr
import Derived.Test.YtegcloapadippaaFRSame
import Derived.Lib.AppendStr
import Derived.Lib.SlBytesConst
import Derived.Lib.SliceRun
namespace Go.Proofs.Ytegcloapadippaa
open Go.RowKit Fr

set_option maxRecDepth 100000 in
theorem finbyte (n : Int) (w : World) : Calls Try.prog 20 #[.int .i64 n] w fun e w' => e = .returned (.bool (decide (0 ≤ n ∧ n ≤ 255))) ∧ w' = w := by
  by_cases h0 : (0 : Int) ≤ n
  · by_cases h1 : n ≤ 255
    · have e : decide (0 ≤ n ∧ n ≤ 255) = true := decide_eq_true ⟨h0, h1⟩
      rw [e]
      go_enter Try.func20, Try.ntmps20
      go_wp2
      go_ret
      exact ⟨rfl, rfl⟩
    · have e : decide (0 ≤ n ∧ n ≤ 255) = false := decide_eq_false (fun h => h1 h.2)
      rw [e]
      go_enter Try.func20, Try.ntmps20
      go_wp2
      go_ret
      exact ⟨rfl, rfl⟩
  · have e : decide (0 ≤ n ∧ n ≤ 255) = false := decide_eq_false (fun h => h0 h.1)
    rw [e]
    go_enter Try.func20, Try.ntmps20
    go_wp2
    go_ret
    exact ⟨rfl, rfl⟩
theorem bequal_any (A A' : Option Addr) (l l' : List Nat) (n n' c c' : Nat) (w : World) (B B' : Nat) (h : At .u8 w B A l) (h' : At .u8 w B' A' l') (hb : ∀ x ∈ l, x < 256) (hb' : ∀ x ∈ l', x < 256) (hn : l.length = n) (hn' : l'.length = n') :
    Calls Try.prog 22 #[.slice A n c, .slice A' n' c'] w fun e w' => e = .returned (.bool (decide (l = l'))) ∧ w = w' := by
  subst hn hn'
  have h1 := run_str w _ A l c h
  have h2 := run_str w _ A' l' c' h'
  rw [← str_eq l l' hb hb']
  clear h h' hb hb'
  go_enter Try.func22, Try.ntmps22
  go_wp2
  go_ret
  exact ⟨rfl, rfl⟩
set_option maxHeartbeats 1000000 in
theorem bclone_any (A : Option Addr) (l : List Nat) (n c : Nat) (w : World) (hA : At .u8 w w.heap.size A l) (hn : l.length = n) (hc : A = none → c = 0) (hm : n ≤ 200000) :
    Calls Try.prog 23 #[.slice A n c] w (RowPost w.heap.size w l) := by
  have qT : ∀ (w : World) (a : Option Addr) (n c n' c' : Nat), (binOp .eql 25 (.slice a n c) (.slice none n' c')).run Try.prog w = .ok (.bool a.isNone) w := fun w a n c n' c' => Lib.run_eql_slice_nil w _ _ a n c n' c' Try.underlying25
  cases A with
  | none =>
    have hl := hA.none_nil
    subst hl
    subst hn
    have hc0 := hc rfl
    subst hc0
    go_enter Try.func23, Try.ntmps23
    go_wp2
    go_ret
    exact ⟨_, rfl, World.ownsRow_nil _ _ _ _, Below.refl _ _⟩
  | some ad =>
    have HN := Lib.hid hn
    have HC := Lib.hid (show (some ad : Option Addr) = none → c = 0 from fun h => by cases h)
    clear hn hc
    have hown0 := Lib.hid (own_empty w w.heap.size (Nat.le_refl _))
    have hA0 : At .u8 (w.alloc (.cells #[] 5)) w.heap.size (some ad) l := hA.below ((Below.refl _ _).alloc (Nat.le_refl _) _) (Nat.le_refl _)
    go_enter Try.func23, Try.ntmps23
    go_wp2_with (at_builtin; refine wpList_append_at rfl (.tmp 5) (.tmp 6) rfl w.heap.size _ [] rfl hown0.out (some ad) l _ c HN.out rfl HC.out _ hA0 ?_ ?_ ?_; (rotate_right; intro v4 w4 hown4 hg4))
    · have hb4 : Below w.heap.size w w4 := ((Below.refl _ _).alloc (Nat.le_refl _) _).grown hg4 (by simp) (own_block hown0.out)
      clear hg4
      go_wp2
      go_ret
      exact ⟨v4, rfl, hown4, hb4⟩
    all_goals (have := HN.out; first | (simp; omega) | simp)
set_option maxRecDepth 100000 in
set_option maxHeartbeats 4000000 in
theorem fsame_any (f g : Frm) (A B : Option Addr) (c d : Nat) (w : World) (hA : At .u8 w w.heap.size A f.body) (hB : At .u8 w w.heap.size B g.body) (hf : ∀ x ∈ f.body, x < 256) (hg : ∀ x ∈ g.body, x < 256) : Calls Try.prog 13 #[frm f A c, frm g B d] w (BoolPost w (same f g)) := by
  unfold frm
  obtain ⟨k1, f1, s1, b1⟩ := f
  obtain ⟨k2, f2, s2, b2⟩ := g
  simp only [] at hA hB hf hg ⊢
  have HBY := Lib.hid fun (W : World) (hb : Below w.heap.size w W) => bequal_any A B b1 b2 b1.length b2.length c d W _ _ (hA.up hb) (hB.up hb) hf hg rfl rfl
  have hbb : Below w.heap.size w ((w.alloc (.cells #[.int .i64 k1, .int .i64 f1, .int .i64 s1, .slice A b1.length c] 30)).alloc (.cells #[.int .i64 k2, .int .i64 f2, .int .i64 s2, .slice B b2.length d] 30)) := ((Below.refl _ _).alloc (Nat.le_refl _) _).alloc (by simp) _
  have HB := Lib.hid hbb
  obtain ⟨n1, hn1⟩ : ∃ n, n = b1.length := ⟨_, rfl⟩
  obtain ⟨n2, hn2⟩ : ∃ n, n = b2.length := ⟨_, rfl⟩
  rw [← hn1, ← hn2] at HBY HB ⊢
  obtain ⟨eb, heb⟩ : ∃ e, e = decide (b1 = b2) := ⟨_, rfl⟩
  rw [← heb] at HBY
  have HS : Hid (same ⟨k1, f1, s1, b1⟩ ⟨k2, f2, s2, b2⟩ = (decide (k1 = k2) && decide (f1 = f2) && decide (s1 = s2) && eb)) := Lib.hid (by rw [heb]; rfl)
  generalize same ⟨k1, f1, s1, b1⟩ ⟨k2, f2, s2, b2⟩ = R at HS ⊢
  clear hA hB hf hg hbb hn1 hn2 heb
  by_cases hk : k1 = k2
  · subst hk
    by_cases hf : f1 = f2
    · subst hf
      by_cases hs : s1 = s2
      · subst hs
        have HS2 : Hid (R = eb) := Lib.hid (by rw [HS.out]; simp)
        go_enter Try.func13, Try.ntmps13
        go_wp2_with fail
        with_reducible refine (HBY.out _ HB.out).mono ?_
        rintro e w1 ⟨rfl, rfl⟩
        go_wp2
        go_ret
        rw [HS2.out]
        exact ⟨rfl, HB.out⟩
      · have q : (s1 == s2) = false := by simpa using hs
        have HS2 : Hid (R = false) := Lib.hid (by rw [HS.out, decide_eq_false hs]; simp)
        go_enter Try.func13, Try.ntmps13
        go_wp2
        go_ret
        rw [HS2.out]
        exact ⟨rfl, HB.out⟩
    · have q : (f1 == f2) = false := by simpa using hf
      have HS2 : Hid (R = false) := Lib.hid (by rw [HS.out, decide_eq_false hf]; simp)
      go_enter Try.func13, Try.ntmps13
      go_wp2
      go_ret
      rw [HS2.out]
      exact ⟨rfl, HB.out⟩
  · have q : (k1 == k2) = false := by simpa using hk
    have HS2 : Hid (R = false) := Lib.hid (by rw [HS.out, decide_eq_false hk]; simp)
    go_enter Try.func13, Try.ntmps13
    go_wp2
    go_ret
    rw [HS2.out]
    exact ⟨rfl, HB.out⟩
end Go.Proofs.Ytegcloapadippaa
