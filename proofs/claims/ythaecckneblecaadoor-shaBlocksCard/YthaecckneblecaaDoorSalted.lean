/- Contract of the reference's Salted: SHA-256 of salt, a byte 0, word. -/
import Derived.Test.YthaecckneblecaaDoorOne
namespace Go.Proofs.YthaecckneblecaaDoor
open Go.RowKit Sh
theorem own_none {w : World} {B T : Nat} {A : Option Addr} {n c : Nat} {xs : List Value} (h : w.ownsRow B T 1 (.slice A n c) n xs) : A = none → c = 0 := by
  rintro rfl
  rcases h.2 with ⟨hv, _⟩ | ⟨_, _, _, hv, _⟩
  · injection hv
  · cases hv
theorem one_n (A : Option Addr) (l : List Nat) (n c : Nat) (w : World) (hl : l.length = n) (hA : At .u8 w w.heap.size A l) (hb : ∀ x ∈ l, x < 256) (hc : A = none → c = 0) (hn : n ≤ 5000) :
    Calls Tryd.prog 10 #[.slice A n c] w (OnePost w (sum l)) := by
  subst hl
  exact one_any A l c w hA hb hc hn
set_option maxHeartbeats 2000000 in
theorem salted_any (A A' : Option Addr) (s l : List Nat) (c c' : Nat) (w : World) (hA : At .u8 w w.heap.size A s) (hA' : At .u8 w w.heap.size A' l) (hs : ∀ x ∈ s, x < 256) (hb : ∀ x ∈ l, x < 256) (hc : A = none → c = 0) (hc' : A' = none → c' = 0) (hn : s.length ≤ 2400) (hn' : l.length ≤ 2400) :
    Calls Tryd.prog 12 #[.slice A s.length c, .slice A' l.length c'] w (OnePost w (sum (s ++ [0] ++ l))) := by
  have HC := Lib.hid hc
  have HC' := Lib.hid hc'
  have HS := Lib.hid hs
  have HB := Lib.hid hb
  clear hc hc' hs hb
  have hown0 := own_empty w w.heap.size (Nat.le_refl _)
  have hA0 : At .u8 (w.alloc (.cells #[] 5)) w.heap.size A s := hA.below ((Below.refl _ _).alloc (Nat.le_refl _) _) (Nat.le_refl _)
  go_enter Tryd.func12, Tryd.ntmps12
  go_wp2_with (first
    | (at_builtin; refine wpList_append_at rfl (.tmp 5) (.tmp 6) rfl w.heap.size _ [] rfl hown0 A s _ c rfl rfl HC.out _ hA0 ?_ ?_ ?_; (rotate_right; intro v4 w4 hown4 hg4; have hb4 : Below w.heap.size w w4 := ((Below.refl _ _).alloc (Nat.le_refl _) _).grown hg4 (by simp) (own_block hown0)))
    | (at_builtin; refine wpList_append_at rfl (.tmp 7) (.tmp 8) rfl w.heap.size _ s rfl (hown4.alloc _) (some ⟨w4.heap.size, 0, none⟩) [0] _ 1 rfl rfl (fun h => by cases h) _ (At.new w4 [0] 5 (0, 0)) ?_ ?_ ?_; (rotate_right; intro v5 w5 hown5 hg5; have hb5 : Below w.heap.size w w5 := (hb4.alloc hb4.size _).grown hg5 (by have := hb4.size; simp; omega) (own_block hown4)))
    | (at_builtin; refine wpList_append_at rfl (.tmp 9) (.tmp 10) rfl w.heap.size _ (s ++ [0]) rfl hown5 A' l _ c' rfl rfl HC'.out _ (hA'.below hb5 (Nat.le_refl _)) ?_ ?_ ?_; (rotate_right; intro v6 w6 hown6 hg6; obtain ⟨A6, c6, rfl⟩ := own_shape hown6)))
  · have hb6 : Below w.heap.size w w6 := hb5.grown hg6 hb5.size (own_block hown5)
    have hF6 := At.of_own hown6
    have HN6 := Lib.hid (own_none hown6)
    have hby : ∀ x ∈ s ++ [0] ++ l, x < 256 := by
      intro x hx
      rw [List.mem_append, List.mem_append, List.mem_singleton] at hx
      rcases hx with (h | h) | h
      · exact HS.out x h
      · omega
      · exact HB.out x h
    have HBY := Lib.hid hby
    clear hby hown6 hg6 hown5 hg5 hown4 hg4 hown0
    with_reducible refine (one_n A6 (s ++ [0] ++ l) _ c6 w6 (by simp) hF6 HBY.out HN6.out (by omega)).mono ?_
    rintro e w7 ⟨A7, c7, rfl, hF7, hb7⟩
    go_wp2
    go_ret
    exact ⟨A7, c7, rfl, by simpa using hF7, hb6.trans (hb7.mono hb6.size)⟩
  all_goals first | (simp; omega) | (have := hb4.size; simp; omega) | (have := hb5.size; simp; omega) | simp
end Go.Proofs.YthaecckneblecaaDoor
