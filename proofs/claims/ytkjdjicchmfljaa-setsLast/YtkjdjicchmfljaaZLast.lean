/- Settings of which the last of each number alone is kept: plain facts. -/
import Derived.Test.YtkjdjicchmfljaaZPlain
namespace Zs
/-- Is none of these of the number k? -/
def noneOf (k : Int) (r : List (Int × Int)) : Bool := r.all (fun y => decide (y.1 ≠ k))
/-- Is it known, and the last of its number? -/
def isLast (x : Int × Int) (r : List (Int × Int)) : Bool := (decide (1 ≤ x.1) && decide (x.1 ≤ 6)) && noneOf x.1 r
def lastly : List (Int × Int) → List (Int × Int)
  | [] => []
  | x :: r => if isLast x r = true then x :: lastly r else lastly r
theorem lastly_len : ∀ l : List (Int × Int), (lastly l).length ≤ l.length
  | [] => Nat.le_refl _
  | x :: r => by
    have := lastly_len r
    rw [lastly]
    split <;> simp <;> omega
def put (s : St) (k v : Int) : St :=
  if k = 1 then { s with table := v } else if k = 2 then { s with push := v } else if k = 3 then { s with streams := v }
  else if k = 4 then { s with window := v } else if k = 5 then { s with frame := v } else if k = 6 then { s with list := v } else s
def get (s : St) (k : Int) : Int :=
  if k = 1 then s.table else if k = 2 then s.push else if k = 3 then s.streams
  else if k = 4 then s.window else if k = 5 then s.frame else s.list
theorem put_back (s : St) (k v : Int) : put (put s k v) k (get s k) = s := by
  unfold put get
  by_cases h1 : k = 1
  · simp [h1]
  by_cases h2 : k = 2
  · simp [h2]
  by_cases h3 : k = 3
  · simp [h3]
  by_cases h4 : k = 4
  · simp [h4]
  by_cases h5 : k = 5
  · simp [h5]
  by_cases h6 : k = 6
  · simp [h6]
  simp [h1, h2, h3, h4, h5, h6]
/-- A setting that goes moves its own number alone. -/
theorem one_put (s : St) (x : Int × Int) (h : (one s x).2 = 0) : ∃ v, ∀ s', one s' x = (put s' x.1 v, 0) := by
  obtain ⟨k, v⟩ := x
  unfold one at h ⊢
  unfold put
  simp only [] at h ⊢
  by_cases h1 : k = 1
  · exact ⟨cap v, fun s' => by simp [h1]⟩
  by_cases h2 : k = 2
  · simp only [if_neg h1, if_pos h2] at h ⊢
    by_cases hv : v < 0 ∨ 1 < v
    · rw [if_pos hv] at h; cases h
    · exact ⟨v, fun s' => by rw [if_neg hv]⟩
  by_cases h3 : k = 3
  · exact ⟨cap v, fun s' => by simp [h3]⟩
  by_cases h4 : k = 4
  · simp only [if_neg h1, if_neg h2, if_neg h3, if_pos h4] at h ⊢
    by_cases hv : 2147483647 < v
    · rw [if_pos hv] at h; cases h
    · exact ⟨v, fun s' => by rw [if_neg hv]⟩
  by_cases h5 : k = 5
  · simp only [if_neg h1, if_neg h2, if_neg h3, if_neg h4, if_pos h5] at h ⊢
    by_cases hv : v < 16384 ∨ 16777215 < v
    · rw [if_pos hv] at h; cases h
    · exact ⟨v, fun s' => by rw [if_neg hv]⟩
  by_cases h6 : k = 6
  · exact ⟨cap v, fun s' => by simp [h6]⟩
  exact ⟨0, fun s' => by simp [h1, h2, h3, h4, h5, h6]⟩
theorem put_twice (s : St) (k v u : Int) : put (put s k v) k u = put s k u := by
  unfold put
  by_cases h1 : k = 1
  · simp [h1]
  by_cases h2 : k = 2
  · simp [h2]
  by_cases h3 : k = 3
  · simp [h3]
  by_cases h4 : k = 4
  · simp [h4]
  by_cases h5 : k = 5
  · simp [h5]
  by_cases h6 : k = 6
  · simp [h6]
  simp [h1, h2, h3, h4, h5, h6]
theorem put_swap (s : St) (k j v u : Int) (h : j ≠ k) : put (put s k v) j u = put (put s j u) k v := by
  unfold put
  by_cases h1 : k = 1
  · subst h1; simp only [h, if_false, if_true]; repeat (first | rfl | split)
  by_cases h2 : k = 2
  · subst h2; simp [h]; repeat (first | rfl | split)
  by_cases h3 : k = 3
  · subst h3; simp [h]; repeat (first | rfl | split)
  by_cases h4 : k = 4
  · subst h4; simp [h]; repeat (first | rfl | split)
  by_cases h5 : k = 5
  · subst h5; simp [h]; repeat (first | rfl | split)
  by_cases h6 : k = 6
  · subst h6; simp [h]; repeat (first | rfl | split)
  simp [h1, h2, h3, h4, h5, h6]
/-- What a later setting lays over does not matter. -/
theorem apply_over (k v : Int) : ∀ (r : List (Int × Int)) (s t : St), noneOf k r = false → apply s r = (t, noFlt) → apply (put s k v) r = (t, noFlt)
  | [], s, t, h, _ => by simp [noneOf] at h
  | y :: r, s, t, h, ha => by
    rw [apply] at ha
    by_cases h0 : (one s y).2 = 0
    · rw [if_pos h0] at ha
      obtain ⟨u, hu⟩ := one_put s y h0
      rw [hu s] at ha
      rw [apply, hu, if_pos rfl]
      simp only [] at ha ⊢
      by_cases hk : y.1 = k
      · rw [hk, put_twice]
        rw [hk] at ha
        exact ha
      · rw [put_swap _ _ _ _ _ hk]
        refine apply_over k v r _ t ?_ ha
        simpa [noneOf, hk] using h
    · rw [if_neg h0] at ha
      have := congrArg (fun q => q.2.bad) ha
      cases this
theorem lastly_has {k : Int} (h1 : 1 ≤ k) (h6 : k ≤ 6) : ∀ r : List (Int × Int), noneOf k r = false → noneOf k (lastly r) = false
  | [], h => h
  | y :: r, h => by
    rw [lastly]
    by_cases hr : noneOf k r = false
    · have := lastly_has h1 h6 r hr
      split
      · simp only [noneOf, List.all_cons] at this ⊢
        rw [this, Bool.and_false]
      · exact this
    · have hr' : noneOf k r = true := by simpa using hr
      have hk : y.1 = k := by
        simp only [noneOf, List.all_cons] at h hr'
        rw [hr', Bool.and_true] at h
        simpa using h
      have : isLast y r = true := by
        unfold isLast
        rw [hk, hr']
        simp [h1, h6]
      rw [if_pos this]
      simp [noneOf, hk]
/-- The last of each number do all the work. -/
theorem apply_lastly : ∀ (l : List (Int × Int)) (s t : St), apply s l = (t, noFlt) → apply s (lastly l) = (t, noFlt)
  | [], _, _, h => h
  | x :: r, s, t, h => by
    rw [apply] at h
    by_cases h0 : (one s x).2 = 0
    · rw [if_pos h0] at h
      obtain ⟨u, hu⟩ := one_put s x h0
      rw [hu s] at h
      simp only [] at h
      have ih := apply_lastly r _ t h
      rw [lastly]
      by_cases hl : isLast x r = true
      · rw [if_pos hl, apply, hu s, if_pos rfl]
        exact ih
      · rw [if_neg hl]
        by_cases hin : 1 ≤ x.1 ∧ x.1 ≤ 6
        · have hn : noneOf x.1 r = false := by
            unfold isLast at hl
            simp [hin.1, hin.2] at hl
            exact hl
          have := apply_over x.1 (get s x.1) _ _ t (lastly_has hin.1 hin.2 r hn) ih
          rwa [put_back] at this
        · have : put s x.1 u = s := by
            unfold put
            rw [if_neg (by omega), if_neg (by omega), if_neg (by omega), if_neg (by omega), if_neg (by omega), if_neg (by omega)]
          rwa [this] at ih
    · rw [if_neg h0] at h
      have := congrArg (fun q => q.2.bad) h
      cases this
/-- In two parts: the fault of the whole and what is answered. -/
theorem apply_two (a b : List (Int × Int)) (s : St) (h : (apply s a).2.bad = false) : apply s (a ++ b) = apply (apply s a).1 b := by
  rw [apply_app, if_neg (by rw [h]; decide)]
end Zs
