/- Chapter 10 over plain values: frames one behind the other, in pieces. -/
import Derived.Test.YtegcloapadippaaFEach
namespace Go.Proofs.Ytegcloapadippaa
open Go.RowKit Fr

/-- The bytes of frames, one behind the other. -/
def cat (l : List FrA) : List Nat := l.flatMap fun s => (put s.f).1
def Puts (l : List FrA) : Prop := ∀ s ∈ l, (put s.f).2 = 0
theorem cat_snoc (l : List FrA) (s : FrA) : cat (l ++ [s]) = cat l ++ (put s.f).1 := by simp [cat]
theorem cat_next (l : List FrA) (k : Nat) (hk : k < l.length) : cat (l.take (k + 1)) = cat (l.take k) ++ (put l[k].f).1 := by rw [List.take_succ_eq_append_getElem hk, cat_snoc]
theorem cat_split (l : List FrA) (k : Nat) (hk : k < l.length) : cat l = cat (l.take k) ++ ((put l[k].f).1 ++ cat (l.drop (k + 1))) := by
  have h : l = l.take k ++ l[k] :: l.drop (k + 1) := by rw [← List.drop_eq_getElem_cons hk, List.take_append_drop]
  exact (congrArg cat h).trans (by simp only [cat, List.flatMap_append, List.flatMap_cons])
theorem put_eta {s : FrA} {l : List FrA} (h : Puts l) (hs : s ∈ l) : put s.f = ((put s.f).1, 0) := by
  rw [← h s hs]
theorem cat_len : ∀ l : List FrA, Puts l → (cat l).length = 9 * l.length + bodies l
  | [], _ => by simp [cat, bodies]
  | s :: r, h => by
    have e1 : cat (s :: r) = (put s.f).1 ++ cat r := by simp [cat]
    have e2 : bodies (s :: r) = s.f.body.length + bodies r := by simp [bodies]
    have e3 := cat_len r (fun x hx => h x (List.mem_cons_of_mem _ hx))
    have e4 := put_len (put_eta h (List.mem_cons_self))
    rw [e1, e2, List.length_append, e3, List.length_cons]
    rcases e4 with ⟨_, e4⟩ | ⟨e4, _⟩
    · omega
    · exact absurd rfl e4
/-- Where the parser stands: g frames are out, L is left of the at bytes that were fed. -/
structure Stand (l : List FrA) (m : Nat) (at' g : Nat) (L : List Nat) : Prop where
  fed : cat (l.take g) ++ L = (cat l).take at'
  few : g ≤ m
  all : m ≤ l.length
/-- So many frames go into the room, and the next one doesn't. -/
structure Goes (l : List FrA) (room : Int) (m : Nat) : Prop where
  puts : Puts l
  le : m ≤ l.length
  go : ∀ j (h : j < l.length), j < m → (l[j].f.body.length : Int) ≤ room
  no : ∀ h : m < l.length, room < (l[m].f.body.length : Int)
theorem Stand.pre {l : List FrA} {m a g : Nat} {L : List Nat} (h : Stand l m a g L) (hg : g < l.length) : L <+: (put l[g].f).1 ++ cat (l.drop (g + 1)) := by
  have h1 := h.fed
  rw [cat_split l g hg] at h1
  have h2 : cat (l.take g) ++ L <+: cat (l.take g) ++ ((put l[g].f).1 ++ cat (l.drop (g + 1))) := by rw [h1]; exact List.take_prefix _ _
  exact (List.prefix_append_right_inj _).1 h2
theorem Stand.end' {l : List FrA} {m a g : Nat} {L : List Nat} (h : Stand l m a g L) (hg : g = l.length) : L = [] := by
  have h1 := congrArg List.length h.fed
  rw [List.take_of_length_le (by omega), List.length_append, List.length_take] at h1
  exact List.eq_nil_of_length_eq_zero (by omega)
theorem next_nil (room : Int) : next room [] = (noFrm, 4, []) := by rw [next, if_pos (by simp)]
/-- What comes out next. -/
theorem Stand.next {l : List FrA} {room : Int} {m a g : Nat} {L : List Nat} (h : Stand l m a g L) (hG : Goes l room m) :
    (∃ hg : g < l.length, g < m ∧ ∃ rest, next room L = (l[g].f, 0, rest) ∧ Stand l m a (g + 1) rest) ∨ (∃ err, err ≠ 0 ∧ next room L = (noFrm, err, L)) := by
  rcases Nat.lt_or_ge g l.length with hg | hg
  · have hp := h.pre hg
    have he := put_eta hG.puts (List.getElem_mem hg)
    rcases Nat.lt_or_ge g m with hgm | hgm
    · have hr := hG.go g hg hgm
      rcases Nat.lt_or_ge L.length (put l[g].f).1.length with hL | hL
      · have hpp : L <+: (put l[g].f).1 := List.prefix_of_prefix_length_le hp (List.prefix_append _ _) (by omega)
        exact .inr ⟨4, by omega, next_part he room hr L hpp hL⟩
      · have hpp : (put l[g].f).1 <+: L := List.prefix_of_prefix_length_le (List.prefix_append _ _) hp (by omega)
        obtain ⟨rest, hrest⟩ := hpp
        refine .inl ⟨hg, hgm, rest, ?_, ⟨?_, by omega, h.all⟩⟩
        · rw [← hrest]
          exact next_put he room hr rest
        · rw [cat_next l g hg, List.append_assoc, hrest]
          exact h.fed
    · have hgm2 : g = m := by have := h.few; omega
      subst hgm2
      have hr := hG.no hg
      by_cases h9 : L.length < 9
      · exact .inr ⟨4, by omega, by rw [Fr.next, if_pos h9]⟩
      · exact .inr ⟨3, by omega, next_long he room hr L _ hp (by omega)⟩
  · have hL := h.end' (by have := h.few; have := h.all; omega)
    subst hL
    exact .inr ⟨4, by omega, next_nil room⟩
/-- At the end of all bytes: all that go in are out. -/
theorem Stand.done {l : List FrA} {room : Int} {m a g : Nat} {L : List Nat} (h : Stand l m a g L) (hG : Goes l room m) (ha : (cat l).length ≤ a) (herr : (Fr.next room L).2.1 ≠ 0) : g = m := by
  rcases Nat.lt_or_ge g m with hgm | hgm
  · exfalso
    have hg : g < l.length := by have := hG.le; omega
    have he := put_eta hG.puts (List.getElem_mem hg)
    have h1 := h.fed
    rw [List.take_of_length_le ha, cat_split l g hg] at h1
    have h2 := List.append_cancel_left h1
    rw [h2, next_put he room (hG.go g hg hgm) _] at herr
    exact herr rfl
  · have := h.few
    omega
/-- What is left then, and what is said. -/
theorem Stand.last {l : List FrA} {room : Int} {m a : Nat} {L : List Nat} (h : Stand l m a m L) (hG : Goes l room m) (ha : (cat l).length ≤ a) : (m = l.length ∧ L = [] ∧ Fr.next room L = (noFrm, 4, L)) ∨ (m < l.length ∧ Fr.next room L = (noFrm, 3, L) ∧ ∀ r, Fr.next room (L ++ r) = (noFrm, 3, L ++ r)) := by
  rcases Nat.lt_or_ge m l.length with hm | hm
  · have he := put_eta hG.puts (List.getElem_mem hm)
    have h1 := h.fed
    rw [List.take_of_length_le ha, cat_split l m hm] at h1
    have h2 := List.append_cancel_left h1
    have h9 : 9 ≤ (put l[m].f).1.length := by
      rcases put_len he with ⟨_, e⟩ | ⟨e, _⟩
      · omega
      · exact absurd rfl e
    have key : ∀ r, Fr.next room (L ++ r) = (noFrm, 3, L ++ r) := fun r => by
      refine next_long he room (hG.no hm) (L ++ r) (cat (l.drop (m + 1)) ++ r) ?_ ?_
      · rw [h2, List.append_assoc]
        exact List.prefix_refl _
      · rw [h2, List.length_append, List.length_append]
        omega
    refine .inr ⟨hm, ?_, key⟩
    have := key []
    rw [List.append_nil] at this
    exact this
  · have hml : m = l.length := by have := hG.le; omega
    have hL := h.end' hml
    subst hL
    exact .inl ⟨hml, rfl, next_nil room⟩
/-- One piece more. -/
theorem Stand.feed {l : List FrA} {m a g n : Nat} {L : List Nat} (h : Stand l m a g L) : Stand l m (a + n) g (L ++ ((cat l).drop a).take n) := by
  refine ⟨?_, h.few, h.all⟩
  rw [← List.append_assoc, h.fed, List.take_add]
end Go.Proofs.Ytegcloapadippaa
