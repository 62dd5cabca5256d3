/- Chapter 14 over plain values: what a step keeps between the state and who has ended. -/
import Derived.Test.YtkncolgdjnhcoaaVPlain
namespace Lf

/-- The state, their end, ours, whether it is over. -/
abbrev St (s : Int) (th ou ov : Bool) : Prop := (s = 0 ∧ th = false ∧ ou = false ∧ ov = false) ∨ (s = 1 ∧ th = false ∧ ou = false ∧ ov = false) ∨ (s = 2 ∧ th = true ∧ ou = false ∧ ov = false) ∨ (s = 3 ∧ th = false ∧ ou = true ∧ ov = false) ∨ (s = 4 ∧ th = true ∧ ou = true ∧ ov = false) ∨ (s = 4 ∧ th = false ∧ ou = false ∧ ov = true) ∨ (s = 4 ∧ th = false ∧ ou = true ∧ ov = true) ∨ (s = 4 ∧ th = true ∧ ou = false ∧ ov = true) ∨ (s = 4 ∧ th = true ∧ ou = true ∧ ov = true) ∨ (s = 5 ∧ th = false ∧ ou = false ∧ ov = true) ∨ (s = 5 ∧ th = true ∧ ou = false ∧ ov = true) ∨ (s = 5 ∧ th = false ∧ ou = true ∧ ov = true)
/-- A kind that is drawn; whether it has a body. -/
abbrev Kd (k : Int) (bd : Bool) : Prop := (k = 0 ∧ bd = true) ∨ (k = 1 ∧ bd = true) ∨ (k = 3 ∧ bd = false) ∨ (k = 8 ∧ bd = false) ∨ (k = 2 ∧ bd = false)
/-- From state z to t. -/
abbrev Nx (z t : Int) (th ou ov : Bool) : Prop := St t th ou ov ∧ ((z = 4 ∨ z = 5) → t = z) ∧ (z ≠ 0 → t ≠ 0)
theorem st_end {t : Int} {th ou ov : Bool} (h : St t th ou ov) : th = true → ou = true → t = 4 ∨ t = 5 := by
  rcases h with ⟨rfl, rfl, rfl, rfl⟩ | ⟨rfl, rfl, rfl, rfl⟩ | ⟨rfl, rfl, rfl, rfl⟩ | ⟨rfl, rfl, rfl, rfl⟩ | ⟨rfl, rfl, rfl, rfl⟩ | ⟨rfl, rfl, rfl, rfl⟩ | ⟨rfl, rfl, rfl, rfl⟩ | ⟨rfl, rfl, rfl, rfl⟩ | ⟨rfl, rfl, rfl, rfl⟩ | ⟨rfl, rfl, rfl, rfl⟩ | ⟨rfl, rfl, rfl, rfl⟩ | ⟨rfl, rfl, rfl, rfl⟩ <;> simp
theorem send_step {z k t : Int} {th ou ov ok bd ed : Bool} (h : St z th ou ov) (hk : Kd k bd) (hq : send z k ed = (t, ok)) :
    (ok = false → t = z) ∧ (bd = true → ok = true → ou = false ∧ ov = false ∧ z ≠ 0) ∧ Nx z t th (ou || (bd && ok && ed)) (ov || ((k == 3) && ok)) := by
  have h1 : t = (send z k ed).1 := by rw [hq]
  have h2 : ok = (send z k ed).2 := by rw [hq]
  subst h1 h2
  clear hq
  rcases h with ⟨rfl, rfl, rfl, rfl⟩ | ⟨rfl, rfl, rfl, rfl⟩ | ⟨rfl, rfl, rfl, rfl⟩ | ⟨rfl, rfl, rfl, rfl⟩ | ⟨rfl, rfl, rfl, rfl⟩ | ⟨rfl, rfl, rfl, rfl⟩ | ⟨rfl, rfl, rfl, rfl⟩ | ⟨rfl, rfl, rfl, rfl⟩ | ⟨rfl, rfl, rfl, rfl⟩ | ⟨rfl, rfl, rfl, rfl⟩ | ⟨rfl, rfl, rfl, rfl⟩ | ⟨rfl, rfl, rfl, rfl⟩ <;> rcases hk with ⟨rfl, rfl⟩ | ⟨rfl, rfl⟩ | ⟨rfl, rfl⟩ | ⟨rfl, rfl⟩ | ⟨rfl, rfl⟩ <;> cases ed <;> simp [Nx, St, send, sMore, sRst, sUpd]
theorem recv_step {z k t n : Int} {th ou ov bad cn bd ed : Bool} (h : St z th ou ov) (hk : Kd k bd) (hq : recv z k ed = ⟨t, bad, cn, n⟩) :
    (bad = true → t = z) ∧ (bd = true → bad = false → th = true → z = 5) ∧ Nx z t (th || (bd && !bad && ed && (z != 5))) ou (ov || ((k == 3) && (t == 4))) := by
  have h1 : t = (recv z k ed).st := by rw [hq]
  have h2 : bad = (recv z k ed).bad := by rw [hq]
  subst h1 h2
  clear hq
  rcases h with ⟨rfl, rfl, rfl, rfl⟩ | ⟨rfl, rfl, rfl, rfl⟩ | ⟨rfl, rfl, rfl, rfl⟩ | ⟨rfl, rfl, rfl, rfl⟩ | ⟨rfl, rfl, rfl, rfl⟩ | ⟨rfl, rfl, rfl, rfl⟩ | ⟨rfl, rfl, rfl, rfl⟩ | ⟨rfl, rfl, rfl, rfl⟩ | ⟨rfl, rfl, rfl, rfl⟩ | ⟨rfl, rfl, rfl, rfl⟩ | ⟨rfl, rfl, rfl, rfl⟩ | ⟨rfl, rfl, rfl, rfl⟩ <;> rcases hk with ⟨rfl, rfl⟩ | ⟨rfl, rfl⟩ | ⟨rfl, rfl⟩ | ⟨rfl, rfl⟩ | ⟨rfl, rfl⟩ <;> cases ed <;> simp [Nx, St, recv, ok, rIdle, rOpen, rRemote, rClosed]
theorem nq {x y : Int} (h : x = y) : (x != y) = false := by simp [h]
end Lf
