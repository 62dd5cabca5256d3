/- The walk of FrameBack. -/
import Derived.Test.YtegcloapadippaaFBackM
import Derived.Test.YtegcloapadippaaFUse
import Derived.Test.YtegcloapadippaaLAppW
import Derived.Test.YtegcloapadippaaLCut
import Derived.Test.YtegcloapadippaaFRooms
import Derived.Test.YtegcloapadippaaFPuts
import Derived.Test.YtegcloapadippaaFReads
import Derived.Deep.RegionHeld3
namespace Go.Proofs.Ytegcloapadippaa
open Go.RowKit Fr

namespace frameBack
def B1 (w : World) (l : List FrA) (b i : Value) (wr : World) : Prop := ∃ k : Nat, k ≤ l.length ∧ i = .int .i64 (k : Int) ∧ Puts (l.take k) ∧ Row w.heap.size w (cat (l.take k)) b wr
def B2 (w1 : World) (l : List FrA) (room : Int) (m : Value) (wr : World) : Prop := ∃ k : Nat, k ≤ l.length ∧ m = .int .i64 (k : Int) ∧ (∀ j (h : j < l.length), j < k → (l[j].f.body.length : Int) ≤ room) ∧ wr = w1
/-- Behind some pieces: at bytes were fed, g frames came out, L is left. -/
def B3 (w : World) (X : Nat → Prop) (l : List FrA) (room : Int) (p m nb : Nat) (Ab : Option Addr) (got last at' : Value) (wr : World) : Prop :=
  ∃ (a g : Nat) (L : List Nat) (err : Nat), a ≤ nb ∧ at' = .int .i64 (a : Int) ∧ got = .int .i64 (g : Int) ∧ last = .int .i64 ((err : Nat) : Int) ∧ err ≠ 0 ∧ (next room L).2.1 = err ∧ Stand l m a g L ∧ (∀ x ∈ L, x < 256) ∧ L.length ≤ a ∧ HasP w X p room L wr ∧ At .u8 wr wr.heap.size Ab (cat l)
/-- Behind some frames of one piece. -/
def B4 (w : World) (X : Nat → Prop) (l : List FrA) (room : Int) (p m a g0 : Nat) (Ab : Option Addr) (got k : Value) (wr : World) : Prop :=
  ∃ (g : Nat) (L : List Nat), g0 ≤ g ∧ got = .int .i64 (g : Int) ∧ k = .int .i64 ((g - g0 : Nat) : Int) ∧ Stand l m a g L ∧ (∀ x ∈ L, x < 256) ∧ L.length ≤ a ∧ HasP w X p room L wr ∧ At .u8 wr wr.heap.size Ab (cat l)
theorem cat_byte {l : List FrA} {w : World} {B : Nat} (hp : Puts l) (h : ∀ s ∈ l, s.ok w B) : ∀ x ∈ cat l, x < 256 := by
  intro x hx
  simp only [cat, List.mem_flatMap] at hx
  obtain ⟨s, hs, hx⟩ := hx
  exact put_byte (put_eta hp hs) (h s hs).bytes x hx
set_option maxRecDepth 100000 in
set_option maxHeartbeats 16000000 in
theorem walk_not (A : Option Addr) (l : List FrA) (n c : Nat) (size room : Int) (w : World) (hA : AtR w w.heap.size A l) (hl : l.length = n) (hs : few10 l = false ∨ (few10 l = true ∧ (size < 1 ∨ (¬ size < 1 ∧ room < 0)))) : Calls Try.prog 5 #[.slice A n c, .int .i64 size, .int .i64 room] w (YesF w) := by
  have HFST := Lib.hid fun (W : World) => first10_any W
  obtain ⟨D, hD⟩ : ∃ D, D = few10 l := ⟨_, rfl⟩
  have HFEW : Hid (∀ W, Below w.heap.size w W → Calls Try.prog 9 #[.slice A n c] W fun e w' => e = .returned (.bool D) ∧ w' = W) := Lib.hid (fun W hb => by rw [hD]; exact few10_any A l n c W (hA.up hb) hl)
  rw [← hD] at hs
  clear hA hl hD
  rcases hs with rfl | ⟨rfl, h1 | ⟨h1, h2⟩⟩
  all_goals
    go_enter Try.func5, Try.ntmps5
    go_wp2_with fail
    with_reducible refine (HFST.out w).mono ?_
    rintro e w1 ⟨rfl, hb1⟩
    have HB1 := Lib.hid hb1
    have HFW := Lib.hid (HFEW.out w1 hb1)
    clear hb1 HFEW
    go_wp2_with fail
    with_reducible refine (HFW.out).mono ?_
    rintro e w2 ⟨rfl, rfl⟩
    have HF2 := Lib.hid (HFST.out w2)
    clear HFW
    go_wp2_with fail
    with_reducible refine (HF2.out).mono ?_
    rintro e w3 ⟨rfl, hb3⟩
    have HZ := Lib.hid (HB1.out.trans (hb3.mono HB1.out.size))
    clear hb3 HF2
    go_wp2
    go_ret
    exact ⟨rfl, HZ.out⟩
set_option maxRecDepth 100000 in
set_option maxHeartbeats 16000000 in
theorem walk_in (A : Option Addr) (l : List FrA) (n c : Nat) (size room : Int) (w : World) (hA : AtR w w.heap.size A l) (hl : l.length = n) (hf : few10 l = true) (h1 : 1 ≤ size ∧ size ≤ 9223372036854775807) (h2 : 0 ≤ room ∧ room ≤ 9223372036854775807) : Calls Try.prog 5 #[.slice A n c, .int .i64 size, .int .i64 room] w (YesF w) := by
  have HFST := Lib.hid fun (W : World) => first10_any W
  have HFEW : Hid (∀ W, Below w.heap.size w W → Calls Try.prog 9 #[.slice A n c] W fun e w' => e = .returned (.bool true) ∧ w' = W) := Lib.hid (fun W hb => by rw [← hf]; exact few10_any A l n c W (hA.up hb) hl)
  obtain ⟨hn, hbod⟩ := few10_true hf
  rw [hl] at hn
  have HA := Lib.hid hA
  have HL := Lib.hid hl
  have HBOD := Lib.hid hbod
  have s1 : ¬ size < 1 := by omega
  have r1 : ¬ room < 0 := by omega
  have HSZ := Lib.hid h1
  have HRM := Lib.hid h2
  clear hA hl hf hbod h1 h2
  go_enter Try.func5, Try.ntmps5
  go_wp2_with fail
  with_reducible refine (HFST.out w).mono ?_
  rintro e w1 ⟨rfl, hb1⟩
  have HB1 := Lib.hid hb1
  have HFW := Lib.hid (HFEW.out w1 hb1)
  clear hb1 HFEW
  go_wp2_with fail
  with_reducible refine (HFW.out).mono ?_
  rintro e w2 ⟨rfl, rfl⟩
  clear HFW
  go_wp2
  go_loopw [7, 9] (fun b i wr => B1 w l b i wr) (fun _ i _ => n - (intOf i).toNat)
  case atStart => exact ⟨0, Nat.zero_le _, rfl, fun s hs => by simp at hs, World.ownsRow_nil _ _ _ _, HB1.out⟩
  case round =>
    obtain ⟨k, hk, rfl, hputs, hrow⟩ := hrel
    have hclen := cat_len (l.take k) hputs
    have hbl := HBOD.out
    have hbt : bodies (l.take k) ≤ bodies l := by
      have h := List.take_append_drop k l
      have e : bodies l = bodies (l.take k) + bodies (l.drop k) := by
        conv => lhs; rw [← h]
        simp only [bodies, List.map_append, List.sum_append]
      omega
    have hkn : k ≤ n := by have := HL.out; omega
    rw [List.length_take, show min k l.length = k by omega] at hclen
    obtain ⟨C, hC⟩ : ∃ C, C = cat (l.take k) := ⟨_, rfl⟩
    rw [← hC] at hclen hrow
    have hCl : C.length ≤ 50000 := by omega
    obtain ⟨A7, c7, hv7⟩ := own_shape hrow.1
    subst hv7
    have HROW := Lib.hid hrow
    have HPT := Lib.hid hputs
    have HC := Lib.hid hC
    clear hrow hputs hC hclen hbl hbt
    by_cases hlt : k < n
    · have ki : (k : Int) < (n : Int) := by omega
      have hkl : k < l.length := by have := HL.out; omega
      obtain ⟨b, o, rfl, hb, hc⟩ := HA.out.pos (by omega)
      obtain ⟨⟨d0, d1, d2, d3⟩, hok⟩ := hc k hkl
      have hbk : l[k].f.body.length ≤ 40000 := Nat.le_trans (body_le (List.getElem_mem hkl)) HBOD.out
      have HNX : Hid ((put l[k].f).2 = 0 → Puts (l.take (k + 1)) ∧ cat (l.take (k + 1)) = C ++ (put l[k].f).1) := Lib.hid (fun h0 => ⟨fun s hs => by
        rw [List.take_succ_eq_append_getElem hkl, List.mem_append, List.mem_singleton] at hs
        rcases hs with hs | rfl
        · exact HPT.out s hs
        · exact h0, by rw [cat_next l k hkl, HC.out]⟩)
      obtain ⟨s, hs⟩ : ∃ s, s = l[k] := ⟨_, rfl⟩
      rw [← hs] at d0 d1 d2 d3 hok hbk HNX
      have hB := HROW.out.2
      have x0 : wr.cell? ⟨b, o + k * 4, none⟩ = some (.int .i64 s.f.kind) := (hB.cell (p := ⟨b, o + k * 4, none⟩) hb).trans d0
      have x1 : wr.cell? ⟨b, o + k * 4 + 1, none⟩ = some (.int .i64 s.f.flags) := (hB.cell (p := ⟨b, o + k * 4 + 1, none⟩) hb).trans d1
      have x2 : wr.cell? ⟨b, o + k * 4 + 2, none⟩ = some (.int .i64 s.f.stream) := (hB.cell (p := ⟨b, o + k * 4 + 2, none⟩) hb).trans d2
      have x3 : wr.cell? ⟨b, o + k * 4 + 3, none⟩ = some (.slice s.ad s.f.body.length s.cap) := (hB.cell (p := ⟨b, o + k * 4 + 3, none⟩) hb).trans d3
      have hput := fput_f s wr (hok.up hB) (by omega)
      obtain ⟨P, hP⟩ : ∃ P, P = put s.f := ⟨_, rfl⟩
      rw [← hP] at hput HNX
      have hpl := put_len (f := s.f) (a := P.1) (e := P.2) (by rw [← hP])
      obtain ⟨a, err⟩ := P
      obtain ⟨⟨sk, sf, ss, sb⟩, sa, sc⟩ := s
      simp only [frm] at hput x0 x1 x2 x3
      simp only [] at HNX hpl hbk
      obtain ⟨m, hm⟩ : ∃ m, m = sb.length := ⟨_, rfl⟩
      rw [← hm] at hput x3 hpl hbk
      have HPUT := Lib.hid hput
      have HKL := Lib.hid hkl
      obtain ⟨na, hna⟩ : ∃ n, n = a.length := ⟨_, rfl⟩
      rw [← hna] at hpl
      have HNA := Lib.hid hna
      clear d0 d1 d2 d3 hok hs hP hc hb hkl hB hput hm hna
      go_wp2_with fail
      with_reducible refine (HPUT.out).mono ?_
      rintro e w3 ⟨A3, c3, rfl, hat3, hn3, hc3, hnew3, hb3⟩
      simp only []
      rw [← HNA.out]
      have HO3 := Lib.hid (own_keep HROW.out.1 hb3)
      have HB3 := Lib.hid (HROW.out.2.trans (hb3.mono HROW.out.2.size))
      have HAT3 := Lib.hid hat3
      clear hat3 hc3 hnew3 hb3 x0 x1 x2 x3 HPUT HROW
      by_cases he : err = 0
      · subst he
        have hnab : na ≤ 40009 := by
          rcases hpl with ⟨_, h⟩ | ⟨h, _⟩
          · omega
          · exact absurd rfl h
        have HNX2 := Lib.hid (HNX.out rfl)
        obtain ⟨C2, hC2⟩ : ∃ C2, C2 = C ++ a := ⟨_, rfl⟩
        rw [← hC2] at HNX2
        have HC2 := Lib.hid hC2
        clear HNX hpl hC2
        go_wp2_with (at_builtin; refine wpList_append_aw rfl (.tmp 53) (.tmp 54) rfl w.heap.size _ C rfl HO3.out A3 a _ c3 HNA.out.symm rfl hn3 _ HAT3.out (by have := HNA.out; omega) (HB3.out.size) ?_; intro v5 w5 hown5 hg5 _; rw [← HC2.out] at hown5; have HO5 := Lib.hid hown5; have HB5 : Hid (Below w.heap.size w w5) := Lib.hid (HB3.out.grown hg5 HB3.out.size (own_block HO3.out)); obtain ⟨A5, c5, rfl⟩ := own_shape hown5; clear hown5 hg5)
        go_roundw
        case rel => exact ⟨k + 1, HKL.out, by go_num, HNX2.out.1, by rw [HNX2.out.2]; exact HO5.out, HB5.out⟩
        case measure => simp [intOf]; omega
      · have qe : ((err : Int) != 0) = true := by simp; omega
        have HF3 := Lib.hid (HFST.out w3)
        clear HNX hpl
        go_wp2_with fail
        with_reducible refine (HF3.out).mono ?_
        rintro e w4 ⟨rfl, hb4⟩
        have HZ := Lib.hid (HB3.out.trans (hb4.mono HB3.out.size))
        clear hb4 HF3
        go_wp2
        go_ret
        exact ⟨rfl, HZ.out⟩
    · obtain rfl : k = n := by have := HL.out; omega
      have ki : ¬ (k : Int) < (k : Int) := by omega
      have het : l.take k = l := List.take_of_length_le (by have := HL.out; omega)
      have HPUTS : Hid (Puts l) := Lib.hid (by have := HPT.out; rwa [het] at this)
      have HCE : Hid (C = cat l) := Lib.hid (by rw [HC.out, het])
      clear het HPT HC hlt
      obtain ⟨wy, hwy⟩ : ∃ wy, wy = wr := ⟨_, rfl⟩
      subst hwy
      obtain ⟨nb, hnb⟩ : ∃ n, n = C.length := ⟨_, rfl⟩
      have HNB : Hid (nb = (cat l).length) := Lib.hid (by rw [hnb, HCE.out])
      have HROWY : Hid (At .u8 wy wy.heap.size A7 (cat l) ∧ (A7 = none → c7 = 0) ∧ nb ≤ c7 ∧ Below w.heap.size w wy) := Lib.hid ⟨by rw [← HCE.out]; exact At.of_own HROW.out.1, own_none HROW.out.1, by rw [hnb]; exact own_cap HROW.out.1, HROW.out.2⟩
      rw [← hnb] at hCl
      have HCL : Hid ((Value.slice A7 C.length c7) = .slice A7 nb c7) := Lib.hid (by rw [hnb])
      have HNBC := Lib.hid hnb
      clear hnb HROW
      have HBD := Lib.hid HROWY.out.2.2.2
      go_wp2
      rw [← HNBC.out]
      go_loopw [8] (fun m wz => B2 wy l room m wz) (fun m _ => k - (intOf m).toNat)
      case atStart => exact ⟨0, Nat.zero_le _, rfl, fun j _ h => by omega, rfl⟩
      case round =>
        obtain ⟨m, hm, rfl, hgo, hwz⟩ := hrel
        replace hwz := hwz.symm
        subst hwz
        have hmk : m ≤ k := by have := HL.out; omega
        have HGO := Lib.hid hgo
        clear hgo
        by_cases hcont : ∃ h : m < l.length, (l[m].f.body.length : Int) ≤ room
        · obtain ⟨hml, hbr⟩ := hcont
          have mi : (m : Int) < (k : Int) := by have := HL.out; omega
          have hmk2 : m < k := by omega
          obtain ⟨b, o, rfl, hb, hc⟩ := HA.out.pos (by omega)
          obtain ⟨⟨d0, d1, d2, d3⟩, hok⟩ := hc m hml
          have HGO2 : Hid (∀ j (h : j < l.length), j < m + 1 → (l[j].f.body.length : Int) ≤ room) := Lib.hid (fun j h hj => by
            rcases Nat.lt_or_ge j m with hlt | hge
            · exact HGO.out j h hlt
            · have e : j = m := by omega
              subst e
              exact hbr)
          obtain ⟨s, hs⟩ : ∃ s, s = l[m] := ⟨_, rfl⟩
          rw [← hs] at d3 hbr
          have x3 := (HBD.out.cell (p := ⟨b, o + m * 4 + 3, none⟩) hb).trans d3
          obtain ⟨q, hq⟩ : ∃ q, q = s.f.body.length := ⟨_, rfl⟩
          rw [← hq] at x3 hbr
          have HML := Lib.hid hml
          clear hs hq hok d0 d1 d2 d3 hc hb hml
          go_wp2
          go_roundw
          case rel => exact ⟨m + 1, HML.out, by go_num, HGO2.out, rfl⟩
          case measure => simp [intOf]; omega
        · have HG : Hid (Goes l room m) := Lib.hid ⟨HPUTS.out, hm, HGO.out, fun h => by
            rcases Int.lt_or_le room (l[m].f.body.length : Int) with hlt | hge
            · exact hlt
            · exact absurd ⟨h, hge⟩ hcont⟩
          have HNEW := Lib.hid (HasP.new (room := room) HBD.out (by have := HRM.out; omega))
          clear hcont
          go_upto_region 14 with fail
          go_cut [69] (fun x wx => x = .bool false ∧ wx = wy)
          case first =>
            by_cases hmk3 : m < k
            · have mi : (m : Int) < (k : Int) := by omega
              have hml : m < l.length := by have := HL.out; omega
              have hno := HG.out.no hml
              obtain ⟨b, o, rfl, hb, hc⟩ := HA.out.pos (by omega)
              obtain ⟨⟨d0, d1, d2, d3⟩, hok⟩ := hc m hml
              obtain ⟨s, hs⟩ : ∃ s, s = l[m] := ⟨_, rfl⟩
              rw [← hs] at d3 hno
              have x3 := (HBD.out.cell (p := ⟨b, o + m * 4 + 3, none⟩) hb).trans d3
              obtain ⟨q, hq⟩ : ∃ q, q = s.f.body.length := ⟨_, rfl⟩
              rw [← hq] at x3 hno
              have hno2 : ¬ (q : Int) ≤ room := by omega
              clear hs hq hok d0 d1 d2 d3 hc hb hml hno
              go_wp2
              go_meet
              case rel => exact ⟨rfl, rfl⟩
            · have mi : ¬ (m : Int) < (k : Int) := by omega
              go_wp2
              go_meet
              case rel => exact ⟨rfl, rfl⟩
          case rest =>
          obtain ⟨e1, e2⟩ := hcut
          subst e1
          obtain ⟨wd, hwd⟩ : ∃ x, x = wc := ⟨_, rfl⟩
          rw [← hwd] at e2 ⊢
          subst e2
          clear hwd
          have hCn := HNB.out
          have HCB : Hid (∀ x ∈ cat l, x < 256) := Lib.hid (cat_byte HPUTS.out (w := w) (B := w.heap.size) (fun s hs => by
            obtain ⟨j, hj, rfl⟩ := List.mem_iff_getElem.1 hs
            obtain ⟨b, o, _, _, hc⟩ := HA.out.pos (by omega)
            exact (hc j hj).2))
          have hy1 : ∀ b o, cat l ≠ [] → A7 = some ⟨b, o, none⟩ → b < wd.heap.size := fun b o hne e => by
            obtain ⟨b2, o2, e2, h2, _⟩ := HROWY.out.1 hne
            rw [e] at e2
            injection e2 with e2
            injection e2 with e2
            omega
          have HY1 : Hid (∀ a, cat l ≠ [] → A7 = some a → a.block < wd.heap.size) := Lib.hid (fun a hne e => by
            obtain ⟨b2, o2, e2, h2, _⟩ := HROWY.out.1 hne
            rw [e] at e2
            injection e2 with e2
            subst e2
            exact h2)
          clear hCn hy1
          go_wp2_with fail
          with_reducible refine (HNEW.out).mono ?_
          rintro e w4 ⟨p, rfl, hH4, hb4⟩
          have HR0 : Hid (B3 w (fun x => x < wd.heap.size) l room p m nb A7 (.int .i64 0) (.int .i64 4) (.int .i64 0) w4) := Lib.hid ⟨0, 0, [], 4, Nat.zero_le _, rfl, rfl, rfl, by omega, by rw [next_nil], ⟨by simp [cat], Nat.zero_le _, hm⟩, fun x hx => by simp at hx, by simp, hH4, HROWY.out.1.up hb4⟩
          clear hH4 hb4 HNEW
          go_wp2
          go_loopw [13, 14, 15, 16, 17, 18, 19] (fun got last at' _ _ _ _ wr => B3 w (fun x => x < wd.heap.size) l room p m nb A7 got last at' wr) (fun _ _ a _ _ _ _ _ => nb - (intOf a).toNat)
          case atStart => exact HR0.out
          case round =>
            clear HR0
            obtain ⟨a, g, L, err, ha, rfl, rfl, rfl, herr, hnx, hst, hLb, hLl, hH, hat⟩ := hrel
            by_cases han : a < nb
            · have ai : (a : Int) < (nb : Int) := by omega
              obtain ⟨d, hd⟩ : ∃ d, d = nb - a := ⟨_, rfl⟩
              have e1 : (nb : Int) - (a : Int) = (d : Int) := by omega
              obtain ⟨N, hN⟩ : ∃ N : Nat, N = (min size (d : Int)).toNat := ⟨_, rfl⟩
              have hsz := HSZ.out
              have e2 : min size (d : Int) = (N : Int) := by omega
              have e2' : (if (d : Int) < size then (d : Int) else size) = (N : Int) := by rw [← e2]; split <;> omega
              have hN1 : 1 ≤ N ∧ N ≤ d := by omega
              obtain ⟨a2, ha2⟩ : ∃ x, x = a + N := ⟨_, rfl⟩
              have e3 : (a : Int) + (N : Int) = (a2 : Int) := by omega
              have hcapc := HROWY.out.2.2.1
              obtain ⟨Ac, hAc⟩ : ∃ x, x = cutAt A7 c7 a := ⟨_, rfl⟩
              have hsl := fun (W : World) => slice_lh A7 nb c7 a a2 N W (by omega) (by omega) (by omega)
              rw [← hAc] at hsl
              obtain ⟨cc, hcc⟩ : ∃ x, x = c7 - a := ⟨_, rfl⟩
              rw [← hcc] at hsl
              have hnc := HNB.out
              have hne : cat l ≠ [] := fun h => by rw [h] at hnc; simp at hnc; omega
              have hfed := hst.feed (n := N)
              rw [← ha2] at hfed
              obtain ⟨Pc, hPc⟩ : ∃ P, P = ((cat l).drop a).take N := ⟨_, rfl⟩
              rw [← hPc] at hfed
              have hPl : Pc.length = N := by rw [hPc, List.length_take, List.length_drop]; omega
              have hPb : ∀ x ∈ Pc, x < 256 := fun x hx => HCB.out x (List.mem_of_mem_drop (List.mem_of_mem_take (hPc ▸ hx)))
              have HFEED := Lib.hid (hH.feed Ac Pc N cc (by rw [hAc, hPc]; exact hat.mid (by rw [← hnc]; exact hcapc)) hPb hPl (fun h => by rw [hcc]; exact cutAt_none HROWY.out.2.1 (hAc ▸ h)) (by omega) (fun _ x hx => by
                obtain ⟨a', h1, h2⟩ := cut_block (hAc ▸ hx : cutAt A7 c7 a = some x)
                show x.block < wd.heap.size
                rw [← h2]
                exact HY1.out a' hne h1) hLb (by omega))
              have HST2 := Lib.hid hfed
              have HLB2 : Hid (∀ x ∈ L ++ Pc, x < 256) := Lib.hid (fun x hx => by
                rcases List.mem_append.1 hx with h | h
                · exact hLb x h
                · exact hPb x h)
              have HLL2 : Hid ((L ++ Pc).length ≤ a2) := Lib.hid (by rw [List.length_append, hPl]; omega)
              have ha2n : a2 ≤ nb := by omega
              have haa : a < a2 := by omega
              have HAT := Lib.hid hat
              have HNE := Lib.hid hne
              clear hd hN hsz hN1 ha2 hcapc hAc hcc hnc hne hfed hPc hPl hPb hnx hst hLb hLl hH hat herr
              go_wp2_with fail
              with_reducible refine (HFEED.out).mono ?_
              rintro e w6 ⟨rfl, hH6, hs6, hk6⟩
              obtain ⟨L1, hL1⟩ : ∃ x, x = L ++ Pc := ⟨_, rfl⟩
              have HR6 : Hid (B4 w (fun x => x < wd.heap.size) l room p m a2 g A7 (.int .i64 (g : Int)) (.int .i64 0) w6) := Lib.hid ⟨g, L ++ Pc, Nat.le_refl _, rfl, by simp, HST2.out, HLB2.out, HLL2.out, hH6, HAT.out.kept (X := fun x => x < wd.heap.size) (fun hne a ha => HY1.out a hne ha) hk6 hs6⟩
              clear hH6 hs6 hk6 HFEED HST2 HLB2 HLL2 HAT hL1
              go_wp2
              go_loopw [13, 14, 17, 18, 19] (fun got _ kk _ _ wr => B4 w (fun x => x < wd.heap.size) l room p m a2 g A7 got kk wr) (fun _ _ kk _ _ _ => k + 1 - (intOf kk).toNat)
              case atStart => exact HR6.out
              case round =>
                clear HR6
                obtain ⟨g2, L2, hg2, rfl, rfl, hst2, hLb2, hLl2, hH2, hat2⟩ := hrel
                obtain ⟨kk, hkk⟩ : ∃ x, x = g2 - g := ⟨_, rfl⟩
                have hg2m := hst2.few
                have hkkn : kk ≤ k := by omega
                have kki : (kk : Int) ≤ (k : Int) := by omega
                rw [← hkk]
                rcases hst2.next HG.out with ⟨hgl, hgm, rest, hnx, hst3⟩ | ⟨err2, herr2, hnx⟩
                · have HNXT := Lib.hid (hH2.next hLb2 (by omega) hnx)
                  have hrl := next_rest room L2
                  rw [hnx] at hrl
                  simp only [] at hrl
                  have HR3 : Hid (Stand l m a2 (g2 + 1) rest ∧ (∀ x ∈ rest, x < 256) ∧ rest.length ≤ a2) := Lib.hid ⟨hst3, fun x hx => hLb2 x (hrl.1 x hx), Nat.le_trans hrl.2 hLl2⟩
                  obtain ⟨b, o, rfl, hb, hc⟩ := HA.out.pos (by omega)
                  obtain ⟨⟨d0, d1, d2, d3⟩, hok⟩ := hc g2 hgl
                  have hbk : l[g2].f.body.length ≤ 40000 := Nat.le_trans (body_le (List.getElem_mem hgl)) HBOD.out
                  obtain ⟨s, hs⟩ : ∃ s, s = l[g2] := ⟨_, rfl⟩
                  rw [← hs] at d0 d1 d2 d3 hok hbk HNXT
                  have HX : Hid (∀ W, Below w.heap.size w W → W.cell? ⟨b, o + g2 * 4, none⟩ = some (.int .i64 s.f.kind) ∧ W.cell? ⟨b, o + g2 * 4 + 1, none⟩ = some (.int .i64 s.f.flags) ∧ W.cell? ⟨b, o + g2 * 4 + 2, none⟩ = some (.int .i64 s.f.stream) ∧ W.cell? ⟨b, o + g2 * 4 + 3, none⟩ = some (.slice s.ad s.f.body.length s.cap)) := Lib.hid (fun W hB => ⟨(hB.cell (p := ⟨b, o + g2 * 4, none⟩) hb).trans d0, (hB.cell (p := ⟨b, o + g2 * 4 + 1, none⟩) hb).trans d1, (hB.cell (p := ⟨b, o + g2 * 4 + 2, none⟩) hb).trans d2, (hB.cell (p := ⟨b, o + g2 * 4 + 3, none⟩) hb).trans d3⟩)
                  have HSM : Hid (∀ (W : World) (A8 : Option Addr) (c8 : Nat), Below w.heap.size w W → At .u8 W W.heap.size A8 s.f.body → (A8 = none → c8 = 0) → s.f.body.length ≤ c8 → Calls Try.prog 13 #[frm s.f A8 c8, frm s.f s.ad s.cap] W (BoolPost W true)) := Lib.hid (fun W A8 c8 hB h1 h2 h3 => by
                    have := fsame_f ⟨s.f, A8, c8⟩ s W ⟨h1, hok.bytes, h2, h3, hok.ints⟩ (hok.up hB) (by simp only []; omega) (by omega)
                    rw [same_self] at this
                    exact this)
                  have HAT2 := Lib.hid hat2
                  have HGM : Hid (g2 < m ∧ g2 < k) := Lib.hid ⟨hgm, by omega⟩
                  have HKK := Lib.hid hkk
                  obtain ⟨⟨sk, sf, ss, sb⟩, sa, sc⟩ := s
                  simp only [] at HX
                  obtain ⟨q, hq⟩ : ∃ q, q = sb.length := ⟨_, rfl⟩
                  rw [← hq] at HX
                  have HQ := Lib.hid hq
                  have hgk2 : (g2 : Int) < (k : Int) := by omega
                  clear hst2 hLb2 hLl2 hH2 hat2 hnx hst3 hrl hs hok hbk d0 d1 d2 d3 hc hb hgl hgm hq hkk
                  go_wp2_with fail
                  with_reducible refine (HNXT.out).mono ?_
                  rintro e w8 ⟨A8, c8, rfl, hH8, hO8⟩
                  simp only [frm]
                  rw [← HQ.out]
                  obtain ⟨g9, hg9⟩ : ∃ g, g = w8.heap.size := ⟨_, rfl⟩
                  obtain ⟨w9, hw9⟩ : ∃ x, x = w8.alloc (.cells #[.int .i64 sk, .int .i64 sf, .int .i64 ss, .slice A8 q c8] 30) := ⟨_, rfl⟩
                  have hb9 : Below w8.heap.size w8 w9 := by rw [hw9]; exact (Below.refl _ _).alloc (Nat.le_refl _) _
                  have hh9 : w9.heap[g9]? = some (.cells #[.int .i64 sk, .int .i64 sf, .int .i64 ss, .slice A8 q c8] 30 (0, 0)) := by rw [hw9, hg9]; exact heap_alloc_new w8 _
                  have hH9 := (hH8.quiet hb9).less (X' := fun x => x < wd.heap.size) (fun x hx => .inl hx)
                  have HAT9 := Lib.hid ((HAT2.out.kept (X := fun x => x < wd.heap.size) (fun hne a ha => HY1.out a hne ha) hO8.kept hO8.size).up hb9)
                  have HH9 := Lib.hid hH9
                  have HC9 : Hid (∀ W, Below w9.heap.size w9 W → (W.cell? ⟨g9, 0, none⟩ = some (.int .i64 sk) ∧ W.cell? ⟨g9, 1, none⟩ = some (.int .i64 sf) ∧ W.cell? ⟨g9, 2, none⟩ = some (.int .i64 ss) ∧ W.cell? ⟨g9, 3, none⟩ = some (.slice A8 q c8)) ∧ (W.cell? ⟨b, o + g2 * 4, none⟩ = some (.int .i64 sk) ∧ W.cell? ⟨b, o + g2 * 4 + 1, none⟩ = some (.int .i64 sf) ∧ W.cell? ⟨b, o + g2 * 4 + 2, none⟩ = some (.int .i64 ss) ∧ W.cell? ⟨b, o + g2 * 4 + 3, none⟩ = some (.slice sa q sc))) := Lib.hid (fun W hB => by
                    have h1 := (hB.block g9 (lt_of_heapF hh9)).trans hh9
                    exact ⟨⟨cell_of_row _ g9 0 _ 30 _ h1, cell_of_row _ g9 1 _ 30 _ h1, cell_of_row _ g9 2 _ 30 _ h1, cell_of_row _ g9 3 _ 30 _ h1⟩, HX.out W (hH9.below.trans (hB.mono hH9.below.size))⟩)
                  have HSAME : Hid (∀ W, Below w9.heap.size w9 W → Calls Try.prog 13 #[.agg #[.int .i64 sk, .int .i64 sf, .int .i64 ss, .slice A8 q c8], .agg #[.int .i64 sk, .int .i64 sf, .int .i64 ss, .slice sa q sc]] W (BoolPost W true)) := Lib.hid (fun W hB => by
                    have := HSM.out W A8 c8 (hH9.below.trans (hB.mono hH9.below.size)) ((hO8.at'.up hb9).up hB) hO8.nil hO8.cap
                    simp only [frm] at this
                    rw [← HQ.out] at this
                    exact this)
                  have HW9 := Lib.hid hw9
                  have HG9 := Lib.hid hg9
                  have hd : Below w9.heap.size w9 w9.drew := (Below.refl _ _).drew
                  obtain ⟨x0, x1⟩ := HC9.out w9 (Below.refl _ _)
                  have gm : ¬ (m : Int) ≤ (g2 : Int) := by have := HGM.out; omega
                  have hg2b : g2 ≤ 100 := by omega
                  clear hb9 hh9 hH9 hw9 hg9 hH8 hO8 HNXT HSM HX HAT2
                  go_wp2
                  rw [← HW9.out, ← HG9.out]
                  refine wp_region_held_drew (S := fun w' => (w'.cell? ⟨g9, 0, none⟩ = some (.int .i64 sk) ∧ w'.cell? ⟨g9, 1, none⟩ = some (.int .i64 sf) ∧ w'.cell? ⟨g9, 2, none⟩ = some (.int .i64 ss) ∧ w'.cell? ⟨g9, 3, none⟩ = some (.slice A8 q c8)) ∧ (w'.cell? ⟨b, o + g2 * 4, none⟩ = some (.int .i64 sk) ∧ w'.cell? ⟨b, o + g2 * 4 + 1, none⟩ = some (.int .i64 sf) ∧ w'.cell? ⟨b, o + g2 * 4 + 2, none⟩ = some (.int .i64 ss) ∧ w'.cell? ⟨b, o + g2 * 4 + 3, none⟩ = some (.slice sa q sc))) (by kernel_rfl) ⟨x0, x1⟩ (fun hHeld => ?_)
                  refine wpAnyH_take (i := 0) (v := ?_) rfl (by kernel_rfl) (by kernel_rfl) (by kernel_rfl) (fun _ _ _ h => h) (Or.inl ⟨by rfl, ?_⟩) hHeld ?_
                  rotate_left
                  · intro w hSw
                    try dsimp only at hSw
                    go_simp
                    try with_reducible rfl
                  change wpAnyH _ _ _ _ _ _ _ (Act.put _ (some 111) _) _
                  simp only [Act.put, List.setIfInBounds_toArray, List.set_cons_zero, List.set_cons_succ]
                  refine wpAnyH_take (i := 1) (v := ?_) rfl (by kernel_rfl) (by kernel_rfl) (by kernel_rfl) (fun _ _ _ h => h) (Or.inl ⟨by rfl, ?_⟩) hHeld ?_
                  rotate_left
                  · intro w hSw
                    try dsimp only at hSw
                    go_simp
                    try with_reducible rfl
                  change wpAnyH _ _ _ _ _ _ _ (Act.put _ (some 112) _) _
                  simp only [Act.put, List.setIfInBounds_toArray, List.set_cons_zero, List.set_cons_succ]
                  refine wpAnyH_take (i := 2) (v := .bool false) rfl (by kernel_rfl) (by kernel_rfl) (by kernel_rfl) (fun _ _ _ h => h) (Or.inl ⟨by rfl, ?_⟩) hHeld ?_
                  · intro w hSw
                    try dsimp only at hSw
                    go_simp
                    try simp
                    try omega
                  change wpAnyH _ _ _ _ _ _ _ (Act.put _ (some 113) _) _
                  simp only [Act.put, List.setIfInBounds_toArray, List.set_cons_zero, List.set_cons_succ]
                  refine wpAnyH_take (i := 3) (v := ?_) rfl (by kernel_rfl) (by kernel_rfl) (by kernel_rfl) (fun _ _ _ h => h) (Or.inl ⟨by rfl, ?_⟩) hHeld ?_
                  rotate_left
                  · intro w hSw
                    try dsimp only at hSw
                    go_simp
                    try with_reducible rfl
                  change wpAnyH _ _ _ _ _ _ _ (Act.put _ (some 114) _) _
                  simp only [Act.put, List.setIfInBounds_toArray, List.set_cons_zero, List.set_cons_succ]
                  refine wpAnyH_take (i := 4) (v := ?_) rfl (by kernel_rfl) (by kernel_rfl) (by kernel_rfl) (fun _ _ _ h => h) (Or.inl ⟨by rfl, ?_⟩) hHeld ?_
                  rotate_left
                  · intro w hSw
                    try dsimp only at hSw
                    go_simp
                    try with_reducible rfl
                  change wpAnyH _ _ _ _ _ _ _ (Act.put _ (some 115) _) _
                  simp only [Act.put, List.setIfInBounds_toArray, List.set_cons_zero, List.set_cons_succ]
                  refine wpAnyH_take (i := 5) (v := ?_) rfl (by kernel_rfl) (by kernel_rfl) (by kernel_rfl) (fun _ _ _ h => h) (Or.inl ⟨by rfl, ?_⟩) hHeld ?_
                  rotate_left
                  · intro w hSw
                    try dsimp only at hSw
                    go_simp
                    try with_reducible rfl
                  change wpAnyH _ _ _ _ _ _ _ (Act.put _ (some 116) _) _
                  simp only [Act.put, List.setIfInBounds_toArray, List.set_cons_zero, List.set_cons_succ]
                  refine wpAnyH_take (i := 6) (v := ?_) rfl (by kernel_rfl) (by kernel_rfl) (by kernel_rfl) (fun _ _ _ h => h) (Or.inl ⟨by rfl, ?_⟩) hHeld ?_
                  rotate_left
                  · intro w hSw
                    try dsimp only at hSw
                    go_simp
                    try with_reducible rfl
                  change wpAnyH _ _ _ _ _ _ _ (Act.put _ (some 117) _) _
                  simp only [Act.put, List.setIfInBounds_toArray, List.set_cons_zero, List.set_cons_succ]
                  refine wpAnyH_take (i := 7) (v := ?_) rfl (by kernel_rfl) (by kernel_rfl) (by kernel_rfl) (fun _ _ _ h => h) (Or.inl ⟨by rfl, ?_⟩) hHeld ?_
                  rotate_left
                  · intro w hSw
                    try dsimp only at hSw
                    go_simp
                    try with_reducible rfl
                  change wpAnyH _ _ _ _ _ _ _ (Act.put _ (some 118) _) _
                  simp only [Act.put, List.setIfInBounds_toArray, List.set_cons_zero, List.set_cons_succ]
                  refine wpAnyH_take (i := 8) (v := ?_) rfl (by kernel_rfl) (by kernel_rfl) (by kernel_rfl) (fun _ _ _ h => h) (Or.inl ⟨by rfl, ?_⟩) hHeld ?_
                  rotate_left
                  · intro w hSw
                    try dsimp only at hSw
                    go_simp
                    try with_reducible rfl
                  change wpAnyH _ _ _ _ _ _ _ (Act.put _ (some 119) _) _
                  simp only [Act.put, List.setIfInBounds_toArray, List.set_cons_zero, List.set_cons_succ]
                  refine wpAnyH_ready (rs := [9]) (by kernel_rfl) (by simp) ?_
                  refine AllReadyH.cons rfl (fun K hK => ?_) AllReadyH.nil
                  go_simp
                  with_reducible refine (HSAME.out _ hd).mono ?_
                  rintro e w10 ⟨rfl, hb10'⟩
                  have hb10 := hd.trans (hb10'.mono hd.size)
                  refine hK.out _ _ (HC9.out _ hb10) (fun hHeld => ?_)
                  clear hK K
                  refine wpAnyH_take (i := 10) (v := ?_) rfl (by kernel_rfl) (by kernel_rfl) (by kernel_rfl) (fun _ _ _ h => h) (Or.inl ⟨by rfl, ?_⟩) hHeld ?_
                  rotate_left
                  · intro w hSw
                    try dsimp only at hSw
                    go_simp
                    try with_reducible rfl
                  change wpAnyH _ _ _ _ _ _ _ (Act.put _ (some 121) _) _
                  simp only [Act.put, List.setIfInBounds_toArray, List.set_cons_zero, List.set_cons_succ]
                  refine wpAnyH_take (i := 11) (v := ?_) rfl (by kernel_rfl) (by kernel_rfl) (by kernel_rfl) (fun _ _ _ h => h) (Or.inl ⟨by rfl, ?_⟩) hHeld ?_
                  rotate_left
                  · intro w hSw
                    try dsimp only at hSw
                    go_simp
                    try with_reducible rfl
                  change wpAnyH _ _ _ _ _ _ _ (Act.put _ (some 122) _) _
                  simp only [Act.put, List.setIfInBounds_toArray, List.set_cons_zero, List.set_cons_succ]
                  refine wpAnyH_done (by kernel_rfl) ?_ _
                  have HH10 := Lib.hid (HH9.out.quiet hb10)
                  have HAT10 := Lib.hid (HAT9.out.up hb10)
                  clear hb10 hb10' hd x0 x1
                  go_wp2
                  go_roundw
                  case rel => exact ⟨g2 + 1, rest, by omega, by go_num, by have := HKK.out; go_num, HR3.out.1, HR3.out.2.1, HR3.out.2.2, HH10.out, HAT10.out⟩
                  case measure => simp [intOf]; omega
                · have HNXT := Lib.hid (hH2.next hLb2 (by omega) hnx)
                  have qe : ((err2 : Int) != 0) = true := by simp; omega
                  have HB : Hid (Stand l m a2 g2 L2 ∧ (∀ x ∈ L2, x < 256) ∧ L2.length ≤ a2 ∧ (next room L2).2.1 = err2) := Lib.hid ⟨hst2, hLb2, hLl2, by rw [hnx]⟩
                  have HAT2 := Lib.hid hat2
                  clear hst2 hLb2 hLl2 hH2 hat2 hnx hkk
                  go_wp2_with fail
                  with_reducible refine (HNXT.out).mono ?_
                  rintro e w8 ⟨A8, c8, rfl, hH8, hO8⟩
                  simp only [frm, noFrm, List.length_nil]
                  obtain ⟨w9, hw9⟩ : ∃ x, x = w8.alloc (.cells #[.int .i64 0, .int .i64 0, .int .i64 0, .slice A8 0 c8] 30) := ⟨_, rfl⟩
                  have hb9 : Below w8.heap.size w8 w9 := by rw [hw9]; exact (Below.refl _ _).alloc (Nat.le_refl _) _
                  have HH9 := Lib.hid ((hH8.quiet hb9).less (X' := fun x => x < wd.heap.size) (fun x hx => .inl hx))
                  have HAT9 := Lib.hid ((HAT2.out.kept (X := fun x => x < wd.heap.size) (fun hne a ha => HY1.out a hne ha) hO8.kept hO8.size).up hb9)
                  have HW9 := Lib.hid hw9
                  clear hb9 hw9 hH8 hO8 HNXT HAT2
                  go_wp2
                  rw [← HW9.out]
                  go_roundw
                  case rel => exact ⟨a2, g2, L2, err2, ha2n, rfl, rfl, rfl, herr2, HB.out.2.2.2, HB.out.1, HB.out.2.1, HB.out.2.2.1, HH9.out, HAT9.out⟩
                  case measure => simp [intOf]; omega
            · obtain rfl : a = nb := by omega
              have ai : ¬ (a : Int) < (a : Int) := by omega
              have hgm := hst.done HG.out (by rw [← HNB.out]; exact Nat.le_refl _) (by rw [hnx]; exact herr)
              subst hgm
              rcases hst.last HG.out (by rw [← HNB.out]; exact Nat.le_refl _) with ⟨hml, hLe, hn4⟩ | ⟨hml, hn3, hkey⟩
              · subst hLe
                rw [hn4] at hnx
                simp only [] at hnx
                subst hnx
                have e1 : ((g : Int) == (k : Int)) = true := by have := HL.out; simp; omega
                have HF4 := Lib.hid (HFST.out wr)
                have HLF := Lib.hid (fun (W : World) (hB : Below wr.heap.size wr W) => (hH.quiet hB).left (by simp))
                have HZ := Lib.hid hH.below
                simp only [List.length_nil] at HLF
                clear hst hn4 hH hat hml hLb hLl
                go_wp2_with fail
                with_reducible refine (HF4.out).mono ?_
                rintro e w5 ⟨rfl, hb5⟩
                have HL5 := Lib.hid (HLF.out w5 hb5)
                have HZ5 := Lib.hid (HZ.out.trans (hb5.mono HZ.out.size))
                clear hb5 HF4 HLF
                go_wp2_with fail
                with_reducible refine (HL5.out).mono ?_
                rintro e w6 ⟨rfl, hb6⟩
                have HZ6 := Lib.hid (HZ5.out.trans (hb6.mono HZ5.out.size))
                clear hb6 HL5
                go_wp2
                go_ret
                exact ⟨rfl, HZ6.out⟩
              · rw [hn3] at hnx
                simp only [] at hnx
                subst hnx
                have e1 : ((g : Int) == (k : Int)) = false := by have := HL.out; simp; omega
                obtain ⟨w5, hw5⟩ : ∃ x, x = wr.alloc (.cells #[.int .u8 1, .int .u8 2, .int .u8 3] 5) := ⟨_, rfl⟩
                have hb5 : Below wr.heap.size wr w5 := by rw [hw5]; exact (Below.refl _ _).alloc (Nat.le_refl _) _
                have hat5 : At .u8 w5 w5.heap.size (some ⟨wr.heap.size, 0, none⟩) [1, 2, 3] := by rw [hw5]; exact At.new (k := .u8) wr [1, 2, 3] 5 (0, 0)
                have hsz5 : wr.heap.size < w5.heap.size := by rw [hw5]; simp
                have HFD := Lib.hid ((hH.more hb5).feed (some ⟨wr.heap.size, 0, none⟩) [1, 2, 3] 3 3 hat5 (by intro x hx; simp at hx; omega) rfl (fun h => by cases h) (Nat.le_refl _) (fun _ a ha => by injection ha with ha; subst ha; exact .inr ⟨Nat.le_refl _, hsz5⟩) hLb (by omega))
                have HB9 : Hid ((∀ x ∈ L ++ [1, 2, 3], x < 256) ∧ (L ++ [1, 2, 3]).length ≤ 90000) := Lib.hid ⟨fun x hx => by
                  rcases List.mem_append.1 hx with h | h
                  · exact hLb x h
                  · simp at h; omega, by rw [List.length_append]; simp only [List.length_cons, List.length_nil]; omega⟩
                have HKEY := Lib.hid (hkey [1, 2, 3])
                have HW5 := Lib.hid hw5
                clear hst hn3 hkey hH hat hml hLb hLl hb5 hat5 hsz5 hw5
                go_wp2_with fail
                rw [← HW5.out]
                with_reducible refine (HFD.out).mono ?_
                rintro e w6 ⟨rfl, hH6, _, _⟩
                have HNXT := Lib.hid (hH6.next HB9.out.1 HB9.out.2 HKEY.out)
                clear hH6 HFD
                go_wp2_with fail
                with_reducible refine (HNXT.out).mono ?_
                rintro e w8 ⟨A8, c8, rfl, hH8, hO8⟩
                simp only [frm, noFrm, List.length_nil]
                obtain ⟨w9, hw9⟩ : ∃ x, x = w8.alloc (.cells #[.int .i64 0, .int .i64 0, .int .i64 0, .slice A8 0 c8] 30) := ⟨_, rfl⟩
                have hb9 : Below w8.heap.size w8 w9 := by rw [hw9]; exact (Below.refl _ _).alloc (Nat.le_refl _) _
                have HZ9 := Lib.hid ((hH8.quiet hb9).below)
                have HW9 := Lib.hid hw9
                have HF9 := Lib.hid (HFST.out w9)
                clear hb9 hw9 hH8 hO8 HNXT
                go_wp2_with fail
                rw [← HW9.out]
                with_reducible refine (HF9.out).mono ?_
                rintro e w10 ⟨rfl, hb10⟩
                have HZ10 := Lib.hid (HZ9.out.trans (hb10.mono HZ9.out.size))
                clear hb10 HF9
                go_wp2
                go_ret
                exact ⟨rfl, HZ10.out⟩
theorem walk_any (A : Option Addr) (l : List FrA) (n c : Nat) (size room : Int) (w : World) (hA : AtR w w.heap.size A l) (hl : l.length = n) (h1 : -9223372036854775808 ≤ size ∧ size ≤ 9223372036854775807) (h2 : -9223372036854775808 ≤ room ∧ room ≤ 9223372036854775807) : Calls Try.prog 5 #[.slice A n c, .int .i64 size, .int .i64 room] w (YesF w) := by
  cases hf : few10 l with
  | false => exact walk_not A l n c size room w hA hl (.inl hf)
  | true =>
    by_cases hs : size < 1
    · exact walk_not A l n c size room w hA hl (.inr ⟨hf, .inl hs⟩)
    · by_cases hr : room < 0
      · exact walk_not A l n c size room w hA hl (.inr ⟨hf, .inr ⟨hs, hr⟩⟩)
      · exact walk_in A l n c size room w hA hl hf ⟨by omega, h1.2⟩ ⟨by omega, h2.2⟩
end frameBack
end Go.Proofs.Ytegcloapadippaa
