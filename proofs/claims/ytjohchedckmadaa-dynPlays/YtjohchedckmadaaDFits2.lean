/- The walk of DynFits. -/
import Derived.Test.YtjohchedckmadaaDFits
import Derived.Test.YtjohchedckmadaaLWhere
import Derived.Deep.DeepCutAuto
namespace Go.Proofs.Ytjohchedckmadaa
open Go.RowKit

theorem few7_tot {l : List Opn} (h : few7 l = true) : l.length ≤ 200 ∧ tot (l.map Opn.fld) ≤ 46400 := by
  rw [few7, Bool.and_eq_true, decide_eq_true_eq] at h
  rw [List.take_of_length_le h.1] at h
  exact ⟨h.1, (few_tot h.2).2⟩
theorem fit_mem {m : Nat} {l : List Fld} {f : Fld} (h : f ∈ fitL m l) : f ∈ l := by
  obtain ⟨k, hk⟩ := fit_pre m l
  rw [hk] at h
  exact List.mem_of_mem_take h
/-- None of them is kept apart. -/
def Nv (l : List Fld) : Prop := ∀ f ∈ l, f.never = false
theorem Nv.fit {m : Nat} {l : List Fld} (h : Nv l) : Nv (fitL m l) := fun f hf => h f (fit_mem hf)
theorem Nv.add {m : Nat} {f : Fld} {l : List Fld} (h : Nv l) : Nv (addL m f l) := fun g hg => by
  have := fit_mem hg
  rw [List.mem_cons] at this
  rcases this with rfl | h1
  · rfl
  · exact h g h1
theorem add_len (m : Nat) (f : Fld) (l : List Fld) : (addL m f l).length ≤ l.length + 1 := by
  have := fit_len m (kept f :: l)
  rw [List.length_cons] at this
  exact this
theorem add_head (m : Nat) (f : Fld) (l : List Fld) (h : 0 < (addL m f l).length) : (addL m f l)[0]? = some (kept f) := by
  unfold addL at h ⊢
  rw [fitL] at h ⊢
  split
  · rfl
  · rename_i hn
    rw [if_neg hn] at h
    simp at h
theorem getL_in (l : List Fld) (j : Nat) (h1 : 1 ≤ j) (h2 : j ≤ l.length) : getL l (j : Int) = (l[j - 1]'(by omega), true) := by
  rw [getL, if_pos (by omega), Int.toNat_natCast, List.getD, List.getElem?_eq_getElem (by omega)]
  rfl
namespace dynFits
def FiR (w : World) (p m : Nat) (L : List Fld) (v : Value) (na : Nat) (s i : Value) (wr : World) : Prop := ∃ j, 1 ≤ j ∧ j ≤ L.length + 1 ∧ i = .int .i64 (j : Int) ∧ s = .int .i64 ((tot (L.take (j - 1)) : Nat) : Int) ∧ Hasr w p m L v na wr
set_option maxRecDepth 100000 in
set_option maxHeartbeats 4000000 in
theorem walk_not (mo : Int) (A : Option Addr) (l : List Opn) (n c : Nat) (w : World) (hR : Rdy w) (hA : AtO w w.heap.size A l) (hl : l.length = n) (hok : ∀ q ∈ l, q.fld.fit) (hf : few7 l = false) :
    Calls Try.prog 4 #[.int .i64 mo, .slice A n c] w (Yes w) := by
  have HR := Lib.hid fun (w' : World) (hb : Below w.heap.size w w') => hR.below hb
  have HFI := Lib.hid (first_any w hR)
  clear hR
  go_enter Try.func4, Try.ntmps4
  go_wp2_with fail
  with_reducible refine (HFI.out).mono ?_
  rintro e w1 ⟨rfl, hb1⟩
  have HF := few7_any A l n c w1 (hA.up hb1) hl hok
  rw [hf] at HF
  have HF := Lib.hid HF
  clear hA hl hok
  go_wp2_with fail
  with_reducible refine (HF.out).mono ?_
  rintro e w2 ⟨rfl, hbn⟩
  have hb2 := hb1.trans (hbn.mono hb1.size)
  have HF2 := Lib.hid (first_any w2 (HR.out _ hb2))
  clear hb1 hbn HF HFI
  go_wp2_with fail
  with_reducible refine (HF2.out).mono ?_
  rintro e w3 ⟨rfl, hbn⟩
  have hb3 := hb2.trans (hbn.mono hb2.size)
  go_wp2_with fail
  go_ret
  exact ⟨rfl, hb3⟩
set_option maxRecDepth 100000 in
set_option maxHeartbeats 4000000 in
theorem walk_no (mo : Int) (A : Option Addr) (l : List Opn) (n c : Nat) (w : World) (hR : Rdy w) (hA : AtO w w.heap.size A l) (hl : l.length = n) (hok : ∀ q ∈ l, q.fld.fit) (hf : few7 l = true) (hmo : mo < 0 ∨ 4096 < mo) :
    Calls Try.prog 4 #[.int .i64 mo, .slice A n c] w (Yes w) := by
  have HR := Lib.hid fun (w' : World) (hb : Below w.heap.size w w') => hR.below hb
  have HFI := Lib.hid (first_any w hR)
  clear hR
  go_enter Try.func4, Try.ntmps4
  go_wp2_with fail
  with_reducible refine (HFI.out).mono ?_
  rintro e w1 ⟨rfl, hb1⟩
  have HF := few7_any A l n c w1 (hA.up hb1) hl hok
  rw [hf] at HF
  have HF := Lib.hid HF
  clear hA hl hok
  go_wp2_with fail
  with_reducible refine (HF.out).mono ?_
  rintro e w2 ⟨rfl, hbn⟩
  have hb2 := hb1.trans (hbn.mono hb1.size)
  have HNW := Lib.hid (dnew_no mo w2 (HR.out _ hb2) hmo)
  clear hb1 hbn HF HFI hmo
  go_wp2_with fail
  with_reducible refine (HNW.out).mono ?_
  rintro e w3 ⟨rfl, hbn⟩
  have hb3 := hb2.trans (hbn.mono hb2.size)
  have HF2 := Lib.hid (first_any w3 (HR.out _ hb3))
  go_wp2_with fail
  with_reducible refine (HF2.out).mono ?_
  rintro e w4 ⟨rfl, hbn⟩
  have hb4 := hb3.trans (hbn.mono hb3.size)
  go_wp2_with fail
  go_ret
  exact ⟨rfl, hb4⟩
def FtR (w : World) (n p : Nat) (v i : Value) (wr : World) : Prop := ∃ k m L na, k ≤ n ∧ i = .int .i64 (k : Int) ∧ Hasr w p m L v na wr ∧ L.length ≤ na ∧ na ≤ k ∧ Nv L
def FtM (w : World) (q : Opn) (k p : Nat) (v : Value) (wr : World) : Prop := ∃ m L na, Hasr w p m L v na wr ∧ L.length ≤ na ∧ na ≤ k + 1 ∧ Nv L ∧ (q.kind = 0 → 0 < L.length → L[0]? = some (kept q.fld))
set_option maxRecDepth 100000 in
set_option maxHeartbeats 8000000 in
theorem walk_few (mo : Nat) (A : Option Addr) (l : List Opn) (n c : Nat) (w : World) (hR : Rdy w) (hA : AtO w w.heap.size A l) (hl : l.length = n) (hok : ∀ q ∈ l, q.fit) (hf : few7 l = true) (hmo : mo ≤ 4096) :
    Calls Try.prog 4 #[.int .i64 (mo : Int), .slice A n c] w (Yes w) := by
  have HR := Lib.hid fun (w' : World) (hb : Below w.heap.size w w') => hR.below hb
  have HFI := Lib.hid (first_any w hR)
  obtain ⟨hn200, htl⟩ := few7_tot hf
  have hn2 : n ≤ 200 := by omega
  have HTL : Hid (∀ q ∈ l, fsize q.fld ≤ 46400) := Lib.hid (fun q hq => Nat.le_trans (fsize_le (List.mem_map.2 ⟨q, hq, rfl⟩)) htl)
  have HFIT : Hid (∀ q ∈ l, q.fld.fit) := Lib.hid (fun q hq => by
    have h := HTL.out q hq
    unfold fsize at h
    exact ⟨by omega, by omega⟩)
  have HOK := Lib.hid hok
  have HA := Lib.hid hA
  have HL := Lib.hid hl
  clear hR hn200 htl hok
  go_enter Try.func4, Try.ntmps4
  go_wp2_with fail
  with_reducible refine (HFI.out).mono ?_
  rintro e w1 ⟨rfl, hb1⟩
  have HF := few7_any A l n c w1 (hA.up hb1) hl HFIT.out
  rw [hf] at HF
  have HF := Lib.hid HF
  clear hA hl hf
  go_wp2_with fail
  with_reducible refine (HF.out).mono ?_
  rintro e w2 ⟨rfl, hbn⟩
  have hb2 := hb1.trans (hbn.mono hb1.size)
  have HNW := Lib.hid (Has.new (HR.out _ hb2) hb2 hmo (mo : Int) rfl)
  clear hb1 hbn HF HFI hmo
  go_wp2_with fail
  with_reducible refine (HNW.out).mono ?_
  rintro e w3 ⟨p, rfl, hH⟩
  have hr0 : FtR w n p (.slice none 0 0) (.int .i64 0) w3 := by
    obtain ⟨S, h1, h2, h3⟩ := hH
    exact ⟨0, mo, [], 0, Nat.zero_le _, rfl, ⟨S, [], h1, h2, h3, rfl, World.ownsRow_nil _ _ _ _, fun k hk => by cases hk⟩, Nat.le_refl _, Nat.le_refl _, fun f hf => by simp at hf⟩
  clear hH hb2 HNW
  go_wp2
  go_loopw [7, 8, 9, 10, 11, 12, 13, 14, 15] (fun v i _ _ _ _ _ _ _ wr => FtR w n p v i wr) (fun _ i _ _ _ _ _ _ _ _ => n - (intOf i).toNat)
  case atStart => exact hr0
  case round =>
    clear hr0
    obtain ⟨k, m, L, na, hk, rfl, hH, hLn, hnk, hNv⟩ := hrel
    by_cases hlt : k < n
    · have ki : (k : Int) < (n : Int) := by omega
      have hkl : k < l.length := by have := HL.out; omega
      obtain ⟨b, o, rfl, hb, hc⟩ := HA.out.pos (by omega)
      obtain ⟨q, hq⟩ : ∃ q, q = l[k] := ⟨_, rfl⟩
      have hqm : q ∈ l := by rw [hq]; exact List.getElem_mem _
      have HOP := Lib.hid fun (W : World) (hB : Below w.heap.size w W) => (hc k hkl).below hB hb
      rw [← hq] at HOP
      have HFS := Lib.hid (HTL.out q hqm)
      have HQK := Lib.hid (HOK.out q hqm)
      clear hc hkl hq hqm
      obtain ⟨K, N, F1, F2, F3⟩ := q
      obtain ⟨d0, d1, d2, d3, d4⟩ := HOP.out wr hH.has.below
      simp only [] at d0 d1 d2 d3 d4
      have HH := Lib.hid hH
      clear hH
      go_upto_if 47 with fail
      go_cut [7] (fun v wx => FtM w ⟨K, N, ⟨F1, F2, F3⟩⟩ k p v wx)
      case first =>
        by_cases hK0 : K = 0
        · subst hK0
          have HADD := Lib.hid (HH.out.add (HR.out _ HH.out.has.below) ⟨F1, F2, F3⟩ HFS.out)
          obtain ⟨_, _, _, _, _, _, h5, _⟩ := HH.out
          obtain ⟨A7, c7, hv7, _, _⟩ := rowF_shape h5
          subst hv7
          clear h5
          go_wp2_with fail
          with_reducible refine (HADD.out).mono ?_
          rintro e w4 ⟨rfl, hH4⟩
          obtain ⟨_, _, e2, e3, e4⟩ := HOP.out w4 hH4.has.below
          simp only [] at e2 e3 e4
          obtain ⟨S, a, h1, h2, h3, h4, h5, h6⟩ := hH4
          have HAT : Hid (AtF (w4.alloc (.cells #[.string F1, .string F2, .bool F3] 33)) (w4.alloc (.cells #[.string F1, .string F2, .bool F3] 33)).heap.size (some ⟨w4.heap.size, 0, none⟩) [⟨F1, F2, F3⟩]) := Lib.hid (fun _ => by
            refine ⟨w4.heap.size, 0, rfl, by simp, fun i hi => ?_⟩
            have hi0 : i = 0 := by simpa using hi
            subst hi0
            exact ⟨cell_of_row _ w4.heap.size 0 _ 33 _ (heap_alloc_new w4 _), cell_of_row _ w4.heap.size 1 _ 33 _ (heap_alloc_new w4 _), cell_of_row _ w4.heap.size 2 _ 33 _ (heap_alloc_new w4 _)⟩)
          have H1 := Lib.hid h1
          have H2 := Lib.hid h2
          have H3 := Lib.hid h3
          have H4 := Lib.hid h4
          have H5 := Lib.hid h5
          have H6 := Lib.hid h6
          have hna : na ≤ 200 := by omega
          clear d0 d1 d2 d3 d4 h1 h2 h3 h4 h5 h6 HADD
          go_wp2_with (at_builtin; refine wpList_append_Fw rfl (.tmp 55) (.tmp 61) rfl w.heap.size _ na a rfl (H5.out.alloc _) ⟨w4.heap.size, 0, none⟩ [⟨F1, F2, F3⟩] 1 1 rfl rfl _ HAT.out ?_ ?_ ?_; (rotate_right; intro v9 w9 hown9 hg9 hwh9))
          · have hN : Hasr w p m (addL m ⟨F1, F2, F3⟩ L) v9 (na + 1) w9 := Hasr.grown H1.out H2.out H3.out H5.out H6.out hg9 (a ++ [⟨F1, F2, F3⟩]) (na + 1) (by rw [List.length_append, H4.out]; rfl) hown9 (fun j hj => by
              rcases hwh9 j hj with h | h
              · exact .inl h
              · exact .inr (by simp at h; omega))
            clear hg9 hown9 hwh9
            go_wp2
            go_meet
            case rel => exact ⟨m, _, na + 1, hN, by have := add_len m ⟨F1, F2, F3⟩ L; omega, by omega, hNv.add, fun _ h => add_head m _ L h⟩
          all_goals first | omega | (have := H3.out.size; simp; omega) | simp
        · have q0 : (K == 0) = false := beq_eq_false_iff_ne.2 hK0
          by_cases hK1 : K = 1
          · subst hK1
            by_cases hN : 0 ≤ N ∧ N ≤ 4096
            · obtain ⟨N0, rfl⟩ : ∃ x : Nat, N = (x : Int) := ⟨N.toNat, by omega⟩
              have HLIM := Lib.hid (HH.out.limit (HR.out _ HH.out.has.below) N0 (by omega) (N0 : Int) rfl)
              go_wp2_with fail
              with_reducible refine (HLIM.out).mono ?_
              rintro e w4 ⟨rfl, hH4⟩
              clear d0 d1 d2 d3 d4
              go_wp2
              go_meet
              case rel => exact ⟨N0, _, na, hH4, Nat.le_trans (fit_len _ _) hLn, by omega, hNv.fit, fun h => absurd h (by simp)⟩
            · have HLIM := Lib.hid (HH.out.limit_no (HR.out _ HH.out.has.below) N (by omega) (bounds_i64 HQK.out.2.1))
              go_wp2_with fail
              with_reducible refine (HLIM.out).mono ?_
              rintro e w4 ⟨rfl, hH4⟩
              clear d0 d1 d2 d3 d4
              go_wp2
              go_meet
              case rel => exact ⟨m, L, na, hH4, hLn, by omega, hNv, fun h => absurd h (by simp)⟩
          · have q1 : (K == 1) = false := beq_eq_false_iff_ne.2 hK1
            go_wp2
            go_meet
            case rel => exact ⟨m, L, na, HH.out, hLn, by omega, hNv, fun h => absurd h hK0⟩
      case rest =>
        clear HH d0 d1 d2 d3 d4 hLn hnk hNv
        obtain ⟨m2, L2, na2, hH, hLn, hnk, hNv, hhd⟩ := hcut
        obtain ⟨A7, c7, hv7, _, _⟩ := rowF_shape (show ∃ a, wc.ownsRow w.heap.size 33 3 _ na2 (cF a) from by obtain ⟨_, a, _, _, _, _, h5, _⟩ := hH; exact ⟨a, h5⟩).choose_spec
        subst hv7
        obtain ⟨hT, hM⟩ := hH.has.fits
        have htp := tot_pos L2
        have HNV := Lib.hid hNv
        have HHD := Lib.hid hhd
        obtain ⟨ln, hln⟩ : ∃ x, x = L2.length := ⟨_, rfl⟩
        have HLN := Lib.hid hln
        have HTB : Hid (tot L2 ≤ m2) := Lib.hid hT
        rw [← hln] at hLn htp
        have hlnb : ln ≤ 128 := by omega
        have HLEN := hH.has.len (HR.out _ hH.has.below)
        rw [← hln] at HLEN
        have HLEN := Lib.hid HLEN
        clear hNv hhd hln hT htp
        have l0 : ¬ (ln : Int) < 0 := by omega
        have l1 : ¬ (na2 : Int) < (ln : Int) := by omega
        have m0 : ¬ (m2 : Int) < 0 := by omega
        have m1 : ¬ (4096 : Int) < (m2 : Int) := by omega
        have l0d : decide ((ln : Int) < 0) = false := decide_eq_false l0
        have l1d : decide ((na2 : Int) < (ln : Int)) = false := decide_eq_false l1
        have l1n : decide (na2 < ln) = false := decide_eq_false (by omega)
        have m0d : decide ((m2 : Int) < 0) = false := decide_eq_false m0
        have m1d : decide ((4096 : Int) < (m2 : Int)) = false := decide_eq_false m1
        clear l0 l1 m0 m1
        go_wp2_with fail
        with_reducible refine (HLEN.out).mono ?_
        rintro e w4 ⟨rfl, _, hb4⟩
        have hH4 := hH.quiet hb4
        have HM1 := Lib.hid (hH4.has.most (HR.out _ hH4.has.below))
        clear hH hb4 HLEN
        go_wp2_with fail
        with_reducible refine (HM1.out).mono ?_
        rintro e w5 ⟨rfl, _, hb5⟩
        have hH5 := hH4.quiet hb5
        have HM2 := Lib.hid (hH5.has.most (HR.out _ hH5.has.below))
        clear hH4 hb5 HM1
        go_wp2_with fail
        with_reducible refine (HM2.out).mono ?_
        rintro e w6 ⟨rfl, _, hb6⟩
        have hH6 := hH5.quiet hb6
        have hr1 : FiR w p m2 L2 (.slice A7 na2 c7) na2 (.int .i64 0) (.int .i64 1) w6 := ⟨1, Nat.le_refl _, by omega, rfl, rfl, hH6⟩
        clear hH5 hb6 HM2 hH6
        go_wp2
        have HLE := Lib.hid hLn
        clear l0d l1d l1n m0d m1d hLn
        go_loopw [9, 11, 12, 13] (fun s i _ _ wr => FiR w p m2 L2 (.slice A7 na2 c7) na2 s i wr) (fun _ i _ _ _ => ln + 1 - (intOf i).toNat)
        case atStart => exact hr1
        case round =>
          clear hr1
          obtain ⟨j, hj1, hj2, rfl, rfl, hH⟩ := hrel
          rw [← HLN.out] at hj2
          by_cases hjl : j ≤ ln
          · have ji : (j : Int) ≤ (ln : Int) := by omega
            have hjL : j ≤ L2.length := by rw [← HLN.out]; exact hjl
            have hg := hH.has.get (HR.out _ hH.has.below) (j : Int) (by unfold Rng; omega)
            rw [getL_in L2 j hj1 hjL] at hg
            obtain ⟨f, hfe⟩ : ∃ f, f = L2[j - 1]'(by omega) := ⟨_, rfl⟩
            rw [← hfe] at hg
            have hnv : f.never = false := HNV.out f (by rw [hfe]; exact List.getElem_mem _)
            have HNX : Hid (tot (L2.take (j + 1 - 1)) = tot (L2.take (j - 1)) + fsize f) := Lib.hid (by
              have := tot_next L2 (j - 1) (by omega)
              rw [show j - 1 + 1 = j + 1 - 1 by omega] at this
              rw [this, hfe])
            have hle := tot_le L2 (j + 1 - 1)
            rw [HNX.out] at hle
            have hle2 : tot (L2.take (j - 1)) + fsize f ≤ 4096 := by have := HTB.out; omega
            obtain ⟨X, Y, Z⟩ := f
            simp only [] at hg hnv
            subst hnv
            have HFZ : Hid (fsize ⟨X, Y, false⟩ = X.size + Y.size + 32) := Lib.hid rfl
            rw [HFZ.out] at HNX hle2
            generalize tot (L2.take (j - 1)) = s at HNX hle2
            have HGET := Lib.hid hg
            clear hg hfe hle
            go_wp2_with fail
            with_reducible refine (HGET.out).mono ?_
            rintro e w7 ⟨rfl, _, hb7⟩
            have hH7 := hH.quiet hb7
            have hH8 := hH7.quiet ((Below.refl w7.heap.size w7).alloc (Nat.le_refl _) (.cells #[.string X, .string Y, .bool false] 33))
            clear hH hb7 HGET hH7
            go_wp2
            go_roundw
            case rel =>
              have hfin : FiR w p m2 L2 (.slice A7 na2 c7) na2 (.int .i64 ((s : Int) + ((X.size : Int) + (Y.size : Int) + 32))) (.int .i64 ((j : Int) + 1)) (w7.alloc (.cells #[.string X, .string Y, .bool false] 33)) := ⟨j + 1, by omega, by omega, by go_num, by rw [HNX.out]; go_num, hH8⟩
              first
                | exact hfin
                | ((repeat apply Exists.intro); exact ⟨hfin, rfl⟩)
            case measure => simp [intOf]; omega
          · obtain rfl : j = ln + 1 := by omega
            have ji : ¬ ((ln : Int) + 1 ≤ (ln : Int)) := by omega
            have et : L2.take (ln + 1 - 1) = L2 := List.take_of_length_le (by have := HLN.out; omega)
            rw [et]
            have HS := Lib.hid (hH.has.size (HR.out _ hH.has.below))
            have hTm := HTB.out
            generalize tot L2 = T at HS hTm
            have t0 : ((T : Int) != (T : Int)) = false := by simp
            have t1 : ¬ (m2 : Int) < (T : Int) := by omega
            go_wp2_with fail
            with_reducible refine (HS.out).mono ?_
            rintro e w7 ⟨rfl, _, hb7⟩
            have hH7 := hH.quiet hb7
            have HM := Lib.hid (hH7.has.most (HR.out _ hH7.has.below))
            clear hH hb7 HS
            go_wp2_with fail
            with_reducible refine (HM.out).mono ?_
            rintro e w8 ⟨rfl, _, hb8⟩
            have hH8 := hH7.quiet hb8
            clear hH7 hb8 HM
            obtain ⟨d0, _, d2, d3, _⟩ := HOP.out w8 hH8.has.below
            simp only [] at d0 d2 d3
            by_cases hl0 : 0 < ln
            · have p0 : (0 : Int) < (ln : Int) := by omega
              by_cases hK0 : K = 0
              · subst hK0
                have hg := hH8.has.get (HR.out _ hH8.has.below) 1 (by unfold Rng; omega)
                have hhd := HHD.out rfl (by rw [← HLN.out]; exact hl0)
                have hg1 : getL L2 1 = (kept ⟨F1, F2, F3⟩, true) := by
                  have h1 := getL_in L2 1 (by omega) (by rw [← HLN.out]; omega)
                  rw [List.getElem?_eq_getElem (by rw [← HLN.out]; exact hl0)] at hhd
                  injection hhd with hhd
                  rw [show (1 : Int) = ((1 : Nat) : Int) from rfl, h1]
                  congr 1
                rw [hg1] at hg
                simp only [kept] at hg
                have HGET := Lib.hid hg
                clear hg hg1 hhd
                go_wp2_with fail
                with_reducible refine (HGET.out).mono ?_
                rintro e w9 ⟨rfl, _, hb9⟩
                have hH9 := hH8.quiet hb9
                obtain ⟨g, hgg⟩ : ∃ g, g = w9.heap.size := ⟨_, rfl⟩
                have hbA : Below w9.heap.size w9 (w9.alloc (.cells #[.string F1, .string F2, .bool false] 33)) := (Below.refl _ _).alloc (Nat.le_refl _) _
                have hHA := hH9.quiet hbA
                have g0 : (w9.alloc (.cells #[.string F1, .string F2, .bool false] 33)).cell? ⟨g, 0, none⟩ = some (.string F1) := by rw [hgg]; exact cell_of_row _ w9.heap.size 0 _ 33 _ (heap_alloc_new w9 _)
                have g1 : (w9.alloc (.cells #[.string F1, .string F2, .bool false] 33)).cell? ⟨g, 1, none⟩ = some (.string F2) := by rw [hgg]; exact cell_of_row _ w9.heap.size 1 _ 33 _ (heap_alloc_new w9 _)
                obtain ⟨_, _, e2, e3, _⟩ := HOP.out _ hHA.has.below
                simp only [] at e2 e3
                have s1 : (F1.toList != F1.toList) = false := by simp
                have s2 : (F2.toList != F2.toList) = false := by simp
                simp only []
                clear hH8 hb9 hH9 hbA d0 d2 d3 HGET
                go_wp2
                rw [← hgg]
                clear hgg
                go_quiet (fail)
                go_wp2
                go_roundw
                case rel =>
                  have hfin : FtR w n p (.slice A7 na2 c7) (.int .i64 ((k : Int) + 1)) ((w9.alloc (.cells #[.string F1, .string F2, .bool false] 33)).drewN nq) := ⟨k + 1, m2, L2, na2, by omega, by go_num, hHA.quiet (below_drewN (Below.refl _ _) nq), by rw [← HLN.out]; exact HLE.out, by omega, HNV.out⟩
                  first
                    | exact hfin
                    | ((repeat apply Exists.intro); exact ⟨hfin, rfl⟩)
                case measure => simp [intOf]; omega
              · have q0 : (K == 0) = false := beq_eq_false_iff_ne.2 hK0
                go_wp2
                go_roundw
                case rel =>
                  have hfin : FtR w n p (.slice A7 na2 c7) (.int .i64 ((k : Int) + 1)) w8 := ⟨k + 1, m2, L2, na2, by omega, by go_num, hH8, by rw [← HLN.out]; exact HLE.out, by omega, HNV.out⟩
                  first
                    | exact hfin
                    | ((repeat apply Exists.intro); exact ⟨hfin, rfl⟩)
                case measure => simp [intOf]; omega
            · have p0 : ¬ (0 : Int) < (ln : Int) := by omega
              go_wp2
              go_roundw
              case rel =>
                have hfin : FtR w n p (.slice A7 na2 c7) (.int .i64 ((k : Int) + 1)) w8 := ⟨k + 1, m2, L2, na2, by omega, by go_num, hH8, by rw [← HLN.out]; exact HLE.out, by omega, HNV.out⟩
                first
                  | exact hfin
                  | ((repeat apply Exists.intro); exact ⟨hfin, rfl⟩)
              case measure => simp [intOf]; omega
    · obtain rfl : k = n := by omega
      have ki : ¬ (k : Int) < (k : Int) := by omega
      have HF2 := Lib.hid (first_any wr (HR.out _ hH.has.below))
      have hbw := hH.has.below
      clear hH
      go_wp2_with fail
      with_reducible refine (HF2.out).mono ?_
      rintro e w4 ⟨rfl, hbn⟩
      have hb4 := hbw.trans (hbn.mono hbw.size)
      go_wp2_with fail
      go_ret
      exact ⟨rfl, hb4⟩
theorem walk (mo : Int) (A : Option Addr) (l : List Opn) (c : Nat) (w : World) (hR : Rdy w) (hA : AtO w w.heap.size A l) (hok : ∀ q ∈ l, q.fit) :
    Calls Try.prog 4 #[.int .i64 mo, .slice A l.length c] w (Yes w) := by
  have hfit : ∀ q ∈ l, q.fld.fit := fun q hq => by
    have := (hok q hq).2.2
    unfold maxLen at this
    exact ⟨by omega, by omega⟩
  cases hf : few7 l with
  | false => exact walk_not mo A l _ c w hR hA rfl hfit hf
  | true =>
    by_cases hm : 0 ≤ mo ∧ mo ≤ 4096
    · obtain ⟨k, rfl⟩ : ∃ k : Nat, mo = (k : Int) := ⟨mo.toNat, by omega⟩
      exact walk_few k A l _ c w hR hA rfl hok hf (by omega)
    · exact walk_no mo A l _ c w hR hA rfl hfit hf (by omega)
end dynFits
end Go.Proofs.Ytjohchedckmadaa
