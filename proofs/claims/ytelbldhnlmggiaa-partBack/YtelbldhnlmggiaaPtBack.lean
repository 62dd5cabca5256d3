/- The walk of PartBack. -/
import Derived.Test.YtelbldhnlmggiaaPtBackO
namespace Go.Proofs.Ytelbldhnlmggiaa
open Go.RowKit Fr

namespace partBack
set_option maxRecDepth 100000 in
set_option maxHeartbeats 32000000 in
theorem walk_in (A B : Option Addr) (l : List (Int × Int)) (b : List Nat) (n c m d S M p : Nat) (w : World) (hA : AtS w w.heap.size A l) (hl : l.length = n) (hB : At .u8 w w.heap.size B b) (hby : ∀ x ∈ b, x < 256) (hm : b.length = m) (hd0 : B = none → d = 0) (hmd : m ≤ d) (h1 : n ≤ 200) (h2 : m ≤ 200) (h3 : 1 ≤ S) (h4 : S ≤ 2147483647) (h5 : 1 ≤ M) (h6 : M ≤ 2147483647) (h7 : p ≤ 255) : Calls Try.prog 4 #[.slice A n c, .int .i64 (S : Int), .int .i64 (M : Int), .slice B m d, .int .i64 (p : Int)] w (YesP w) := by
  have HFST := Lib.hid fun (W : World) => first11_any W
  have g1 : ¬ (200 : Int) < (n : Int) := by omega
  have g2 : ¬ (200 : Int) < (m : Int) := by omega
  have g3 : ¬ (S : Int) < 1 := by omega
  have g4 : ¬ (2147483647 : Int) < (S : Int) := by omega
  have g5 : ¬ (M : Int) < 1 := by omega
  have g6 : ¬ (2147483647 : Int) < (M : Int) := by omega
  have g7 : ¬ (p : Int) < 0 := by omega
  have g8 : ¬ (255 : Int) < (p : Int) := by omega
  have HA := Lib.hid hA
  have HL := Lib.hid hl
  have HB := Lib.hid hB
  have HBY := Lib.hid hby
  have HM := Lib.hid hm
  have HD0 := Lib.hid hd0
  have HMD := Lib.hid hmd
  have HR := Lib.hid (And.intro h1 (And.intro h2 (And.intro h3 (And.intro h4 (And.intro h5 (And.intro h6 h7))))))
  clear hA hl hB hby hm hd0 hmd h1 h2 h3 h4 h5 h6 h7
  go_enter Try.func4, Try.ntmps4
  go_wp2_with fail
  with_reducible refine (HFST.out w).mono ?_
  rintro e w1 ⟨rfl, hb1⟩
  have HB1 := Lib.hid hb1
  clear hb1
  go_wp2
  clear g1 g2 g3 g4 g5 g6 g7 g8
  go_loopw [11] (fun i wr => ∃ k : Nat, k ≤ n ∧ i = .int .i64 (k : Int) ∧ (∀ j (h : j < l.length), j < k → setOk l[j]) ∧ wr = w1) (fun i _ => n - (intOf i).toNat)
  case atStart => exact ⟨0, Nat.zero_le _, rfl, fun j _ h => by omega, rfl⟩
  case round =>
    obtain ⟨k, hk, rfl, hok, rfl⟩ := hrel
    by_cases hlt : k < n
    · have ki : (k : Int) < (n : Int) := by omega
      have hkl : k < l.length := by have := HL.out; omega
      obtain ⟨ba, o, rfl, hba, hc⟩ := HA.out.pos (by omega)
      obtain ⟨c0, c1⟩ := hc k hkl
      obtain ⟨s, hs⟩ : ∃ s, s = l[k] := ⟨_, rfl⟩
      rw [← hs] at c0 c1
      obtain ⟨X, Y⟩ := s
      simp only [] at c0 c1
      have a0 := (HB1.out.cell (p := ⟨ba, o + k * 2, none⟩) hba).trans c0
      have a1 := (HB1.out.cell (p := ⟨ba, o + k * 2 + 1, none⟩) hba).trans c1
      clear c0 c1 hc
      by_cases hsk : setOk (X, Y)
      · obtain ⟨s1, s2, s3, s4⟩ := id hsk
        simp only [] at s1 s2 s3 s4
        have t1 : ¬ X < 0 := by omega
        have t2 : ¬ 65535 < X := by omega
        have t3 : ¬ Y < 0 := by omega
        have t4 : ¬ 4294967296 ≤ Y := by omega
        have HNX : Hid (k + 1 ≤ n ∧ ∀ j (h : j < l.length), j < k + 1 → setOk l[j]) := Lib.hid ⟨hlt, fun j hj hjk => by
          by_cases e : j = k
          · subst e
            rw [← hs]
            exact hsk
          · exact hok j hj (by omega)⟩
        obtain ⟨k2, hk2⟩ : ∃ k2, k2 = k + 1 := ⟨_, rfl⟩
        have e1' : (k : Int) + 1 = (k2 : Int) := by omega
        have w1' : IntKind.i64.wrap (k2 : Int) = (k2 : Int) := IntWalk.i64_in _ (by have := HR.out.1; omega)
        have HK2 : Hid (k2 = k + 1 ∧ k < n) := Lib.hid ⟨hk2, hlt⟩
        clear s1 s2 s3 s4 hsk hs hok hk2 hkl hk hlt
        go_wp2
        go_roundw
        case rel => exact ⟨k2, by have := HK2.out; omega, by go_num, fun j hj hjk => HNX.out.2 j hj (by have := HK2.out; omega), trivial⟩
        case measure => (have := HK2.out; simp [intOf]; omega)
      · have HF9 := Lib.hid (HFST.out wr)
        clear hs hok hkl hk hlt
        unfold setOk at hsk
        simp only [] at hsk
        rcases (show X < 0 ∨ (¬ X < 0 ∧ 65535 < X) ∨ (¬ X < 0 ∧ ¬ 65535 < X ∧ Y < 0) ∨ (¬ X < 0 ∧ ¬ 65535 < X ∧ ¬ Y < 0 ∧ 4294967296 ≤ Y) by omega) with t1 | ⟨t1, t2⟩ | ⟨t1, t2, t3⟩ | ⟨t1, t2, t3, t4⟩
        all_goals
          clear hsk
          go_wp2_with fail
          with_reducible refine (HF9.out).mono ?_
          rintro e w3 ⟨rfl, hb3⟩
          have HZ := Lib.hid (HB1.out.trans (hb3.mono HB1.out.size))
          clear hb3 HF9
          go_wp2
          go_ret
          exact ⟨rfl, HZ.out⟩
    · obtain rfl : n = k := by omega
      have ki : ¬ (n : Int) < (n : Int) := by omega
      have HOK : Hid (∀ s ∈ l, setOk s) := Lib.hid (fun s hs => by
        obtain ⟨j, hj, rfl⟩ := List.getElem_of_mem hs
        exact hok j hj (by rw [← HL.out]; exact hj))
      clear hok hk hlt
      have HSB : Hid ((setsB l).length = 6 * n) := Lib.hid (by rw [setsB_len, HL.out])
      obtain ⟨sb, hsb⟩ : ∃ sb, sb = 6 * n := ⟨_, rfl⟩
      rw [← hsb] at HSB
      have HSBN := Lib.hid hsb
      clear hsb
      have HU1 : Hid (Calls Try.prog 12 #[.slice A n c, .bool false] wr (FrPost wr ⟨4, 0, 0, setsB l⟩)) := Lib.hid (psettings_f A l n c wr (HA.out.up HB1.out) HL.out HOK.out HR.out.1)
      go_wp2_with fail
      with_reducible refine (HU1.out).mono ?_
      rintro e u1 ⟨E1, f1, rfl, hat1, hnil1, hcap1, hu1⟩
      have hub1 := HB1.out.trans (hu1.mono HB1.out.size)
      have HR1 := Lib.hid (pread_is (k := 4) (F := 0) (S := 0) hat1 (setsB_byte l) HSB.out hnil1 (by have h := hcap1; have e := HSB.out; simp only [] at h; omega) (by have := HR.out; have := HSBN.out; omega) (by have := HR.out; omega) (read_settings l HOK.out))
      have HUB1 := Lib.hid hub1
      have HWU1 := Lib.hid hu1
      clear hat1 hnil1 hcap1 hu1 hub1 HU1
      simp only [frm, HSB.out]
      go_wp2_with fail
      with_reducible refine (HR1.out).mono ?_
      rintro e q1 ⟨A1, c1, B1, d1, rfl, _, _, _, hbt1, _, _, _, _, hq1⟩
      have HQ1 := Lib.hid (HUB1.out.trans (hq1.mono HUB1.out.size))
      have HWQ1 := Lib.hid hq1
      have HBT1 := Lib.hid hbt1
      clear hbt1 hq1 HR1
      simp only [prt, flt, noFlt, List.length_nil, HL.out]
      go_upto_region 11 with fail
      obtain ⟨v1, hv1⟩ : ∃ v1, v1 = (q1.alloc (.cells #[.slice A1 0 c1, .int .i64 0, .int .i64 0, .int .i64 0, .int .i64 0, .slice B1 n d1, .bool false, .bool false, .bool false] 28)).alloc (.cells #[.bool false, .bool false, .int .i64 0] 30) := ⟨_, rfl⟩
      obtain ⟨hp1, hf1, hw1, hs1⟩ := kept_spec q1 (.slice A1 0 c1) (.int .i64 0) (.int .i64 0) (.int .i64 0) (.int .i64 0) (.slice B1 n d1) (.bool false) (.bool false) (.bool false) (.bool false) (.bool false) (.int .i64 0)
      rw [← show v1 = kept q1 _ _ _ _ _ _ _ _ _ _ _ _ from hv1] at hp1 hf1 hw1 hs1
      try simp only [show ((0 : Nat) : Int) = 0 from rfl]
      rw [← hv1]
      obtain ⟨g1, hg1⟩ : ∃ g, g = q1.heap.size := ⟨_, rfl⟩
      rw [← hg1] at hp1 hf1 ⊢
      have HV1 : Hid (Below w.heap.size w v1) := Lib.hid (HQ1.out.trans (hw1.mono HQ1.out.size))
      have HK1 : Hid (∀ W, Below v1.heap.size v1 W → W.heap[g1]? = some (.cells #[.slice A1 0 c1, .int .i64 0, .int .i64 0, .int .i64 0, .int .i64 0, .slice B1 n d1, .bool false, .bool false, .bool false] 28 (0, 0)) ∧ W.heap[g1 + 1]? = some (.cells #[.bool false, .bool false, .int .i64 0] 30 (0, 0))) := Lib.hid (fun W hb => ⟨(hb.block g1 (lt_of_heapK hp1)).trans hp1, (hb.block (g1 + 1) (lt_of_heapK hf1)).trans hf1⟩)
      have HGG1 := Lib.hid hg1
      clear hv1 hp1 hf1 hs1 hg1
      have HU2 : Hid (Calls Try.prog 13 #[.int .i64 (S : Int), .int .i64 (M : Int)] v1 (FrPost v1 ⟨8, 0, (S : Int), num M 4⟩)) := Lib.hid (pupdate_f S M v1 HR.out.2.2.2.1 HR.out.2.2.2.2.2.1)
      go_wp2_with fail
      with_reducible refine (HU2.out).mono ?_
      rintro e u2 ⟨E2, f2, rfl, hat2, hnil2, hcap2, hu2⟩
      have hub2 := HV1.out.trans (hu2.mono HV1.out.size)
      have HR2 := Lib.hid (pread_is (k := 8) (F := 0) (S := (S : Int)) hat2 (num_byte M 4) (num_len M 4) hnil2 (by have h := hcap2; have e := (num_len M 4); simp only [] at h; omega) (by have := HR.out; omega) (by have := HR.out; omega) (read_update (S : Int) M HR.out.2.2.2.2.1 HR.out.2.2.2.2.2.1))
      have HUB2 := Lib.hid hub2
      have HWU2 := Lib.hid hu2
      clear hat2 hnil2 hcap2 hu2 hub2 HU2
      simp only [frm, (num_len M 4)]
      go_wp2_with fail
      with_reducible refine (HR2.out).mono ?_
      rintro e q2 ⟨A2, c2, B2, d2, rfl, _, _, _, hbt2, _, _, _, _, hq2⟩
      have HQ2 := Lib.hid (HUB2.out.trans (hq2.mono HUB2.out.size))
      have HWQ2 := Lib.hid hq2
      
      clear hbt2 hq2 HR2
      simp only [prt, flt, noFlt, List.length_nil]
      go_upto_region 12 with fail
      obtain ⟨v2, hv2⟩ : ∃ v2, v2 = (q2.alloc (.cells #[.slice A2 0 c2, .int .i64 0, .int .i64 0, .int .i64 0, .int .i64 (M : Int), .slice B2 0 d2, .bool false, .bool false, .bool false] 28)).alloc (.cells #[.bool false, .bool false, .int .i64 0] 30) := ⟨_, rfl⟩
      obtain ⟨hp2, hf2, hw2, hs2⟩ := kept_spec q2 (.slice A2 0 c2) (.int .i64 0) (.int .i64 0) (.int .i64 0) (.int .i64 (M : Int)) (.slice B2 0 d2) (.bool false) (.bool false) (.bool false) (.bool false) (.bool false) (.int .i64 0)
      rw [← show v2 = kept q2 _ _ _ _ _ _ _ _ _ _ _ _ from hv2] at hp2 hf2 hw2 hs2
      try simp only [show ((0 : Nat) : Int) = 0 from rfl]
      rw [← hv2]
      obtain ⟨g2, hg2⟩ : ∃ g, g = q2.heap.size := ⟨_, rfl⟩
      rw [← hg2] at hp2 hf2 ⊢
      have HV2 : Hid (Below w.heap.size w v2) := Lib.hid (HQ2.out.trans (hw2.mono HQ2.out.size))
      have HK2 : Hid (∀ W, Below v2.heap.size v2 W → W.heap[g2]? = some (.cells #[.slice A2 0 c2, .int .i64 0, .int .i64 0, .int .i64 0, .int .i64 (M : Int), .slice B2 0 d2, .bool false, .bool false, .bool false] 28 (0, 0)) ∧ W.heap[g2 + 1]? = some (.cells #[.bool false, .bool false, .int .i64 0] 30 (0, 0))) := Lib.hid (fun W hb => ⟨(hb.block g2 (lt_of_heapK hp2)).trans hp2, (hb.block (g2 + 1) (lt_of_heapK hf2)).trans hf2⟩)
      have HGG2 := Lib.hid hg2
      clear hv2 hp2 hf2 hs2 hg2
      have HU3 : Hid (Calls Try.prog 14 #[.int .i64 (S : Int), .int .i64 (M : Int)] v2 (FrPost v2 ⟨3, 0, (S : Int), num M 4⟩)) := Lib.hid (prst_f S M v2 HR.out.2.2.2.1 HR.out.2.2.2.2.2.1)
      go_wp2_with fail
      with_reducible refine (HU3.out).mono ?_
      rintro e u3 ⟨E3, f3, rfl, hat3, hnil3, hcap3, hu3⟩
      have hub3 := HV2.out.trans (hu3.mono HV2.out.size)
      have HR3 := Lib.hid (pread_is (k := 3) (F := 0) (S := (S : Int)) hat3 (num_byte M 4) (num_len M 4) hnil3 (by have h := hcap3; have e := (num_len M 4); simp only [] at h; omega) (by have := HR.out; omega) (by have := HR.out; omega) (read_rst (S : Int) M (by have := HR.out; omega) HR.out.2.2.2.2.2.1))
      have HUB3 := Lib.hid hub3
      have HWU3 := Lib.hid hu3
      clear hat3 hnil3 hcap3 hu3 hub3 HU3
      simp only [frm, (num_len M 4)]
      go_wp2_with fail
      with_reducible refine (HR3.out).mono ?_
      rintro e q3 ⟨A3, c3, B3, d3, rfl, _, _, _, hbt3, _, _, _, _, hq3⟩
      have HQ3 := Lib.hid (HUB3.out.trans (hq3.mono HUB3.out.size))
      have HWQ3 := Lib.hid hq3
      
      clear hbt3 hq3 HR3
      simp only [prt, flt, noFlt, List.length_nil]
      go_upto_region 13 with fail
      obtain ⟨v3, hv3⟩ : ∃ v3, v3 = (q3.alloc (.cells #[.slice A3 0 c3, .int .i64 0, .int .i64 (M : Int), .int .i64 0, .int .i64 0, .slice B3 0 d3, .bool false, .bool false, .bool false] 28)).alloc (.cells #[.bool false, .bool false, .int .i64 0] 30) := ⟨_, rfl⟩
      obtain ⟨hp3, hf3, hw3, hs3⟩ := kept_spec q3 (.slice A3 0 c3) (.int .i64 0) (.int .i64 (M : Int)) (.int .i64 0) (.int .i64 0) (.slice B3 0 d3) (.bool false) (.bool false) (.bool false) (.bool false) (.bool false) (.int .i64 0)
      rw [← show v3 = kept q3 _ _ _ _ _ _ _ _ _ _ _ _ from hv3] at hp3 hf3 hw3 hs3
      try simp only [show ((0 : Nat) : Int) = 0 from rfl]
      rw [← hv3]
      obtain ⟨g3, hg3⟩ : ∃ g, g = q3.heap.size := ⟨_, rfl⟩
      rw [← hg3] at hp3 hf3 ⊢
      have HV3 : Hid (Below w.heap.size w v3) := Lib.hid (HQ3.out.trans (hw3.mono HQ3.out.size))
      have HK3 : Hid (∀ W, Below v3.heap.size v3 W → W.heap[g3]? = some (.cells #[.slice A3 0 c3, .int .i64 0, .int .i64 (M : Int), .int .i64 0, .int .i64 0, .slice B3 0 d3, .bool false, .bool false, .bool false] 28 (0, 0)) ∧ W.heap[g3 + 1]? = some (.cells #[.bool false, .bool false, .int .i64 0] 30 (0, 0))) := Lib.hid (fun W hb => ⟨(hb.block g3 (lt_of_heapK hp3)).trans hp3, (hb.block (g3 + 1) (lt_of_heapK hf3)).trans hf3⟩)
      have HGG3 := Lib.hid hg3
      clear hv3 hp3 hf3 hs3 hg3
      have HGL : Hid ((num S 4 ++ num M 4).length = 8) := Lib.hid (by rw [List.length_append, num_len, num_len])
      have HU4 : Hid (Calls Try.prog 15 #[.int .i64 (S : Int), .int .i64 (M : Int)] v3 (FrPost v3 ⟨7, 0, 0, num S 4 ++ num M 4⟩)) := Lib.hid (pgoaway_f S M v3 HR.out.2.2.2.1 HR.out.2.2.2.2.2.1)
      go_wp2_with fail
      with_reducible refine (HU4.out).mono ?_
      rintro e u4 ⟨E4, f4, rfl, hat4, hnil4, hcap4, hu4⟩
      have hub4 := HV3.out.trans (hu4.mono HV3.out.size)
      have HR4 := Lib.hid (pread_is (k := 7) (F := 0) (S := 0) hat4 (fun x hx => by rcases List.mem_append.1 hx with h | h; exact num_byte S 4 x h; exact num_byte M 4 x h) HGL.out hnil4 (by have h := hcap4; have e := HGL.out; simp only [] at h; omega) (by have := HR.out; omega) (by have := HR.out; omega) (read_goaway S M HR.out.2.2.2.1 HR.out.2.2.2.2.2.1))
      have HUB4 := Lib.hid hub4
      have HWU4 := Lib.hid hu4
      clear hat4 hnil4 hcap4 hu4 hub4 HU4
      simp only [frm, HGL.out]
      go_wp2_with fail
      with_reducible refine (HR4.out).mono ?_
      rintro e q4 ⟨A4, c4, B4, d4, rfl, _, _, _, hbt4, _, _, _, _, hq4⟩
      have HQ4 := Lib.hid (HUB4.out.trans (hq4.mono HUB4.out.size))
      have HWQ4 := Lib.hid hq4
      
      clear hbt4 hq4 HR4
      simp only [prt, flt, noFlt, List.length_nil]
      go_upto_region 14 with fail
      obtain ⟨v4, hv4⟩ : ∃ v4, v4 = (q4.alloc (.cells #[.slice A4 0 c4, .int .i64 0, .int .i64 (M : Int), .int .i64 (S : Int), .int .i64 0, .slice B4 0 d4, .bool false, .bool false, .bool false] 28)).alloc (.cells #[.bool false, .bool false, .int .i64 0] 30) := ⟨_, rfl⟩
      obtain ⟨hp4, hf4, hw4, hs4⟩ := kept_spec q4 (.slice A4 0 c4) (.int .i64 0) (.int .i64 (M : Int)) (.int .i64 (S : Int)) (.int .i64 0) (.slice B4 0 d4) (.bool false) (.bool false) (.bool false) (.bool false) (.bool false) (.int .i64 0)
      rw [← show v4 = kept q4 _ _ _ _ _ _ _ _ _ _ _ _ from hv4] at hp4 hf4 hw4 hs4
      try simp only [show ((0 : Nat) : Int) = 0 from rfl]
      rw [← hv4]
      obtain ⟨g4, hg4⟩ : ∃ g, g = q4.heap.size := ⟨_, rfl⟩
      rw [← hg4] at hp4 hf4 ⊢
      have HV4 : Hid (Below w.heap.size w v4) := Lib.hid (HQ4.out.trans (hw4.mono HQ4.out.size))
      have HK4 : Hid (∀ W, Below v4.heap.size v4 W → W.heap[g4]? = some (.cells #[.slice A4 0 c4, .int .i64 0, .int .i64 (M : Int), .int .i64 (S : Int), .int .i64 0, .slice B4 0 d4, .bool false, .bool false, .bool false] 28 (0, 0)) ∧ W.heap[g4 + 1]? = some (.cells #[.bool false, .bool false, .int .i64 0] 30 (0, 0))) := Lib.hid (fun W hb => ⟨(hb.block g4 (lt_of_heapK hp4)).trans hp4, (hb.block (g4 + 1) (lt_of_heapK hf4)).trans hf4⟩)
      have HGG4 := Lib.hid hg4
      clear hv4 hp4 hf4 hs4 hg4
      have hvv2 := HWU2.out.trans ((HWQ2.out.trans (hw2.mono HWQ2.out.size)).mono HWU2.out.size)
      have hvv3 := HWU3.out.trans ((HWQ3.out.trans (hw3.mono HWQ3.out.size)).mono HWU3.out.size)
      have hvv4 := HWU4.out.trans ((HWQ4.out.trans (hw4.mono HWQ4.out.size)).mono HWU4.out.size)
      have hvv24 := hvv3.trans (hvv4.mono hvv3.size)
      have hvv14 := hvv2.trans (hvv24.mono hvv2.size)
      have HV14 := Lib.hid hvv14
      have HQV1 := Lib.hid (hw1.trans (hvv14.mono hw1.size))
      obtain ⟨P1, F1⟩ := HK1.out v4 hvv14
      obtain ⟨P2, F2⟩ := HK2.out v4 hvv24
      obtain ⟨P3, F3⟩ := HK3.out v4 hvv4
      obtain ⟨P4, F4⟩ := HK4.out v4 (Below.refl _ _)
      have b1 : v4.cell? ⟨g1 + 1, 0, none⟩ = some (.bool false) := cell_of_row _ _ 0 _ 30 _ F1
      have b2 : v4.cell? ⟨g2 + 1, 0, none⟩ = some (.bool false) := cell_of_row _ _ 0 _ 30 _ F2
      have b3 : v4.cell? ⟨g3 + 1, 0, none⟩ = some (.bool false) := cell_of_row _ _ 0 _ 30 _ F3
      have b4 : v4.cell? ⟨g4 + 1, 0, none⟩ = some (.bool false) := cell_of_row _ _ 0 _ 30 _ F4
      have a5 : v4.cell? ⟨g1, 5, none⟩ = some (.slice B1 n d1) := cell_of_row _ _ 5 _ 28 _ P1
      have a7 : v4.cell? ⟨g1, 7, none⟩ = some (.bool false) := cell_of_row _ _ 7 _ 28 _ P1
      have c4 : v4.cell? ⟨g2, 4, none⟩ = some (.int .i64 (M : Int)) := cell_of_row _ _ 4 _ 28 _ P2
      have e2 : v4.cell? ⟨g3, 2, none⟩ = some (.int .i64 (M : Int)) := cell_of_row _ _ 2 _ 28 _ P3
      have f3_ : v4.cell? ⟨g4, 3, none⟩ = some (.int .i64 (S : Int)) := cell_of_row _ _ 3 _ 28 _ P4
      have f2_ : v4.cell? ⟨g4, 2, none⟩ = some (.int .i64 (M : Int)) := cell_of_row _ _ 2 _ 28 _ P4
      clear P1 F1 P2 F2 P3 F3 P4 F4 hvv2 hvv3 hvv4 hvv24 hvv14 hw1 hw2 hw3 hw4
      go_wp2
      go_loopw [20] (fun i wr => ∃ k : Nat, k ≤ n ∧ i = .int .i64 (k : Int) ∧ Below v4.heap.size v4 wr) (fun i _ => n - (intOf i).toNat)
      case atStart => exact ⟨0, Nat.zero_le _, rfl, Below.refl _ _⟩
      case round =>
        obtain ⟨k, hk, rfl, hbw⟩ := hrel
        have HBW := Lib.hid hbw
        have HVW := Lib.hid (HV4.out.trans (hbw.mono HV4.out.size))
        have hw1r := HV14.out.trans (hbw.mono HV14.out.size)
        have y5 : wr.cell? ⟨g1, 5, none⟩ = some (.slice B1 n d1) := cell_of_row _ _ 5 _ 28 _ (HK1.out wr hw1r).1
        by_cases hlt : k < n
        · have ki : (k : Int) < (n : Int) := by omega
          have hkl : k < l.length := by have := HL.out; omega
          obtain ⟨ba, o, rfl, hba, hc⟩ := (HA.out.up HVW.out).pos (by omega)
          obtain ⟨bq, oq, rfl, hbq, hcq⟩ := (HBT1.out.up (HQV1.out.trans (hbw.mono HQV1.out.size))).pos (by omega)
          obtain ⟨c0, c1⟩ := hc k hkl
          obtain ⟨e0, e1⟩ := hcq k hkl
          obtain ⟨X, hX⟩ : ∃ X, X = l[k].1 := ⟨_, rfl⟩
          obtain ⟨Y, hY⟩ : ∃ Y, Y = l[k].2 := ⟨_, rfl⟩
          rw [← hX] at c0 e0
          rw [← hY] at c1 e1
          obtain ⟨k2, hk2⟩ : ∃ k2, k2 = k + 1 := ⟨_, rfl⟩
          have e1' : (k : Int) + 1 = (k2 : Int) := by omega
          have w1' : IntKind.i64.wrap (k2 : Int) = (k2 : Int) := IntWalk.i64_in _ (by have := HR.out.1; omega)
          have HLT : Hid (k < n ∧ k2 = k + 1) := Lib.hid ⟨hlt, hk2⟩
          clear hc hcq hX hY hk2 hkl hlt hk hbw hw1r b1 b2 b3 b4 a5 a7 c4 e2 f3_ f2_
          go_wp2
          go_quiet (fail)
          go_wp2
          go_roundw
          case rel => exact ⟨k2, by have := HLT.out; omega, by go_num, below_drewN HBW.out _⟩
          case measure => (have := HLT.out; simp [intOf]; omega)
        · obtain rfl : n = k := by omega
          have ki : ¬ (n : Int) < (n : Int) := by omega
          clear hlt hk hbw hw1r b1 b2 b3 b4 a5 a7 c4 e2 f3_ f2_ y5
          obtain ⟨w9, hw9⟩ : ∃ w9, w9 = wr := ⟨_, rfl⟩
          rw [← hw9] at HVW HBW ⊢
          clear hw9
          have hpb : IntKind.u8.wrap (p : Int) = (p : Int) := by rw [IntKind.wrap_u8']; have := HR.out; omega
          have hatb : Hid (At .u8 (w9.alloc (.cells #[.int .u8 (p : Int)] 5)) (w9.alloc (.cells #[.int .u8 (p : Int)] 5)).heap.size B b) := Lib.hid (At.up HB.out (HVW.out.alloc HVW.out.size _))
          have HZR := Lib.hid fun (W : World) (g cap : Nat) (ho : W.ownsRow w9.heap.size 5 1 (.slice (some ⟨g, 0, none⟩) (1 + m) cap) (1 + m) (cn .u8 ([p] ++ b))) (hb : w9.heap.size ≤ W.heap.size) => run_append_zeros W 25 w9.heap.size g (1 + m) cap p ([p] ++ b) ho (by have := HR.out; omega) (by have := HR.out; omega) hb
          have HLN : Hid (([p] ++ b).length = 1 + m) := Lib.hid (by simp [HM.out]; omega)
          go_wp2_with (first
            | (at_builtin; refine wpList_append_at rfl (.tmp 191) (.tmp 192) rfl w9.heap.size _ [p] rfl (own_one w9 p) B b _ d HM.out rfl HD0.out _ hatb.out (by rw [HM.out]; have := HR.out; simp; omega) (by simp) ?_
               intro v5 w5 hown5 hg5
               rw [HLN.out] at hown5
               obtain ⟨gb, cb, hv5, _, ho5⟩ := own_form hown5 (by omega)
               subst hv5
               have hb5 : Below w9.heap.size w9 w5 := ((Below.refl w9.heap.size w9).alloc (Nat.le_refl _) _).grown hg5 (by simp) (own_block (own_one w9 p))
               obtain ⟨v6, w6, hr6, ho6, hg6⟩ := HZR.out w5 gb cb ho5 hb5.size
               have hb6 : Below w9.heap.size w9 w6 := hb5.grown hg6 hb5.size (own_block ho5)
               obtain ⟨gc, cc, hv6, hgc, ho7⟩ := own_form ho6 (by omega)
               subst hv6
               have HB6 := Lib.hid hb6
               have HO7 := Lib.hid ho7
               have HR6 := Lib.hid hr6
               clear hown5 hg5 ho5 hb5 hr6 ho6 hg6 hb6 ho7 hgc)
            | (at_builtin; refine Lib.wpList_append_run _ rfl (.tmp 193) (.tmp 194) 25 3 rfl _ _ rfl rfl _ _ HR6.out ?_))
          obtain ⟨P1, hP1⟩ : ∃ P1, P1 = p + 1 := ⟨_, rfl⟩
          have eP : (p : Int) + 1 = (P1 : Int) := by omega
          have wP : IntKind.i64.wrap (P1 : Int) = (P1 : Int) := IntWalk.i64_in _ (by have := HR.out; omega)
          have HXB : Hid (∀ x ∈ [p] ++ b ++ List.replicate p 0, x < 256) := Lib.hid (fun x hx => by
            rcases List.mem_append.1 hx with h | h
            · rcases List.mem_append.1 h with h | h
              · have : x = p := by simpa using h
                have := HR.out
                omega
              · exact HBY.out x h
            · have := List.eq_of_mem_replicate h
              omega)
          have HXL : Hid (([p] ++ b ++ List.replicate p 0).length = 1 + m + p) := Lib.hid (by simp [HM.out]; omega)
          have HR5 := Lib.hid (pread_is (k := 0) (F := 9) (S := (S : Int)) (At.of_own HO7.out) HXB.out HXL.out (fun h => by cases h) (own_cap HO7.out) (by have := HR.out; omega) (by have := HR.out; omega) (show Fr.read ⟨0, 9, (S : Int), [p] ++ b ++ List.replicate p 0⟩ = (⟨b, P1, 0, 0, 0, [], true, false, false⟩, noFlt) by rw [hP1]; exact read_padded (S : Int) (by have := HR.out; omega) p b))
          clear hP1 hatb
          with_reducible refine (HR5.out).mono ?_
          rintro e q5 ⟨A5, c5, B5, d5, rfl, hat5, _, _, _, _, _, _, _, hq5⟩
          have HQ9 := Lib.hid (HVW.out.trans (HB6.out.mono HVW.out.size))
          have HQ5 := Lib.hid (HQ9.out.trans (hq5.mono HQ9.out.size))
          have HWQ5 := Lib.hid hq5
          have HAT5 := Lib.hid hat5
          clear hat5 hq5 HR5
          simp only [prt, flt, noFlt, List.length_nil, HM.out]
          go_upto_region 23 with fail
          obtain ⟨v5, hv5⟩ : ∃ v5, v5 = (q5.alloc (.cells #[.slice A5 m c5, .int .i64 (P1 : Int), .int .i64 0, .int .i64 0, .int .i64 0, .slice B5 0 d5, .bool true, .bool false, .bool false] 28)).alloc (.cells #[.bool false, .bool false, .int .i64 0] 30) := ⟨_, rfl⟩
          obtain ⟨hp5, hf5, hw5, hs5⟩ := kept_spec q5 (.slice A5 m c5) (.int .i64 (P1 : Int)) (.int .i64 0) (.int .i64 0) (.int .i64 0) (.slice B5 0 d5) (.bool true) (.bool false) (.bool false) (.bool false) (.bool false) (.int .i64 0)
          rw [← show v5 = kept q5 _ _ _ _ _ _ _ _ _ _ _ _ from hv5] at hp5 hf5 hw5 hs5
          try simp only [show ((0 : Nat) : Int) = 0 from rfl]
          rw [← hv5]
          obtain ⟨g5, hg5⟩ : ∃ g, g = q5.heap.size := ⟨_, rfl⟩
          rw [← hg5] at hp5 hf5 ⊢
          have HV5 : Hid (Below w.heap.size w v5) := Lib.hid (HQ5.out.trans (hw5.mono HQ5.out.size))
          have HK5 : Hid (∀ W, Below v5.heap.size v5 W → W.heap[g5]? = some (.cells #[.slice A5 m c5, .int .i64 (P1 : Int), .int .i64 0, .int .i64 0, .int .i64 0, .slice B5 0 d5, .bool true, .bool false, .bool false] 28 (0, 0)) ∧ W.heap[g5 + 1]? = some (.cells #[.bool false, .bool false, .int .i64 0] 30 (0, 0))) := Lib.hid (fun W hb => ⟨(hb.block g5 (lt_of_heapK hp5)).trans hp5, (hb.block (g5 + 1) (lt_of_heapK hf5)).trans hf5⟩)
          have HGG5 := Lib.hid hg5
          clear hv5 hp5 hf5 hs5 hg5
          have HW5 := Lib.hid hw5
          clear hw5
          obtain ⟨P5, F5⟩ := HK5.out v5 (Below.refl _ _)
          have s0 : v5.cell? ⟨g5, 0, none⟩ = some (.slice A5 m c5) := cell_of_row _ _ 0 _ 28 _ P5
          have s1 : v5.cell? ⟨g5, 1, none⟩ = some (.int .i64 (P1 : Int)) := cell_of_row _ _ 1 _ 28 _ P5
          have s6 : v5.cell? ⟨g5, 6, none⟩ = some (.bool true) := cell_of_row _ _ 6 _ 28 _ P5
          have r0 : v5.cell? ⟨g5 + 1, 0, none⟩ = some (.bool false) := cell_of_row _ _ 0 _ 30 _ F5
          have HBT5 : Hid (Calls Try.prog 16 #[.slice A5 m c5, .slice B m d] v5 fun e w' => e = .returned (.bool true) ∧ v5 = w') := Lib.hid (by
            have := bytes_any A5 B b b m m c5 d v5 _ _ (HAT5.out.up HW5.out) (At.up HB.out HV5.out) HBY.out HBY.out HM.out HM.out
            rwa [decide_eq_true (rfl : b = b)] at this)
          obtain ⟨AX, hAX⟩ : ∃ AX, AX = cutAt (some ⟨gc, 0, none⟩) cc 0 := ⟨_, rfl⟩
          have hslp := fun (W : World) => slice_h (some ⟨gc, 0, none⟩) (1 + m + p) cc p W (by have := own_cap HO7.out; omega)
          rw [← hAX] at hslp
          have jp0 : (0 : Int) ≤ (p : Int) := by omega
          have jpc : (p : Int) ≤ (cc : Int) := by have := own_cap HO7.out; omega
          obtain ⟨fc, hfc, hor⟩ := read_short (S : Int) (by have := HR.out; omega) p b
          have hbel : Below w6.heap.size w6 v5 := HWQ5.out.trans (HW5.out.mono HWQ5.out.size)
          have HR7 := Lib.hid (pread_is (k := 0) (F := 8) (S := (S : Int)) (l := ([p] ++ b ++ List.replicate p 0).take p) (n := p) (A := AX) (c := cc) (by rw [hAX]; exact ((At.of_own HO7.out).up hbel).take (by rw [HXL.out]; exact own_cap HO7.out)) (fun x hx => HXB.out x (List.mem_of_mem_take hx)) (by rw [List.length_take, HXL.out]; omega) (fun h => by have := cutAt_none (A := some ⟨gc, 0, none⟩) (fun h => by cases h) (hAX ▸ h); have := own_cap HO7.out; omega) (by have := own_cap HO7.out; omega) (by have := HR.out; omega) (by have := HR.out; omega) hfc)
          have HOR := Lib.hid hor
          clear hfc hor hbel hAX P5 F5
          go_wp2_with fail
          with_reducible refine (HBT5.out).mono ?_
          rintro e w10 ⟨rfl, rfl⟩
          clear HBT5
          go_wp2_with fail
          with_reducible refine (HR7.out).mono ?_
          rintro e q7 ⟨A7, c7, B7, d7, rfl, _, _, _, _, _, _, _, _, hq7⟩
          obtain ⟨_, F7⟩ := HK5.out q7 hq7
          have r0 : q7.cell? ⟨g5 + 1, 0, none⟩ = some (.bool false) := cell_of_row _ _ 0 _ 30 _ F7
          have r1 : q7.cell? ⟨g5 + 1, 1, none⟩ = some (.bool false) := cell_of_row _ _ 1 _ 30 _ F7
          have r2 : q7.cell? ⟨g5 + 1, 2, none⟩ = some (.int .i64 0) := cell_of_row _ _ 2 _ 30 _ F7
          have z0 : q7.frozen? ⟨g5 + 1, 0, none⟩ = false := frozen_of_row _ _ 0 _ 30 F7
          have z1 : q7.frozen? ⟨g5 + 1, 1, none⟩ = false := frozen_of_row _ _ 1 _ 30 F7
          have z2 : q7.frozen? ⟨g5 + 1, 2, none⟩ = false := frozen_of_row _ _ 2 _ 30 F7
          have HF7 := Lib.hid F7
          have HQ7 := Lib.hid (HV5.out.trans (hq7.mono HV5.out.size))
          have HG5 : Hid (w.heap.size ≤ g5 + 1) := Lib.hid (by have := HQ5.out.size; have := HGG5.out; omega)
          clear F7 hq7 HR7
          simp only [wrong, prt, flt, noPrt, List.length_nil]
          go_upto_region 26 with fail
          obtain ⟨wz, hwz⟩ : ∃ wz, wz = ((q7.setCell ⟨g5 + 1, 0, none⟩ (.bool true)).setCell ⟨g5 + 1, 1, none⟩ (.bool true)).setCell ⟨g5 + 1, 2, none⟩ (.int .i64 (fc : Int)) := ⟨_, rfl⟩
          have HFZ : Hid (wz.heap[g5 + 1]? = some (.cells #[.bool true, .bool true, .int .i64 (fc : Int)] 30 (0, 0))) := Lib.hid (by rw [hwz]; exact heapP3 HF7.out _ _ _)
          have HBZ : Hid (Below w.heap.size w wz) := Lib.hid (by
            rw [hwz]
            exact ((HQ7.out.setCell (p := ⟨g5 + 1, 0, none⟩) HG5.out _).setCell (p := ⟨g5 + 1, 1, none⟩) HG5.out _).setCell (p := ⟨g5 + 1, 2, none⟩) HG5.out _)
          rw [← hwz]
          have HF9 := Lib.hid (HFST.out wz)
          clear hwz r0 r1 r2 z0 z1 z2
          go_wp2_with fail
          with_reducible refine (HF9.out).mono ?_
          rintro e w11 ⟨rfl, hb11⟩
          have hf11 := (hb11.block (g5 + 1) (lt_of_heapK HFZ.out)).trans HFZ.out
          have HZ := Lib.hid (HBZ.out.trans (hb11.mono HBZ.out.size))
          have y0 : w11.cell? ⟨g5 + 1, 0, none⟩ = some (.bool true) := cell_of_row _ _ 0 _ 30 _ hf11
          have y1 : w11.cell? ⟨g5 + 1, 1, none⟩ = some (.bool true) := cell_of_row _ _ 1 _ 30 _ hf11
          have y2 : w11.cell? ⟨g5 + 1, 2, none⟩ = some (.int .i64 (fc : Int)) := cell_of_row _ _ 2 _ 30 _ hf11
          clear hf11 hb11 HF9
          rcases HOR.out with h | ⟨h, h'⟩
          · rw [h, show ((1 : Nat) : Int) = 1 from rfl] at y2
            clear h
            go_wp2
            go_ret
            exact ⟨rfl, HZ.out⟩
          · rw [h', show ((6 : Nat) : Int) = 6 from rfl] at y2
            have kp : ((p : Int) == 0) = true := by rw [h]; rfl
            clear h h'
            go_wp2
            go_ret
            exact ⟨rfl, HZ.out⟩
theorem walk_any (A B : Option Addr) (l : List (Int × Int)) (b : List Nat) (n c m d : Nat) (stream N pad : Int) (w : World) (hA : AtS w w.heap.size A l) (hl : l.length = n) (hB : At .u8 w w.heap.size B b) (hby : ∀ x ∈ b, x < 256) (hm : b.length = m) (hd0 : B = none → d = 0) (hmd : m ≤ d) : Calls Try.prog 4 #[.slice A n c, .int .i64 stream, .int .i64 N, .slice B m d, .int .i64 pad] w (YesP w) := by
  by_cases h : 200 < n ∨ 200 < m ∨ stream < 1 ∨ 2147483647 < stream ∨ N < 1 ∨ 2147483647 < N ∨ pad < 0 ∨ 255 < pad
  · exact walk_out A B n c m d stream N pad w h
  · obtain ⟨S, rfl⟩ : ∃ S : Nat, stream = (S : Int) := ⟨stream.toNat, by omega⟩
    obtain ⟨M, rfl⟩ : ∃ M : Nat, N = (M : Int) := ⟨N.toNat, by omega⟩
    obtain ⟨p, rfl⟩ : ∃ p : Nat, pad = (p : Int) := ⟨pad.toNat, by omega⟩
    exact walk_in A B l b n c m d S M p w hA hl hB hby hm hd0 hmd (by omega) (by omega) (by omega) (by omega) (by omega) (by omega) (by omega)
end partBack
end Go.Proofs.Ytelbldhnlmggiaa
