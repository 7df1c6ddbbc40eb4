/- Joined of: P12B, P12P, P12D. -/
import Derived.Test.YtdcfhkiajeiaoaaDoorJ12D
import Derived.Test.YtdcfhkiajeiaoaaDoorJ12B
/- The program's string: a byte of a scalar, the end. -/
namespace Go.Proofs.YtdcfhkiajeiaoaaDoor
set_option maxRecDepth 100000
open Go.ChangeShapes Go.WideShapes Go.ChangeAt Go.RowKit
set_option linter.unusedVariables false
set_option linter.unusedSimpArgs false

/-- what First tells of a scalar's bytes that are begun and one more -/
theorem first_more {b : List Int} {x : Int} (h : b = [] ∨ how b = 1) : (how (b ++ [x]) = 0 → fN (b ++ [x]) = b.length ∧ fOk (b ++ [x]) = false)
    ∧ (how (b ++ [x]) = 1 → fN (b ++ [x]) = b.length + 1 ∧ fOk (b ++ [x]) = false)
    ∧ (how (b ++ [x]) = 2 → fN (b ++ [x]) = b.length + 1 ∧ fOk (b ++ [x]) = true ∧ fC (b ++ [x]) = ubits (b ++ [x])) := by
  have hl : (b ++ [x]).length = b.length + 1 := by simp
  have ht : (b ++ [x]).take (b.length + 1) = b ++ [x] := List.take_of_length_le (by omega)
  have hp : ∀ j, 1 ≤ j → j ≤ b.length → how ((b ++ [x]).take j) = 1 := fun j h1 h2 => by
    rw [List.take_append_of_le_length h2]
    rcases h with rfl | h
    · simp at h2; omega
    · by_cases hj : j = b.length
      · rw [hj, List.take_length]; exact h
      · exact how_pre (.inl h) j h1 (by omega)
  refine ⟨fun h0 => ?_, fun h1 => ?_, fun h2 => ?_⟩
  · obtain ⟨a1, a2, _⟩ := first_no (b := b ++ [x]) (k := b.length) (by omega) hp (.inr (by rw [ht]; exact h0))
    exact ⟨a2, a1⟩
  · obtain ⟨a1, a2, _⟩ := first_no (b := b ++ [x]) (k := b.length + 1) (by omega) (fun j h3 h4 => by
      by_cases hj : j = b.length + 1
      · rw [hj, ht]; exact h1
      · exact hp j h3 (by omega)) (.inl (by omega))
    exact ⟨a2, a1⟩
  · obtain ⟨a1, a2, a3⟩ := first_yes (b := b ++ [x]) (k := b.length) (by omega) hp (by rw [ht]; exact h2)
    exact ⟨a2, a1, by rw [a3, ht]⟩
theorem one_u8 (w : World) (x : Int) : ∀ j u, ([Value.int .u8 x] : List Value)[j]? = some u → (w.alloc (.cells #[.int .u8 x] 5)).cell? ((⟨w.heap.size, 0, none⟩ : Addr).add j) = some u := fun j u hu => by
  cases j with
  | zero => simp at hu; subst hu; exact (Blk.new w 5 #[.int .u8 x]).cell 0
  | succ j => simp at hu
theorem info_u8p : ∃ ti, Tryd.prog.info? 5 = some ti ∧ ti.size = 1 := by
  obtain ⟨i, h1, h2, h3, h4⟩ := info_parts info_u8
  exact ⟨i, h1, h3⟩
set_option maxHeartbeats 8000000 in
theorem takeByte_any (base g bb : Nat) (sv : Value) (s : Ss) (x : Int) (w : World) (h : StrIs w base g bb sv s) (hv : s.v = false) (he : s.e = 0) (hx0 : 32 ≤ x) (hx1 : x ≤ 255) (hT : Tab w) (hlead : 0 < base) (hbase : base ≤ w.heap.size) (hlo : s.o.length + 1 ≤ 100000) :
    Calls Tryd.prog 48 #[.pointer (some ⟨g, 0, none⟩), .int .u8 x] w (PRes base g bb sv (bytS s x).2 (.int .i64 (bytS s x).1) w) := by
  obtain ⟨d, z, hm, hd⟩ := h.m
  have hok := h.ok
  have hb := hok.b
  have hbb := hok.bb
  have hk := hok.k
  obtain ⟨f0, f1, f2⟩ := first_more (x := x) hb
  have hbl : s.b.length ≤ 3 := by
    rcases hb with h | h
    · rw [h]; simp
    · exact (how_len1 h).2
  have hat : atF s = 0 := by unfold atF; rw [hv, he]; rfl
  rw [hat] at hm
  have hres : ∀ r s', bytS s x = (r, s') → ∀ e w', PRes base g bb sv s' (.int .i64 r) w e w' → PRes base g bb sv (bytS s x).2 (.int .i64 (bytS s x).1) w e w' := fun r s' hh e w' hp => by rw [hh]; exact hp
  have hbd : how (s.b ++ [x]) = 0 → bytS s x = (4, s) := fun h0 => by unfold bytS; rw [if_pos h0]
  have hb5 : how (s.b ++ [x]) ≠ 0 → 0 < s.k → bytS s x = (5, s) := fun h0 h1 => by unfold bytS; rw [if_neg h0, if_pos h1]
  have hb1 : how (s.b ++ [x]) = 1 → ¬ 0 < s.k → bytS s x = (0, { s with b := s.b ++ [x] }) := fun h0 h1 => by unfold bytS; rw [if_neg (by omega), if_neg h1, if_pos h0]
  have hb6 : how (s.b ++ [x]) = 2 → ¬ 0 < s.k → noncharB (ubits (s.b ++ [x])) = true → bytS s x = (6, s) := fun h0 h1 h2 => by unfold bytS; rw [if_neg (by omega), if_neg h1, if_neg (by omega), if_pos h2]
  have hb2 : how (s.b ++ [x]) = 2 → ¬ 0 < s.k → noncharB (ubits (s.b ++ [x])) = false → bytS s x = (0, { s with o := s.o ++ [ubits (s.b ++ [x])], b := [] }) := fun h0 h1 h2 => by unfold bytS; rw [if_neg (by omega), if_neg h1, if_neg (by omega), if_neg (by rw [h2]; decide)]
  have hok2 := byt_ok hok he hv (x := x) (by omega) hx1
  have hsame : ∀ W, StrM W base g bb sv 0 s.o.length d z s.k s.b (txt s.o) → StrIs W base g bb sv s := fun W hW => ⟨hok, h.len, d, z, by rw [hat]; exact hW, hd⟩
  have hbx : Bts (s.b ++ [x]) := snoc_mem hbb ⟨by omega, hx1⟩
  have hub : how (s.b ++ [x]) = 2 → 0 ≤ ubits (s.b ++ [x]) ∧ ubits (s.b ++ [x]) ≤ 1114111 := fun h2 => by
    have := of_decide_eq_true (bits_isB hbx h2)
    omega
  have htl := txt_len4 s.o
  obtain ⟨ti, hti1, hti2⟩ := info_u8p
  have HT := Lib.hid hT
  have HM := Lib.hid hm
  have HTI := Lib.hid (And.intro hti1 hti2)
  obtain ⟨m, hmm⟩ : ∃ m, s.b.length = m := ⟨_, rfl⟩
  have HMM := Lib.hid hmm
  rw [hmm] at f0 f1 f2 hbl
  have HF0 := Lib.hid f0
  have HF1 := Lib.hid f1
  have HF2 := Lib.hid f2
  have hgb := hm.gb
  have hlb := hm.lb
  have HBW : Hid (U8r w base (slB bb m) s.b) := Lib.hid (by have := hm.beg; rwa [hmm] at this)
  have c3 : w.cell? ⟨g, 3, none⟩ = some (.slice (some ⟨bb, 0, none⟩) m 4) := by have := hm.blk.cell 3; rw [hmm] at this; exact this
  have hlt : g < w.heap.size := hm.blk.lt
  have HXB := Lib.hid hbx
  have HK := Lib.hid hk
  have HHD := Lib.hid hd
  have HR := Lib.hid hres
  have HB0 := Lib.hid hbd
  have HB5 := Lib.hid hb5
  have HB1 := Lib.hid hb1
  have HB6 := Lib.hid hb6
  have HB2 := Lib.hid hb2
  have HOK2 := Lib.hid hok2
  have HSM := Lib.hid hsame
  have HUB := Lib.hid hub
  clear hT hm hti1 hti2 f0 f1 f2 hb hbb hbx hk hd hres hbd hb5 hb1 hb6 hb2 hok2 hsame hub h hok hmm
  go_enter Tryd.func48, Tryd.ntmps48
  have HBA : Hid ((w.alloc (.cells #[.int .u8 x] 5)).ownsRow base 5 1 (.slice (some ⟨bb, 0, none⟩) m 4) m (s.b.map (Value.int .u8))) := Lib.hid (by
    have h1 := own_below HBW.out ((Below.refl _ _).alloc (Nat.le_refl _) (.cells #[.int .u8 x] 5)) (Nat.le_refl _)
    have h2 : (w.alloc (.cells #[.int .u8 x] 5)).ownsRow base 5 1 (slB bb m) s.b.length (s.b.map (Value.int .u8)) := h1
    rw [HMM.out] at h2
    exact h2)
  have HOC : Hid (∀ u ∈ ([.int .u8 x] : List Value), u.oneCell' = true) := Lib.hid (by simp [Value.oneCell'])
  have hm4 : m + 1 ≤ 4 := by omega
  have H1U := Lib.hid (one_u8 w x)
  go_wp2_with (at_builtin; refine wpList_append_fits _ rfl (.tmp 12) (.tmp 14) 22 rfl base 5 ti 1 Tryd.underlying22 HTI.out.1 HTI.out.2 bb m 4 _ rfl HBA.out ⟨w.heap.size, 0, none⟩ 1 1 [.int .u8 x] rfl rfl H1U.out HOC.out hm4 ?_; intro w2 hO2 hG2; have HO2 := Lib.hid hO2; have HG2 := Lib.hid hG2; clear hO2 hG2)
  have HO3 : Hid (U8r w2 base (slB bb (m + 1)) (s.b ++ [x])) := Lib.hid (by
    have h1 := HO2.out
    have e : (s.b ++ [x]).length = m + 1 := by rw [List.length_append, HMM.out]; rfl
    show w2.ownsRow base 5 1 (slB bb (m + 1)) (s.b ++ [x]).length ((s.b ++ [x]).map (Value.int .u8))
    rw [e, List.map_append]
    exact h1)
  have HLX : Hid ((s.b ++ [x]).length = m + 1) := Lib.hid (by rw [List.length_append, HMM.out]; rfl)
  have hb1w : Below w.heap.size w (w.alloc (.cells #[.int .u8 x] 5)) := (Below.refl _ _).alloc (Nat.le_refl _) _
  have HF : Hid (SFr g bb sv w w2) := Lib.hid (SFr.grownB hb1w HG2.out)
  have HM2 : Hid (StrM w2 base g bb sv 0 s.o.length d z s.k s.b (txt s.o)) := Lib.hid (by
    have h1 := HM.out.blk
    have hal : ∀ i, i < w.heap.size → i ≠ bb → w2.heap[i]? = w.heap[i]? := fun i hi hne => (HG2.out.block i (by rw [World.size_alloc]; omega) (fun e => hne (by injection e))).trans (hb1w.block i hi)
    refine ⟨(hal g hlt hgb).trans HM.out.blk, ?_, by rw [HMM.out]; have h2 := rown_take (j := m) HO3.out HLX.out (by omega); rw [List.take_left' HMM.out] at h2; exact h2, HM.out.ne, HM.out.lg⟩
    have ho := HM.out.own
    refine ⟨ho.1, ?_⟩
    rcases ho.2 with h2 | ⟨q, cap, cur, hq, hb', hh, h3⟩
    · exact .inl h2
    · exact .inr ⟨q, cap, cur, hq, hb', (hal q (Array.getElem?_eq_some_iff.1 hh).1 (fun e => HM.out.ne (by rw [hq, ← e]; rfl))).trans hh, h3⟩)
  clear HBA HOC hm4 H1U hb1w HO2
  have hs2 : w.heap.size ≤ w2.heap.size := HF.out.size
  have HT2 : Hid (Tab w2) := Lib.hid (HT.out.below (HF.out.low hbase HM.out.lg hlb.1 (rown_low HM.out.own)) hlead)
  have HI2 : Hid (Ints w2 w2.heap.size .u8 (some ⟨bb, 0, none⟩) (s.b ++ [x])) := Lib.hid (Ints.own (e := 5) (n := m + 1) (c := 4) (base := base) (by have h1 := HO3.out; have h2 : w2.ownsRow base 5 1 (slB bb (m + 1)) (s.b ++ [x]).length ((s.b ++ [x]).map (Value.int .u8)) := h1; rw [HLX.out] at h2; exact h2))
  have HFI := Lib.hid (first_n (some ⟨bb, 0, none⟩) (m + 1) 4 (s.b ++ [x]) w2 HLX.out HT2.out HI2.out HXB.out (by simp only [maxLen]; omega))
  clear HT2 HI2 HXB
  obtain ⟨hw, hhw⟩ : ∃ q, how (s.b ++ [x]) = q := ⟨_, rfl⟩
  obtain ⟨bx, hbx⟩ : ∃ q, s.b ++ [x] = q := ⟨_, rfl⟩
  have HWT := Lib.hid (fun W hW => waits_any g 0 sv s.o.length (slB bb s.b.length) d z s.k W hW)
  have HKZ := HK.out
  obtain ⟨kb, hkb⟩ : ∃ q : Bool, (s.k != 0) = q := ⟨_, rfl⟩
  rw [hkb] at HWT
  have hkc : (kb = false ∧ s.k = 0) ∨ (kb = true ∧ 0 < s.k) := by
    rcases HKZ with h | h
    · left; rw [← hkb, h]; exact ⟨rfl, rfl⟩
    · right; rw [← hkb]; exact ⟨by rw [bne_iff_ne]; omega, by omega⟩
  clear hkb HKZ HK
  have hcs := how_cases (s.b ++ [x])
  rw [hhw] at hcs
  rcases hcs with h0 | h0 | h0
  · -- none begins so
    subst h0
    obtain ⟨e1, e2⟩ := HF0.out hhw
    rw [e1, e2] at HFI
    have HRS := Lib.hid (HB0.out hhw)
    clear HF0 HF1 HF2 HB0 HB1 HB2 HB5 HB6 HOK2 HUB e1 e2 hkc
    generalize fC (s.b ++ [x]) = cc at *
    have hlt2 : (m : Int) < (m : Int) + 1 := by omega
    go_wp2_with fail
    with_reducible refine HFI.out.mono ?_
    rintro e w3 ⟨rfl, hb3⟩
    have HM3 := Lib.hid (HM2.out.go hb3)
    have HF3 : Hid (SFr g bb sv w w3) := Lib.hid (HF.out.trans (RowTo.refl _ _) (SFr.of_below hb3))
    clear hb3
    go_wp2_with fail
    go_ret
    exact HR.out _ _ HRS.out _ _ ⟨rfl, sv, HSM.out _ HM3.out, HF3.out, RowTo.refl _ _⟩
  · -- one is begun
    subst h0
    obtain ⟨e1, e2⟩ := HF1.out hhw
    rw [e1, e2] at HFI
    generalize fC (s.b ++ [x]) = cc at *
    have hlt2 : ¬ ((m : Int) + 1 < (m : Int) + 1) := by omega
    rcases hkc with ⟨rfl, hk0⟩ | ⟨rfl, hk0⟩
    · have HRS := Lib.hid (HB1.out hhw (by omega))
      have HOK3 : Hid (SOk { s with b := s.b ++ [x] }) := Lib.hid (by have := HOK2.out; rw [HRS.out] at this; exact this)
      clear HF0 HF1 HF2 HB0 HB1 HB2 HB5 HB6 HOK2 HUB e1 e2 hk0
      go_wp2_with fail
      with_reducible refine HFI.out.mono ?_
      rintro e w3 ⟨rfl, hb3⟩
      have HM3 := Lib.hid (HM2.out.go hb3)
      have HF3 : Hid (SFr g bb sv w w3) := Lib.hid (HF.out.trans (RowTo.refl _ _) (SFr.of_below hb3))
      have HO5 : Hid (U8r w3 base (slB bb (m + 1)) (s.b ++ [x])) := Lib.hid (own_below HO3.out hb3 (Nat.le_refl _))
      clear hb3
      go_wp2_with fail
      with_reducible refine (HWT.out _ HM3.out.blk).mono ?_
      rintro e w4 ⟨rfl, rfl⟩
      have f3 : w3.frozen? ⟨g, 3, none⟩ = false := HM3.out.blk.frozen 3
      have c3' : w3.cell? ⟨g, 3, none⟩ = some (.slice (some ⟨bb, 0, none⟩) s.b.length 4) := HM3.out.blk.cell 3
      have hl3 : g < w3.heap.size := HM3.out.blk.lt
      go_wp2_with fail
      go_ret
      refine HR.out _ _ HRS.out _ _ ⟨rfl, sv, ⟨HOK3.out, by show s.o.length ≤ _; omega, d, z, ?_, fun _ h2 => ?_⟩, HF3.out.set 3 _, RowTo.refl _ _⟩
      · have hl := HLX.out
        have hat' : atF { s with b := s.b ++ [x] } = 0 := hat
        rw [hat']
        show StrM _ base g bb sv 0 s.o.length d z s.k (s.b ++ [x]) (txt s.o)
        refine ⟨by rw [hl]; exact HM3.out.blk.put 3 _ rfl, rown_set HM3.out.own HM3.out.blk (by decide), by rw [hl]; exact rown_set HO5.out HM3.out.blk (by decide), HM3.out.ne, HM3.out.lg⟩
      · have h2 : s.e = 2 := h2
        omega
    · have HRS := Lib.hid (HB5.out (by omega) hk0)
      clear HF0 HF1 HF2 HB0 HB1 HB2 HB5 HB6 HOK2 HUB e1 e2 hk0
      go_wp2_with fail
      with_reducible refine HFI.out.mono ?_
      rintro e w3 ⟨rfl, hb3⟩
      have HM3 := Lib.hid (HM2.out.go hb3)
      have HF3 : Hid (SFr g bb sv w w3) := Lib.hid (HF.out.trans (RowTo.refl _ _) (SFr.of_below hb3))
      clear hb3
      go_wp2_with fail
      with_reducible refine (HWT.out _ HM3.out.blk).mono ?_
      rintro e w4 ⟨rfl, rfl⟩
      go_wp2_with fail
      go_ret
      exact HR.out _ _ HRS.out _ _ ⟨rfl, sv, HSM.out _ HM3.out, HF3.out, RowTo.refl _ _⟩
  · -- one is whole
    subst h0
    obtain ⟨e1, e2, e3⟩ := HF2.out hhw
    rw [e1, e2, e3] at HFI
    have hlt2 : ¬ ((m : Int) + 1 < (m : Int) + 1) := by omega
    obtain ⟨u0, u1⟩ := HUB.out hhw
    rcases hkc with ⟨rfl, hk0⟩ | ⟨rfl, hk0⟩
    · cases hnc : noncharB (ubits (s.b ++ [x])) with
      | true =>
        have HRS := Lib.hid (HB6.out hhw (by omega) hnc)
        have HSN := Lib.hid (fun W hW => say_non g 0 sv s.o.length (slB bb s.b.length) d z W hW (ubits (s.b ++ [x])) hnc u0 u1)
        clear HF0 HF1 HF2 HB0 HB1 HB2 HB5 HB6 HOK2 HUB e1 e2 e3 hnc u0 u1
        generalize ubits (s.b ++ [x]) = cc at *
        go_wp2_with fail
        with_reducible refine HFI.out.mono ?_
        rintro e w3 ⟨rfl, hb3⟩
        have HM3 := Lib.hid (HM2.out.go hb3)
        have HF3 : Hid (SFr g bb sv w w3) := Lib.hid (HF.out.trans (RowTo.refl _ _) (SFr.of_below hb3))
        clear hb3
        go_wp2_with fail
        with_reducible refine (HWT.out _ HM3.out.blk).mono ?_
        rintro e w4 ⟨rfl, rfl⟩
        have HBZ : Hid (StrBlk w3 g 0 sv s.o.length (slB bb s.b.length) d z 0) := Lib.hid (by have h1 := HM3.out.blk; rw [hk0] at h1; exact h1)
        clear hk0
        go_wp2_with fail
        with_reducible refine (HSN.out _ HBZ.out).mono ?_
        rintro e w4 ⟨rfl, rfl⟩
        go_wp2_with fail
        go_ret
        exact HR.out _ _ HRS.out _ _ ⟨rfl, sv, HSM.out _ HM3.out, HF3.out, RowTo.refl _ _⟩
      | false =>
        have HRS := Lib.hid (HB2.out hhw (by omega) hnc)
        have HOK3 : Hid (SOk { s with o := s.o ++ [ubits (s.b ++ [x])], b := [] }) := Lib.hid (by have := HOK2.out; rw [HRS.out] at this; exact this)
        have HSY := Lib.hid (fun W hW hB => say_m base g bb sv 0 s.o.length d z s.b (txt s.o) W hW (by omega) (by rw [HMM.out]; omega) (by omega) (by omega) (ubits (s.b ++ [x])) hnc u0 u1 hB)
        clear HF0 HF1 HF2 HB0 HB1 HB2 HB5 HB6 HOK2 HUB e1 e2 e3 hnc u0 u1
        generalize ubits (s.b ++ [x]) = cc at *
        go_wp2_with fail
        with_reducible refine HFI.out.mono ?_
        rintro e w3 ⟨rfl, hb3⟩
        have HM3 := Lib.hid (HM2.out.go hb3)
        have HF3 : Hid (SFr g bb sv w w3) := Lib.hid (HF.out.trans (RowTo.refl _ _) (SFr.of_below hb3))
        clear hb3
        go_wp2_with fail
        with_reducible refine (HWT.out _ HM3.out.blk).mono ?_
        rintro e w4 ⟨rfl, rfl⟩
        have HMZ : Hid (StrM w3 base g bb sv 0 s.o.length d z 0 s.b (txt s.o)) := Lib.hid (by have h1 := HM3.out; rw [hk0] at h1; exact h1)
        have HK0 := Lib.hid hk0
        clear hk0
        have hs3 : base ≤ w3.heap.size := Nat.le_trans hbase HF3.out.size
        go_wp2_with fail
        with_reducible refine (HSY.out _ HMZ.out hs3).mono ?_
        rintro e w4 ⟨rfl, sv', hm4', hf4, hr4⟩
        have HM4 := Lib.hid hm4'
        have HF4 : Hid (SFr g bb sv w w4) := Lib.hid (HF3.out.trans (RowTo.refl _ _) hf4)
        have HR4 : Hid (RowTo w sv sv') := Lib.hid ((RowTo.refl w sv).trans hr4 HF3.out.size)
        clear hm4' hf4 hr4
        go_wp2_with fail
        go_ret
        refine HR.out _ _ HRS.out _ _ ⟨rfl, sv', ⟨HOK3.out, by show (s.o ++ [cc]).length ≤ _; rw [List.length_append, List.length_singleton]; omega, d, z, ?_, fun _ h2 => ?_⟩, HF4.out, HR4.out⟩
        · have hat' : atF { s with o := s.o ++ [cc], b := [] } = 0 := hat
          rw [hat']
          show StrM _ base g bb sv' 0 ((s.o ++ [cc]).length : Int) d z s.k [] (txt (s.o ++ [cc]))
          rw [txt_snoc1, HK0.out, List.length_append, List.length_singleton]
          have h1 := HM4.out
          have e : ((s.o.length + 1 : Nat) : Int) = (s.o.length : Int) + 1 := by omega
          rw [e]
          exact h1
        · have h2 : s.e = 2 := h2
          omega
    · have HRS := Lib.hid (HB5.out (by omega) hk0)
      clear HF0 HF1 HF2 HB0 HB1 HB2 HB5 HB6 HOK2 HUB e1 e2 e3 hk0 u0 u1
      generalize ubits (s.b ++ [x]) = cc at *
      go_wp2_with fail
      with_reducible refine HFI.out.mono ?_
      rintro e w3 ⟨rfl, hb3⟩
      have HM3 := Lib.hid (HM2.out.go hb3)
      have HF3 : Hid (SFr g bb sv w w3) := Lib.hid (HF.out.trans (RowTo.refl _ _) (SFr.of_below hb3))
      clear hb3
      go_wp2_with fail
      with_reducible refine (HWT.out _ HM3.out.blk).mono ?_
      rintro e w4 ⟨rfl, rfl⟩
      go_wp2_with fail
      go_ret
      exact HR.out _ _ HRS.out _ _ ⟨rfl, sv, HSM.out _ HM3.out, HF3.out, RowTo.refl _ _⟩
end Go.Proofs.YtdcfhkiajeiaoaaDoor

/- The program's string: the end, a byte between, a unit, a digit. -/
namespace Go.Proofs.YtdcfhkiajeiaoaaDoor
set_option maxRecDepth 100000
open Go.ChangeShapes Go.WideShapes Go.ChangeAt Go.RowKit
set_option linter.unusedVariables false
set_option linter.unusedSimpArgs false

abbrev two (o : Bool) (e : Int) : Value := .tuple #[.bool o, .int .i64 e]
theorem StrIs.at0 {w : World} {base g bb : Nat} {sv : Value} {s : Ss} (h : StrIs w base g bb sv s) : ∃ d z, StrM w base g bb sv (atF s) s.o.length d z s.k s.b (txt s.o) := by
  obtain ⟨d, z, hm, _⟩ := h.m
  exact ⟨d, z, hm⟩
theorem close_wait (base g bb : Nat) (sv : Value) (s : Ss) (w : World) (h : StrIs w base g bb sv s) (hk : 0 < s.k) :
    Calls Tryd.prog 47 #[.pointer (some ⟨g, 0, none⟩)] w (PRes base g bb sv s (two false 5) w) := by
  obtain ⟨d, z, hm⟩ := h.at0
  have HWT := Lib.hid (waits_any g _ sv _ _ d z s.k w hm.blk)
  have hkb : (s.k != 0) = true := by rw [bne_iff_ne]; omega
  rw [hkb] at HWT
  have HFIN : Hid (PRes base g bb sv s (two false 5) w (.returned (two false 5)) w) := Lib.hid (PRes.still h rfl (Below.refl _ _))
  clear hm h hkb hk
  go_enter Tryd.func47, Tryd.ntmps47
  go_wp2_with fail
  with_reducible refine HWT.out.mono ?_
  rintro e w1 ⟨rfl, rfl⟩
  go_wp2
  go_ret2
  exact HFIN.out
theorem over_ok {s : Ss} (h : SOk s) (he : s.e = 0) (hb : s.b = []) (hk : s.k = 0) : SOk { s with v := true } := by
  obtain ⟨a1, a2, a3, a4, a5, a6, a7, a8, a9, a10, a11, a12, a13⟩ := h
  exact ⟨a1, a2, a3, a4, a5, a6, a7, a8, a9, a10, fun _ => ⟨he, hb, hk⟩, a12, a13⟩
set_option maxHeartbeats 2000000 in
theorem close_end (base g bb : Nat) (sv : Value) (s : Ss) (w : World) (h : StrIs w base g bb sv s) (he : s.e = 0) (hb : s.b = []) (hk : s.k = 0) :
    Calls Tryd.prog 47 #[.pointer (some ⟨g, 0, none⟩)] w (PRes base g bb sv { s with v := true } (two true 0) w) := by
  obtain ⟨d, z, hm, hd⟩ := h.m
  have HWT := Lib.hid (waits_any g _ sv _ _ d z s.k w hm.blk)
  have HM := Lib.hid hm
  have HH := Lib.hid h
  have hkb : (s.k != 0) = false := by rw [hk]; rfl
  rw [hkb] at HWT
  have f0 : w.frozen? ⟨g, 0, none⟩ = false := hm.blk.frozen 0
  have c0 : w.cell? ⟨g, 0, none⟩ = some (.int .i64 (atF s)) := hm.blk.cell 0
  have hlt : g < w.heap.size := hm.blk.lt
  have HOV := Lib.hid (over_ok h.ok he hb hk)
  clear hm h hkb hk hd
  go_enter Tryd.func47, Tryd.ntmps47
  go_wp2_with fail
  with_reducible refine HWT.out.mono ?_
  rintro e w1 ⟨rfl, rfl⟩
  go_wp2_with fail
  go_ret2
  refine ⟨rfl, sv, ⟨HOV.out, HH.out.len, d, z, ?_, fun h2 => by cases h2⟩, (SFr.refl g bb sv w).set 0 _, RowTo.refl _ _⟩
  have hat' : atF { s with v := true } = 3 := rfl
  rw [hat']
  exact ⟨HM.out.blk.put 0 _ rfl, rown_set HM.out.own HM.out.blk (by decide), rown_set HM.out.beg HM.out.blk (by decide), HM.out.ne, HM.out.lg⟩
/-- between scalars, or in one: what is no end and no sign is a byte of a scalar -/
theorem plain_byt {s : Ss} {x : Int} (hv : s.v = false) (he : s.e = 0) (hx0 : 32 ≤ x) (hx1 : x ≤ 255) (h34 : ¬ (s.b = [] ∧ x = 34)) (h92 : ¬ (s.b = [] ∧ x = 92)) : pushS s x = (false, (bytS s x).1, (bytS s x).2) := by
  have hd : decide (x < 32) = false := decide_eq_false (by omega)
  unfold pushS
  rw [hv, hd, he]
  simp only [Bool.or_self, Bool.false_eq_true, if_false]
  by_cases hb : s.b ≠ [] ∨ 128 ≤ x
  · rw [if_neg (by decide), if_neg (by decide), if_pos hb]
  · have hb0 : s.b = [] := Classical.byContradiction fun hn => hb (.inl hn)
    have hx : x < 128 := by
      apply Classical.byContradiction; intro hn
      exact hb (.inr (by omega))
    rw [if_neg (by decide), if_neg (by decide), if_neg hb, if_neg (fun h => h92 ⟨hb0, h⟩)]
    have hw : how (s.b ++ [x]) = 2 := by rw [hb0]; show how [x] = 2; simp only [how]; rw [lng_is1 (by omega), if_pos rfl]
    have hu : ubits (s.b ++ [x]) = x := by rw [hb0]; show x - mkT x = x; unfold mkT; rw [if_pos (by omega)]; omega
    have hn := (isB_small (c := x) (by omega) (by omega)).2
    unfold bytS
    rw [hw, hu, hn]
    by_cases hk : 0 < s.k
    · simp [hk]
    · have hx34 : x ≠ 34 := fun h => h34 ⟨hb0, h⟩
      simp [hk, hb0, hx34, he, hv]
/-- a Push whose answer is known -/
theorem pres_push {base g bb : Nat} {sv : Value} {s s' : Ss} {x : Int} {o : Bool} {r : Int} {w w' : World} {e : Ending} (hp : pushS s x = (o, r, s')) (h : PRes base g bb sv s' (two o r) w e w') : PRes base g bb sv (pushS s x).2.2 (two (pushS s x).1 (pushS s x).2.1) w e w' := by
  rw [hp]; exact h
set_option maxHeartbeats 4000000 in
theorem takePlain_any (base g bb : Nat) (sv : Value) (s : Ss) (x : Int) (w : World) (h : StrIs w base g bb sv s) (hv : s.v = false) (he : s.e = 0) (hx0 : 0 ≤ x) (hx1 : x ≤ 255) (hT : Tab w) (hlead : 0 < base) (hbase : base ≤ w.heap.size) (hlo : s.o.length + 1 ≤ 100000) :
    Calls Tryd.prog 31 #[.pointer (some ⟨g, 0, none⟩), .int .u8 x] w (PRes base g bb sv (pushS s x).2.2 (two (pushS s x).1 (pushS s x).2.1) w) := by
  obtain ⟨d, z, hm⟩ := h.at0
  have c3 : w.cell? ⟨g, 3, none⟩ = some (.slice (some ⟨bb, 0, none⟩) s.b.length 4) := hm.blk.cell 3
  have hlt : g < w.heap.size := hm.blk.lt
  have HH := Lib.hid h
  have HT := Lib.hid hT
  clear hm hT
  by_cases hx : x < 32
  · have HP : Hid (pushS s x = (false, 2, s)) := Lib.hid (by
      have hd : decide (x < 32) = true := decide_eq_true hx
      unfold pushS
      rw [hv, hd]; rfl)
    have HFIN : Hid (PRes base g bb sv s (two false 2) w (.returned (two false 2)) w) := Lib.hid (PRes.still h rfl (Below.refl _ _))
    clear h
    go_enter Tryd.func31, Tryd.ntmps31
    go_wp2
    go_ret2
    exact pres_push HP.out HFIN.out
  obtain ⟨bm, hbm⟩ : ∃ q : Bool, ((s.b.length : Int) == 0) = q := ⟨_, rfl⟩
  have hbc : (bm = true ∧ s.b = []) ∨ (bm = false ∧ s.b ≠ []) := by
    by_cases hb : s.b = []
    · left; rw [← hbm, hb]; exact ⟨rfl, rfl⟩
    · right; rw [← hbm]; exact ⟨by rw [beq_eq_false_iff_ne]; have := List.length_pos_iff.2 hb; omega, hb⟩
  have HHR : Hid (¬ (s.b = [] ∧ x = 34) → ¬ (s.b = [] ∧ x = 92) → pushS s x = (false, (bytS s x).1, (bytS s x).2)) := Lib.hid (fun h1 h2 => plain_byt hv he (by omega) hx1 h1 h2)
  have HTB := Lib.hid (takeByte_any base g bb sv s x w h hv he (by omega) hx1 HT.out hlead hbase hlo)
  have hx32 : ¬ x < 32 := hx
  rcases hbc with ⟨rfl, hb⟩ | ⟨rfl, hb⟩
  · by_cases h34 : x = 34
    · subst h34
      have HKK := Lib.hid h.ok.k
      by_cases hk : 0 < s.k
      · have HP : Hid (pushS s 34 = (false, 5, s)) := Lib.hid (by
          unfold pushS
          rw [hv, he, hb]
          simp [hk])
        have HC := Lib.hid (close_wait base g bb sv s w h hk)
        clear h hk hb HHR HTB hx hx32 HKK HH
        go_enter Tryd.func31, Tryd.ntmps31
        go_wp2_with fail
        with_reducible refine HC.out.mono ?_
        rintro e w1 ⟨rfl, sv', p1, p2, p3⟩
        have HQ := Lib.hid (And.intro p1 (And.intro p2 p3))
        clear p1 p2 p3
        go_wp2
        go_ret2
        exact pres_push HP.out ⟨rfl, sv', HQ.out⟩
      · have hk0 : s.k = 0 := by rcases HKK.out with h | h; exact h; omega
        have HP : Hid (pushS s 34 = (true, 0, { s with v := true })) := Lib.hid (by
          unfold pushS
          rw [hv, he, hb]
          simp [hk])
        have HC := Lib.hid (close_end base g bb sv s w h he hb hk0)
        clear h hk hb HHR HTB hx hx32 HKK HH hk0
        go_enter Tryd.func31, Tryd.ntmps31
        go_wp2_with fail
        with_reducible refine HC.out.mono ?_
        rintro e w1 ⟨rfl, sv', p1, p2, p3⟩
        have HQ := Lib.hid (And.intro p1 (And.intro p2 p3))
        clear p1 p2 p3
        go_wp2
        go_ret2
        exact pres_push HP.out ⟨rfl, sv', HQ.out⟩
    · by_cases h92 : x = 92
      · subst h92
        have HP : Hid (pushS s 92 = (false, 0, { s with e := 1 })) := Lib.hid (push_sign hv he hb)
        have HOK1 : Hid (SOk { s with e := 1 }) := Lib.hid (by
          have := push_ok h.ok (x := 92) (by omega) (by omega)
          rw [HP.out] at this; exact this)
        obtain ⟨d', z', hm', _⟩ := h.m
        have HM := Lib.hid hm'
        have f0 : w.frozen? ⟨g, 0, none⟩ = false := hm'.blk.frozen 0
        have c0 : w.cell? ⟨g, 0, none⟩ = some (.int .i64 (atF s)) := hm'.blk.cell 0
        clear h hb HHR HTB hx hx32 h34 hm'
        go_enter Tryd.func31, Tryd.ntmps31
        go_wp2
        go_ret2
        refine pres_push HP.out ⟨rfl, sv, ⟨HOK1.out, HH.out.len, d', z', ?_, fun _ h2 => ?_⟩, (SFr.refl g bb sv w).set 0 _, RowTo.refl _ _⟩
        · have hat' : atF { s with e := 1 } = 1 := by unfold atF; dsimp only; rw [hv]; rfl
          rw [hat']
          exact ⟨HM.out.blk.put 0 _ rfl, rown_set HM.out.own HM.out.blk (by decide), rown_set HM.out.beg HM.out.blk (by decide), HM.out.ne, HM.out.lg⟩
        · exact absurd (show 1 = 2 from h2) (by decide)
      · have HP := Lib.hid (HHR.out (fun h => h34 h.2) (fun h => h92 h.2))
        have b34 : (x == 34) = false := by simpa using h34
        have b92 : (x == 92) = false := by simpa using h92
        clear h hb HHR hx h34 h92 HH
        go_enter Tryd.func31, Tryd.ntmps31
        go_wp2_with fail
        with_reducible refine HTB.out.mono ?_
        rintro e w1 ⟨rfl, sv', p1, p2, p3⟩
        have HQ := Lib.hid (And.intro p1 (And.intro p2 p3))
        clear p1 p2 p3
        go_wp2
        go_ret2
        exact pres_push HP.out ⟨rfl, sv', HQ.out⟩
  · have HP := Lib.hid (HHR.out (fun h => hb h.1) (fun h => hb h.1))
    clear h hb HHR hx HH
    go_enter Tryd.func31, Tryd.ntmps31
    go_wp2_with fail
    with_reducible refine HTB.out.mono ?_
    rintro e w1 ⟨rfl, sv', p1, p2, p3⟩
    have HQ := Lib.hid (And.intro p1 (And.intro p2 p3))
    clear p1 p2 p3
    go_wp2
    go_ret2
    exact pres_push HP.out ⟨rfl, sv', HQ.out⟩
/-! ## units -/
set_option maxHeartbeats 2000000 in
theorem takeUnit_hi (base g bb : Nat) (sv : Value) (p n d z k : Int) (b xs : List Int) (w : World) (h : StrM w base g bb sv p n d z k b xs) (u : Int) (h0 : 0 ≤ u) (h1 : u ≤ 65535) (hu : highB u = true) :
    Calls Tryd.prog 53 #[.pointer (some ⟨g, 0, none⟩), .int .u16 u] w fun e w' => e = .returned (.int .i64 0) ∧ StrM w' base g bb sv 0 n d z u b xs ∧ SFr g bb sv w w' := by
  have HHI := Lib.hid (fun W => high_any u W h0 h1)
  rw [hu] at HHI
  have HM := Lib.hid h
  have f0 : w.frozen? ⟨g, 0, none⟩ = false := h.blk.frozen 0
  have f6 : w.frozen? ⟨g, 6, none⟩ = false := h.blk.frozen 6
  have c0 : w.cell? ⟨g, 0, none⟩ = some (.int .i64 p) := h.blk.cell 0
  have c6 : w.cell? ⟨g, 6, none⟩ = some (.int .u16 k) := h.blk.cell 6
  have hlt : g < w.heap.size := h.blk.lt
  clear h hu
  go_enter Tryd.func53, Tryd.ntmps53
  go_wp2_with fail
  with_reducible refine (HHI.out _).mono ?_
  rintro e w1 ⟨rfl, rfl⟩
  go_wp2
  go_ret
  have h1 : StrBlk (w.setCell ⟨g, 0, none⟩ (.int .i64 0)) g 0 sv n (slB bb b.length) d z k := HM.out.blk.put 0 _ rfl
  have o1 := rown_set (i := 0) (u := .int .i64 0) HM.out.own HM.out.blk (by decide)
  have o2 := rown_set (i := 0) (u := .int .i64 0) HM.out.beg HM.out.blk (by decide)
  exact ⟨rfl, ⟨h1.put 6 _ rfl, rown_set o1 h1 (by decide), rown_set o2 h1 (by decide), HM.out.ne, HM.out.lg⟩, ((SFr.refl g bb sv w).set 0 _).set 6 _⟩
set_option maxHeartbeats 2000000 in
theorem takeUnit_says (base g bb : Nat) (sv : Value) (p n d z k : Int) (b xs : List Int) (w : World) (h : StrM w base g bb sv p n d z k b xs) (hk : k = 0 ∨ (55296 ≤ k ∧ k ≤ 56319)) (u : Int) (h0 : 0 ≤ u) (h1 : u ≤ 65535) (hu : highB u = false) (hx : xs.length ≤ 1000000) (hm : b.length ≤ 4) (hn : 0 ≤ n) (hn2 : n ≤ 100000000) (hc : noncharB (mntF k u) = false) (hc0 : 0 ≤ mntF k u) (hc1 : mntF k u ≤ 1114111) (hbase : base ≤ w.heap.size) :
    Calls Tryd.prog 53 #[.pointer (some ⟨g, 0, none⟩), .int .u16 u] w (SayM base g bb sv n d z (xs ++ byt (mntF k u)) w) := by
  have HHI := Lib.hid (fun W => high_any u W h0 h1)
  rw [hu] at HHI
  have HMN := Lib.hid (meant_any g p sv n (slB bb b.length) d z k u w h.blk hk h0 h1)
  have em : (if 0 < k ∧ 56320 ≤ u ∧ u ≤ 57343 then 65536 + (k - 55296) * 1024 + (u - 56320) else u) = mntF k u := rfl
  rw [em] at HMN
  clear em
  generalize mntF k u = c at *
  have f6 : w.frozen? ⟨g, 6, none⟩ = false := h.blk.frozen 6
  have c6 : w.cell? ⟨g, 6, none⟩ = some (.int .u16 k) := h.blk.cell 6
  have hlt : g < w.heap.size := h.blk.lt
  have hM6 : StrM (w.setCell ⟨g, 6, none⟩ (.int .u16 0)) base g bb sv p n d z 0 b xs := ⟨h.blk.put 6 _ rfl, rown_set h.own h.blk (by decide), rown_set h.beg h.blk (by decide), h.ne, h.lg⟩
  have HSF : Hid (SFr g bb sv w (w.setCell ⟨g, 6, none⟩ (.int .u16 0))) := Lib.hid ((SFr.refl g bb sv w).set 6 _)
  have HSY := Lib.hid (say_m base g bb sv p n d z b xs _ hM6 hx hm hn hn2 c hc hc0 hc1 (Nat.le_trans hbase HSF.out.size))
  clear hM6 h hu hc hk
  go_enter Tryd.func53, Tryd.ntmps53
  go_wp2_with fail
  with_reducible refine (HHI.out _).mono ?_
  rintro e w1 ⟨rfl, rfl⟩
  go_wp2_with fail
  with_reducible refine HMN.out.mono ?_
  rintro e w1 ⟨rfl, rfl⟩
  go_wp2_with fail
  with_reducible refine HSY.out.mono ?_
  rintro e w1 ⟨rfl, sv', p1, p2, p3⟩
  have HQ : Hid (StrM w1 base g bb sv' 0 (n + 1) d z 0 [] (xs ++ byt c) ∧ SFr g bb sv w w1 ∧ RowTo w sv sv') := Lib.hid ⟨p1, HSF.out.trans (RowTo.refl _ _) p2, (RowTo.refl w sv).trans p3 HSF.out.size⟩
  clear p1 p2 p3
  go_wp2
  go_ret
  exact ⟨rfl, sv', HQ.out⟩
end Go.Proofs.YtdcfhkiajeiaoaaDoor

/- The program's string: a digit of an escape. -/
namespace Go.Proofs.YtdcfhkiajeiaoaaDoor
set_option maxRecDepth 100000
open Go.ChangeShapes Go.WideShapes Go.ChangeAt Go.RowKit
set_option linter.unusedVariables false
set_option linter.unusedSimpArgs false

theorem valH_bd {h : List Int} (hl : h.length ≤ 3) (hd : ∀ d ∈ h, 0 ≤ d ∧ d ≤ 15) : 0 ≤ valH h ∧ ((h.length = 0 ∧ valH h ≤ 0) ∨ (h.length = 1 ∧ valH h ≤ 15) ∨ (h.length = 2 ∧ valH h ≤ 255) ∨ (h.length = 3 ∧ valH h ≤ 4095)) := by
  match h, hl, hd with
  | [], _, _ => exact ⟨by decide, .inl ⟨rfl, by decide⟩⟩
  | [a], _, hd =>
    have ha := hd a (by simp)
    have e : valH [a] = a := by simp [valH]
    rw [e]
    exact ⟨ha.1, .inr (.inl ⟨rfl, ha.2⟩)⟩
  | [a, b], _, hd =>
    have ha := hd a (by simp)
    have hb := hd b (by simp)
    have e : valH [a, b] = a * 16 + b := by simp [valH]
    rw [e]
    exact ⟨by omega, .inr (.inr (.inl ⟨rfl, by omega⟩))⟩
  | [a, b, c], _, hd =>
    have ha := hd a (by simp)
    have hb := hd b (by simp)
    have hc := hd c (by simp)
    have e : valH [a, b, c] = (a * 16 + b) * 16 + c := by simp [valH]
    rw [e]
    exact ⟨by omega, .inr (.inr (.inr ⟨rfl, by omega⟩))⟩
  | _ :: _ :: _ :: _ :: _, hl, _ => simp at hl
theorem pres_dig {base g bb : Nat} {sv : Value} {s s' : Ss} {x : Int} {r : Int} {w w' : World} {e : Ending} (hp : digS s x = (r, s')) (h : PRes base g bb sv s' (.int .i64 r) w e w') : PRes base g bb sv (digS s x).2 (.int .i64 (digS s x).1) w e w' := by
  rw [hp]; exact h
set_option maxHeartbeats 8000000 in
theorem takeDigit_any (base g bb : Nat) (sv : Value) (s : Ss) (x : Int) (w : World) (h : StrIs w base g bb sv s) (hv : s.v = false) (he : s.e = 2) (hx0 : 0 ≤ x) (hx1 : x ≤ 255) (hbase : base ≤ w.heap.size) (hlo : s.o.length + 1 ≤ 100000) :
    Calls Tryd.prog 33 #[.pointer (some ⟨g, 0, none⟩), .int .u8 x] w (PRes base g bb sv (digS s x).2 (.int .i64 (digS s x).1) w) := by
  have HDG := Lib.hid (fun W => digit_any x W hx0 hx1)
  have hhb := hex_bd x
  by_cases hneg : hexF x < 0
  · have HP : Hid (digS s x = (2, s)) := Lib.hid (by unfold digS; rw [if_pos hneg])
    have hdv : digV x = .tuple #[.int .u16 0, .bool false] := by unfold digV; rw [if_pos hneg, decide_eq_false (by omega)]
    rw [hdv] at HDG
    have HFIN : Hid (PRes base g bb sv s (.int .i64 2) w (.returned (.int .i64 2)) w) := Lib.hid (PRes.still h rfl (Below.refl _ _))
    clear h hdv
    go_enter Tryd.func33, Tryd.ntmps33
    go_wp2_with fail
    with_reducible refine (HDG.out _).mono ?_
    rintro e w1 ⟨rfl, rfl⟩
    go_wp2
    go_ret
    exact pres_dig HP.out HFIN.out
  obtain ⟨d, z, hm, hd⟩ := h.m
  obtain ⟨rfl, rfl⟩ := hd hv he
  have hok := h.ok
  obtain ⟨v0, vc⟩ := valH_bd hok.h hok.hd
  have hdv : digV x = .tuple #[.int .u16 (hexF x), .bool true] := by unfold digV; rw [if_neg hneg, decide_eq_true (by omega)]
  rw [hdv] at HDG
  have hat : atF s = 2 := by unfold atF; rw [hv, he]; rfl
  rw [hat] at hm
  have HWD := Lib.hid (fun f l hs => why_dig (x := x) (f := f) (l := l) hok he (by omega) hs)
  have HDO := Lib.hid (dig_ok hok he hv x)
  have HOK := Lib.hid hok
  have HM := Lib.hid hm
  have HSAME : Hid (∀ W, StrM W base g bb sv 2 s.o.length (valH s.h) s.h.length s.k s.b (txt s.o) → StrIs W base g bb sv s) := Lib.hid (fun W hW => ⟨hok, h.len, _, _, by rw [hat]; exact hW, fun _ _ => ⟨rfl, rfl⟩⟩)
  have hk := hok.k
  have hbl : s.b.length ≤ 4 := by rw [hok.eb (by omega)]; simp
  have htl := txt_len4 s.o
  obtain ⟨D, hD⟩ : ∃ D, valH s.h = D := ⟨_, rfl⟩
  obtain ⟨Z, hZ⟩ : ∃ Z, s.h.length = Z := ⟨_, rfl⟩
  obtain ⟨y, hy⟩ : ∃ y, hexF x = y := ⟨_, rfl⟩
  rw [hD, hZ] at HM HWD vc HSAME
  rw [hD] at v0
  rw [hy] at HWD HDG hhb hneg
  have hD4 : D ≤ 4095 := by omega
  obtain ⟨U, hU⟩ : ∃ U, D * 16 + y = U := ⟨_, rfl⟩
  have HVS : Hid (valH (s.h ++ [y]) = U ∧ (s.h ++ [y]).length = Z + 1) := Lib.hid ⟨by rw [valH_snoc, hD, hU], by rw [List.length_append, hZ]; rfl⟩
  obtain ⟨z1, hz1⟩ : ∃ z1 : Int, (Z : Int) + 1 = z1 := ⟨_, rfl⟩
  have hor : bits .or .u16 (D * 16) y = U := by rw [← hU]; exact u16_or4 (by omega) (by omega) (by omega) (by omega) (by omega)
  have HSPB : (z1 = 1 ∧ U ≤ 15) ∨ (z1 = 2 ∧ U ≤ 255) ∨ (z1 = 3 ∧ U ≤ 4095) ∨ (z1 = 4 ∧ U ≤ 65535) := by omega
  have hU0 : 0 ≤ U := by omega
  have HSP := Lib.hid (fun W => span_any U z1 W hU0 HSPB)
  rw [hU] at HWD
  have hw16 : IntKind.u16.wrap (D * 16) = D * 16 := wraps_u16a _ (by omega) (by omega)
  have c4 : w.cell? ⟨g, 4, none⟩ = some (.int .u16 D) := HM.out.blk.cell 4
  have c5 : w.cell? ⟨g, 5, none⟩ = some (.int .i64 (Z : Int)) := HM.out.blk.cell 5
  have hlt : g < w.heap.size := HM.out.blk.lt
  clear hm h hok hdv hd
  go_enter Tryd.func33, Tryd.ntmps33
  go_wp2_with fail
  with_reducible refine (HDG.out _).mono ?_
  rintro e w1 ⟨rfl, rfl⟩
  go_upto_region 4 with fail
  go_region
  have HM4 := Lib.hid ((HM.out.go ((Below.refl _ _).alloc (Nat.le_refl _) (.cells #[.int .u16 U, .int .i64 z1] 58))).go (Below.refl _ _).drew)
  have HU4 : Hid (Blk (w.alloc (.cells #[.int .u16 U, .int .i64 z1] 58)).drew w.heap.size 58 #[.int .u16 U, .int .i64 z1]) := Lib.hid (Blk.new w _ _).drew
  have HF4 : Hid (SFr g bb sv w (w.alloc (.cells #[.int .u16 U, .int .i64 z1] 58)).drew) := Lib.hid (SFr.of_below ((Below.refl _ _).alloc (Nat.le_refl _) _)).drew
  clear c4 c5 hlt HM HDG hor
  generalize hgu : w.heap.size = gu at HU4 ⊢
  have HGU := Lib.hid hgu
  generalize (w.alloc (.cells #[.int .u16 U, .int .i64 z1] 58)).drew = w4 at *
  have u0 : w4.cell? ⟨gu, 0, none⟩ = some (.int .u16 U) := HU4.out.cell 0
  have u1 : w4.cell? ⟨gu, 1, none⟩ = some (.int .i64 z1) := HU4.out.cell 1
  clear hgu
  go_wp2_with fail
  with_reducible refine (HSP.out _).mono ?_
  rintro e w5 ⟨f, l, rfl, hs, hb5⟩
  have HU5 := Lib.hid (HU4.out.below hb5 HU4.out.lt)
  have HM5 := Lib.hid (HM4.out.go hb5)
  have HF5 : Hid (SFr g bb sv w w5) := Lib.hid (HF4.out.trans (RowTo.refl _ _) (SFr.of_below hb5))
  clear hb5 HM4 HU4 HF4 u0 u1 HSP
  have hsb : spanB (Z + 1) U f l := by rw [hz1]; exact hs
  obtain ⟨W1, W2, W3⟩ := HWD.out f l hsb
  have hfl : 0 ≤ f ∧ f ≤ 65535 ∧ 0 ≤ l ∧ l ≤ 65535 := by
    rcases hs with ⟨a, b, c⟩ | ⟨a, b, c⟩ | ⟨a, b, c⟩ | ⟨a, b, c⟩ <;> omega
  have HWY := Lib.hid (why_any g 2 sv s.o.length (slB bb s.b.length) D Z s.k f l w5 HM5.out.blk hk hfl.1 hfl.2.1 hfl.2.2.1 hfl.2.2.2)
  have hz4 : (Z + 1 < 4 ∧ z1 < 4) ∨ (Z = 3 ∧ z1 = 4) := by omega
  obtain ⟨r, hr⟩ : ∃ r, whyF s.k f l = r := ⟨_, rfl⟩
  rw [hr] at HWY W1 W2 W3
  clear HWD hs hsb hfl hr
  by_cases h0 : r = 0
  · subst h0
    have u0 : w5.cell? ⟨gu, 0, none⟩ = some (.int .u16 U) := HU5.out.cell 0
    have u1 : w5.cell? ⟨gu, 1, none⟩ = some (.int .i64 z1) := HU5.out.cell 1
    have hl5 : g < w5.heap.size := HM5.out.blk.lt
    rcases hz4 with ⟨hz4, hz5⟩ | ⟨hz4, rfl⟩
    · have HP := Lib.hid (W2 rfl hz4)
      have HOK2 : Hid (SOk { s with h := s.h ++ [y] }) := Lib.hid (by have := HDO.out; rw [HP.out] at this; exact this)
      have hzb : (z1 == 4) = false := by rw [beq_eq_false_iff_ne]; omega
      have f4 : w5.frozen? ⟨g, 4, none⟩ = false := HM5.out.blk.frozen 4
      have f5 : w5.frozen? ⟨g, 5, none⟩ = false := HM5.out.blk.frozen 5
      have c4 : w5.cell? ⟨g, 4, none⟩ = some (.int .u16 D) := HM5.out.blk.cell 4
      have c5 : w5.cell? ⟨g, 5, none⟩ = some (.int .i64 (Z : Int)) := HM5.out.blk.cell 5
      clear W1 W2 W3 hz4 hz5
      go_wp2_with fail
      with_reducible refine HWY.out.mono ?_
      rintro e w6 ⟨rfl, rfl⟩
      go_wp2_with fail
      go_ret
      have k1 : StrBlk (w5.setCell ⟨g, 4, none⟩ (.int .u16 U)) g 2 sv s.o.length (slB bb s.b.length) U Z s.k := HM5.out.blk.put 4 _ rfl
      have k2 : StrBlk ((w5.setCell ⟨g, 4, none⟩ (.int .u16 U)).setCell ⟨g, 5, none⟩ (.int .i64 z1)) g 2 sv s.o.length (slB bb s.b.length) U z1 s.k := k1.put 5 _ rfl
      have o1 := rown_set (i := 4) (u := .int .u16 U) HM5.out.own HM5.out.blk (by decide)
      have o2 := rown_set (i := 4) (u := .int .u16 U) HM5.out.beg HM5.out.blk (by decide)
      refine pres_dig HP.out ⟨rfl, sv, ⟨HOK2.out, by show s.o.length ≤ _; omega, U, z1, ?_, fun _ _ => ⟨HVS.out.1.symm, by rw [HVS.out.2, ← hz1]; rfl⟩⟩, (HF5.out.set 4 _).set 5 _, RowTo.refl _ _⟩
      have hat' : atF { s with h := s.h ++ [y] } = 2 := hat
      rw [hat']
      exact ⟨k2, rown_set o1 k1 (by decide), rown_set o2 k1 (by decide), HM5.out.ne, HM5.out.lg⟩
    · obtain ⟨g0, g1, _, gh, gn⟩ := W3 rfl hz4
      have hzb : ((4 : Int) == 4) = true := rfl
      cases hh : highB U with
      | true =>
        obtain ⟨hk0, hdg⟩ := gh hh
        have HP := Lib.hid hdg
        have HOK2 : Hid (SOk { s with h := [], e := 0, k := U }) := Lib.hid (by have := HDO.out; rw [HP.out] at this; exact this)
        have HTU := Lib.hid (takeUnit_hi base g bb sv 2 s.o.length D Z s.k s.b (txt s.o) w5 HM5.out U g0 g1 hh)
        clear W1 W2 W3 gh gn hh hdg hk0
        go_wp2_with fail
        with_reducible refine HWY.out.mono ?_
        rintro e w6 ⟨rfl, rfl⟩
        go_wp2_with fail
        with_reducible refine HTU.out.mono ?_
        rintro e w6 ⟨rfl, p1, p2⟩
        have HM6 := Lib.hid p1
        have HF6 : Hid (SFr g bb sv w w6) := Lib.hid (HF5.out.trans (RowTo.refl _ _) p2)
        clear p1 p2
        go_wp2_with fail
        go_ret
        refine pres_dig HP.out ⟨rfl, sv, ⟨HOK2.out, by show s.o.length ≤ _; omega, D, (Z : Int), ?_, fun _ h2 => absurd (show 0 = 2 from h2) (by decide)⟩, HF6.out, RowTo.refl _ _⟩
        have hat' : atF { s with h := [], e := 0, k := U } = 0 := by unfold atF; dsimp only; rw [hv]; rfl
        rw [hat']
        exact HM6.out
      | false =>
        obtain ⟨hmn, hnc, hib, hdg⟩ := gn hh
        have HP := Lib.hid hdg
        have HOK2 : Hid (SOk { s with o := s.o ++ [joinF s.k U], h := [], e := 0, k := 0 }) := Lib.hid (by have := HDO.out; rw [HP.out] at this; exact this)
        have hib' := of_decide_eq_true hib
        have HTU := Lib.hid (takeUnit_says base g bb sv 2 s.o.length D Z s.k s.b (txt s.o) w5 HM5.out hk U g0 g1 hh (by omega) (by omega) (by omega) (by omega) (by rw [hmn]; exact hnc) (by rw [hmn]; omega) (by rw [hmn]; omega) (Nat.le_trans hbase HF5.out.size))
        rw [hmn] at HTU
        clear W1 W2 W3 gh gn hh hdg hmn hnc hib hib'
        generalize joinF s.k U = cc at *
        go_wp2_with fail
        with_reducible refine HWY.out.mono ?_
        rintro e w6 ⟨rfl, rfl⟩
        go_wp2_with fail
        with_reducible refine HTU.out.mono ?_
        rintro e w6 ⟨rfl, sv', p1, p2, p3⟩
        have HM6 := Lib.hid p1
        have HF6 : Hid (SFr g bb sv w w6) := Lib.hid (HF5.out.trans (RowTo.refl _ _) p2)
        have HR6 : Hid (RowTo w sv sv') := Lib.hid ((RowTo.refl w sv).trans p3 HF5.out.size)
        clear p1 p2 p3
        go_wp2_with fail
        go_ret
        refine pres_dig HP.out ⟨rfl, sv', ⟨HOK2.out, by show (s.o ++ [cc]).length ≤ _; rw [List.length_append, List.length_singleton]; omega, D, (Z : Int), ?_, fun _ h2 => absurd (show 0 = 2 from h2) (by decide)⟩, HF6.out, HR6.out⟩
        have hat' : atF { s with o := s.o ++ [cc], h := [], e := 0, k := 0 } = 0 := by unfold atF; dsimp only; rw [hv]; rfl
        rw [hat']
        show StrM _ base g bb sv' 0 ((s.o ++ [cc]).length : Int) D Z 0 s.b (txt (s.o ++ [cc]))
        have hb0 : s.b = [] := HOK.out.eb (by omega)
        rw [txt_snoc1, List.length_append, List.length_singleton, hb0]
        have e : ((s.o.length + 1 : Nat) : Int) = (s.o.length : Int) + 1 := by omega
        rw [e]
        exact HM6.out
  · have HP := Lib.hid (W1 h0)
    have hrb : (r != 0) = true := by simpa using h0
    clear W1 W2 W3 hz4 h0
    go_wp2_with fail
    with_reducible refine HWY.out.mono ?_
    rintro e w6 ⟨rfl, rfl⟩
    go_wp2_with fail
    go_ret
    exact pres_dig HP.out ⟨rfl, sv, HSAME.out _ HM5.out, HF5.out, RowTo.refl _ _⟩
end Go.Proofs.YtdcfhkiajeiaoaaDoor
