/- FaultPlays. -/
import Derived.Test.YtakbbhhhdcnlnaaDoorN14Pv
import Derived.Test.YtakbbhhhdcnlnaaDoorArg
import Derived.Test.YtakbbhhhdcnlnaaDoorArgS
import Derived.Deep.CutRange
import Derived.Test.YtakbbhhhdcnlnaaDoorAnyV
import Derived.Test.YtakbbhhhdcnlnaaDoorReg
import Derived.Deep.RegionHeld3
namespace Go.Proofs.YtakbbhhhdcnlnaaDoor
set_option maxRecDepth 100000
open Go.RowKit
set_option linter.unusedVariables false
set_option linter.unusedSimpArgs false

def SzL (w : World) (z : List ByteArray) (x : Value) (wr : World) : Prop := ∃ k : Nat, x = .int .i64 k ∧ k ≤ z.length ∧ (∀ j, j < k → (z.getD j ByteArray.empty).size ≤ 60) ∧ w = wr
/-- both side by side: the program's error, the document's -/
structure Bt (w wr : World) (g : Nat) (v : Value) (i : Bool) (c a n : Int) (t : ByteArray) : Prop where
  p : Pv wr v i c a n t
  r : Blk wr g 32 (eA i c a n t)
  b : Below w.heap.size w wr
theorem Bt.go {w wr w' : World} {g : Nat} {v : Value} {i : Bool} {c a n : Int} {t : ByteArray} (h : Bt w wr g v i c a n t) (hb : Below wr.heap.size wr w') : Bt w w' g v i c a n t := ⟨h.p.go hb, h.r.go' hb, h.b.trans (hb.mono h.b.size)⟩
theorem Bt.put {w W : World} {g : Nat} {v : Value} {i : Bool} {c a n n1 : Int} {t t1 : ByteArray} (hp : Pv W v i c a n1 t1) (hr : Blk W g 32 (eA i c a n t)) (hb : Below w.heap.size w W) (hg : w.heap.size ≤ g) :
    Bt w (((((W.setCell ⟨g, 0, none⟩ (.bool i)).setCell ⟨g, 1, none⟩ (.int .i64 c)).setCell ⟨g, 2, none⟩ (.int .i64 a)).setCell ⟨g, 3, none⟩ (.int .i64 n1)).setCell ⟨g, 4, none⟩ (.string t1)) g v i c a n1 t1 :=
  ⟨hp.but (((((But.refl g W).set 0 _).set 1 _).set 2 _).set 3 _ |>.set 4 _) hr, e_set5 hr i c a n1 t1, e_below5' hg hb i c a n1 t1⟩
theorem Bt.c0 {w wr : World} {g : Nat} {v : Value} {i : Bool} {c a n : Int} {t : ByteArray} (h : Bt w wr g v i c a n t) : wr.cell? ⟨g, 0, none⟩ = some (.bool i) := h.r.cell 0
theorem Bt.c1 {w wr : World} {g : Nat} {v : Value} {i : Bool} {c a n : Int} {t : ByteArray} (h : Bt w wr g v i c a n t) : wr.cell? ⟨g, 1, none⟩ = some (.int .i64 c) := h.r.cell 1
theorem Bt.c2 {w wr : World} {g : Nat} {v : Value} {i : Bool} {c a n : Int} {t : ByteArray} (h : Bt w wr g v i c a n t) : wr.cell? ⟨g, 2, none⟩ = some (.int .i64 a) := h.r.cell 2
theorem Bt.c3 {w wr : World} {g : Nat} {v : Value} {i : Bool} {c a n : Int} {t : ByteArray} (h : Bt w wr g v i c a n t) : wr.cell? ⟨g, 3, none⟩ = some (.int .i64 n) := h.r.cell 3
theorem Bt.c4 {w wr : World} {g : Nat} {v : Value} {i : Bool} {c a n : Int} {t : ByteArray} (h : Bt w wr g v i c a n t) : wr.cell? ⟨g, 4, none⟩ = some (.string t) := h.r.cell 4
def PlL (w : World) (g M : Nat) (v x : Value) (wr : World) : Prop :=
  ∃ (k : Nat) (i : Bool) (c a n : Int) (t : ByteArray), x = .int .i64 k ∧ k ≤ M ∧ t.size ≤ 1000 + 100 * k ∧ Bt w wr g v i c a n t
set_option maxHeartbeats 16000000 in
theorem plays_walk (a0 a1 a4 : Int) (a2 : Option Addr) (m2 cap2 : Nat) (z2 : List ByteArray) (a3 : Option Addr) (m3 cap3 : Nat) (z3 : List Int) (w : World) (hV : Vs w) (ha : -9223372036854775808 ≤ a1 ∧ a1 ≤ 9223372036854775807)
    (hz2 : z2.length = m2) (hI2 : Strs w w.heap.size a2 z2) (hm2 : m2 ≤ maxLen) (hz3 : z3.length = m3) (hI3 : Ints w w.heap.size .i64 a3 z3) (hm3 : m3 ≤ maxLen) :
    Calls Tryd.prog 3 #[.int .i64 a0, .int .i64 a1, .slice a2 m2 cap2, .slice a3 m3 cap3, .int .i64 a4] w fun e w' => e = .returned (.bool true) ∧ Below w.heap.size w w' := by
  have hVb : Hid (∀ W, Below w.heap.size w W → Vs W) := Lib.hid fun W hb => hV.go hb
  have hA := Lib.hid (fun W hb => awake_any W (hVb.out W hb))
  have hA0 := Lib.hid (hA.out w (Below.refl _ _))
  have HI2 := Lib.hid hI2
  have HZ2 := Lib.hid hz2
  have HI3 := Lib.hid hI3
  have HZ3 := Lib.hid hz3
  unfold maxLen at hm2 hm3
  clear hI2 hz2 hI3 hz3 hV
  go_enter Tryd.func3, Tryd.ntmps3
  by_cases c2 : (20 : Int) < m2
  · go_wp2_with (go_at_call 7; with_reducible refine (hA0.out).mono ?_; rintro e w1 ⟨rfl, hb⟩; replace hb := Lib.hid hb)
    go_ret
    exact ⟨rfl, hb.out⟩
  by_cases c3 : (20 : Int) < m3
  · go_wp2_with (go_at_call 7; with_reducible refine (hA0.out).mono ?_; rintro e w1 ⟨rfl, hb⟩; replace hb := Lib.hid hb)
    go_ret
    exact ⟨rfl, hb.out⟩
  by_cases c0 : a0 < 0
  · go_wp2_with (go_at_call 7; with_reducible refine (hA0.out).mono ?_; rintro e w1 ⟨rfl, hb⟩; replace hb := Lib.hid hb)
    go_ret
    exact ⟨rfl, hb.out⟩
  by_cases c1 : 19 < a0
  · go_wp2_with (go_at_call 7; with_reducible refine (hA0.out).mono ?_; rintro e w1 ⟨rfl, hb⟩; replace hb := Lib.hid hb)
    go_ret
    exact ⟨rfl, hb.out⟩
  go_wp2_with fail
  go_loopw [11] (SzL w z2) (fun x _ => 30 - (intOf x).toNat)
  case atStart => exact ⟨0, rfl, by omega, fun j hj => by omega, rfl⟩
  case round =>
    obtain ⟨k, rfl, hk, hs, rfl⟩ := hrel
    have hkm : k ≤ m2 := by have := HZ2.out; omega
    have HS := Lib.hid hs
    clear hs hk
    by_cases hlt : (k : Int) < m2
    · obtain ⟨b, o, rfl, hbl, hcell⟩ := HI2.out.at (by have := HZ2.out; omega)
      obtain ⟨s, hs⟩ : ∃ s, z2.getD k ByteArray.empty = s := ⟨_, rfl⟩
      have ks := hcell k (by have := HZ2.out; omega)
      rw [hs] at ks
      replace hs := Lib.hid hs
      clear hcell
      by_cases h60 : (60 : Int) < s.size
      · go_wp2_with (go_at_call 7; with_reducible refine (hA0.out).mono ?_; rintro e w1 ⟨rfl, hb⟩; replace hb := Lib.hid hb)
        go_ret
        exact ⟨rfl, hb.out⟩
      · go_wp2_with fail
        go_roundw
        case rel => exact ⟨k + 1, rfl, by have := HZ2.out; omega, fun j hj => by
          by_cases e : j = k
          · rw [e, hs.out]; omega
          · exact HS.out j (by omega), rfl⟩
        case measure => simp [intOf]; omega
    · obtain rfl : k = m2 := by omega
      go_wp2_with fail
      with_reducible refine (new_p a0 a1 ha _).mono ?_
      rintro e w1 ⟨v, rfl, hp1, hb1⟩
      have HP1 := Lib.hid hp1
      have HB1 := Lib.hid hb1
      clear hp1 hb1
      go_wp2_with fail
      with_reducible refine (rnew_p a0 a1 ha _).mono ?_
      rintro e w2 ⟨rfl, hb2⟩
      have HP2 := Lib.hid (HP1.out.go hb2)
      have HB2 := Lib.hid (HB1.out.trans (hb2.mono HB1.out.size))
      clear hb2 HP1 HB1
      have ht0 : (if a0 = 0 then (⟨#[]⟩ : ByteArray) else bs (wdS (.pl 0 a0 a1))).size ≤ 1000 := by
        by_cases h0 : a0 = 0
        · rw [if_pos h0]; decide
        · rw [if_neg h0, bs_size]
          unfold wdS
          have h1 := nmF_len a0
          have h2 := print_len ha.1 ha.2
          rw [bs_size] at h2
          simp
          omega
      generalize decide (a0 ≠ 0) = i0 at *
      generalize (if a0 = 0 then 0 else a1) = aa at *
      generalize (if a0 = 0 then (⟨#[]⟩ : ByteArray) else bs (wdS (.pl 0 a0 a1))) = t0 at *
      have hX := (Below.refl w2.heap.size w2).alloc (Nat.le_refl _) (.cells (eA i0 a0 aa 0 t0) 32)
      have HS0 : Hid (PlL w w2.heap.size 20 v (.int .i64 0) (w2.alloc (.cells (eA i0 a0 aa 0 t0) 32))) := Lib.hid ⟨0, i0, a0, aa, 0, t0, rfl, by omega, by omega, HP2.out.go hX, Blk.new w2 _ _, HB2.out.trans (hX.mono HB2.out.size)⟩
      have hgl : Hid (w.heap.size ≤ w2.heap.size) := Lib.hid HB2.out.size
      clear hX HP2 HB2
      unfold eV
      unfold eA at HS0
      go_upto_region 9 with fail
      generalize w2.alloc (.cells #[.bool i0, .int .i64 a0, .int .i64 aa, .int .i64 0, .string t0] 32) = w3 at *
      generalize w2.heap.size = g at *
      have hs60 : Hid (∀ j, j < k → (z2.getD j ByteArray.empty).size ≤ 60) := HS
      have hk20 : k ≤ 20 := by omega
      have hm20 : m3 ≤ 20 := by omega
      clear HS
      go_wp2_with fail
      go_loopw [12, 14] (PlL w g 20) (fun _ x _ => 21 - (intOf x).toNat)
      case atStart => exact HS0.out
      case round =>
        clear HS0
        obtain ⟨q, i, c, a, n, t, rfl, hq, ht, hbt⟩ := hrel
        have HT := Lib.hid hbt
        clear hbt
        obtain ⟨M, hM⟩ : ∃ M : Int, (if k < m3 then (m3 : Int) else k) = M := ⟨_, rfl⟩
        have hM3 : Hid ((k : Int) ≤ M ∧ (m3 : Int) ≤ M ∧ (M = k ∨ M = m3)) := Lib.hid (by rw [← hM]; split <;> omega)
        by_cases hend : ¬ (q : Int) < k ∧ ¬ (q : Int) < m3
        · have hqM : ¬ (q : Int) < M := by have := hM3.out; omega
          clear hend
          go_wp2_with (go_at_call 7; with_reducible refine (hA.out _ HT.out.b).mono ?_; rintro e w4 ⟨rfl, hb4⟩; replace hb4 := Lib.hid (HT.out.b.trans (hb4.mono HT.out.b.size)))
          all_goals (go_ret; exact ⟨rfl, hb4.out⟩)
        · have hqM : (q : Int) < M := by have := hM3.out; omega
          go_upto_if 63 with fail
          go_cut [12] from 51 to 135 (fun v W => ∃ t1, t1.size ≤ 1000 + 100 * q + 62 ∧ Bt w W g v i c a n t1)
          case first =>
            by_cases e2 : (q : Int) < k
            · obtain ⟨b, o, hbo, hbl, hcell⟩ := HI2.out.at (by have := HZ2.out; omega)
              obtain ⟨s, hs⟩ : ∃ s, z2.getD q ByteArray.empty = s := ⟨_, rfl⟩
              have ks0 := hcell q (by have := HZ2.out; omega)
              have hss := hs60.out q (by omega)
              rw [hs] at ks0 hss
              subst hbo
              have ks : wr.cell? ⟨b, o + q, none⟩ = some (.string s) := (HT.out.b.cell (p := ⟨b, o + q, none⟩) hbl).trans ks0
              clear hs hcell ks0
              have hlb : b < wr.heap.size := Nat.lt_of_lt_of_le hbl HT.out.b.size
              have hlg := HT.out.r.lt
              have d0 := HT.out.r.cell 0
              have d1 := HT.out.r.cell 1
              have d2 := HT.out.r.cell 2
              have d3 := HT.out.r.cell 3
              have d4 := HT.out.r.cell 4
              simp only [eA, List.getElem?_toArray, List.getElem?_cons_zero, List.getElem?_cons_succ] at d0 d1 d2 d3 d4
              have hW := Lib.hid (fun W hb => wrap_p (HT.out.go (w' := W) hb).p s hss)
              have hRW := Lib.hid (fun W => rwrap_any i c a n t s (by omega) W)
              unfold eV at hRW
              change Hid (∀ W, Calls Tryd.prog 11 _ W fun e w' => e = .returned (.agg #[.bool i, .int .i64 c, .int .i64 a, .int .i64 n, .string (wrT i s t)]) ∧ Below W.heap.size W w') at hRW
              have hts := wrT_size i s t
              obtain ⟨t1, ht1⟩ : ∃ t1, wrT i s t = t1 := ⟨_, rfl⟩
              rw [ht1] at hW hRW hts
              have htz : t1.size ≤ 1000 + 100 * q + 62 := by omega
              clear ht1 hts hss
              go_wp2_with fail
              have HS0 : Hid ((fun V => V.cell? ⟨b, o + q, none⟩ = some (.string s) ∧ V.cell? ⟨g, 0, none⟩ = some (.bool i) ∧ V.cell? ⟨g, 1, none⟩ = some (.int .i64 c) ∧ V.cell? ⟨g, 2, none⟩ = some (.int .i64 a) ∧ V.cell? ⟨g, 3, none⟩ = some (.int .i64 n) ∧ V.cell? ⟨g, 4, none⟩ = some (.string t)) wr.drew) := Lib.hid ⟨ks, d0, d1, d2, d3, d4⟩
              refine wp_region_V (fun V => V.cell? ⟨b, o + q, none⟩ = some (.string s) ∧ V.cell? ⟨g, 0, none⟩ = some (.bool i) ∧ V.cell? ⟨g, 1, none⟩ = some (.int .i64 c) ∧ V.cell? ⟨g, 2, none⟩ = some (.int .i64 a) ∧ V.cell? ⟨g, 3, none⟩ = some (.int .i64 n) ∧ V.cell? ⟨g, 4, none⟩ = some (.string t)) [13] (by kernel_rfl) ?_
              refine wpV_take 0 64 [13] (v := ?v0A) rfl rfl (by kernel_rfl) (by kernel_rfl) (by kernel_rfl) (by kernel_rfl) (fun _ _ _ h => h) HS0.out (Or.inl ⟨by rfl, ?y0A⟩) ?r0A
              case y0A => (rintro W ⟨x0, x1, x2, x3, x4, x5⟩; go_simp; try with_reducible rfl)
              try simp only [Act.put, List.getElem_toArray, List.getElem_cons_succ, List.getElem_cons_zero, List.setIfInBounds_toArray, List.set_cons_zero, List.set_cons_succ]
              refine wpV_take 1 65 [13] (v := ?v1A) rfl rfl (by kernel_rfl) (by kernel_rfl) (by kernel_rfl) (by kernel_rfl) (fun _ _ _ h => h) HS0.out (Or.inl ⟨by rfl, ?y1A⟩) ?r1A
              case y1A => (rintro W ⟨x0, x1, x2, x3, x4, x5⟩; go_simp; try with_reducible rfl)
              try simp only [Act.put, List.getElem_toArray, List.getElem_cons_succ, List.getElem_cons_zero, List.setIfInBounds_toArray, List.set_cons_zero, List.set_cons_succ]
              refine wpV_take 2 66 [13] (v := ?v2A) rfl rfl (by kernel_rfl) (by kernel_rfl) (by kernel_rfl) (by kernel_rfl) (fun _ _ _ h => h) HS0.out (Or.inl ⟨by rfl, ?y2A⟩) ?r2A
              case y2A => (rintro W ⟨x0, x1, x2, x3, x4, x5⟩; go_simp; try with_reducible rfl)
              try simp only [Act.put, List.getElem_toArray, List.getElem_cons_succ, List.getElem_cons_zero, List.setIfInBounds_toArray, List.set_cons_zero, List.set_cons_succ]
              refine wpV_take 3 67 [13] (v := ?v3A) rfl rfl (by kernel_rfl) (by kernel_rfl) (by kernel_rfl) (by kernel_rfl) (fun _ _ _ h => h) HS0.out (Or.inl ⟨by rfl, ?y3A⟩) ?r3A
              case y3A => (rintro W ⟨x0, x1, x2, x3, x4, x5⟩; go_simp; try with_reducible rfl)
              try simp only [Act.put, List.getElem_toArray, List.getElem_cons_succ, List.getElem_cons_zero, List.setIfInBounds_toArray, List.set_cons_zero, List.set_cons_succ]
              refine wpV_take 4 68 [13] (v := ?v4A) rfl rfl (by kernel_rfl) (by kernel_rfl) (by kernel_rfl) (by kernel_rfl) (fun _ _ _ h => h) HS0.out (Or.inl ⟨by rfl, ?y4A⟩) ?r4A
              case y4A => (rintro W ⟨x0, x1, x2, x3, x4, x5⟩; go_simp; try with_reducible rfl)
              try simp only [Act.put, List.getElem_toArray, List.getElem_cons_succ, List.getElem_cons_zero, List.setIfInBounds_toArray, List.set_cons_zero, List.set_cons_succ]
              refine wpV_take 6 70 [13] (v := ?v6A) rfl rfl (by kernel_rfl) (by kernel_rfl) (by kernel_rfl) (by kernel_rfl) (fun _ _ _ h => h) HS0.out (Or.inl ⟨by rfl, ?y6A⟩) ?r6A
              case y6A => (rintro W ⟨x0, x1, x2, x3, x4, x5⟩; go_simp; try with_reducible rfl)
              try simp only [Act.put, List.getElem_toArray, List.getElem_cons_succ, List.getElem_cons_zero, List.setIfInBounds_toArray, List.set_cons_zero, List.set_cons_succ]
              refine wpV_take 7 71 [13] (v := ?v7A) rfl rfl (by kernel_rfl) (by kernel_rfl) (by kernel_rfl) (by kernel_rfl) (fun _ _ _ h => h) HS0.out (Or.inl ⟨by rfl, ?y7A⟩) ?r7A
              case y7A => (rintro W ⟨x0, x1, x2, x3, x4, x5⟩; go_simp; try with_reducible rfl)
              try simp only [Act.put, List.getElem_toArray, List.getElem_cons_succ, List.getElem_cons_zero, List.setIfInBounds_toArray, List.set_cons_zero, List.set_cons_succ]
              refine wpV_take 8 72 [13] (v := ?v8A) rfl rfl (by kernel_rfl) (by kernel_rfl) (by kernel_rfl) (by kernel_rfl) (fun _ _ _ h => h) HS0.out (Or.inl ⟨by rfl, ?y8A⟩) ?r8A
              case y8A => (rintro W ⟨x0, x1, x2, x3, x4, x5⟩; go_simp; try with_reducible rfl)
              try simp only [Act.put, List.getElem_toArray, List.getElem_cons_succ, List.getElem_cons_zero, List.setIfInBounds_toArray, List.set_cons_zero, List.set_cons_succ]
              refine wpV_take 9 73 [13] (v := ?v9A) rfl rfl (by kernel_rfl) (by kernel_rfl) (by kernel_rfl) (by kernel_rfl) (fun _ _ _ h => h) HS0.out (Or.inl ⟨by rfl, ?y9A⟩) ?r9A
              case y9A => (rintro W ⟨x0, x1, x2, x3, x4, x5⟩; go_simp; try with_reducible rfl)
              try simp only [Act.put, List.getElem_toArray, List.getElem_cons_succ, List.getElem_cons_zero, List.setIfInBounds_toArray, List.set_cons_zero, List.set_cons_succ]
              refine wpV_take 10 74 [13] (v := ?v10A) rfl rfl (by kernel_rfl) (by kernel_rfl) (by kernel_rfl) (by kernel_rfl) (fun _ _ _ h => h) HS0.out (Or.inl ⟨by rfl, ?y10A⟩) ?r10A
              case y10A => (rintro W ⟨x0, x1, x2, x3, x4, x5⟩; go_simp; try with_reducible rfl)
              try simp only [Act.put, List.getElem_toArray, List.getElem_cons_succ, List.getElem_cons_zero, List.setIfInBounds_toArray, List.set_cons_zero, List.set_cons_succ]
              refine wpV_one 5 (by kernel_rfl) rfl (fun K hK => ?_)
              go_simp
              refine (hW.out _ ?_).mono ?_
              exact (Below.refl _ wr).drew
              rintro e W1 ⟨v1, rfl, hp1, hb1⟩
              have hb1' := (Below.refl _ wr).drew.trans hb1
              have HP1 := Lib.hid hp1
              have HB1 := Lib.hid hb1'
              have HS1 : Hid ((fun V => V.cell? ⟨b, o + q, none⟩ = some (.string s) ∧ V.cell? ⟨g, 0, none⟩ = some (.bool i) ∧ V.cell? ⟨g, 1, none⟩ = some (.int .i64 c) ∧ V.cell? ⟨g, 2, none⟩ = some (.int .i64 a) ∧ V.cell? ⟨g, 3, none⟩ = some (.int .i64 n) ∧ V.cell? ⟨g, 4, none⟩ = some (.string t)) W1) := Lib.hid ⟨(hb1'.cell (p := ⟨b, o + q, none⟩) hlb).trans ks, (hb1'.cell (p := ⟨g, 0, none⟩) hlg).trans d0, (hb1'.cell (p := ⟨g, 1, none⟩) hlg).trans d1, (hb1'.cell (p := ⟨g, 2, none⟩) hlg).trans d2, (hb1'.cell (p := ⟨g, 3, none⟩) hlg).trans d3, (hb1'.cell (p := ⟨g, 4, none⟩) hlg).trans d4⟩
              refine hK.out _ _ (.inr HS1.out) ?_
              have hsz1 := hb1'.size
              clear hK K hb1 hb1' hp1 HS0
              try simp only [Act.put, List.getElem_toArray, List.getElem_cons_succ, List.getElem_cons_zero, List.setIfInBounds_toArray, List.set_cons_zero, List.set_cons_succ]
              refine wpV_one 11 (by kernel_rfl) rfl (fun K hK => ?_)
              go_simp
              refine (hRW.out _).mono ?_
              rintro e W2 ⟨rfl, hb2⟩
              have hlb1 : b < W1.heap.size := Nat.lt_of_lt_of_le hlb hsz1
              have hlg1 : g < W1.heap.size := Nat.lt_of_lt_of_le hlg hsz1
              have HR2 := Lib.hid ((HT.out.r.go' HB1.out).go' hb2)
              have HP2 := Lib.hid (HP1.out.go hb2)
              have HB2 := Lib.hid ((HT.out.b.trans (HB1.out.mono HT.out.b.size)).trans (hb2.mono (Nat.le_trans HT.out.b.size hsz1)))
              have HS2 : Hid ((fun V => V.cell? ⟨b, o + q, none⟩ = some (.string s) ∧ V.cell? ⟨g, 0, none⟩ = some (.bool i) ∧ V.cell? ⟨g, 1, none⟩ = some (.int .i64 c) ∧ V.cell? ⟨g, 2, none⟩ = some (.int .i64 a) ∧ V.cell? ⟨g, 3, none⟩ = some (.int .i64 n) ∧ V.cell? ⟨g, 4, none⟩ = some (.string t)) W2) := Lib.hid ⟨(hb2.cell (p := ⟨b, o + q, none⟩) hlb1).trans HS1.out.1, HR2.out.cell 0, HR2.out.cell 1, HR2.out.cell 2, HR2.out.cell 3, HR2.out.cell 4⟩
              refine hK.out _ _ (.inr HS2.out) ?_
              clear hK K hb2 HP1 HB1 HS1 ks d0 d1 d2 d3 d4 hW hRW
              try simp only [Act.put, List.getElem_toArray, List.getElem_cons_succ, List.getElem_cons_zero, List.setIfInBounds_toArray, List.set_cons_zero, List.set_cons_succ]
              refine wpV_one 12 (by kernel_rfl) rfl (fun K hK => ?_)
              go_simp
              refine hK.out _ _ (.inr HS2.out) ?_
              clear hK K
              try simp only [Act.put, List.getElem_toArray, List.getElem_cons_succ, List.getElem_cons_zero, List.setIfInBounds_toArray, List.set_cons_zero, List.set_cons_succ]
              have hlg2 := HR2.out.lt
              have f0 := HR2.out.frozen 0
              have d0 := HR2.out.cell 0
              have f1 := HR2.out.frozen 1
              have d1 := HR2.out.cell 1
              have f2 := HR2.out.frozen 2
              have d2 := HR2.out.cell 2
              have f3 := HR2.out.frozen 3
              have d3 := HR2.out.cell 3
              have f4 := HR2.out.frozen 4
              have d4 := HR2.out.cell 4
              simp only [eA, List.getElem?_toArray, List.getElem?_cons_zero, List.getElem?_cons_succ] at d0 d1 d2 d3 d4
              refine wpV_one 13 (by kernel_rfl) rfl (fun K hK => ?_)
              go_simp
              refine hK.out _ _ (.inl rfl) ?_
              clear hK K
              try simp only [Act.put, List.getElem_toArray, List.getElem_cons_succ, List.getElem_cons_zero, List.setIfInBounds_toArray, List.set_cons_zero, List.set_cons_succ]
              refine wpV_done (by kernel_rfl) ?_ _
              have HTA := Lib.hid (Bt.put HP2.out HR2.out HB2.out hgl.out)
              clear f0 f1 f2 f3 f4 d0 d1 d2 d3 d4 HS2 HP2 HR2 HB2 hlg2 hlb hlg hlb1 hlg1 hsz1 HT
              generalize ((((W2.setCell ⟨g, 0, none⟩ (.bool i)).setCell ⟨g, 1, none⟩ (.int .i64 c)).setCell ⟨g, 2, none⟩ (.int .i64 a)).setCell ⟨g, 3, none⟩ (.int .i64 n)).setCell ⟨g, 4, none⟩ (.string t1) = wA at *
              go_wp2_with fail
              go_meet
              case rel => exact ⟨_, by omega, HTA.out⟩
            · go_wp2_with fail
              go_meet
              case rel => exact ⟨_, by omega, HT.out⟩
          case rest =>
            clear HT
            obtain ⟨t1, htz, hbt⟩ := hcut
            have HTA := Lib.hid hbt
            clear hbt
            go_upto_if 79 with fail
            go_cut [12] from 51 to 135 (fun v W => ∃ n1, Bt w W g v i c a n1 t1)
            case first =>
              by_cases e3 : (q : Int) < m3
              · obtain ⟨b, o, hbo, hbl, hcell⟩ := HI3.out.at (by have := HZ3.out; omega)
                obtain ⟨s, hs⟩ : ∃ s, z3.getD q 0 = s := ⟨_, rfl⟩
                have ks0 := hcell q (by have := HZ3.out; omega)
                rw [hs] at ks0
                subst hbo
                have ks : wc.cell? ⟨b, o + q, none⟩ = some (.int .i64 s) := (HTA.out.b.cell (p := ⟨b, o + q, none⟩) hbl).trans ks0
                clear hs hcell ks0
                have hlb : b < wc.heap.size := Nat.lt_of_lt_of_le hbl HTA.out.b.size
                have hlg := HTA.out.r.lt
                have d0 := HTA.out.r.cell 0
                have d1 := HTA.out.r.cell 1
                have d2 := HTA.out.r.cell 2
                have d3 := HTA.out.r.cell 3
                have d4 := HTA.out.r.cell 4
                simp only [eA, List.getElem?_toArray, List.getElem?_cons_zero, List.getElem?_cons_succ] at d0 d1 d2 d3 d4
                have hW := Lib.hid (fun W hb => input_p (HTA.out.go (w' := W) hb).p s)
                have hRW := Lib.hid (fun W => rinput_any i c a n t1 s W)
                unfold eV at hRW
                obtain ⟨n1, hn1⟩ : ∃ n1, (if i then s else n) = n1 := ⟨_, rfl⟩
                rw [hn1] at hW hRW
                clear hn1
                go_wp2_with fail
                have HS0 : Hid ((fun V => V.cell? ⟨b, o + q, none⟩ = some (.int .i64 s) ∧ V.cell? ⟨g, 0, none⟩ = some (.bool i) ∧ V.cell? ⟨g, 1, none⟩ = some (.int .i64 c) ∧ V.cell? ⟨g, 2, none⟩ = some (.int .i64 a) ∧ V.cell? ⟨g, 3, none⟩ = some (.int .i64 n) ∧ V.cell? ⟨g, 4, none⟩ = some (.string t1)) wc.drew) := Lib.hid ⟨ks, d0, d1, d2, d3, d4⟩
                refine wp_region_V (fun V => V.cell? ⟨b, o + q, none⟩ = some (.int .i64 s) ∧ V.cell? ⟨g, 0, none⟩ = some (.bool i) ∧ V.cell? ⟨g, 1, none⟩ = some (.int .i64 c) ∧ V.cell? ⟨g, 2, none⟩ = some (.int .i64 a) ∧ V.cell? ⟨g, 3, none⟩ = some (.int .i64 n) ∧ V.cell? ⟨g, 4, none⟩ = some (.string t1)) [13] (by kernel_rfl) ?_
                refine wpV_take 0 80 [13] (v := ?v0B) rfl rfl (by kernel_rfl) (by kernel_rfl) (by kernel_rfl) (by kernel_rfl) (fun _ _ _ h => h) HS0.out (Or.inl ⟨by rfl, ?y0B⟩) ?r0B
                case y0B => (rintro W ⟨x0, x1, x2, x3, x4, x5⟩; go_simp; try with_reducible rfl)
                try simp only [Act.put, List.getElem_toArray, List.getElem_cons_succ, List.getElem_cons_zero, List.setIfInBounds_toArray, List.set_cons_zero, List.set_cons_succ]
                refine wpV_take 1 81 [13] (v := ?v1B) rfl rfl (by kernel_rfl) (by kernel_rfl) (by kernel_rfl) (by kernel_rfl) (fun _ _ _ h => h) HS0.out (Or.inl ⟨by rfl, ?y1B⟩) ?r1B
                case y1B => (rintro W ⟨x0, x1, x2, x3, x4, x5⟩; go_simp; try with_reducible rfl)
                try simp only [Act.put, List.getElem_toArray, List.getElem_cons_succ, List.getElem_cons_zero, List.setIfInBounds_toArray, List.set_cons_zero, List.set_cons_succ]
                refine wpV_take 2 82 [13] (v := ?v2B) rfl rfl (by kernel_rfl) (by kernel_rfl) (by kernel_rfl) (by kernel_rfl) (fun _ _ _ h => h) HS0.out (Or.inl ⟨by rfl, ?y2B⟩) ?r2B
                case y2B => (rintro W ⟨x0, x1, x2, x3, x4, x5⟩; go_simp; try with_reducible rfl)
                try simp only [Act.put, List.getElem_toArray, List.getElem_cons_succ, List.getElem_cons_zero, List.setIfInBounds_toArray, List.set_cons_zero, List.set_cons_succ]
                refine wpV_take 3 83 [13] (v := ?v3B) rfl rfl (by kernel_rfl) (by kernel_rfl) (by kernel_rfl) (by kernel_rfl) (fun _ _ _ h => h) HS0.out (Or.inl ⟨by rfl, ?y3B⟩) ?r3B
                case y3B => (rintro W ⟨x0, x1, x2, x3, x4, x5⟩; go_simp; try with_reducible rfl)
                try simp only [Act.put, List.getElem_toArray, List.getElem_cons_succ, List.getElem_cons_zero, List.setIfInBounds_toArray, List.set_cons_zero, List.set_cons_succ]
                refine wpV_take 4 84 [13] (v := ?v4B) rfl rfl (by kernel_rfl) (by kernel_rfl) (by kernel_rfl) (by kernel_rfl) (fun _ _ _ h => h) HS0.out (Or.inl ⟨by rfl, ?y4B⟩) ?r4B
                case y4B => (rintro W ⟨x0, x1, x2, x3, x4, x5⟩; go_simp; try with_reducible rfl)
                try simp only [Act.put, List.getElem_toArray, List.getElem_cons_succ, List.getElem_cons_zero, List.setIfInBounds_toArray, List.set_cons_zero, List.set_cons_succ]
                refine wpV_take 6 86 [13] (v := ?v6B) rfl rfl (by kernel_rfl) (by kernel_rfl) (by kernel_rfl) (by kernel_rfl) (fun _ _ _ h => h) HS0.out (Or.inl ⟨by rfl, ?y6B⟩) ?r6B
                case y6B => (rintro W ⟨x0, x1, x2, x3, x4, x5⟩; go_simp; try with_reducible rfl)
                try simp only [Act.put, List.getElem_toArray, List.getElem_cons_succ, List.getElem_cons_zero, List.setIfInBounds_toArray, List.set_cons_zero, List.set_cons_succ]
                refine wpV_take 7 87 [13] (v := ?v7B) rfl rfl (by kernel_rfl) (by kernel_rfl) (by kernel_rfl) (by kernel_rfl) (fun _ _ _ h => h) HS0.out (Or.inl ⟨by rfl, ?y7B⟩) ?r7B
                case y7B => (rintro W ⟨x0, x1, x2, x3, x4, x5⟩; go_simp; try with_reducible rfl)
                try simp only [Act.put, List.getElem_toArray, List.getElem_cons_succ, List.getElem_cons_zero, List.setIfInBounds_toArray, List.set_cons_zero, List.set_cons_succ]
                refine wpV_take 8 88 [13] (v := ?v8B) rfl rfl (by kernel_rfl) (by kernel_rfl) (by kernel_rfl) (by kernel_rfl) (fun _ _ _ h => h) HS0.out (Or.inl ⟨by rfl, ?y8B⟩) ?r8B
                case y8B => (rintro W ⟨x0, x1, x2, x3, x4, x5⟩; go_simp; try with_reducible rfl)
                try simp only [Act.put, List.getElem_toArray, List.getElem_cons_succ, List.getElem_cons_zero, List.setIfInBounds_toArray, List.set_cons_zero, List.set_cons_succ]
                refine wpV_take 9 89 [13] (v := ?v9B) rfl rfl (by kernel_rfl) (by kernel_rfl) (by kernel_rfl) (by kernel_rfl) (fun _ _ _ h => h) HS0.out (Or.inl ⟨by rfl, ?y9B⟩) ?r9B
                case y9B => (rintro W ⟨x0, x1, x2, x3, x4, x5⟩; go_simp; try with_reducible rfl)
                try simp only [Act.put, List.getElem_toArray, List.getElem_cons_succ, List.getElem_cons_zero, List.setIfInBounds_toArray, List.set_cons_zero, List.set_cons_succ]
                refine wpV_take 10 90 [13] (v := ?v10B) rfl rfl (by kernel_rfl) (by kernel_rfl) (by kernel_rfl) (by kernel_rfl) (fun _ _ _ h => h) HS0.out (Or.inl ⟨by rfl, ?y10B⟩) ?r10B
                case y10B => (rintro W ⟨x0, x1, x2, x3, x4, x5⟩; go_simp; try with_reducible rfl)
                try simp only [Act.put, List.getElem_toArray, List.getElem_cons_succ, List.getElem_cons_zero, List.setIfInBounds_toArray, List.set_cons_zero, List.set_cons_succ]
                refine wpV_one 5 (by kernel_rfl) rfl (fun K hK => ?_)
                go_simp
                refine (hW.out _ ?_).mono ?_
                exact (Below.refl _ wc).drew
                rintro e W1 ⟨v1, rfl, hp1, hb1⟩
                have hb1' := (Below.refl _ wc).drew.trans hb1
                have HP1 := Lib.hid hp1
                have HB1 := Lib.hid hb1'
                have HS1 : Hid ((fun V => V.cell? ⟨b, o + q, none⟩ = some (.int .i64 s) ∧ V.cell? ⟨g, 0, none⟩ = some (.bool i) ∧ V.cell? ⟨g, 1, none⟩ = some (.int .i64 c) ∧ V.cell? ⟨g, 2, none⟩ = some (.int .i64 a) ∧ V.cell? ⟨g, 3, none⟩ = some (.int .i64 n) ∧ V.cell? ⟨g, 4, none⟩ = some (.string t1)) W1) := Lib.hid ⟨(hb1'.cell (p := ⟨b, o + q, none⟩) hlb).trans ks, (hb1'.cell (p := ⟨g, 0, none⟩) hlg).trans d0, (hb1'.cell (p := ⟨g, 1, none⟩) hlg).trans d1, (hb1'.cell (p := ⟨g, 2, none⟩) hlg).trans d2, (hb1'.cell (p := ⟨g, 3, none⟩) hlg).trans d3, (hb1'.cell (p := ⟨g, 4, none⟩) hlg).trans d4⟩
                refine hK.out _ _ (.inr HS1.out) ?_
                have hsz1 := hb1'.size
                clear hK K hb1 hb1' hp1 HS0
                try simp only [Act.put, List.getElem_toArray, List.getElem_cons_succ, List.getElem_cons_zero, List.setIfInBounds_toArray, List.set_cons_zero, List.set_cons_succ]
                refine wpV_one 11 (by kernel_rfl) rfl (fun K hK => ?_)
                go_simp
                refine (hRW.out _).mono ?_
                rintro e W2 ⟨rfl, hb2⟩
                have hlb1 : b < W1.heap.size := Nat.lt_of_lt_of_le hlb hsz1
                have hlg1 : g < W1.heap.size := Nat.lt_of_lt_of_le hlg hsz1
                have HR2 := Lib.hid ((HTA.out.r.go' HB1.out).go' hb2)
                have HP2 := Lib.hid (HP1.out.go hb2)
                have HB2 := Lib.hid ((HTA.out.b.trans (HB1.out.mono HTA.out.b.size)).trans (hb2.mono (Nat.le_trans HTA.out.b.size hsz1)))
                have HS2 : Hid ((fun V => V.cell? ⟨b, o + q, none⟩ = some (.int .i64 s) ∧ V.cell? ⟨g, 0, none⟩ = some (.bool i) ∧ V.cell? ⟨g, 1, none⟩ = some (.int .i64 c) ∧ V.cell? ⟨g, 2, none⟩ = some (.int .i64 a) ∧ V.cell? ⟨g, 3, none⟩ = some (.int .i64 n) ∧ V.cell? ⟨g, 4, none⟩ = some (.string t1)) W2) := Lib.hid ⟨(hb2.cell (p := ⟨b, o + q, none⟩) hlb1).trans HS1.out.1, HR2.out.cell 0, HR2.out.cell 1, HR2.out.cell 2, HR2.out.cell 3, HR2.out.cell 4⟩
                refine hK.out _ _ (.inr HS2.out) ?_
                clear hK K hb2 HP1 HB1 HS1 ks d0 d1 d2 d3 d4 hW hRW
                try simp only [Act.put, List.getElem_toArray, List.getElem_cons_succ, List.getElem_cons_zero, List.setIfInBounds_toArray, List.set_cons_zero, List.set_cons_succ]
                refine wpV_one 12 (by kernel_rfl) rfl (fun K hK => ?_)
                go_simp
                refine hK.out _ _ (.inr HS2.out) ?_
                clear hK K
                try simp only [Act.put, List.getElem_toArray, List.getElem_cons_succ, List.getElem_cons_zero, List.setIfInBounds_toArray, List.set_cons_zero, List.set_cons_succ]
                have hlg2 := HR2.out.lt
                have f0 := HR2.out.frozen 0
                have d0 := HR2.out.cell 0
                have f1 := HR2.out.frozen 1
                have d1 := HR2.out.cell 1
                have f2 := HR2.out.frozen 2
                have d2 := HR2.out.cell 2
                have f3 := HR2.out.frozen 3
                have d3 := HR2.out.cell 3
                have f4 := HR2.out.frozen 4
                have d4 := HR2.out.cell 4
                simp only [eA, List.getElem?_toArray, List.getElem?_cons_zero, List.getElem?_cons_succ] at d0 d1 d2 d3 d4
                refine wpV_one 13 (by kernel_rfl) rfl (fun K hK => ?_)
                go_simp
                refine hK.out _ _ (.inl rfl) ?_
                clear hK K
                try simp only [Act.put, List.getElem_toArray, List.getElem_cons_succ, List.getElem_cons_zero, List.setIfInBounds_toArray, List.set_cons_zero, List.set_cons_succ]
                refine wpV_done (by kernel_rfl) ?_ _
                have HTB := Lib.hid (Bt.put HP2.out HR2.out HB2.out hgl.out)
                clear f0 f1 f2 f3 f4 d0 d1 d2 d3 d4 HS2 HP2 HR2 HB2 hlg2 hlb hlg hlb1 hlg1 hsz1 HTA
                generalize ((((W2.setCell ⟨g, 0, none⟩ (.bool i)).setCell ⟨g, 1, none⟩ (.int .i64 c)).setCell ⟨g, 2, none⟩ (.int .i64 a)).setCell ⟨g, 3, none⟩ (.int .i64 n1)).setCell ⟨g, 4, none⟩ (.string t1) = wB at *
                go_wp2_with fail
                go_meet
                case rel => exact ⟨_, HTB.out⟩
              · go_wp2_with fail
                go_meet
                case rel => exact ⟨_, HTA.out⟩
            case rest =>
              clear HTA
              obtain ⟨n1, hbt⟩ := hcut
              have HTB := Lib.hid hbt
              clear hbt
              have hnq := HTB.out.p.neq
              have hnG := HTB.out.p.neG
              have hcc : (c == c) = true := by simp
              obtain ⟨e4, he4⟩ : ∃ e4, (c == a4) = e4 := ⟨_, rfl⟩
              have hee : (e4 != e4) = false := by cases e4 <;> rfl
              have q1 : ∀ w, (binOp .neq 30 (.agg #[.int .i64 c, .int .i64 a, .int .i64 n1]) (.agg #[.int .i64 c, .int .i64 a, .int .i64 n1])).run Tryd.prog w = .ok (.bool false) w := fun w => by rw [neq_ft, ft_self]; rfl
              have q2 : (t1.toList == t1.toList) = true := by simp
              have htb : t1.size ≤ 100000000000 := by omega
              go_wp2_with fail
              cases i
              · refine wp_region_G (by kernel_rfl) ?_
                have HS := Lib.hid (HTB.out.go (Below.refl _ _).drew)
                generalize wc.drew = wd at *
                refine wpG_take 0 92 (v := ?v0Bf) rfl rfl (by kernel_rfl) (by kernel_rfl) (by kernel_rfl) (fun _ _ _ h => h) (Or.inl ⟨by rfl, ?y0Bf⟩) ?r0Bf
                case y0Bf => (intro W hW; (go_simp; try with_reducible rfl))
                simp only [Act.put, List.setIfInBounds_toArray, List.set_cons_zero, List.set_cons_succ]
                refine wpG_take 1 93 (v := ?v1Bf) rfl rfl (by kernel_rfl) (by kernel_rfl) (by kernel_rfl) (fun _ _ _ h => h) (Or.inl ⟨by rfl, ?y1Bf⟩) ?r1Bf
                case y1Bf => (intro W hW; (go_simp; try with_reducible rfl))
                simp only [Act.put, List.setIfInBounds_toArray, List.set_cons_zero, List.set_cons_succ]
                refine wpG_take 2 94 (v := ?v2Bf) rfl rfl (by kernel_rfl) (by kernel_rfl) (by kernel_rfl) (fun _ _ _ h => h) (Or.inl ⟨by rfl, ?y2Bf⟩) ?r2Bf
                case y2Bf => (intro W hW; (go_simp; try with_reducible rfl))
                simp only [Act.put, List.setIfInBounds_toArray, List.set_cons_zero, List.set_cons_succ]
                refine wpG_take 3 95 (v := ?v3Bf) rfl rfl (by kernel_rfl) (by kernel_rfl) (by kernel_rfl) (fun _ _ _ h => h) (Or.inl ⟨by rfl, ?y3Bf⟩) ?r3Bf
                case y3Bf => (intro W hW; have d0 := (HS.out.go hW).c0; (go_simp; try with_reducible rfl))
                simp only [Act.put, List.setIfInBounds_toArray, List.set_cons_zero, List.set_cons_succ]
                refine wpG_take 4 96 (v := ?v4Bf) rfl rfl (by kernel_rfl) (by kernel_rfl) (by kernel_rfl) (fun _ _ _ h => h) (Or.inl ⟨by rfl, ?y4Bf⟩) ?r4Bf
                case y4Bf => (intro W hW; (go_simp; try with_reducible rfl))
                simp only [Act.put, List.setIfInBounds_toArray, List.set_cons_zero, List.set_cons_succ]
                refine wpG_take 5 97 (v := ?v5Bf) rfl rfl (by kernel_rfl) (by kernel_rfl) (by kernel_rfl) (fun _ _ _ h => h) (Or.inl ⟨by rfl, ?y5Bf⟩) ?r5Bf
                case y5Bf => (intro W hW; (go_simp; try with_reducible rfl))
                simp only [Act.put, List.setIfInBounds_toArray, List.set_cons_zero, List.set_cons_succ]
                refine wpG_take 6 98 (v := ?v6Bf) rfl rfl (by kernel_rfl) (by kernel_rfl) (by kernel_rfl) (fun _ _ _ h => h) (Or.inl ⟨by rfl, ?y6Bf⟩) ?r6Bf
                case y6Bf => (intro W hW; (go_simp; try with_reducible rfl))
                simp only [Act.put, List.setIfInBounds_toArray, List.set_cons_zero, List.set_cons_succ]
                refine wpG_take 8 100 (v := ?v8Bf) rfl rfl (by kernel_rfl) (by kernel_rfl) (by kernel_rfl) (fun _ _ _ h => h) (Or.inl ⟨by rfl, ?y8Bf⟩) ?r8Bf
                case y8Bf => (intro W hW; (go_simp; try with_reducible rfl))
                simp only [Act.put, List.setIfInBounds_toArray, List.set_cons_zero, List.set_cons_succ]
                refine wpG_take 9 101 (v := ?v9Bf) rfl rfl (by kernel_rfl) (by kernel_rfl) (by kernel_rfl) (fun _ _ _ h => h) (Or.inl ⟨by rfl, ?y9Bf⟩) ?r9Bf
                case y9Bf => (intro W hW; have d1 := (HS.out.go hW).c1; have d2 := (HS.out.go hW).c2; have d3 := (HS.out.go hW).c3; (go_simp; try with_reducible rfl))
                simp only [Act.put, List.setIfInBounds_toArray, List.set_cons_zero, List.set_cons_succ]
                refine wpG_call 7 (by kernel_rfl) rfl (fun K hK => ?_)
                go_simp
                refine (of_p HS.out.p (hVb.out _ HS.out.b)).mono ?_
                rintro e W1 ⟨rfl, hb⟩
                replace HS := Lib.hid (HS.out.go hb)
                refine hK.out _ _ ?_ ?_
                · exact hb
                clear hK K
                clear hb
                refine wpG_take 10 102 (v := ?v10Bf) rfl rfl (by kernel_rfl) (by kernel_rfl) (by kernel_rfl) (fun _ _ _ h => h) (Or.inl ⟨by rfl, ?y10Bf⟩) ?r10Bf
                case y10Bf => (intro W hW; (go_simp; try with_reducible rfl))
                simp only [Act.put, List.setIfInBounds_toArray, List.set_cons_zero, List.set_cons_succ]
                refine wpG_take 11 103 (v := ?v11Bf) rfl rfl (by kernel_rfl) (by kernel_rfl) (by kernel_rfl) (fun _ _ _ h => h) (Or.inl ⟨by rfl, ?y11Bf⟩) ?r11Bf
                case y11Bf => (intro W hW; (go_simp; try with_reducible rfl))
                simp only [Act.put, List.setIfInBounds_toArray, List.set_cons_zero, List.set_cons_succ]
                refine wpG_take 12 104 (v := ?v12Bf) rfl rfl (by kernel_rfl) (by kernel_rfl) (by kernel_rfl) (fun _ _ _ h => h) (Or.inl ⟨by rfl, ?y12Bf⟩) ?r12Bf
                case y12Bf => (intro W hW; (go_simp; try with_reducible rfl))
                simp only [Act.put, List.setIfInBounds_toArray, List.set_cons_zero, List.set_cons_succ]
                refine wpG_take 13 105 (v := ?v13Bf) rfl rfl (by kernel_rfl) (by kernel_rfl) (by kernel_rfl) (fun _ _ _ h => h) (Or.inl ⟨by rfl, ?y13Bf⟩) ?r13Bf
                case y13Bf => (intro W hW; (go_simp; try with_reducible rfl))
                simp only [Act.put, List.setIfInBounds_toArray, List.set_cons_zero, List.set_cons_succ]
                refine wpG_take 15 107 (v := ?v15Bf) rfl rfl (by kernel_rfl) (by kernel_rfl) (by kernel_rfl) (fun _ _ _ h => h) (Or.inl ⟨by rfl, ?y15Bf⟩) ?r15Bf
                case y15Bf => (intro W hW; (go_simp; try with_reducible rfl))
                simp only [Act.put, List.setIfInBounds_toArray, List.set_cons_zero, List.set_cons_succ]
                refine wpG_take 16 108 (v := ?v16Bf) rfl rfl (by kernel_rfl) (by kernel_rfl) (by kernel_rfl) (fun _ _ _ h => h) (Or.inl ⟨by rfl, ?y16Bf⟩) ?r16Bf
                case y16Bf => (intro W hW; have d4 := (HS.out.go hW).c4; (go_simp; try with_reducible rfl))
                simp only [Act.put, List.setIfInBounds_toArray, List.set_cons_zero, List.set_cons_succ]
                refine wpG_call 14 (by kernel_rfl) rfl (fun K hK => ?_)
                go_simp
                refine (text_p HS.out.p (hVb.out _ HS.out.b) htb).mono ?_
                rintro e W1 ⟨rfl, hb⟩
                replace HS := Lib.hid (HS.out.go hb)
                refine hK.out _ _ ?_ ?_
                · exact hb
                clear hK K
                clear hb
                refine wpG_take 17 109 (v := ?v17Bf) rfl rfl (by kernel_rfl) (by kernel_rfl) (by kernel_rfl) (fun _ _ _ h => h) (Or.inl ⟨by rfl, ?y17Bf⟩) ?r17Bf
                case y17Bf => (intro W hW; (go_simp; try with_reducible rfl))
                simp only [Act.put, List.setIfInBounds_toArray, List.set_cons_zero, List.set_cons_succ]
                refine wpG_take 18 110 (v := ?v18Bf) rfl rfl (by kernel_rfl) (by kernel_rfl) (by kernel_rfl) (fun _ _ _ h => h) (Or.inl ⟨by rfl, ?y18Bf⟩) ?r18Bf
                case y18Bf => (intro W hW; (go_simp; try with_reducible rfl))
                simp only [Act.put, List.setIfInBounds_toArray, List.set_cons_zero, List.set_cons_succ]
                refine wpG_take 19 111 (v := ?v19Bf) rfl rfl (by kernel_rfl) (by kernel_rfl) (by kernel_rfl) (fun _ _ _ h => h) (Or.inl ⟨by rfl, ?y19Bf⟩) ?r19Bf
                case y19Bf => (intro W hW; (go_simp; try with_reducible rfl))
                simp only [Act.put, List.setIfInBounds_toArray, List.set_cons_zero, List.set_cons_succ]
                refine wpG_take 20 112 (v := ?v20Bf) rfl rfl (by kernel_rfl) (by kernel_rfl) (by kernel_rfl) (fun _ _ _ h => h) (Or.inl ⟨by rfl, ?y20Bf⟩) ?r20Bf
                case y20Bf => (intro W hW; (go_simp; try with_reducible rfl))
                simp only [Act.put, List.setIfInBounds_toArray, List.set_cons_zero, List.set_cons_succ]
                refine wpG_take 21 113 (v := ?v21Bf) rfl rfl (by kernel_rfl) (by kernel_rfl) (by kernel_rfl) (fun _ _ _ h => h) (Or.inl ⟨by rfl, ?y21Bf⟩) ?r21Bf
                case y21Bf => (intro W hW; (go_simp; try with_reducible rfl))
                simp only [Act.put, List.setIfInBounds_toArray, List.set_cons_zero, List.set_cons_succ]
                refine wpG_take 23 115 (v := ?v23Bf) rfl rfl (by kernel_rfl) (by kernel_rfl) (by kernel_rfl) (fun _ _ _ h => h) (Or.inl ⟨by rfl, ?y23Bf⟩) ?r23Bf
                case y23Bf => (intro W hW; (go_simp; try with_reducible rfl))
                simp only [Act.put, List.setIfInBounds_toArray, List.set_cons_zero, List.set_cons_succ]
                refine wpG_take 24 116 (v := ?v24Bf) rfl rfl (by kernel_rfl) (by kernel_rfl) (by kernel_rfl) (fun _ _ _ h => h) (Or.inl ⟨by rfl, ?y24Bf⟩) ?r24Bf
                case y24Bf => (intro W hW; have d0 := (HS.out.go hW).c0; (go_simp; try with_reducible rfl))
                simp only [Act.put, List.setIfInBounds_toArray, List.set_cons_zero, List.set_cons_succ]
                refine wpG_call 22 (by kernel_rfl) rfl (fun K hK => ?_)
                go_simp
                have hc := is_p HS.out.p (hVb.out _ HS.out.b) a4
                simp only [Bool.false_and] at hc
                refine hc.mono ?_
                rintro e W1 ⟨rfl, hb⟩
                replace HS := Lib.hid (HS.out.go hb)
                refine hK.out _ _ ?_ ?_
                · exact hb
                clear hK K
                clear hb hc
                refine wpG_take 25 117 (v := ?v25Bf) rfl rfl (by kernel_rfl) (by kernel_rfl) (by kernel_rfl) (fun _ _ _ h => h) (Or.inl ⟨by rfl, ?y25Bf⟩) ?r25Bf
                case y25Bf => (intro W hW; (go_simp; try with_reducible rfl))
                simp only [Act.put, List.setIfInBounds_toArray, List.set_cons_zero, List.set_cons_succ]
                refine wpG_take 26 118 rfl rfl (by kernel_rfl) (by kernel_rfl) (by kernel_rfl) (fun _ _ _ h => h) (Or.inr ⟨by rfl, rfl⟩) ?_
                simp only [Act.put, List.setIfInBounds_toArray, List.set_cons_zero, List.set_cons_succ]
                refine wpG_take 27 119 rfl rfl (by kernel_rfl) (by kernel_rfl) (by kernel_rfl) (fun _ _ _ h => h) (Or.inr ⟨by rfl, rfl⟩) ?_
                simp only [Act.put, List.setIfInBounds_toArray, List.set_cons_zero, List.set_cons_succ]
                refine wpG_take 28 120 rfl rfl (by kernel_rfl) (by kernel_rfl) (by kernel_rfl) (fun _ _ _ h => h) (Or.inr ⟨by rfl, rfl⟩) ?_
                simp only [Act.put, List.setIfInBounds_toArray, List.set_cons_zero, List.set_cons_succ]
                refine wpG_take 29 121 rfl rfl (by kernel_rfl) (by kernel_rfl) (by kernel_rfl) (fun _ _ _ h => h) (Or.inr ⟨by rfl, rfl⟩) ?_
                simp only [Act.put, List.setIfInBounds_toArray, List.set_cons_zero, List.set_cons_succ]
                refine wpG_take 30 122 rfl rfl (by kernel_rfl) (by kernel_rfl) (by kernel_rfl) (fun _ _ _ h => h) (Or.inr ⟨by rfl, rfl⟩) ?_
                simp only [Act.put, List.setIfInBounds_toArray, List.set_cons_zero, List.set_cons_succ]
                refine wpG_take 31 123 (v := ?v31Bf) rfl rfl (by kernel_rfl) (by kernel_rfl) (by kernel_rfl) (fun _ _ _ h => h) (Or.inl ⟨by rfl, ?y31Bf⟩) ?r31Bf
                case y31Bf => (intro W hW; (go_simp; try with_reducible rfl))
                simp only [Act.put, List.setIfInBounds_toArray, List.set_cons_zero, List.set_cons_succ]
                refine wpG_take 32 124 (v := ?v32Bf) rfl rfl (by kernel_rfl) (by kernel_rfl) (by kernel_rfl) (fun _ _ _ h => h) (Or.inl ⟨by rfl, ?y32Bf⟩) ?r32Bf
                case y32Bf => (intro W hW; (go_simp; try with_reducible rfl))
                simp only [Act.put, List.setIfInBounds_toArray, List.set_cons_zero, List.set_cons_succ]
                refine wpG_take 33 125 (v := ?v33Bf) rfl rfl (by kernel_rfl) (by kernel_rfl) (by kernel_rfl) (fun _ _ _ h => h) (Or.inl ⟨by rfl, ?y33Bf⟩) ?r33Bf
                case y33Bf => (intro W hW; (go_simp; try with_reducible rfl))
                simp only [Act.put, List.setIfInBounds_toArray, List.set_cons_zero, List.set_cons_succ]
                refine wpG_take 34 126 (v := ?v34Bf) rfl rfl (by kernel_rfl) (by kernel_rfl) (by kernel_rfl) (fun _ _ _ h => h) (Or.inl ⟨by rfl, ?y34Bf⟩) ?r34Bf
                case y34Bf => (intro W hW; (go_simp; try with_reducible rfl))
                simp only [Act.put, List.setIfInBounds_toArray, List.set_cons_zero, List.set_cons_succ]
                refine wpG_take 35 127 (v := ?v35Bf) rfl rfl (by kernel_rfl) (by kernel_rfl) (by kernel_rfl) (fun _ _ _ h => h) (Or.inl ⟨by rfl, ?y35Bf⟩) ?r35Bf
                case y35Bf => (intro W hW; (go_simp; try with_reducible rfl))
                simp only [Act.put, List.setIfInBounds_toArray, List.set_cons_zero, List.set_cons_succ]
                refine wpG_take 36 128 (v := ?v36Bf) rfl rfl (by kernel_rfl) (by kernel_rfl) (by kernel_rfl) (fun _ _ _ h => h) (Or.inl ⟨by rfl, ?y36Bf⟩) ?r36Bf
                case y36Bf => (intro W hW; (go_simp; try with_reducible rfl))
                simp only [Act.put, List.setIfInBounds_toArray, List.set_cons_zero, List.set_cons_succ]
                refine wpG_take 37 129 (v := ?v37Bf) rfl rfl (by kernel_rfl) (by kernel_rfl) (by kernel_rfl) (fun _ _ _ h => h) (Or.inl ⟨by rfl, ?y37Bf⟩) ?r37Bf
                case y37Bf => (intro W hW; (go_simp; try with_reducible rfl))
                simp only [Act.put, List.setIfInBounds_toArray, List.set_cons_zero, List.set_cons_succ]
                refine wpG_take 38 130 (v := ?v38Bf) rfl rfl (by kernel_rfl) (by kernel_rfl) (by kernel_rfl) (fun _ _ _ h => h) (Or.inl ⟨by rfl, ?y38Bf⟩) ?r38Bf
                case y38Bf => (intro W hW; have d1 := (HS.out.go hW).c1; (go_simp; try with_reducible rfl))
                simp only [Act.put, List.setIfInBounds_toArray, List.set_cons_zero, List.set_cons_succ]
                refine wpG_take 40 132 (v := ?v40Bf) rfl rfl (by kernel_rfl) (by kernel_rfl) (by kernel_rfl) (fun _ _ _ h => h) (Or.inl ⟨by rfl, ?y40Bf⟩) ?r40Bf
                case y40Bf => (intro W hW; (go_simp; try with_reducible rfl))
                simp only [Act.put, List.setIfInBounds_toArray, List.set_cons_zero, List.set_cons_succ]
                refine wpG_take 41 133 (v := ?v41Bf) rfl rfl (by kernel_rfl) (by kernel_rfl) (by kernel_rfl) (fun _ _ _ h => h) (Or.inl ⟨by rfl, ?y41Bf⟩) ?r41Bf
                case y41Bf => (intro W hW; have d0 := (HS.out.go hW).c0; (go_simp; try with_reducible rfl))
                simp only [Act.put, List.setIfInBounds_toArray, List.set_cons_zero, List.set_cons_succ]
                refine wpG_call 39 (by kernel_rfl) rfl (fun K hK => ?_)
                go_simp
                have hc := is_p HS.out.p (hVb.out _ HS.out.b) c
                simp only [Bool.false_and] at hc
                refine hc.mono ?_
                rintro e W1 ⟨rfl, hb⟩
                replace HS := Lib.hid (HS.out.go hb)
                refine hK.out _ _ ?_ ?_
                · exact hb
                clear hK K
                clear hb hc
                refine wpG_take 42 134 (v := ?v42Bf) rfl rfl (by kernel_rfl) (by kernel_rfl) (by kernel_rfl) (fun _ _ _ h => h) (Or.inl ⟨by rfl, ?y42Bf⟩) ?r42Bf
                case y42Bf => (intro W hW; (go_simp; try with_reducible rfl))
                simp only [Act.put, List.setIfInBounds_toArray, List.set_cons_zero, List.set_cons_succ]
                refine wpG_take 43 135 (v := ?v43Bf) rfl rfl (by kernel_rfl) (by kernel_rfl) (by kernel_rfl) (fun _ _ _ h => h) (Or.inl ⟨by rfl, ?y43Bf⟩) ?r43Bf
                case y43Bf => (intro W hW; (go_simp; try with_reducible rfl))
                simp only [Act.put, List.setIfInBounds_toArray, List.set_cons_zero, List.set_cons_succ]
                refine wpG_done (by kernel_rfl) ?_ _
                go_wp2_with fail
                go_roundw
                case rel => exact ⟨q + 1, false, c, a, n1, t1, rfl, by omega, by omega, HS.out⟩
                case measure => simp [intOf]; omega
              · refine wp_region_G (by kernel_rfl) ?_
                have HS := Lib.hid (HTB.out.go (Below.refl _ _).drew)
                generalize wc.drew = wd at *
                refine wpG_take 0 92 (v := ?v0Bt) rfl rfl (by kernel_rfl) (by kernel_rfl) (by kernel_rfl) (fun _ _ _ h => h) (Or.inl ⟨by rfl, ?y0Bt⟩) ?r0Bt
                case y0Bt => (intro W hW; (go_simp; try with_reducible rfl))
                simp only [Act.put, List.setIfInBounds_toArray, List.set_cons_zero, List.set_cons_succ]
                refine wpG_take 1 93 (v := ?v1Bt) rfl rfl (by kernel_rfl) (by kernel_rfl) (by kernel_rfl) (fun _ _ _ h => h) (Or.inl ⟨by rfl, ?y1Bt⟩) ?r1Bt
                case y1Bt => (intro W hW; (go_simp; try with_reducible rfl))
                simp only [Act.put, List.setIfInBounds_toArray, List.set_cons_zero, List.set_cons_succ]
                refine wpG_take 2 94 (v := ?v2Bt) rfl rfl (by kernel_rfl) (by kernel_rfl) (by kernel_rfl) (fun _ _ _ h => h) (Or.inl ⟨by rfl, ?y2Bt⟩) ?r2Bt
                case y2Bt => (intro W hW; (go_simp; try with_reducible rfl))
                simp only [Act.put, List.setIfInBounds_toArray, List.set_cons_zero, List.set_cons_succ]
                refine wpG_take 3 95 (v := ?v3Bt) rfl rfl (by kernel_rfl) (by kernel_rfl) (by kernel_rfl) (fun _ _ _ h => h) (Or.inl ⟨by rfl, ?y3Bt⟩) ?r3Bt
                case y3Bt => (intro W hW; have d0 := (HS.out.go hW).c0; (go_simp; try with_reducible rfl))
                simp only [Act.put, List.setIfInBounds_toArray, List.set_cons_zero, List.set_cons_succ]
                refine wpG_take 4 96 (v := ?v4Bt) rfl rfl (by kernel_rfl) (by kernel_rfl) (by kernel_rfl) (fun _ _ _ h => h) (Or.inl ⟨by rfl, ?y4Bt⟩) ?r4Bt
                case y4Bt => (intro W hW; (go_simp; try with_reducible rfl))
                simp only [Act.put, List.setIfInBounds_toArray, List.set_cons_zero, List.set_cons_succ]
                refine wpG_take 5 97 (v := ?v5Bt) rfl rfl (by kernel_rfl) (by kernel_rfl) (by kernel_rfl) (fun _ _ _ h => h) (Or.inl ⟨by rfl, ?y5Bt⟩) ?r5Bt
                case y5Bt => (intro W hW; (go_simp; try with_reducible rfl))
                simp only [Act.put, List.setIfInBounds_toArray, List.set_cons_zero, List.set_cons_succ]
                refine wpG_take 6 98 (v := ?v6Bt) rfl rfl (by kernel_rfl) (by kernel_rfl) (by kernel_rfl) (fun _ _ _ h => h) (Or.inl ⟨by rfl, ?y6Bt⟩) ?r6Bt
                case y6Bt => (intro W hW; (go_simp; try with_reducible rfl))
                simp only [Act.put, List.setIfInBounds_toArray, List.set_cons_zero, List.set_cons_succ]
                refine wpG_take 8 100 (v := ?v8Bt) rfl rfl (by kernel_rfl) (by kernel_rfl) (by kernel_rfl) (fun _ _ _ h => h) (Or.inl ⟨by rfl, ?y8Bt⟩) ?r8Bt
                case y8Bt => (intro W hW; (go_simp; try with_reducible rfl))
                simp only [Act.put, List.setIfInBounds_toArray, List.set_cons_zero, List.set_cons_succ]
                refine wpG_take 9 101 (v := ?v9Bt) rfl rfl (by kernel_rfl) (by kernel_rfl) (by kernel_rfl) (fun _ _ _ h => h) (Or.inl ⟨by rfl, ?y9Bt⟩) ?r9Bt
                case y9Bt => (intro W hW; have d1 := (HS.out.go hW).c1; have d2 := (HS.out.go hW).c2; have d3 := (HS.out.go hW).c3; (go_simp; try with_reducible rfl))
                simp only [Act.put, List.setIfInBounds_toArray, List.set_cons_zero, List.set_cons_succ]
                refine wpG_call 7 (by kernel_rfl) rfl (fun K hK => ?_)
                go_simp
                refine (of_p HS.out.p (hVb.out _ HS.out.b)).mono ?_
                rintro e W1 ⟨rfl, hb⟩
                replace HS := Lib.hid (HS.out.go hb)
                refine hK.out _ _ ?_ ?_
                · exact hb
                clear hK K
                clear hb
                refine wpG_take 10 102 (v := ?v10Bt) rfl rfl (by kernel_rfl) (by kernel_rfl) (by kernel_rfl) (fun _ _ _ h => h) (Or.inl ⟨by rfl, ?y10Bt⟩) ?r10Bt
                case y10Bt => (intro W hW; (go_simp; try with_reducible rfl))
                simp only [Act.put, List.setIfInBounds_toArray, List.set_cons_zero, List.set_cons_succ]
                refine wpG_take 11 103 (v := ?v11Bt) rfl rfl (by kernel_rfl) (by kernel_rfl) (by kernel_rfl) (fun _ _ _ h => h) (Or.inl ⟨by rfl, ?y11Bt⟩) ?r11Bt
                case y11Bt => (intro W hW; (go_simp; try with_reducible rfl))
                simp only [Act.put, List.setIfInBounds_toArray, List.set_cons_zero, List.set_cons_succ]
                refine wpG_take 12 104 (v := ?v12Bt) rfl rfl (by kernel_rfl) (by kernel_rfl) (by kernel_rfl) (fun _ _ _ h => h) (Or.inl ⟨by rfl, ?y12Bt⟩) ?r12Bt
                case y12Bt => (intro W hW; (go_simp; try with_reducible rfl))
                simp only [Act.put, List.setIfInBounds_toArray, List.set_cons_zero, List.set_cons_succ]
                refine wpG_take 13 105 (v := ?v13Bt) rfl rfl (by kernel_rfl) (by kernel_rfl) (by kernel_rfl) (fun _ _ _ h => h) (Or.inl ⟨by rfl, ?y13Bt⟩) ?r13Bt
                case y13Bt => (intro W hW; (go_simp; try with_reducible rfl))
                simp only [Act.put, List.setIfInBounds_toArray, List.set_cons_zero, List.set_cons_succ]
                refine wpG_take 15 107 (v := ?v15Bt) rfl rfl (by kernel_rfl) (by kernel_rfl) (by kernel_rfl) (fun _ _ _ h => h) (Or.inl ⟨by rfl, ?y15Bt⟩) ?r15Bt
                case y15Bt => (intro W hW; (go_simp; try with_reducible rfl))
                simp only [Act.put, List.setIfInBounds_toArray, List.set_cons_zero, List.set_cons_succ]
                refine wpG_take 16 108 (v := ?v16Bt) rfl rfl (by kernel_rfl) (by kernel_rfl) (by kernel_rfl) (fun _ _ _ h => h) (Or.inl ⟨by rfl, ?y16Bt⟩) ?r16Bt
                case y16Bt => (intro W hW; have d4 := (HS.out.go hW).c4; (go_simp; try with_reducible rfl))
                simp only [Act.put, List.setIfInBounds_toArray, List.set_cons_zero, List.set_cons_succ]
                refine wpG_call 14 (by kernel_rfl) rfl (fun K hK => ?_)
                go_simp
                refine (text_p HS.out.p (hVb.out _ HS.out.b) htb).mono ?_
                rintro e W1 ⟨rfl, hb⟩
                replace HS := Lib.hid (HS.out.go hb)
                refine hK.out _ _ ?_ ?_
                · exact hb
                clear hK K
                clear hb
                refine wpG_take 17 109 (v := ?v17Bt) rfl rfl (by kernel_rfl) (by kernel_rfl) (by kernel_rfl) (fun _ _ _ h => h) (Or.inl ⟨by rfl, ?y17Bt⟩) ?r17Bt
                case y17Bt => (intro W hW; (go_simp; try with_reducible rfl))
                simp only [Act.put, List.setIfInBounds_toArray, List.set_cons_zero, List.set_cons_succ]
                refine wpG_take 18 110 (v := ?v18Bt) rfl rfl (by kernel_rfl) (by kernel_rfl) (by kernel_rfl) (fun _ _ _ h => h) (Or.inl ⟨by rfl, ?y18Bt⟩) ?r18Bt
                case y18Bt => (intro W hW; (go_simp; try with_reducible rfl))
                simp only [Act.put, List.setIfInBounds_toArray, List.set_cons_zero, List.set_cons_succ]
                refine wpG_take 19 111 (v := ?v19Bt) rfl rfl (by kernel_rfl) (by kernel_rfl) (by kernel_rfl) (fun _ _ _ h => h) (Or.inl ⟨by rfl, ?y19Bt⟩) ?r19Bt
                case y19Bt => (intro W hW; (go_simp; try with_reducible rfl))
                simp only [Act.put, List.setIfInBounds_toArray, List.set_cons_zero, List.set_cons_succ]
                refine wpG_take 20 112 (v := ?v20Bt) rfl rfl (by kernel_rfl) (by kernel_rfl) (by kernel_rfl) (fun _ _ _ h => h) (Or.inl ⟨by rfl, ?y20Bt⟩) ?r20Bt
                case y20Bt => (intro W hW; (go_simp; try with_reducible rfl))
                simp only [Act.put, List.setIfInBounds_toArray, List.set_cons_zero, List.set_cons_succ]
                refine wpG_take 21 113 (v := ?v21Bt) rfl rfl (by kernel_rfl) (by kernel_rfl) (by kernel_rfl) (fun _ _ _ h => h) (Or.inl ⟨by rfl, ?y21Bt⟩) ?r21Bt
                case y21Bt => (intro W hW; (go_simp; try with_reducible rfl))
                simp only [Act.put, List.setIfInBounds_toArray, List.set_cons_zero, List.set_cons_succ]
                refine wpG_take 23 115 (v := ?v23Bt) rfl rfl (by kernel_rfl) (by kernel_rfl) (by kernel_rfl) (fun _ _ _ h => h) (Or.inl ⟨by rfl, ?y23Bt⟩) ?r23Bt
                case y23Bt => (intro W hW; (go_simp; try with_reducible rfl))
                simp only [Act.put, List.setIfInBounds_toArray, List.set_cons_zero, List.set_cons_succ]
                refine wpG_take 24 116 (v := ?v24Bt) rfl rfl (by kernel_rfl) (by kernel_rfl) (by kernel_rfl) (fun _ _ _ h => h) (Or.inl ⟨by rfl, ?y24Bt⟩) ?r24Bt
                case y24Bt => (intro W hW; have d0 := (HS.out.go hW).c0; (go_simp; try with_reducible rfl))
                simp only [Act.put, List.setIfInBounds_toArray, List.set_cons_zero, List.set_cons_succ]
                refine wpG_call 22 (by kernel_rfl) rfl (fun K hK => ?_)
                go_simp
                have hc := is_p HS.out.p (hVb.out _ HS.out.b) a4
                simp only [Bool.true_and] at hc
                rw [he4] at hc
                refine hc.mono ?_
                rintro e W1 ⟨rfl, hb⟩
                replace HS := Lib.hid (HS.out.go hb)
                refine hK.out _ _ ?_ ?_
                · exact hb
                clear hK K
                clear hb hc
                refine wpG_take 25 117 (v := ?v25Bt) rfl rfl (by kernel_rfl) (by kernel_rfl) (by kernel_rfl) (fun _ _ _ h => h) (Or.inl ⟨by rfl, ?y25Bt⟩) ?r25Bt
                case y25Bt => (intro W hW; (go_simp; try with_reducible rfl))
                simp only [Act.put, List.setIfInBounds_toArray, List.set_cons_zero, List.set_cons_succ]
                refine wpG_take 26 118 (v := ?v26Bt) rfl rfl (by kernel_rfl) (by kernel_rfl) (by kernel_rfl) (fun _ _ _ h => h) (Or.inl ⟨by rfl, ?y26Bt⟩) ?r26Bt
                case y26Bt => (intro W hW; (go_simp; try with_reducible rfl))
                simp only [Act.put, List.setIfInBounds_toArray, List.set_cons_zero, List.set_cons_succ]
                refine wpG_take 27 119 (v := ?v27Bt) rfl rfl (by kernel_rfl) (by kernel_rfl) (by kernel_rfl) (fun _ _ _ h => h) (Or.inl ⟨by rfl, ?y27Bt⟩) ?r27Bt
                case y27Bt => (intro W hW; (go_simp; try with_reducible rfl))
                simp only [Act.put, List.setIfInBounds_toArray, List.set_cons_zero, List.set_cons_succ]
                refine wpG_take 28 120 (v := ?v28Bt) rfl rfl (by kernel_rfl) (by kernel_rfl) (by kernel_rfl) (fun _ _ _ h => h) (Or.inl ⟨by rfl, ?y28Bt⟩) ?r28Bt
                case y28Bt => (intro W hW; have d1 := (HS.out.go hW).c1; (go_simp; try with_reducible rfl))
                simp only [Act.put, List.setIfInBounds_toArray, List.set_cons_zero, List.set_cons_succ]
                refine wpG_take 29 121 (v := ?v29Bt) rfl rfl (by kernel_rfl) (by kernel_rfl) (by kernel_rfl) (fun _ _ _ h => h) (Or.inl ⟨by rfl, ?y29Bt⟩) ?r29Bt
                case y29Bt => (intro W hW; (go_simp; try with_reducible rfl))
                simp only [Act.put, List.setIfInBounds_toArray, List.set_cons_zero, List.set_cons_succ]
                refine wpG_take 30 122 (v := ?v30Bt) rfl rfl (by kernel_rfl) (by kernel_rfl) (by kernel_rfl) (fun _ _ _ h => h) (Or.inl ⟨by rfl, ?y30Bt⟩) ?r30Bt
                case y30Bt => (intro W hW; (go_simp; try with_reducible rfl))
                simp only [Act.put, List.setIfInBounds_toArray, List.set_cons_zero, List.set_cons_succ]
                refine wpG_take 31 123 (v := ?v31Bt) rfl rfl (by kernel_rfl) (by kernel_rfl) (by kernel_rfl) (fun _ _ _ h => h) (Or.inl ⟨by rfl, ?y31Bt⟩) ?r31Bt
                case y31Bt => (intro W hW; (go_simp; try with_reducible rfl))
                simp only [Act.put, List.setIfInBounds_toArray, List.set_cons_zero, List.set_cons_succ]
                refine wpG_take 32 124 (v := ?v32Bt) rfl rfl (by kernel_rfl) (by kernel_rfl) (by kernel_rfl) (fun _ _ _ h => h) (Or.inl ⟨by rfl, ?y32Bt⟩) ?r32Bt
                case y32Bt => (intro W hW; (go_simp; try with_reducible rfl))
                simp only [Act.put, List.setIfInBounds_toArray, List.set_cons_zero, List.set_cons_succ]
                refine wpG_take 33 125 (v := ?v33Bt) rfl rfl (by kernel_rfl) (by kernel_rfl) (by kernel_rfl) (fun _ _ _ h => h) (Or.inl ⟨by rfl, ?y33Bt⟩) ?r33Bt
                case y33Bt => (intro W hW; (go_simp; try with_reducible rfl))
                simp only [Act.put, List.setIfInBounds_toArray, List.set_cons_zero, List.set_cons_succ]
                refine wpG_take 34 126 (v := ?v34Bt) rfl rfl (by kernel_rfl) (by kernel_rfl) (by kernel_rfl) (fun _ _ _ h => h) (Or.inl ⟨by rfl, ?y34Bt⟩) ?r34Bt
                case y34Bt => (intro W hW; (go_simp; try with_reducible rfl))
                simp only [Act.put, List.setIfInBounds_toArray, List.set_cons_zero, List.set_cons_succ]
                refine wpG_take 35 127 (v := ?v35Bt) rfl rfl (by kernel_rfl) (by kernel_rfl) (by kernel_rfl) (fun _ _ _ h => h) (Or.inl ⟨by rfl, ?y35Bt⟩) ?r35Bt
                case y35Bt => (intro W hW; (go_simp; try with_reducible rfl))
                simp only [Act.put, List.setIfInBounds_toArray, List.set_cons_zero, List.set_cons_succ]
                refine wpG_take 36 128 (v := ?v36Bt) rfl rfl (by kernel_rfl) (by kernel_rfl) (by kernel_rfl) (fun _ _ _ h => h) (Or.inl ⟨by rfl, ?y36Bt⟩) ?r36Bt
                case y36Bt => (intro W hW; (go_simp; try with_reducible rfl))
                simp only [Act.put, List.setIfInBounds_toArray, List.set_cons_zero, List.set_cons_succ]
                refine wpG_take 37 129 (v := ?v37Bt) rfl rfl (by kernel_rfl) (by kernel_rfl) (by kernel_rfl) (fun _ _ _ h => h) (Or.inl ⟨by rfl, ?y37Bt⟩) ?r37Bt
                case y37Bt => (intro W hW; (go_simp; try with_reducible rfl))
                simp only [Act.put, List.setIfInBounds_toArray, List.set_cons_zero, List.set_cons_succ]
                refine wpG_take 38 130 (v := ?v38Bt) rfl rfl (by kernel_rfl) (by kernel_rfl) (by kernel_rfl) (fun _ _ _ h => h) (Or.inl ⟨by rfl, ?y38Bt⟩) ?r38Bt
                case y38Bt => (intro W hW; have d1 := (HS.out.go hW).c1; (go_simp; try with_reducible rfl))
                simp only [Act.put, List.setIfInBounds_toArray, List.set_cons_zero, List.set_cons_succ]
                refine wpG_take 40 132 (v := ?v40Bt) rfl rfl (by kernel_rfl) (by kernel_rfl) (by kernel_rfl) (fun _ _ _ h => h) (Or.inl ⟨by rfl, ?y40Bt⟩) ?r40Bt
                case y40Bt => (intro W hW; (go_simp; try with_reducible rfl))
                simp only [Act.put, List.setIfInBounds_toArray, List.set_cons_zero, List.set_cons_succ]
                refine wpG_take 41 133 (v := ?v41Bt) rfl rfl (by kernel_rfl) (by kernel_rfl) (by kernel_rfl) (fun _ _ _ h => h) (Or.inl ⟨by rfl, ?y41Bt⟩) ?r41Bt
                case y41Bt => (intro W hW; have d0 := (HS.out.go hW).c0; (go_simp; try with_reducible rfl))
                simp only [Act.put, List.setIfInBounds_toArray, List.set_cons_zero, List.set_cons_succ]
                refine wpG_call 39 (by kernel_rfl) rfl (fun K hK => ?_)
                go_simp
                have hc := is_p HS.out.p (hVb.out _ HS.out.b) c
                simp only [Bool.true_and] at hc
                rw [hcc] at hc
                refine hc.mono ?_
                rintro e W1 ⟨rfl, hb⟩
                replace HS := Lib.hid (HS.out.go hb)
                refine hK.out _ _ ?_ ?_
                · exact hb
                clear hK K
                clear hb hc
                refine wpG_take 42 134 (v := ?v42Bt) rfl rfl (by kernel_rfl) (by kernel_rfl) (by kernel_rfl) (fun _ _ _ h => h) (Or.inl ⟨by rfl, ?y42Bt⟩) ?r42Bt
                case y42Bt => (intro W hW; (go_simp; try with_reducible rfl))
                simp only [Act.put, List.setIfInBounds_toArray, List.set_cons_zero, List.set_cons_succ]
                refine wpG_take 43 135 (v := ?v43Bt) rfl rfl (by kernel_rfl) (by kernel_rfl) (by kernel_rfl) (fun _ _ _ h => h) (Or.inl ⟨by rfl, ?y43Bt⟩) ?r43Bt
                case y43Bt => (intro W hW; (go_simp; try with_reducible rfl))
                simp only [Act.put, List.setIfInBounds_toArray, List.set_cons_zero, List.set_cons_succ]
                refine wpG_done (by kernel_rfl) ?_ _
                go_wp2_with fail
                go_roundw
                case rel => exact ⟨q + 1, true, c, a, n1, t1, rfl, by omega, by omega, HS.out⟩
                case measure => simp [intOf]; omega
end Go.Proofs.YtakbbhhhdcnlnaaDoor
