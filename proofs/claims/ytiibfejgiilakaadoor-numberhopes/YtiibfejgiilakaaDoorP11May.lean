/- The program's roomBehind, meets, isReachedFrom, asItStands by their contracts. -/
import Derived.Test.YtiibfejgiilakaaDoorP11With
import Derived.Test.YtiibfejgiilakaaDoorP10Int
namespace Go.Proofs.YtiibfejgiilakaaDoor
set_option maxRecDepth 100000
open Go.ChangeShapes Go.WideShapes Go.ChangeAt Go.RowKit
set_option linter.unusedVariables false
set_option linter.unusedSimpArgs false

theorem blk_new2 (w : World) (o : Obj) (t : TypeId) (cs : Array Value) : Blk ((w.alloc o).alloc (.cells cs t)) (w.heap.size + 1) t cs := by
  have h := Blk.new (w.alloc o) t cs
  rwa [World.size_alloc] at h
theorem below2 (w : World) (o o' : Obj) : Below w.heap.size w ((w.alloc o).alloc o') := ((Below.refl _ _).alloc (Nat.le_refl _) _).alloc (by rw [World.size_alloc]; omega) _
set_option maxHeartbeats 2000000 in
theorem room_any (d : List UInt8) (w : World) (hd : allD d) (hs : d.length ≤ 1000000) : Calls Tryd.prog 37 #[.string (bs d)] w fun e w' => e = .returned (.int .i64 (roomF d)) ∧ Below w.heap.size w w' := by
  have HI := Lib.hid (fun W => int_any ⟨false, d, 16 - (d.length : Int)⟩ W hd hs (by dsimp only; omega) (by dsimp only; omega))
  have HR : Hid (roomF d = _) := Lib.hid (roomF.eq_1 d)
  generalize intF ⟨false, d, 16 - (d.length : Int)⟩ = r at *
  obtain ⟨r1, r2⟩ := r
  generalize roomF d = q at *
  unfold dcV at HI
  dsimp only at *
  have hln : d.length = (bs d).size := by rw [bs_size]
  rw [hln] at HI HR hs
  generalize bs d = s at *
  clear hln hd
  go_enter Tryd.func37, Tryd.ntmps37
  go_wp2_with fail
  with_reducible refine (HI.out _).mono ?_
  rintro e1 w1 ⟨rfl, hb⟩
  have HB := Lib.hid hb
  clear hb HI
  by_cases h0 : r2 = 0
  · have hq : q = 16 - (s.size : Int) := by rw [HR.out, if_pos h0]
    subst hq
    subst h0
    clear HR
    go_wp2
    go_ret
    exact ⟨rfl, HB.out⟩
  · have hq : q = 16 - (s.size : Int) - 1 := by rw [HR.out, if_neg h0]; omega
    subst hq
    have hb0 : (r2 != 0) = true := by simpa using h0
    clear HR h0
    go_wp2
    go_ret
    exact ⟨rfl, HB.out⟩
set_option maxHeartbeats 2000000 in
theorem meets_any (a b c d : Int) (w : World) : Calls Tryd.prog 38 #[.agg #[.int .i64 a, .int .i64 b], .agg #[.int .i64 c, .int .i64 d]] w fun e w' => e = .returned (.bool (decide (a ≤ d ∧ c ≤ b))) ∧ Below w.heap.size w w' := by
  by_cases h1 : a ≤ d
  · by_cases h2 : c ≤ b
    · rw [decide_eq_true (p := a ≤ d ∧ c ≤ b) ⟨h1, h2⟩]
      go_enter Tryd.func38, Tryd.ntmps38
      go_wp2
      go_ret
      exact ⟨rfl, below2 _ _ _⟩
    · rw [decide_eq_false (p := a ≤ d ∧ c ≤ b) (fun h => h2 h.2)]
      go_enter Tryd.func38, Tryd.ntmps38
      go_wp2
      go_ret
      exact ⟨rfl, below2 _ _ _⟩
  · rw [decide_eq_false (p := a ≤ d ∧ c ≤ b) (fun h => h1 h.1)]
    go_enter Tryd.func38, Tryd.ntmps38
    go_wp2
    go_ret
    exact ⟨rfl, below2 _ _ _⟩
set_option maxHeartbeats 2000000 in
theorem as_any (r : Rg) (w : World) (hz : r.z ≤ 1000000) (hb : r.b ≤ 1000000) (hw : r.w ≤ 1000000000) : Calls Tryd.prog 22 #[rgV r] w fun e w' => e = .returned (dcV (asR r)) ∧ Below w.heap.size w w' := by
  obtain ⟨p, n, d, z, b, m, k⟩ := r
  unfold rgV dcV asR
  dsimp only at *
  generalize bs d = s at *
  cases m with
  | true =>
    rw [if_pos rfl]
    go_enter Tryd.func22, Tryd.ntmps22
    go_wp2
    refine bodyPost_ret (results_one Tryd.results22 _ _ (w.heap.size + 1) _ _ _ rfl (blk_new2 _ _ _ _) Tryd.underlying52 rfl (by kernel_rfl)) rfl ?_
    exact ⟨rfl, below2 _ _ _⟩
  | false =>
    rw [if_neg Bool.false_ne_true]
    go_enter Tryd.func22, Tryd.ntmps22
    go_wp2
    refine bodyPost_ret (results_one Tryd.results22 _ _ (w.heap.size + 1) _ _ _ rfl (blk_new2 _ _ _ _) Tryd.underlying52 rfl (by kernel_rfl)) rfl ?_
    exact ⟨rfl, below2 _ _ _⟩
/-- where isReachedFrom stands -/
def RLoop (w : World) (g v : Nat) (lo hi : Int) (wr : World) : Prop := ∃ k : Nat, k ≤ 10 ∧ Blk wr g 70 #[.int .i64 lo, .int .i64 hi] ∧ Blk wr (g + 1) 70 #[.int .i64 ((v * 10 ^ k : Nat) : Int), .int .i64 (((v * 10 ^ k + 10 ^ k : Nat) : Int) - 1)] ∧ Below g w wr
  ∧ (∀ j, j < k → ¬ (((v * 10 ^ j : Nat) : Int) ≤ hi ∧ lo ≤ ((v * 10 ^ j + 10 ^ j : Nat) : Int) - 1)) ∧ ((v * 10 ^ k + 10 ^ k : Nat) : Int) - 1 < 10000000000
def lastOf : Option Value → Nat
  | some (.int _ n) => (20000000000 - n).toNat
  | _ => 0
set_option maxHeartbeats 4000000 in
theorem reached_any (v : Nat) (lo hi : Int) (w : World) (hv : v ≤ 1000000000) (hl0 : -100000000 ≤ lo) (hl : lo ≤ 100000000) (hh0 : -100000000 ≤ hi) (hh : hi ≤ 100000000) : Calls Tryd.prog 39 #[.agg #[.int .i64 lo, .int .i64 hi], .int .i64 (v : Int)] w fun e w' => e = .returned (.bool (reachB v lo hi)) ∧ Below w.heap.size w w' := by
  generalize hr : reachB v lo hi = r
  have HR := Lib.hid hr
  clear hr
  have HM := Lib.hid (fun c d W => meets_any lo hi c d W)
  have HX0 : Hid (Blk ((w.alloc (.cells #[.int .i64 lo, .int .i64 hi] 70)).alloc (.cells #[.int .i64 (v : Int), .int .i64 (v : Int)] 70)) w.heap.size 70 #[.int .i64 lo, .int .i64 hi]) := Lib.hid ((Blk.new w _ _).alloc _)
  have HZ0 : Hid (Blk ((w.alloc (.cells #[.int .i64 lo, .int .i64 hi] 70)).alloc (.cells #[.int .i64 (v : Int), .int .i64 (v : Int)] 70)) (w.heap.size + 1) 70 #[.int .i64 (v : Int), .int .i64 (v : Int)]) := Lib.hid (blk_new2 _ _ _ _)
  have HB0 : Hid (Below w.heap.size w ((w.alloc (.cells #[.int .i64 lo, .int .i64 hi] 70)).alloc (.cells #[.int .i64 (v : Int), .int .i64 (v : Int)] 70))) := Lib.hid (below2 _ _ _)
  go_enter Tryd.func39, Tryd.ntmps39
  go_upto_region 2 with fail
  generalize (w.alloc (.cells #[.int .i64 lo, .int .i64 hi] 70)).alloc (.cells #[.int .i64 (v : Int), .int .i64 (v : Int)] 70) = w1 at *
  go_loopw [] (fun wr => RLoop w w.heap.size v lo hi wr) (fun wr => lastOf (wr.cell? ⟨w.heap.size + 1, 1, none⟩))
  case atStart =>
    have e1 : v * 10 ^ 0 = v := by rw [Nat.pow_zero, Nat.mul_one]
    have e2 : (10 : Nat) ^ 0 = 1 := rfl
    refine ⟨0, by omega, HX0.out, ?_, HB0.out, fun j hj => by omega, by rw [e1, e2]; omega⟩
    rw [e1, e2]
    have e3 : ((v + 1 : Nat) : Int) - 1 = v := by omega
    rw [e3]
    exact HZ0.out
  case round =>
    obtain ⟨k, hk, hX, hZ, hB, hall, hcap⟩ := hrel
    have HX := Lib.hid hX
    have HZ := Lib.hid hZ
    have HB := Lib.hid hB
    have HA := Lib.hid hall
    have hx0 : wr.cell? ⟨w.heap.size, 0, none⟩ = some (.int .i64 lo) := hX.cell 0
    have hx1 : wr.cell? ⟨w.heap.size, 1, none⟩ = some (.int .i64 hi) := hX.cell 1
    have HN : Hid (v * 10 ^ (k + 1) = 10 * (v * 10 ^ k) ∧ 10 ^ (k + 1) = 10 * 10 ^ k) := Lib.hid ⟨by rw [Nat.pow_succ]; rw [← Nat.mul_assoc, Nat.mul_comm _ 10], by rw [Nat.pow_succ, Nat.mul_comm]⟩
    have hp : 1 ≤ 10 ^ k := Nat.pow_pos (by omega)
    have HK : Hid (k = 10 → 10000000000 ≤ 10 ^ k) := Lib.hid (fun h => by subst h; decide)
    have HV := Lib.hid (fun h2 h3 h4 => reach_no (v := v) (lo := lo) (hi := hi) (k := k) (by omega) h2 h3 h4)
    have HY := Lib.hid (fun h1 h2 => reach_any (v := v) (lo := lo) (hi := hi) (by omega) (by omega) (k := k) h1 h2)
    clear hX hZ hB hall HX0 HZ0 HB0
    obtain ⟨f, hf⟩ : ∃ f : Nat, v * 10 ^ k = f := ⟨_, rfl⟩
    obtain ⟨t, ht⟩ : ∃ t : Nat, 10 ^ k = t := ⟨_, rfl⟩
    rw [hf, ht] at hcap HZ HN HV HY
    rw [ht] at hp HK
    obtain ⟨F, hF⟩ : ∃ F : Int, (f : Int) = F := ⟨_, rfl⟩
    obtain ⟨L, hL⟩ : ∃ L : Int, ((f + t : Nat) : Int) - 1 = L := ⟨_, rfl⟩
    have hF0 : 0 ≤ F := by omega
    have hFL : F ≤ L := by omega
    rw [hF, hL] at HZ HV HY
    rw [hL] at hcap
    have HS : Hid (((10 * f : Nat) : Int) = F * 10 ∧ ((10 * f + 10 * t : Nat) : Int) - 1 = L * 10 + 9 ∧ (k = 10 → 1000000000 ≤ L)) := Lib.hid ⟨by omega, by omega, fun h => by have := HK.out h; omega⟩
    have HFL : Hid (((v * 10 ^ k : Nat) : Int) = F ∧ ((v * 10 ^ k + 10 ^ k : Nat) : Int) - 1 = L) := Lib.hid ⟨by rw [hf, hF], by rw [hf, ht, hL]⟩
    clear hp HK hf ht hF hL
    have hz0 : wr.cell? ⟨w.heap.size + 1, 0, none⟩ = some (.int .i64 F) := HZ.out.cell 0
    have hz1 : wr.cell? ⟨w.heap.size + 1, 1, none⟩ = some (.int .i64 L) := HZ.out.cell 1
    have hlt : w.heap.size + 1 < wr.heap.size := HZ.out.lt
    obtain ⟨mF, hmF⟩ : ∃ mF : Int, ((1000000000 : Int) < F ∧ 1000000000 = mF) ∨ (¬ (1000000000 : Int) < F ∧ F = mF) := by
      by_cases h : (1000000000 : Int) < F
      · exact ⟨_, .inl ⟨h, rfl⟩⟩
      · exact ⟨_, .inr ⟨h, rfl⟩⟩
    obtain ⟨mL, hmL⟩ : ∃ mL : Int, ((1000000000 : Int) < L ∧ 1000000000 = mL) ∨ (¬ (1000000000 : Int) < L ∧ L = mL) := by
      by_cases h : (1000000000 : Int) < L
      · exact ⟨_, .inl ⟨h, rfl⟩⟩
      · exact ⟨_, .inr ⟨h, rfl⟩⟩
    have hw1 : IntKind.i64.wrap (F * 10) = F * 10 := IntWalk.i64_in _ (by omega)
    have hw2 : IntKind.i64.wrap (L * 10) = L * 10 := IntWalk.i64_in _ (by omega)
    have hw3 : IntKind.i64.wrap (L * 10 + 9) = L * 10 + 9 := IntWalk.i64_in _ (by omega)
    have hyes : lo ≤ mL ∧ mF ≤ hi → F ≤ hi ∧ lo ≤ L := by omega
    have hno : ¬ (lo ≤ mL ∧ mF ≤ hi) → ¬ (F ≤ hi ∧ lo ≤ L) := by omega
    have HYS := Lib.hid hyes
    have HNO := Lib.hid hno
    clear hyes hno
    rcases hmF with ⟨h9F, hmF⟩ | ⟨h9F, hmF⟩ <;> rcases hmL with ⟨h9L, hmL⟩ | ⟨h9L, hmL⟩
    all_goals subst hmF
    all_goals subst hmL
    case inl.inr => exfalso; omega
    all_goals
      go_wp2_with fail
      with_reducible refine (HM.out _ _ _).mono ?_
      rintro e w2 ⟨rfl, hb⟩
      have HX2 := Lib.hid (HX.out.below hb HX.out.lt)
      have HZ2 := Lib.hid (HZ.out.below hb HZ.out.lt)
      have HB2 := Lib.hid (HB.out.trans (hb.mono HB.out.size))
      have HM1 := Lib.hid hz1
      clear hb hx0 hx1 hz0 hz1 hlt HX HZ HB
      have hx0 : w2.cell? ⟨w.heap.size, 0, none⟩ = some (.int .i64 lo) := HX2.out.cell 0
      have hx1 : w2.cell? ⟨w.heap.size, 1, none⟩ = some (.int .i64 hi) := HX2.out.cell 1
      have hz0 : w2.cell? ⟨w.heap.size + 1, 0, none⟩ = some (.int .i64 F) := HZ2.out.cell 0
      have hz1 : w2.cell? ⟨w.heap.size + 1, 1, none⟩ = some (.int .i64 L) := HZ2.out.cell 1
      have hfz0 : w2.frozen? ⟨w.heap.size + 1, 0, none⟩ = false := HZ2.out.frozen 0
      have hfz1 : w2.frozen? ⟨w.heap.size + 1, 1, none⟩ = false := HZ2.out.frozen 1
      have hlt : w.heap.size + 1 < w2.heap.size := HZ2.out.lt
      have hlt0 : w.heap.size < w2.heap.size := HX2.out.lt
      generalize hdb : decide (lo ≤ _ ∧ _ ≤ hi) = db
      cases db with
      | true =>
        have hd := of_decide_eq_true hdb
        have hrr : r = true := by rw [← HR.out]; exact HY.out (HYS.out hd).1 (HYS.out hd).2
        subst hrr
        clear hdb hd
        go_wp2
        go_ret
        exact ⟨rfl, HB2.out⟩
      | false =>
        have hd := of_decide_eq_false hdb
        by_cases hge : (1000000000 : Int) ≤ L
        · have hrr : r = false := by rw [← HR.out]; exact HV.out HA.out (HNO.out hd) (.inr ⟨hge, by omega⟩)
          subst hrr
          clear hdb hd
          go_wp2
          go_ret
          exact ⟨rfl, HB2.out⟩
        · first
            | (exfalso; omega)
            | (have hk10 : ¬ k = 10 := fun h => hge (HS.out.2.2 h)
               have HND := Lib.hid (HNO.out hd)
               clear hdb hd
               go_wp2
               go_roundw
               case rel =>
                 refine ⟨k + 1, by omega, (HX2.out.far (by simp) _).far (by simp) _, ?_, (HB2.out.setCell (by simp) _).setCell (by simp) _, fun j hj => ?_, ?_⟩
                 · rw [HN.out.1, HN.out.2, HS.out.1, HS.out.2.1]
                   exact (HZ2.out.set' 0 _ rfl).set' 1 _ rfl
                 · by_cases hjk : j < k
                   · exact HA.out j hjk
                   · obtain rfl : j = k := by omega
                     rw [HFL.out.1, HFL.out.2]; exact HND.out
                 · rw [HN.out.1, HN.out.2, HS.out.2.1]; omega
               case measure =>
                 rw [((HZ2.out.set' 0 (.int .i64 (F * 10)) rfl).set' 1 (.int .i64 (L * 10 + 9)) rfl).cell 1, HM1.out]
                 simp [lastOf]; omega)
end Go.Proofs.YtiibfejgiilakaaDoor
