/- fault.Of by its contract. -/
import Derived.Test.YtakbbhhhdcnlnaaDoorP14Held
import Derived.Deep.RegionHeld3
namespace Go.Proofs.YtakbbhhhdcnlnaaDoor
set_option maxRecDepth 100000
open Go.RowKit
set_option linter.unusedVariables false
set_option linter.unusedSimpArgs false

theorem of_nil (w : World) : Calls Tryd.prog 14 #[.nilIface] w fun e w' => e = .returned (.agg #[.int .i64 0, .int .i64 0, .int .i64 0]) ∧ Below w.heap.size w w' := by
  go_enter Tryd.func14, Tryd.ntmps14
  go_wp2
  have hB : Hid (Below w.heap.size w (w.alloc (.cells #[.int .i64 0, .int .i64 0, .int .i64 0] 30))) := Lib.hid ((Below.refl _ _).alloc (Nat.le_refl _) _)
  have hX := Blk.new w 30 #[.int .i64 0, .int .i64 0, .int .i64 0]
  exact bodyPost_ret (results_one Tryd.results14 _ _ _ _ _ _ rfl hX Tryd.underlying30 rfl (by kernel_rfl)) rfl ⟨rfl, hB.out⟩

set_option maxHeartbeats 8000000 in
theorem of_any (F : List Lay) (hF : ∀ x ∈ F, isF x) (b : Nat) (c a : Int) (w : World) (hG : ErT w) (hL : Lies w (Ec F b c a)) :
    Calls Tryd.prog 14 #[hdV (Ec F b c a)] w fun e w' => e = .returned (.agg #[.int .i64 c, .int .i64 a, .int .i64 (inN (Ec F b c a))]) ∧ Below w.heap.size w w' := by
  have hP := fP_ec hF b c a
  have hpb := pl_blk hF hL
  obtain ⟨x, l, hxl⟩ := Ec.ne F b c a
  have hne : Ec F b c a ≠ [] := by rw [hxl]; simp
  clear hxl
  generalize hE : Ec F b c a = L at *
  clear hE
  obtain ⟨w1, hw1⟩ : ∃ w1, Hid (w1 = w.alloc (.cells #[.int .i64 0, .int .i64 0, .int .i64 0] 30)) := ⟨_, Lib.hid rfl⟩
  have hB1 : Hid (Below w.heap.size w w1) := Lib.hid (by rw [hw1.out]; exact (Below.refl _ _).alloc (Nat.le_refl _) _)
  have hx1 : Hid (Blk w1 w.heap.size 30 #[.int .i64 0, .int .i64 0, .int .i64 0]) := Lib.hid (by rw [hw1.out]; exact Blk.new w _ _)
  have hG1 := hG.go hB1.out
  have hC := Lib.hid (held_any L hne w1 hG1 (hL.go hB1.out) (by rw [hP]; rfl))
  rw [hP] at hC
  have hpb1 := Lib.hid ((hpb.go hB1.out).1)
  have hL1 := Lib.hid (hL.go hB1.out)
  have hq := hd_eql L
  have hqG := hd_eqG L 26
  have h0 : L.isEmpty = false := by simpa using hne
  rw [h0] at hq
  clear h0 hG hL hG1 hP hpb hne hF
  generalize hdV L = v at *
  go_enter Tryd.func14, Tryd.ntmps14
  go_wp2_with fail
  rw [← hw1.out]
  clear hw1
  obtain ⟨x0, hx⟩ : ∃ x0, Hid (x0 = w.heap.size) := ⟨_, Lib.hid rfl⟩
  rw [← hx.out] at hx1 hB1 ⊢
  refine (hC.out).mono ?_
  rintro e w2 ⟨rfl, hB2⟩
  have hx2 := Lib.hid (hx1.out.below hB2 hx1.out.lt)
  have hp2 := Lib.hid (hpb1.out.below hB2 hpb1.out.lt)
  have hL2 := Lib.hid (hL1.out.go hB2)
  have hW2 := Lib.hid (hB1.out.trans (hB2.mono (Nat.le_of_lt hx1.out.lt)))
  clear hC hB1 hx1 hpb1 hL1 hB2
  have c0 := hp2.out.cell 0
  have c1 := hp2.out.cell 1
  simp only [List.getElem?_toArray, List.getElem?_cons_zero, List.getElem?_cons_succ] at c0 c1
  have lb := hp2.out.lt
  have k0 := World.new_ne w2 ⟨b, 0, none⟩ c0
  have k1 := World.new_ne w2 ⟨b, 1, none⟩ c1
  have hzero : inN L = inN L := rfl
  cases hT : fT L with
  | none =>
    have hI : Hid (inN L = 0) := Lib.hid (inN_none hL2.out hT)
    simp only [ptrO, ptr]
    clear hT hzero hL2
    go_wp2_with fail
    go_region_held3 (fun w' => w'.cell? ⟨b, 0, none⟩ = some (.int .i64 c) ∧ w'.cell? ⟨b, 1, none⟩ = some (.int .i64 a)) (go_keep) (fail)
    have hA : Hid (Below x0 w (w2.alloc (.cells #[.int .i64 c, .int .i64 a, .int .i64 0] 30)).drew) := Lib.hid ((hW2.out.alloc (Nat.le_of_lt hx2.out.lt) _).drew)
    have hx3 : Hid (Blk (w2.alloc (.cells #[.int .i64 c, .int .i64 a, .int .i64 0] 30)).drew x0 30 #[.int .i64 0, .int .i64 0, .int .i64 0]) := Lib.hid ((hx2.out.alloc _).drew)
    have h53 : Hid (Blk (w2.alloc (.cells #[.int .i64 c, .int .i64 a, .int .i64 0] 30)).drew w2.heap.size 30 #[.int .i64 c, .int .i64 a, .int .i64 0]) := Lib.hid ((Blk.new w2 _ _).drew)
    have l5 : x0 < w2.heap.size := hx2.out.lt
    clear hx2 hp2 c0 c1 k0 k1 hW2
    generalize (w2.alloc (.cells #[.int .i64 c, .int .i64 a, .int .i64 0] 30)).drew = w3 at *
    generalize w2.heap.size = g5 at *
    have d0 := hx3.out.cell 0
    have d1 := hx3.out.cell 1
    have d2 := hx3.out.cell 2
    have e0 := h53.out.cell 0
    have e1 := h53.out.cell 1
    have e2 := h53.out.cell 2
    have f0 := hx3.out.frozen 0
    have f1 := hx3.out.frozen 1
    have f2 := hx3.out.frozen 2
    have g0 := h53.out.frozen 0
    have g1 := h53.out.frozen 1
    have g2 := h53.out.frozen 2
    simp only [List.getElem?_toArray, List.getElem?_cons_zero, List.getElem?_cons_succ] at d0 d1 d2 e0 e1 e2
    have hxl := hx3.out.lt
    have h5l := h53.out.lt
    have hne : ¬ x0 = g5 := by omega
    have hne' : ¬ g5 = x0 := by omega
    go_wp2_with fail
    have hR : Blk (((w3.setCell ⟨x0, 0, none⟩ (.int .i64 c)).setCell ⟨x0, 1, none⟩ (.int .i64 a)).setCell ⟨x0, 2, none⟩ (.int .i64 0)) x0 30 #[.int .i64 c, .int .i64 a, .int .i64 0] := by
      have h := ((hx3.out.set 0 (.int .i64 c)).set 1 (.int .i64 a)).set 2 (.int .i64 0)
      simpa using h
    refine bodyPost_ret (results_one Tryd.results14 _ _ _ _ _ _ rfl hR Tryd.underlying30 rfl (by kernel_rfl)) rfl ⟨by rw [hI.out], ?_⟩
    rw [← hx.out]
    exact (((hA.out.setCell (p := ⟨x0, 0, none⟩) (Nat.le_refl _) _).setCell (p := ⟨x0, 1, none⟩) (Nat.le_refl _) _).setCell (p := ⟨x0, 2, none⟩) (Nat.le_refl _) _)
  | some t =>
    obtain ⟨v2, ht0⟩ := fT_blk hL2.out hT
    have ht2 := Lib.hid ht0
    have c2 := ht0.cell 1
    simp only [List.getElem?_toArray, List.getElem?_cons_zero, List.getElem?_cons_succ] at c2
    obtain ⟨n, hn⟩ : ∃ n, Hid (inN L = n) := ⟨_, Lib.hid rfl⟩
    rw [hn.out] at ht2 c2 ht0
    simp only [ptrO, ptr]
    clear hT hzero hL2 ht0
    go_wp2_with fail
    go_region_held3 (fun w' => w'.cell? ⟨b, 0, none⟩ = some (.int .i64 c) ∧ w'.cell? ⟨b, 1, none⟩ = some (.int .i64 a)) (go_keep) (fail)
    have hA : Hid (Below x0 w (w2.alloc (.cells #[.int .i64 c, .int .i64 a, .int .i64 0] 30)).drew) := Lib.hid ((hW2.out.alloc (Nat.le_of_lt hx2.out.lt) _).drew)
    have hx3 : Hid (Blk (w2.alloc (.cells #[.int .i64 c, .int .i64 a, .int .i64 0] 30)).drew x0 30 #[.int .i64 0, .int .i64 0, .int .i64 0]) := Lib.hid ((hx2.out.alloc _).drew)
    have h53 : Hid (Blk (w2.alloc (.cells #[.int .i64 c, .int .i64 a, .int .i64 0] 30)).drew w2.heap.size 30 #[.int .i64 c, .int .i64 a, .int .i64 0]) := Lib.hid ((Blk.new w2 _ _).drew)
    have l5 : x0 < w2.heap.size := hx2.out.lt
    have ht3 : Hid (Blk (w2.alloc (.cells #[.int .i64 c, .int .i64 a, .int .i64 0] 30)).drew t 57 #[v2, .int .i64 n]) := Lib.hid ((ht2.out.alloc _).drew)
    clear c2 ht2 hx2 hp2 c0 c1 k0 k1 hW2
    generalize (w2.alloc (.cells #[.int .i64 c, .int .i64 a, .int .i64 0] 30)).drew = w3 at *
    generalize w2.heap.size = g5 at *
    have c2 := ht3.out.cell 1
    simp only [List.getElem?_toArray, List.getElem?_cons_zero, List.getElem?_cons_succ] at c2
    have htl := ht3.out.lt
    have d0 := hx3.out.cell 0
    have d1 := hx3.out.cell 1
    have d2 := hx3.out.cell 2
    have e0 := h53.out.cell 0
    have e1 := h53.out.cell 1
    have e2 := h53.out.cell 2
    have f0 := hx3.out.frozen 0
    have f1 := hx3.out.frozen 1
    have f2 := hx3.out.frozen 2
    have g0 := h53.out.frozen 0
    have g1 := h53.out.frozen 1
    have g2 := h53.out.frozen 2
    simp only [List.getElem?_toArray, List.getElem?_cons_zero, List.getElem?_cons_succ] at d0 d1 d2 e0 e1 e2
    have hxl := hx3.out.lt
    have h5l := h53.out.lt
    have hne : ¬ x0 = g5 := by omega
    have hne' : ¬ g5 = x0 := by omega
    go_wp2_with fail
    have hR : Blk ((((w3.setCell ⟨g5, 2, none⟩ (.int .i64 n)).setCell ⟨x0, 0, none⟩ (.int .i64 c)).setCell ⟨x0, 1, none⟩ (.int .i64 a)).setCell ⟨x0, 2, none⟩ (.int .i64 n)) x0 30 #[.int .i64 c, .int .i64 a, .int .i64 n] := by
      have h := (((hx3.out.far (p := ⟨g5, 2, none⟩) hne (.int .i64 n)).set 0 (.int .i64 c)).set 1 (.int .i64 a)).set 2 (.int .i64 n)
      simpa using h
    refine bodyPost_ret (results_one Tryd.results14 _ _ _ _ _ _ rfl hR Tryd.underlying30 rfl (by kernel_rfl)) rfl ⟨by rw [hn.out], ?_⟩
    rw [← hx.out]
    exact ((((hA.out.setCell (p := ⟨g5, 2, none⟩) (Nat.le_of_lt l5) (.int .i64 n)).setCell (p := ⟨x0, 0, none⟩) (Nat.le_refl _) _).setCell (p := ⟨x0, 1, none⟩) (Nat.le_refl _) _).setCell (p := ⟨x0, 2, none⟩) (Nat.le_refl _) _)
end Go.Proofs.YtakbbhhhdcnlnaaDoor
