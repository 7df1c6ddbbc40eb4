/- fault.held by its contract: its deferred closure finds nothing. -/
import Derived.Test.YtakbbhhhdcnlnaaDoorP14As2
import Derived.Tactics2
import Derived.Defers
import Derived.Recover
import Derived.Laws.Pointers
namespace Go.Proofs.YtakbbhhhdcnlnaaDoor
set_option maxRecDepth 100000
open Go.RowKit
set_option linter.unusedVariables false
set_option linter.unusedSimpArgs false

theorem idle_any (w : World) : CallsD Tryd.prog 28 #[] .returning w fun e u' w' => e = .returned (.tuple #[]) ∧ u' = .returning ∧ w' = w := by
  refine callsD_of_wpS Tryd.func28 rfl fun c₀ cs hu => ?_
  apply wpS_region
  simp [wpOpsS, go_sem, recoverD, hu, Tryd.ntmps28, Exit.thenS]
  cases c₀
  simp_all [bodyPostS, results, Tryd.results28]

theorem ptrO_hit (o : Option Nat) : hitV (.pointer none) o = ptrO o := by cases o <;> rfl
set_option maxHeartbeats 8000000 in
theorem held_any (L : List Lay) (hne : L ≠ []) (w : World) (hG : ErT w) (hL : Lies w L) (hP : (fP L).isSome = true) :
    Calls Tryd.prog 21 #[hdV L] w fun e w' => e = .returned (.tuple #[ptrO (fP L), ptrO (fT L)]) ∧ Below w.heap.size w w' := by
  have hmf : ∀ (fn : Fn) (first cap : Array Value) (w : World), (Instr.makeFunc fn first cap).run Tryd.prog w = .ok (.func fn first cap) w := fun _ _ _ _ => rfl
  have hE := Lib.hid (ends_any L)
  have hAP := Lib.hid (asP_any L hne)
  have hAT := Lib.hid (asT_any L hne)
  obtain ⟨W3, hW3⟩ : ∃ W3, Hid (W3 = ((w.alloc (.cells #[.pointer none] 48)).alloc (.cells #[.pointer none] 55)).alloc (.cells #[.int .i64 1048576] 3)) := ⟨_, Lib.hid rfl⟩
  have hB3 : Hid (Below w.heap.size w W3) := Lib.hid (by rw [hW3.out]; exact (((Below.refl _ _).alloc (Nat.le_refl _) _).alloc (by simp) _).alloc (by simp; omega) _)
  have hp3 : Hid (Blk W3 w.heap.size 48 #[.pointer none]) := Lib.hid (by rw [hW3.out]; exact ((Blk.new w _ _).alloc _).alloc _)
  have ht3 : Hid (Blk W3 (w.heap.size + 1) 55 #[.pointer none]) := Lib.hid (by
    rw [hW3.out]
    have := (Blk.new (w.alloc (.cells #[.pointer none] 48)) 55 #[.pointer none]).alloc (.cells #[.int .i64 1048576] 3)
    simpa using this)
  have hG3 : Hid (ErT W3) := Lib.hid (hG.go hB3.out)
  have hL3 : Hid (Lies W3 L) := Lib.hid (hL.go hB3.out)
  have he3 := Lib.hid (hE.out W3 hL3.out (.pointer (some ⟨w.heap.size + 1 + 1, 0, none⟩)))
  have ha3 := Lib.hid (hAP.out w.heap.size _ W3 hG3.out hL3.out hp3.out)
  have hq := hd_eql L
  have hqG := hd_eqG L 26
  have hGl := hG.lt
  rw [hP] at ha3
  clear hE hAP hG hL
  obtain ⟨bs0, hbs⟩ : ∃ b, Hid (fP L = some b) := by
    cases h : fP L with
    | none => rw [h] at hP; cases hP
    | some b => exact ⟨b, Lib.hid rfl⟩
  simp only [ptr] at ha3 hAT
  generalize hV : hdV L = v at *
  clear hV
  go_enter_defers Tryd.func21, Tryd.ntmps21
  go_wp2_with fail
  rw [← hW3.out]
  refine (he3.out).mono ?_
  rintro e w' ⟨rfl, rfl⟩
  clear he3 hW3
  have hx0 : Hid (w.heap.size = w.heap.size) := Lib.hid rfl
  have hAT2 := Lib.hid (hAT.out (w.heap.size + 1) (.pointer none))
  clear hAT
  obtain ⟨x0, hx⟩ : ∃ x0, Hid (x0 = w.heap.size) := ⟨_, Lib.hid rfl⟩
  rw [← hx.out] at hp3 ht3 ha3 hGl hB3 hAT2 ⊢
  clear hx0
  go_wp2_with (go_at_call 30; with_reducible refine (ha3.out).mono ?_; rintro e w4 ⟨rfl, hb4, hw4⟩; replace hb4 := Lib.hid hb4; replace hw4 := Lib.hid hw4)
  rw [hbs.out] at hb4
  have hG4 : Hid (ErT w4) := Lib.hid (VarAt.but hG3.out hw4.out (by omega))
  have hL4 : Hid (Lies w4 L) := Lib.hid (hL3.out.but hw4.out hp3.out (by decide))
  have ht4 : Hid (Blk w4 (x0 + 1) 55 #[.pointer none]) := Lib.hid (hw4.out.blk ht3.out (by omega))
  have ha4 := Lib.hid (hAT2.out w4 hG4.out hL4.out ht4.out)
  refine (ha4.out).mono ?_
  rintro e w5 ⟨rfl, hb5, hw5⟩
  have hP5 : Hid (Blk w5 x0 48 #[.pointer (some ⟨bs0, 0, none⟩)]) := Lib.hid (hw5.blk hb4.out (by omega))
  have hT5 : Hid (Blk w5 (x0 + 1) 55 #[ptrO (fT L)]) := Lib.hid (by rw [← ptrO_hit]; exact hb5)
  have hB5 : Hid (Below x0 w w5) := Lib.hid ((hB3.out.trans (hw4.out.below (Nat.le_refl _) (Nat.le_of_lt hp3.out.lt))).trans (hw5.below (by omega) (Nat.le_of_lt hb4.out.lt)))
  clear hb5 hw5 ha4 ha3 hAT2 hb4 hw4 hG4 hL4 ht4 hG3 hL3 hp3 ht3 hB3
  have c0 := hP5.out.cell 0
  have c1 := hT5.out.cell 0
  have f0 := hP5.out.frozen 0
  have f1 := hT5.out.frozen 0
  simp only [List.getElem?_toArray, List.getElem?_cons_zero, List.getElem?_cons_succ] at c0 c1
  have l0 := hP5.out.lt
  have l1 := hT5.out.lt
  obtain ⟨u, hu⟩ : ∃ u, ptrO (fT L) = .pointer u := by cases h : fT L <;> exact ⟨_, rfl⟩
  have hg : Hid (Ending.returned (.tuple #[.pointer (some ⟨bs0, 0, none⟩), .pointer u]) = Ending.returned (.tuple #[ptrO (fP L), ptrO (fT L)])) := Lib.hid (by rw [hu, hbs.out]; rfl)
  rw [hu] at c1
  have hT5' : Hid (Blk w5 (x0 + 1) 55 #[.pointer u]) := Lib.hid (by rw [← hu]; exact hT5.out)
  clear hT5
  go_wp2_with fail
  refine leaves_cons (f := 28) (args := #[]) (by simp) (by simp [go_sem]) ?_
  refine (idle_any _).mono ?_
  rintro e u' w'' ⟨rfl, rfl, rfl⟩
  have hE : Hid (Below w.heap.size w ((w5.setCell ⟨x0, 0, none⟩ (.pointer (some ⟨bs0, 0, none⟩))).setCell ⟨x0 + 1, 0, none⟩ (.pointer u))) := Lib.hid (by
    rw [← hx.out]
    exact (hB5.out.setCell (p := ⟨x0, 0, none⟩) (Nat.le_refl _) _).setCell (p := ⟨x0 + 1, 0, none⟩) (by simp) _)
  have d0 := (((hP5.out.set 0 (.pointer (some ⟨bs0, 0, none⟩))).far (p := ⟨x0 + 1, 0, none⟩) (by simp) (.pointer u)).cell 0)
  have d1 := (((hT5'.out.far (p := ⟨x0, 0, none⟩) (by simp) (.pointer (some ⟨bs0, 0, none⟩))).set 0 (.pointer u)).cell 0)
  clear hB5 hP5 hT5' c0 c1 f0 f1 l0 l1 hq hqG
  generalize (w5.setCell ⟨x0, 0, none⟩ (.pointer (some ⟨bs0, 0, none⟩))).setCell ⟨x0 + 1, 0, none⟩ (.pointer u) = w6 at *
  simp at d0 d1
  refine ⟨_, ?_, hg.out, hE.out⟩
  simp [results, Tryd.results21, go_sem, d0, d1]
end Go.Proofs.YtakbbhhhdcnlnaaDoor
