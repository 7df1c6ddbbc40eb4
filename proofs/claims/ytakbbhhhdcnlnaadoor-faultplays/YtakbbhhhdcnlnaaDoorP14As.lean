/- errors.as and errors.As by their contracts, at the targets **placed and **told: over a whole row of links. Printed by wip/gen_p14as.py. -/
import Derived.Test.YtakbbhhhdcnlnaaDoorP14Rl
import Derived.Laws.Externs
namespace Go.Proofs.YtakbbhhhdcnlnaaDoor
set_option maxRecDepth 100000
open Go.RowKit Go.Extern.Stop Go.Stop Go.Extern
set_option linter.unusedVariables false
set_option linter.unusedSimpArgs false

/-- what the target holds behind it -/
def hitV (old : Value) : Option Nat → Value
  | none => old
  | some b => ptr b

/-- where the loop stands -/
def AsP (w : World) (r : Option Nat) (k : Nat) (v : Value) (wr : World) : Prop := ∃ M : List Lay, v = hdV M ∧ M ≠ [] ∧ Lies w M ∧ fP M = r ∧ M.length = k ∧ wr = w
theorem AsP.next {w : World} {r : Option Nat} {x : Lay} {l : List Lay} (hl : ¬ l = []) (h : Lies w (x :: l)) (hr : fP l = r) : AsP w r l.length (hdV l) w := ⟨l, rfl, hl, h.tail, hr, rfl, rfl⟩
set_option maxHeartbeats 8000000 in
theorem asInP (L : List Lay) (hne : L ≠ []) (g vb : Nat) (old : Value) (w : World) (hL : Lies w L) (hg : Blk w g 48 #[old]) (hv : Blk w vb 74 #[ptr g]) :
    Calls Tryd.prog 39 #[hdV L, .iface 74 (ptr g), .agg #[.pointer (some ⟨2, 74, none⟩), .pointer (some ⟨vb, 0, none⟩), .int .u64 150], .iface 100 (.agg #[.pointer (some ⟨2, 48, none⟩)])] w fun e w' => e = .returned (.bool (fP L).isSome) ∧ Blk w' g 48 #[hitV old (fP L)] ∧ But g w w' := by
  have hTO := @run_callFunc_extern Tryd.prog 33 _ (ReflectliteType.typeOf) Tryd.func33 (by kernel_rfl) (by kernel_rfl) (by kernel_rfl) (by kernel_rfl)
  have hAT := @run_callFunc_extern Tryd.prog 72 _ (ReflectliteType.relation "AssignableTo" ReflectliteType.assignableTo) Tryd.func72 (by kernel_rfl) (by kernel_rfl) (by kernel_rfl) (by kernel_rfl)
  have hEV := @run_callFunc_extern Tryd.prog 41 _ (ReflectliteValue.method (ReflectliteValue.valueError "reflectlite.Value.Elem" 0) ReflectliteValue.elem) Tryd.func41 (by kernel_rfl) (by kernel_rfl) (by kernel_rfl) (by kernel_rfl)
  have hVO := @run_callFunc_extern Tryd.prog 36 _ (fun args => ReflectliteValue.unpack (args.getD 0 (.tuple #[]))) Tryd.func36 (by kernel_rfl) (by kernel_rfl) (by kernel_rfl) (by kernel_rfl)
  have hST := @run_callFunc_extern Tryd.prog 42 _ (ReflectliteValue.set) Tryd.func42 (by kernel_rfl) (by kernel_rfl) (by kernel_rfl) (by kernel_rfl)
  have tOW := typeOfW
  have aTW := assignableWP
  have tOT := typeOfT
  have aTT := assignableTP
  have tOP := typeOfP
  have aTP := assignablePP
  have tOR := typeOfR
  have aTR := assignableRP
  have nAW := noAsW
  have nAT := noAsT
  have nAR := noAsR
  have mAT := meAssignableTo
  have nM := noMany
  have uR := unR
  have uW := unW
  have mW := meW
  have uT := unT
  have mT := meT
  have vO := valueOf1P
  have eV := elemV2P
  have hw1 : Hid (Below w.heap.size w (w.alloc (.cells #[.pointer (some ⟨2, 74, none⟩), .pointer (some ⟨vb, 0, none⟩), .int .u64 150] 89))) := Lib.hid ((Below.refl _ _).alloc (Nat.le_refl _) _)
  have hx : Hid (Blk (w.alloc (.cells #[.pointer (some ⟨2, 74, none⟩), .pointer (some ⟨vb, 0, none⟩), .int .u64 150] 89)) w.heap.size 89 #[.pointer (some ⟨2, 74, none⟩), .pointer (some ⟨vb, 0, none⟩), .int .u64 150]) := Lib.hid (Blk.new w 89 _)
  have hL1 : Hid (AsP (w.alloc (.cells #[.pointer (some ⟨2, 74, none⟩), .pointer (some ⟨vb, 0, none⟩), .int .u64 150] 89)) (fP L) L.length (hdV L) (w.alloc (.cells #[.pointer (some ⟨2, 74, none⟩), .pointer (some ⟨vb, 0, none⟩), .int .u64 150] 89))) := Lib.hid ⟨L, rfl, hne, hL.go hw1.out, rfl, rfl, rfl⟩
  have hg1 : Hid (Blk (w.alloc (.cells #[.pointer (some ⟨2, 74, none⟩), .pointer (some ⟨vb, 0, none⟩), .int .u64 150] 89)) g 48 #[old]) := Lib.hid (hg.alloc _)
  have hv1 : Hid (Blk (w.alloc (.cells #[.pointer (some ⟨2, 74, none⟩), .pointer (some ⟨vb, 0, none⟩), .int .u64 150] 89)) vb 74 #[ptr g]) := Lib.hid (hv.alloc _)
  have hb1 : Hid (But g w (w.alloc (.cells #[.pointer (some ⟨2, 74, none⟩), .pointer (some ⟨vb, 0, none⟩), .int .u64 150] 89))) := Lib.hid (But.of_below hw1.out)
  have hgl : g < w.heap.size := hg.lt
  have hvl : vb < w.heap.size := hv.lt
  clear hL hg hv hne
  generalize hdV L = v0 at *
  generalize fP L = r at *
  go_enter Tryd.func39, Tryd.ntmps39
  simp only [ptr] at *
  go_wp2_with fail
  have hc0 := hx.out.cell 0
  have hc1 := hx.out.cell 1
  have hc2 := hx.out.cell 2
  have hcg := hg1.out.cell 0
  have hfg := hg1.out.frozen 0
  have hcv := hv1.out.cell 0
  simp only [List.getElem?_toArray, List.getElem?_cons_zero, List.getElem?_cons_succ] at hc0 hc1 hc2 hcg hcv
  have hxl := hx.out.lt
  generalize w.alloc (.cells #[.pointer (some ⟨2, 74, none⟩), .pointer (some ⟨vb, 0, none⟩), .int .u64 150] 89) = w1 at *
  generalize w.heap.size = x1 at *
  go_loopg [0] L.length (AsP w1 r)
  case atStart => exact hL1.out
  case round =>
    obtain ⟨M, rfl, hne, hM, hr, hk, rfl⟩ := hrel
    have eW := Lib.hid (unwrapW_any · · · wr)
    have eT := Lib.hid (unwrapT_any · · · wr)
    have eP := Lib.hid (unwrapP_any · · · wr)
    clear hL1
    match M, hne, hM, hr, hk with
    | .wr b s :: l, hne, hM, hr, hk =>
      have hu := Lib.hid (eW.out b s l hM.1)
      have hq := hd_eql l
      have hqG := hd_eqG l 26
      have hk2 : l.length < gk := by rw [← hk]; simp
      simp only [ptr] at hu
      have e0 : hdV (.wr b s :: l) = .iface 52 (.pointer (some ⟨b, 0, none⟩)) := rfl
      have e1 : fP l = r := hr
      clear hr
      rw [e0]
      by_cases hl : l = []
      · have hB : Hid (But g w wr) := Lib.hid hb1.out
        subst hl
        obtain rfl : none = r := e1
        clear hM hk hne eW eT eP eV e0 hk2
        simp only [List.isEmpty_nil] at hq
        generalize hdV [] = v2 at *
        go_wp2_with (go_at_call 64; refine (hu.out).mono ?_; rintro e w' ⟨rfl, rfl⟩)
        go_ret
        exact ⟨rfl, hg1.out, hB.out⟩
      · have hR := Lib.hid (AsP.next hl hM e1)
        have hl' : l.isEmpty = false := by simpa using hl
        rw [hl'] at hq
        clear hM hk hne eW eT eP eV e0 hl' hl
        generalize hdV l = v2 at *
        clear e1
        go_wp2_with (go_at_call 64; refine (hu.out).mono ?_; rintro e w' ⟨rfl, rfl⟩)
        go_roundg l.length
        case measure => exact hk2
        case rel => exact hR.out
    | .inp b n :: l, hne, hM, hr, hk =>
      have hu := Lib.hid (eT.out b n l hM.1)
      have hq := hd_eql l
      have hqG := hd_eqG l 26
      have hk2 : l.length < gk := by rw [← hk]; simp
      simp only [ptr] at hu
      have e0 : hdV (.inp b n :: l) = .iface 55 (.pointer (some ⟨b, 0, none⟩)) := rfl
      have e1 : fP l = r := hr
      clear hr
      rw [e0]
      by_cases hl : l = []
      · have hB : Hid (But g w wr) := Lib.hid hb1.out
        subst hl
        obtain rfl : none = r := e1
        clear hM hk hne eW eT eP eV e0 hk2
        simp only [List.isEmpty_nil] at hq
        generalize hdV [] = v2 at *
        go_wp2_with (go_at_call 66; refine (hu.out).mono ?_; rintro e w' ⟨rfl, rfl⟩)
        go_ret
        exact ⟨rfl, hg1.out, hB.out⟩
      · have hR := Lib.hid (AsP.next hl hM e1)
        have hl' : l.isEmpty = false := by simpa using hl
        rw [hl'] at hq
        clear hM hk hne eW eT eP eV e0 hl' hl
        generalize hdV l = v2 at *
        clear e1
        go_wp2_with (go_at_call 66; refine (hu.out).mono ?_; rintro e w' ⟨rfl, rfl⟩)
        go_roundg l.length
        case measure => exact hk2
        case rel => exact hR.out
    | .pl b c a :: l, hne, hM, hr, hk =>
      obtain rfl : some b = r := hr
      have hst := set1P ⟨g, 0, none⟩ ⟨wr.heap.size, 0, none⟩ ⟨b, 0, none⟩ old (wr.alloc (.cells #[.pointer (some ⟨b, 0, none⟩)] 48)) (by rw [(Blk.new wr 48 #[.pointer (some ⟨b, 0, none⟩)]).cell 0]; rfl) ((hg1.out.alloc _).cell 0) ((hg1.out.alloc _).frozen 0)
      have hE := eV ⟨vb, 0, none⟩ ⟨g, 0, none⟩ wr hcv
      have hP : Hid (Blk ((wr.alloc (.cells #[.pointer (some ⟨b, 0, none⟩)] 48)).setCell ⟨g, 0, none⟩ (.pointer (some ⟨b, 0, none⟩))) g 48 #[.pointer (some ⟨b, 0, none⟩)]) := Lib.hid ((hg1.out.alloc _).set 0 _)
      have hB : Hid (But g w ((wr.alloc (.cells #[.pointer (some ⟨b, 0, none⟩)] 48)).setCell ⟨g, 0, none⟩ (.pointer (some ⟨b, 0, none⟩)))) := Lib.hid ((hb1.out.trans (But.of_below ((Below.refl _ _).alloc (Nat.le_refl _) _))).set 0 _)
      clear hM hk hne eW eT eP eV
      simp only [hdV, tyL, dyn, ptr]
      go_wp2
      go_ret
      exact ⟨rfl, hP.out, hB.out⟩
    | .re c :: l, hne, hM, hr, hk =>
      obtain rfl : l = [] := hM
      obtain rfl : none = r := hr
      have hB : Hid (But g w wr) := Lib.hid hb1.out
      clear hM hk hne eW eT eP eV
      simp only [hdV, tyL, dyn, ptr]
      go_wp2
      go_ret
      exact ⟨rfl, hg1.out, hB.out⟩

/-- where the loop stands -/
def AsT (w : World) (r : Option Nat) (k : Nat) (v : Value) (wr : World) : Prop := ∃ M : List Lay, v = hdV M ∧ M ≠ [] ∧ Lies w M ∧ fT M = r ∧ M.length = k ∧ wr = w
theorem AsT.next {w : World} {r : Option Nat} {x : Lay} {l : List Lay} (hl : ¬ l = []) (h : Lies w (x :: l)) (hr : fT l = r) : AsT w r l.length (hdV l) w := ⟨l, rfl, hl, h.tail, hr, rfl, rfl⟩
set_option maxHeartbeats 8000000 in
theorem asInT (L : List Lay) (hne : L ≠ []) (g vb : Nat) (old : Value) (w : World) (hL : Lies w L) (hg : Blk w g 55 #[old]) (hv : Blk w vb 75 #[ptr g]) :
    Calls Tryd.prog 39 #[hdV L, .iface 75 (ptr g), .agg #[.pointer (some ⟨2, 75, none⟩), .pointer (some ⟨vb, 0, none⟩), .int .u64 150], .iface 100 (.agg #[.pointer (some ⟨2, 55, none⟩)])] w fun e w' => e = .returned (.bool (fT L).isSome) ∧ Blk w' g 55 #[hitV old (fT L)] ∧ But g w w' := by
  have hTO := @run_callFunc_extern Tryd.prog 33 _ (ReflectliteType.typeOf) Tryd.func33 (by kernel_rfl) (by kernel_rfl) (by kernel_rfl) (by kernel_rfl)
  have hAT := @run_callFunc_extern Tryd.prog 72 _ (ReflectliteType.relation "AssignableTo" ReflectliteType.assignableTo) Tryd.func72 (by kernel_rfl) (by kernel_rfl) (by kernel_rfl) (by kernel_rfl)
  have hEV := @run_callFunc_extern Tryd.prog 41 _ (ReflectliteValue.method (ReflectliteValue.valueError "reflectlite.Value.Elem" 0) ReflectliteValue.elem) Tryd.func41 (by kernel_rfl) (by kernel_rfl) (by kernel_rfl) (by kernel_rfl)
  have hVO := @run_callFunc_extern Tryd.prog 36 _ (fun args => ReflectliteValue.unpack (args.getD 0 (.tuple #[]))) Tryd.func36 (by kernel_rfl) (by kernel_rfl) (by kernel_rfl) (by kernel_rfl)
  have hST := @run_callFunc_extern Tryd.prog 42 _ (ReflectliteValue.set) Tryd.func42 (by kernel_rfl) (by kernel_rfl) (by kernel_rfl) (by kernel_rfl)
  have tOW := typeOfW
  have aTW := assignableWT
  have tOT := typeOfT
  have aTT := assignableTT
  have tOP := typeOfP
  have aTP := assignablePT
  have tOR := typeOfR
  have aTR := assignableRT
  have nAW := noAsW
  have nAP := noAsP
  have nAR := noAsR
  have mAT := meAssignableTo
  have nM := noMany
  have uR := unR
  have uW := unW
  have mW := meW
  have uP := unP
  have mP := meP
  have vO := valueOf1T
  have eV := elemV2T
  have hw1 : Hid (Below w.heap.size w (w.alloc (.cells #[.pointer (some ⟨2, 75, none⟩), .pointer (some ⟨vb, 0, none⟩), .int .u64 150] 89))) := Lib.hid ((Below.refl _ _).alloc (Nat.le_refl _) _)
  have hx : Hid (Blk (w.alloc (.cells #[.pointer (some ⟨2, 75, none⟩), .pointer (some ⟨vb, 0, none⟩), .int .u64 150] 89)) w.heap.size 89 #[.pointer (some ⟨2, 75, none⟩), .pointer (some ⟨vb, 0, none⟩), .int .u64 150]) := Lib.hid (Blk.new w 89 _)
  have hL1 : Hid (AsT (w.alloc (.cells #[.pointer (some ⟨2, 75, none⟩), .pointer (some ⟨vb, 0, none⟩), .int .u64 150] 89)) (fT L) L.length (hdV L) (w.alloc (.cells #[.pointer (some ⟨2, 75, none⟩), .pointer (some ⟨vb, 0, none⟩), .int .u64 150] 89))) := Lib.hid ⟨L, rfl, hne, hL.go hw1.out, rfl, rfl, rfl⟩
  have hg1 : Hid (Blk (w.alloc (.cells #[.pointer (some ⟨2, 75, none⟩), .pointer (some ⟨vb, 0, none⟩), .int .u64 150] 89)) g 55 #[old]) := Lib.hid (hg.alloc _)
  have hv1 : Hid (Blk (w.alloc (.cells #[.pointer (some ⟨2, 75, none⟩), .pointer (some ⟨vb, 0, none⟩), .int .u64 150] 89)) vb 75 #[ptr g]) := Lib.hid (hv.alloc _)
  have hb1 : Hid (But g w (w.alloc (.cells #[.pointer (some ⟨2, 75, none⟩), .pointer (some ⟨vb, 0, none⟩), .int .u64 150] 89))) := Lib.hid (But.of_below hw1.out)
  have hgl : g < w.heap.size := hg.lt
  have hvl : vb < w.heap.size := hv.lt
  clear hL hg hv hne
  generalize hdV L = v0 at *
  generalize fT L = r at *
  go_enter Tryd.func39, Tryd.ntmps39
  simp only [ptr] at *
  go_wp2_with fail
  have hc0 := hx.out.cell 0
  have hc1 := hx.out.cell 1
  have hc2 := hx.out.cell 2
  have hcg := hg1.out.cell 0
  have hfg := hg1.out.frozen 0
  have hcv := hv1.out.cell 0
  simp only [List.getElem?_toArray, List.getElem?_cons_zero, List.getElem?_cons_succ] at hc0 hc1 hc2 hcg hcv
  have hxl := hx.out.lt
  generalize w.alloc (.cells #[.pointer (some ⟨2, 75, none⟩), .pointer (some ⟨vb, 0, none⟩), .int .u64 150] 89) = w1 at *
  generalize w.heap.size = x1 at *
  go_loopg [0] L.length (AsT w1 r)
  case atStart => exact hL1.out
  case round =>
    obtain ⟨M, rfl, hne, hM, hr, hk, rfl⟩ := hrel
    have eW := Lib.hid (unwrapW_any · · · wr)
    have eT := Lib.hid (unwrapT_any · · · wr)
    have eP := Lib.hid (unwrapP_any · · · wr)
    clear hL1
    match M, hne, hM, hr, hk with
    | .wr b s :: l, hne, hM, hr, hk =>
      have hu := Lib.hid (eW.out b s l hM.1)
      have hq := hd_eql l
      have hqG := hd_eqG l 26
      have hk2 : l.length < gk := by rw [← hk]; simp
      simp only [ptr] at hu
      have e0 : hdV (.wr b s :: l) = .iface 52 (.pointer (some ⟨b, 0, none⟩)) := rfl
      have e1 : fT l = r := hr
      clear hr
      rw [e0]
      by_cases hl : l = []
      · have hB : Hid (But g w wr) := Lib.hid hb1.out
        subst hl
        obtain rfl : none = r := e1
        clear hM hk hne eW eT eP eV e0 hk2
        simp only [List.isEmpty_nil] at hq
        generalize hdV [] = v2 at *
        go_wp2_with (go_at_call 64; refine (hu.out).mono ?_; rintro e w' ⟨rfl, rfl⟩)
        go_ret
        exact ⟨rfl, hg1.out, hB.out⟩
      · have hR := Lib.hid (AsT.next hl hM e1)
        have hl' : l.isEmpty = false := by simpa using hl
        rw [hl'] at hq
        clear hM hk hne eW eT eP eV e0 hl' hl
        generalize hdV l = v2 at *
        clear e1
        go_wp2_with (go_at_call 64; refine (hu.out).mono ?_; rintro e w' ⟨rfl, rfl⟩)
        go_roundg l.length
        case measure => exact hk2
        case rel => exact hR.out
    | .inp b n :: l, hne, hM, hr, hk =>
      obtain rfl : some b = r := hr
      have hst := set1T ⟨g, 0, none⟩ ⟨wr.heap.size, 0, none⟩ ⟨b, 0, none⟩ old (wr.alloc (.cells #[.pointer (some ⟨b, 0, none⟩)] 55)) (by rw [(Blk.new wr 55 #[.pointer (some ⟨b, 0, none⟩)]).cell 0]; rfl) ((hg1.out.alloc _).cell 0) ((hg1.out.alloc _).frozen 0)
      have hE := eV ⟨vb, 0, none⟩ ⟨g, 0, none⟩ wr hcv
      have hP : Hid (Blk ((wr.alloc (.cells #[.pointer (some ⟨b, 0, none⟩)] 55)).setCell ⟨g, 0, none⟩ (.pointer (some ⟨b, 0, none⟩))) g 55 #[.pointer (some ⟨b, 0, none⟩)]) := Lib.hid ((hg1.out.alloc _).set 0 _)
      have hB : Hid (But g w ((wr.alloc (.cells #[.pointer (some ⟨b, 0, none⟩)] 55)).setCell ⟨g, 0, none⟩ (.pointer (some ⟨b, 0, none⟩)))) := Lib.hid ((hb1.out.trans (But.of_below ((Below.refl _ _).alloc (Nat.le_refl _) _))).set 0 _)
      clear hM hk hne eW eT eP eV
      simp only [hdV, tyL, dyn, ptr]
      go_wp2
      go_ret
      exact ⟨rfl, hP.out, hB.out⟩
    | .pl b c a :: l, hne, hM, hr, hk =>
      obtain ⟨hM1, rfl⟩ := hM
      have hu := Lib.hid (eP.out b c a hM1)
      have hR : Hid (AsT wr r 1 (hdV [.re c]) wr) := Lib.hid ⟨[.re c], rfl, by simp, rfl, hr, rfl, rfl⟩
      have hq := hd_eql [.re c]
      have hqG := hd_eqG [.re c] 26
      simp only [List.isEmpty_cons] at hq
      have hk2 : 1 < gk := by rw [← hk]; simp
      clear hM1 hk hne hr eW eT eP eV
      simp only [ptr] at hu
      have e0 : hdV (.pl b c a :: [.re c]) = .iface 48 (.pointer (some ⟨b, 0, none⟩)) := rfl
      rw [e0]
      clear e0
      generalize hdV [.re c] = v2 at *
      go_wp2_with (go_at_call 61; refine (hu.out).mono ?_; rintro e w' ⟨rfl, rfl⟩)
      go_roundg 1
      case measure => exact hk2
      case rel => exact hR.out
    | .re c :: l, hne, hM, hr, hk =>
      obtain rfl : l = [] := hM
      obtain rfl : none = r := hr
      have hB : Hid (But g w wr) := Lib.hid hb1.out
      clear hM hk hne eW eT eP eV
      simp only [hdV, tyL, dyn, ptr]
      go_wp2
      go_ret
      exact ⟨rfl, hg1.out, hB.out⟩
end Go.Proofs.YtakbbhhhdcnlnaaDoor
