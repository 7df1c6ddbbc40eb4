/- errors.As by its contracts, at the targets **placed and **told: over a whole row of links. Printed by wip/gen_p14as.py. -/
import Derived.Test.YtakbbhhhdcnlnaaDoorP14As
namespace Go.Proofs.YtakbbhhhdcnlnaaDoor
set_option maxRecDepth 100000
open Go.RowKit Go.Extern.Stop Go.Stop Go.Extern
set_option linter.unusedVariables false
set_option linter.unusedSimpArgs false

/-- what a variable holds -/
def VarAt (w : World) (g : Nat) (cs : Array Value) : Prop := ∃ t fr, w.heap[g]? = some (.cells cs t fr)
theorem VarAt.lt {w : World} {g : Nat} {cs : Array Value} (h : VarAt w g cs) : g < w.heap.size := by
  obtain ⟨t, fr, h⟩ := h
  apply Classical.byContradiction; intro hn
  rw [Array.getElem?_eq_none (by omega)] at h; cases h
theorem VarAt.cell {w : World} {g : Nat} {cs : Array Value} (h : VarAt w g cs) (i : Nat) : w.cell? ⟨g, i, none⟩ = cs[i]? := by
  obtain ⟨t, fr, h⟩ := h
  exact cell_of_row w g i cs t fr h
theorem VarAt.go {w w' : World} {g : Nat} {cs : Array Value} (h : VarAt w g cs) (hb : Below w.heap.size w w') : VarAt w' g cs := by
  have hl := h.lt
  obtain ⟨t, fr, h⟩ := h
  exact ⟨t, fr, (hb.block g hl).trans h⟩
theorem VarAt.but {w w' : World} {g b : Nat} {cs : Array Value} (h : VarAt w g cs) (hb : But b w w') (hne : g ≠ b) : VarAt w' g cs := by
  have hl := h.lt
  obtain ⟨t, fr, h⟩ := h
  exact ⟨t, fr, (hb.block g hl (fun e => by injection e with e; exact hne e)).trans h⟩
/-- what the variable errors.errorType holds -/
def ErT (w : World) : Prop := VarAt w 1 #[.iface 100 (.agg #[.pointer (some ⟨2, 26, none⟩)])]
theorem ErT.lt {w : World} (h : ErT w) : 1 < w.heap.size := VarAt.lt h
theorem ErT.go {w w' : World} (h : ErT w) (hb : Below w.heap.size w w') : ErT w' := VarAt.go h hb

set_option maxHeartbeats 8000000 in
theorem asP_any (L : List Lay) (hne : L ≠ []) (g : Nat) (old : Value) (w : World) (hG : ErT w) (hL : Lies w L) (hg : Blk w g 48 #[old]) :
    Calls Tryd.prog 30 #[hdV L, .iface 74 (ptr g)] w fun e w' => e = .returned (.bool (fP L).isSome) ∧ Blk w' g 48 #[hitV old (fP L)] ∧ But g w w' := by
  have hVO := @run_callFunc_extern Tryd.prog 36 _ (fun args => ReflectliteValue.unpack (args.getD 0 (.tuple #[]))) Tryd.func36 (by kernel_rfl) (by kernel_rfl) (by kernel_rfl) (by kernel_rfl)
  have hTy := @run_callFunc_extern Tryd.prog 37 _ (ReflectliteValue.methodAny (ReflectliteValue.valueError "reflectlite.Value.Type" 0) (fun t _ _ _ => ReflectliteType.toType t)) Tryd.func37 (by kernel_rfl) (by kernel_rfl) (by kernel_rfl) (by kernel_rfl)
  have hNi := @run_callFunc_extern Tryd.prog 38 _ (ReflectliteValue.method (ReflectliteValue.valueError "reflectlite.Value.IsNil" 0) ReflectliteValue.isNil) Tryd.func38 (by kernel_rfl) (by kernel_rfl) (by kernel_rfl) (by kernel_rfl)
  have hKi := @run_callFunc_extern Tryd.prog 57 _ (ReflectliteType.abiMethod fun t => do pure (.int .u8 (← Rtype.kind t))) Tryd.func57 (by kernel_rfl) (by kernel_rfl) (by kernel_rfl) (by kernel_rfl)
  have hEl := @run_callFunc_extern Tryd.prog 74 _ (ReflectliteType.method ReflectliteType.elem) Tryd.func74 (by kernel_rfl) (by kernel_rfl) (by kernel_rfl) (by kernel_rfl)
  have hIm := @run_callFunc_extern Tryd.prog 75 _ (ReflectliteType.relation "Implements" ReflectliteType.implements_) Tryd.func75 (by kernel_rfl) (by kernel_rfl) (by kernel_rfl) (by kernel_rfl)
  have v2 := valueOf2P
  have t2 := type2P
  have mK := meKind
  have mE := meElem
  have mI := meImplements
  have k2 := kind2P
  have k1 := kind1P
  have e2 := elem2P
  have i1 := implements1P
  have hB : Hid (Below w.heap.size w ((w.alloc (.cells #[.pointer (some ⟨g, 0, none⟩)] 74)).alloc (.cells #[.pointer (some ⟨2, 74, none⟩), .pointer (some ⟨w.heap.size, 0, none⟩), .int .u64 150] 89))) := Lib.hid (((Below.refl _ _).alloc (Nat.le_refl _) _).alloc (by simp) _)
  have hN := isNil2P ⟨w.heap.size, 0, none⟩ ⟨g, 0, none⟩ ((w.alloc (.cells #[.pointer (some ⟨g, 0, none⟩)] 74)).alloc (.cells #[.pointer (some ⟨2, 74, none⟩), .pointer (some ⟨w.heap.size, 0, none⟩), .int .u64 150] 89)) (by rw [((Blk.new w 74 #[.pointer (some ⟨g, 0, none⟩)]).alloc _).cell 0]; rfl)
  have hG2 := VarAt.cell (hG.go hB.out) 0
  have hq := hd_eql L
  have hqG := hd_eqG L 26
  have h0 : L.isEmpty = false := by simpa using hne
  rw [h0] at hq
  clear h0
  have hC : Hid (Calls Tryd.prog 39 #[hdV L, .iface 74 (.pointer (some ⟨g, 0, none⟩)), .agg #[.pointer (some ⟨2, 74, none⟩), .pointer (some ⟨w.heap.size, 0, none⟩), .int .u64 150], .iface 100 (.agg #[.pointer (some ⟨2, 48, none⟩)])] ((w.alloc (.cells #[.pointer (some ⟨g, 0, none⟩)] 74)).alloc (.cells #[.pointer (some ⟨2, 74, none⟩), .pointer (some ⟨w.heap.size, 0, none⟩), .int .u64 150] 89)) fun e w' => e = .returned (.bool (fP L).isSome) ∧ Blk w' g 48 #[hitV old (fP L)] ∧ But g w w') := Lib.hid ((asInP L hne g w.heap.size old ((w.alloc (.cells #[.pointer (some ⟨g, 0, none⟩)] 74)).alloc (.cells #[.pointer (some ⟨2, 74, none⟩), .pointer (some ⟨w.heap.size, 0, none⟩), .int .u64 150] 89)) (hL.go hB.out) (hg.below hB.out hg.lt) ((Blk.new w 74 #[.pointer (some ⟨g, 0, none⟩)]).alloc _)).mono fun e w' h => ⟨h.1, h.2.1, (But.of_below hB.out).trans h.2.2⟩)
  clear hL hg hG hB hne
  simp only [List.getElem?_toArray, List.getElem?_cons_zero, List.getElem?_cons_succ] at hG2
  generalize hdV L = v0 at *
  go_enter Tryd.func30, Tryd.ntmps30
  simp only [ptr]
  go_wp2_with (go_at_call 39; refine (hC.out).mono ?_; rintro e w' ⟨rfl, hE⟩; replace hE := Lib.hid hE)
  go_ret
  exact ⟨rfl, hE.out⟩

set_option maxHeartbeats 8000000 in
theorem asT_any (L : List Lay) (hne : L ≠ []) (g : Nat) (old : Value) (w : World) (hG : ErT w) (hL : Lies w L) (hg : Blk w g 55 #[old]) :
    Calls Tryd.prog 30 #[hdV L, .iface 75 (ptr g)] w fun e w' => e = .returned (.bool (fT L).isSome) ∧ Blk w' g 55 #[hitV old (fT L)] ∧ But g w w' := by
  have hVO := @run_callFunc_extern Tryd.prog 36 _ (fun args => ReflectliteValue.unpack (args.getD 0 (.tuple #[]))) Tryd.func36 (by kernel_rfl) (by kernel_rfl) (by kernel_rfl) (by kernel_rfl)
  have hTy := @run_callFunc_extern Tryd.prog 37 _ (ReflectliteValue.methodAny (ReflectliteValue.valueError "reflectlite.Value.Type" 0) (fun t _ _ _ => ReflectliteType.toType t)) Tryd.func37 (by kernel_rfl) (by kernel_rfl) (by kernel_rfl) (by kernel_rfl)
  have hNi := @run_callFunc_extern Tryd.prog 38 _ (ReflectliteValue.method (ReflectliteValue.valueError "reflectlite.Value.IsNil" 0) ReflectliteValue.isNil) Tryd.func38 (by kernel_rfl) (by kernel_rfl) (by kernel_rfl) (by kernel_rfl)
  have hKi := @run_callFunc_extern Tryd.prog 57 _ (ReflectliteType.abiMethod fun t => do pure (.int .u8 (← Rtype.kind t))) Tryd.func57 (by kernel_rfl) (by kernel_rfl) (by kernel_rfl) (by kernel_rfl)
  have hEl := @run_callFunc_extern Tryd.prog 74 _ (ReflectliteType.method ReflectliteType.elem) Tryd.func74 (by kernel_rfl) (by kernel_rfl) (by kernel_rfl) (by kernel_rfl)
  have hIm := @run_callFunc_extern Tryd.prog 75 _ (ReflectliteType.relation "Implements" ReflectliteType.implements_) Tryd.func75 (by kernel_rfl) (by kernel_rfl) (by kernel_rfl) (by kernel_rfl)
  have v2 := valueOf2T
  have t2 := type2T
  have mK := meKind
  have mE := meElem
  have mI := meImplements
  have k2 := kind2T
  have k1 := kind1T
  have e2 := elem2T
  have i1 := implements1T
  have hB : Hid (Below w.heap.size w ((w.alloc (.cells #[.pointer (some ⟨g, 0, none⟩)] 75)).alloc (.cells #[.pointer (some ⟨2, 75, none⟩), .pointer (some ⟨w.heap.size, 0, none⟩), .int .u64 150] 89))) := Lib.hid (((Below.refl _ _).alloc (Nat.le_refl _) _).alloc (by simp) _)
  have hN := isNil2T ⟨w.heap.size, 0, none⟩ ⟨g, 0, none⟩ ((w.alloc (.cells #[.pointer (some ⟨g, 0, none⟩)] 75)).alloc (.cells #[.pointer (some ⟨2, 75, none⟩), .pointer (some ⟨w.heap.size, 0, none⟩), .int .u64 150] 89)) (by rw [((Blk.new w 75 #[.pointer (some ⟨g, 0, none⟩)]).alloc _).cell 0]; rfl)
  have hG2 := VarAt.cell (hG.go hB.out) 0
  have hq := hd_eql L
  have hqG := hd_eqG L 26
  have h0 : L.isEmpty = false := by simpa using hne
  rw [h0] at hq
  clear h0
  have hC : Hid (Calls Tryd.prog 39 #[hdV L, .iface 75 (.pointer (some ⟨g, 0, none⟩)), .agg #[.pointer (some ⟨2, 75, none⟩), .pointer (some ⟨w.heap.size, 0, none⟩), .int .u64 150], .iface 100 (.agg #[.pointer (some ⟨2, 55, none⟩)])] ((w.alloc (.cells #[.pointer (some ⟨g, 0, none⟩)] 75)).alloc (.cells #[.pointer (some ⟨2, 75, none⟩), .pointer (some ⟨w.heap.size, 0, none⟩), .int .u64 150] 89)) fun e w' => e = .returned (.bool (fT L).isSome) ∧ Blk w' g 55 #[hitV old (fT L)] ∧ But g w w') := Lib.hid ((asInT L hne g w.heap.size old ((w.alloc (.cells #[.pointer (some ⟨g, 0, none⟩)] 75)).alloc (.cells #[.pointer (some ⟨2, 75, none⟩), .pointer (some ⟨w.heap.size, 0, none⟩), .int .u64 150] 89)) (hL.go hB.out) (hg.below hB.out hg.lt) ((Blk.new w 75 #[.pointer (some ⟨g, 0, none⟩)]).alloc _)).mono fun e w' h => ⟨h.1, h.2.1, (But.of_below hB.out).trans h.2.2⟩)
  clear hL hg hG hB hne
  simp only [List.getElem?_toArray, List.getElem?_cons_zero, List.getElem?_cons_succ] at hG2
  generalize hdV L = v0 at *
  go_enter Tryd.func30, Tryd.ntmps30
  simp only [ptr]
  go_wp2_with (go_at_call 39; refine (hC.out).mono ?_; rintro e w' ⟨rfl, hE⟩; replace hE := Lib.hid hE)
  go_ret
  exact ⟨rfl, hE.out⟩
end Go.Proofs.YtakbbhhhdcnlnaaDoor
