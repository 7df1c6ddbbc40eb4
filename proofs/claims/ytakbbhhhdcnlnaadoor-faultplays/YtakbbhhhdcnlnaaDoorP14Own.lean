/- fault.own, errors.Unwrap, fault.ends, fault.New, Wrap, Input by their contracts. -/
import Derived.Test.YtakbbhhhdcnlnaaDoorP14Ch
import Derived.Deep.LoopGhost
namespace Go.Proofs.YtakbbhhhdcnlnaaDoor
set_option maxRecDepth 100000
open Go.ChangeShapes Go.WideShapes Go.ChangeAt Go.RowKit
set_option linter.unusedVariables false
set_option linter.unusedSimpArgs false

/-! closed facts: is it of that type -/
theorem ta0W (w : World) : (Instr.typeAssert .nilIface 26 52 true).run Tryd.prog w = .ok (.tuple #[.pointer none, .bool false]) w := by kernel_rfl
theorem taWW (v : Value) (w : World) : (Instr.typeAssert (.iface 52 v) 26 52 true).run Tryd.prog w = .ok (.tuple #[v, .bool true]) w := by kernel_rfl
theorem taTW (v : Value) (w : World) : (Instr.typeAssert (.iface 55 v) 26 52 true).run Tryd.prog w = .ok (.tuple #[.pointer none, .bool false]) w := by kernel_rfl
theorem taPW (v : Value) (w : World) : (Instr.typeAssert (.iface 48 v) 26 52 true).run Tryd.prog w = .ok (.tuple #[.pointer none, .bool false]) w := by kernel_rfl
theorem taRW (v : Value) (w : World) : (Instr.typeAssert (.iface 49 v) 26 52 true).run Tryd.prog w = .ok (.tuple #[.pointer none, .bool false]) w := by kernel_rfl
theorem ta0T (w : World) : (Instr.typeAssert .nilIface 26 55 true).run Tryd.prog w = .ok (.tuple #[.pointer none, .bool false]) w := by kernel_rfl
theorem taWT (v : Value) (w : World) : (Instr.typeAssert (.iface 52 v) 26 55 true).run Tryd.prog w = .ok (.tuple #[.pointer none, .bool false]) w := by kernel_rfl
theorem taTT (v : Value) (w : World) : (Instr.typeAssert (.iface 55 v) 26 55 true).run Tryd.prog w = .ok (.tuple #[v, .bool true]) w := by kernel_rfl
theorem taPT (v : Value) (w : World) : (Instr.typeAssert (.iface 48 v) 26 55 true).run Tryd.prog w = .ok (.tuple #[.pointer none, .bool false]) w := by kernel_rfl
theorem taRT (v : Value) (w : World) : (Instr.typeAssert (.iface 49 v) 26 55 true).run Tryd.prog w = .ok (.tuple #[.pointer none, .bool false]) w := by kernel_rfl
theorem ta0P (w : World) : (Instr.typeAssert .nilIface 26 48 true).run Tryd.prog w = .ok (.tuple #[.pointer none, .bool false]) w := by kernel_rfl
theorem taWP (v : Value) (w : World) : (Instr.typeAssert (.iface 52 v) 26 48 true).run Tryd.prog w = .ok (.tuple #[.pointer none, .bool false]) w := by kernel_rfl
theorem taTP (v : Value) (w : World) : (Instr.typeAssert (.iface 55 v) 26 48 true).run Tryd.prog w = .ok (.tuple #[.pointer none, .bool false]) w := by kernel_rfl
theorem taPP (v : Value) (w : World) : (Instr.typeAssert (.iface 48 v) 26 48 true).run Tryd.prog w = .ok (.tuple #[v, .bool true]) w := by kernel_rfl
theorem taRP (v : Value) (w : World) : (Instr.typeAssert (.iface 49 v) 26 48 true).run Tryd.prog w = .ok (.tuple #[.pointer none, .bool false]) w := by kernel_rfl
theorem ta0R (w : World) : (Instr.typeAssert .nilIface 26 49 true).run Tryd.prog w = .ok (.tuple #[.int .i64 0, .bool false]) w := by kernel_rfl
theorem taWR (v : Value) (w : World) : (Instr.typeAssert (.iface 52 v) 26 49 true).run Tryd.prog w = .ok (.tuple #[.int .i64 0, .bool false]) w := by kernel_rfl
theorem taTR (v : Value) (w : World) : (Instr.typeAssert (.iface 55 v) 26 49 true).run Tryd.prog w = .ok (.tuple #[.int .i64 0, .bool false]) w := by kernel_rfl
theorem taPR (v : Value) (w : World) : (Instr.typeAssert (.iface 48 v) 26 49 true).run Tryd.prog w = .ok (.tuple #[.int .i64 0, .bool false]) w := by kernel_rfl
theorem taRR (v : Value) (w : World) : (Instr.typeAssert (.iface 49 v) 26 49 true).run Tryd.prog w = .ok (.tuple #[v, .bool true]) w := by kernel_rfl
theorem own_any (L : List Lay) (w : World) : Calls Tryd.prog 22 #[hdV L] w fun e w' => e = .returned (.bool (!L.isEmpty)) ∧ w' = w := by
  cases L with
  | nil =>
    have t0W := ta0W; have t0T := ta0T; have t0P := ta0P; have t0R := ta0R
    go_enter Tryd.func22, Tryd.ntmps22
    simp only [hdV]
    go_wp2
    go_ret
    exact ⟨rfl, rfl⟩
  | cons x l =>
    cases x
    · have tWW := taWW; have tWT := taWT; have tWP := taWP; have tWR := taWR
      go_enter Tryd.func22, Tryd.ntmps22
      simp only [hdV, tyL, dyn, ptr]
      go_wp2
      go_ret
      exact ⟨rfl, rfl⟩
    · have tTW := taTW; have tTT := taTT; have tTP := taTP; have tTR := taTR
      go_enter Tryd.func22, Tryd.ntmps22
      simp only [hdV, tyL, dyn, ptr]
      go_wp2
      go_ret
      exact ⟨rfl, rfl⟩
    · have tPW := taPW; have tPT := taPT; have tPP := taPP; have tPR := taPR
      go_enter Tryd.func22, Tryd.ntmps22
      simp only [hdV, tyL, dyn, ptr]
      go_wp2
      go_ret
      exact ⟨rfl, rfl⟩
    · have tRW := taRW; have tRT := taRT; have tRP := taRP; have tRR := taRR
      go_enter Tryd.func22, Tryd.ntmps22
      simp only [hdV, tyL, dyn, ptr]
      go_wp2
      go_ret
      exact ⟨rfl, rfl⟩

/-! closed facts on the method sets: 'Unwrap() error' -/
theorem unW (v : Value) (xT : TypeId) (w : World) : (Instr.typeAssert (.iface 52 v) xT 76 true).run Tryd.prog w = .ok (.tuple #[.iface 52 v, .bool true]) w := run_typeAssert_hasB Tryd.underlying76 (by kernel_rfl) v xT w
theorem unT (v : Value) (xT : TypeId) (w : World) : (Instr.typeAssert (.iface 55 v) xT 76 true).run Tryd.prog w = .ok (.tuple #[.iface 55 v, .bool true]) w := run_typeAssert_hasB Tryd.underlying76 (by kernel_rfl) v xT w
theorem unP (v : Value) (xT : TypeId) (w : World) : (Instr.typeAssert (.iface 48 v) xT 76 true).run Tryd.prog w = .ok (.tuple #[.iface 48 v, .bool true]) w := run_typeAssert_hasB Tryd.underlying76 (by kernel_rfl) v xT w
theorem unR (v : Value) (xT : TypeId) (w : World) : (Instr.typeAssert (.iface 49 v) xT 76 true).run Tryd.prog w = .ok (.tuple #[.nilIface, .bool false]) w := run_typeAssert_lacksB Tryd.underlying76 (by kernel_rfl) (by kernel_rfl) v xT w
theorem meW (v : Value) (w : World) : (Go.method 240 52 v "Unwrap").run Tryd.prog w = .ok (64, v) w := by kernel_rfl
theorem meT (v : Value) (w : World) : (Go.method 240 55 v "Unwrap").run Tryd.prog w = .ok (66, v) w := by kernel_rfl
theorem meP (v : Value) (w : World) : (Go.method 240 48 v "Unwrap").run Tryd.prog w = .ok (61, v) w := by kernel_rfl

theorem ta0U (w : World) : (Instr.typeAssert .nilIface 26 76 true).run Tryd.prog w = .ok (.tuple #[.nilIface, .bool false]) w := by kernel_rfl

/-! the three methods -/
theorem unwrapW_any (b : Nat) (s : ByteArray) (l : List Lay) (w : World) (h : Blk w b 54 #[hdV l, .string s]) : Calls Tryd.prog 64 #[ptr b] w fun e w' => e = .returned (hdV l) ∧ w' = w := by
  have c0 := h.cell 0
  have hlt := h.lt
  generalize hdV l = v at *
  simp at c0
  go_enter Tryd.func64, Tryd.ntmps64
  simp only [ptr]
  go_wp2
  go_ret
  exact ⟨rfl, rfl⟩
theorem unwrapT_any (b : Nat) (s : Int) (l : List Lay) (w : World) (h : Blk w b 57 #[hdV l, .int .i64 s]) : Calls Tryd.prog 66 #[ptr b] w fun e w' => e = .returned (hdV l) ∧ w' = w := by
  have c0 := h.cell 0
  have hlt := h.lt
  generalize hdV l = v at *
  simp at c0
  go_enter Tryd.func66, Tryd.ntmps66
  simp only [ptr]
  go_wp2
  go_ret
  exact ⟨rfl, rfl⟩
theorem unwrapP_any (b : Nat) (c a : Int) (w : World) (h : Blk w b 51 #[.int .i64 c, .int .i64 a]) : Calls Tryd.prog 61 #[ptr b] w fun e w' => e = .returned (hdV [.re c]) ∧ w' = w := by
  have c0 := h.cell 0
  have hlt := h.lt
  simp at c0
  go_enter Tryd.func61, Tryd.ntmps61
  simp only [ptr]
  go_wp2
  go_ret
  exact ⟨rfl, rfl⟩

/-- errors.Unwrap -/
theorem unwrap_any (L : List Lay) (w : World) (h : Lies w L) : Calls Tryd.prog 23 #[hdV L] w fun e w' => e = .returned (hdV L.tail) ∧ w' = w := by
  match L, h with
  | [], _ =>
    have ht := ta0U
    go_enter Tryd.func23, Tryd.ntmps23
    simp only [hdV]
    go_wp2
    go_ret
    exact ⟨rfl, rfl⟩
  | .re c :: l, h =>
    obtain rfl : l = [] := h
    have hu := unR
    go_enter Tryd.func23, Tryd.ntmps23
    simp only [hdV, tyL, dyn, ptr]
    go_wp2
    go_ret
    exact ⟨rfl, rfl⟩
  | .wr b s :: l, h =>
    have hc := Lib.hid (unwrapW_any b s l w h.1)
    have hu := unW
    have hm := meW
    clear h
    have e0 : hdV (.wr b s :: l) = .iface 52 (ptr b) := rfl
    rw [e0, List.tail_cons]
    clear e0
    generalize hdV l = v at *
    generalize ptr b = q at *
    go_enter Tryd.func23, Tryd.ntmps23
    go_wp2_with (go_at_call 64; refine (hc.out).mono ?_; rintro e w' ⟨rfl, rfl⟩)
    go_ret
    exact ⟨rfl, rfl⟩
  | .inp b s :: l, h =>
    have hc := Lib.hid (unwrapT_any b s l w h.1)
    have hu := unT
    have hm := meT
    clear h
    have e0 : hdV (.inp b s :: l) = .iface 55 (ptr b) := rfl
    rw [e0, List.tail_cons]
    clear e0
    generalize hdV l = v at *
    generalize ptr b = q at *
    go_enter Tryd.func23, Tryd.ntmps23
    go_wp2_with (go_at_call 66; refine (hc.out).mono ?_; rintro e w' ⟨rfl, rfl⟩)
    go_ret
    exact ⟨rfl, rfl⟩
  | .pl b c a :: l, h =>
    obtain ⟨h1, rfl⟩ := h
    have hc := Lib.hid (unwrapP_any b c a w h1)
    have hu := unP
    have hm := meP
    clear h1
    have e0 : hdV [.pl b c a, .re c] = .iface 48 (ptr b) := rfl
    rw [e0, List.tail_cons]
    clear e0
    generalize hdV [.re c] = v at *
    generalize ptr b = q at *
    go_enter Tryd.func23, Tryd.ntmps23
    go_wp2_with (go_at_call 61; refine (hc.out).mono ?_; rintro e w' ⟨rfl, rfl⟩)
    go_ret
    exact ⟨rfl, rfl⟩

/-! New, Wrap, Input -/
theorem new_any (c a : Int) (hc : ¬ c = 0) (w : World) : Calls Tryd.prog 8 #[.int .i64 c, .int .i64 a] w fun e w' => e = .returned (hdV (Ec [] w.heap.size c a)) ∧ w' = w.alloc (.cells #[.int .i64 c, .int .i64 a] 51) := by
  have hc' : (c == 0) = false := by rw [beq_eq_false_iff_ne]; exact hc
  go_enter Tryd.func8, Tryd.ntmps8
  go_wp2
  go_ret
  exact ⟨rfl, rfl⟩
theorem new_ok (a : Int) (w : World) : Calls Tryd.prog 8 #[.int .i64 0, .int .i64 a] w fun e w' => e = .returned .nilIface ∧ w' = w := by
  go_enter Tryd.func8, Tryd.ntmps8
  go_wp2
  go_ret
  exact ⟨rfl, rfl⟩
theorem wrap_any (L : List Lay) (hL : L ≠ []) (s : ByteArray) (w : World) : Calls Tryd.prog 10 #[hdV L, .string s] w fun e w' => e = .returned (hdV (.wr w.heap.size s :: L)) ∧ w' = w.alloc (.cells #[hdV L, .string s] 54) := by
  have he := fun w => hd_eql L w
  have hg := hd_eqG L 26
  have h0 : L.isEmpty = false := by simpa using hL
  rw [h0] at he
  clear h0
  obtain ⟨t, u, hV⟩ := hd_form hL
  rw [hV] at he hg ⊢
  clear hV hL
  go_enter Tryd.func10, Tryd.ntmps10
  go_wp2
  go_ret
  exact ⟨rfl, rfl⟩
theorem wrap_nil (s : ByteArray) (w : World) : Calls Tryd.prog 10 #[.nilIface, .string s] w fun e w' => e = .returned .nilIface ∧ w' = w := by
  go_enter Tryd.func10, Tryd.ntmps10
  go_wp2
  go_ret
  exact ⟨rfl, rfl⟩
theorem input_any (L : List Lay) (hL : L ≠ []) (n : Int) (w : World) : Calls Tryd.prog 12 #[hdV L, .int .i64 n] w fun e w' => e = .returned (hdV (.inp w.heap.size n :: L)) ∧ w' = w.alloc (.cells #[hdV L, .int .i64 n] 57) := by
  have he := fun w => hd_eql L w
  have hg := hd_eqG L 26
  have h0 : L.isEmpty = false := by simpa using hL
  rw [h0] at he
  clear h0
  obtain ⟨t, u, hV⟩ := hd_form hL
  rw [hV] at he hg ⊢
  clear hV hL
  go_enter Tryd.func12, Tryd.ntmps12
  go_wp2
  go_ret
  exact ⟨rfl, rfl⟩
theorem input_nil (n : Int) (w : World) : Calls Tryd.prog 12 #[.nilIface, .int .i64 n] w fun e w' => e = .returned .nilIface ∧ w' = w := by
  go_enter Tryd.func12, Tryd.ntmps12
  go_wp2
  go_ret
  exact ⟨rfl, rfl⟩

/-! ends -/
def EnL (w : World) (k : Nat) (v : Value) (wr : World) : Prop := ∃ L : List Lay, v = hdV L ∧ Lies w L ∧ L.length = k ∧ wr = w
set_option maxHeartbeats 4000000 in
theorem ends_any (L : List Lay) (w : World) (h : Lies w L) (q : Value) : Calls Tryd.prog 29 #[hdV L, q] w fun e w' => e = .returned (.bool true) ∧ w' = w := by
  have HS : EnL w L.length (hdV L) w := ⟨L, rfl, h, rfl, rfl⟩
  have hl := Lib.hid HS
  clear HS
  generalize hdV L = v0 at *
  clear h
  go_enter Tryd.func29, Tryd.ntmps29
  go_wp2_with fail
  go_loopg [0] L.length (EnL w)
  case atStart => exact hl.out
  case round =>
    obtain ⟨M, rfl, hM, hk, rfl⟩ := hrel
    have hne := hd_neq M wr
    have hng := hd_neG M 26 (.tmp 7) wr
    have ho := Lib.hid (own_any M wr)
    have hu := Lib.hid (unwrap_any M wr hM)
    cases M with
    | nil =>
      go_wp2
      go_ret
      exact ⟨rfl, rfl⟩
    | cons x l =>
      have hR : Hid (EnL wr l.length (hdV l) wr) := Lib.hid ⟨l, rfl, hM.tail, rfl, rfl⟩
      simp only [List.isEmpty_cons, Bool.not_false, List.tail_cons] at ho hu hne
      have hk2 : l.length < gk := by rw [← hk]; simp
      clear hM hk
      generalize hdV (x :: l) = v1 at *
      generalize hdV l = v2 at *
      go_wp2_with (first | (go_at_call 22; refine (ho.out).mono ?_; rintro e w' ⟨rfl, rfl⟩) | (go_at_call 23; refine (hu.out).mono ?_; rintro e w' ⟨rfl, rfl⟩))
      go_roundg l.length
      case measure => exact hk2
      case rel => exact hR.out
end Go.Proofs.YtakbbhhhdcnlnaaDoor
