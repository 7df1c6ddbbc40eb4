/- The table 'leads' of package utf8: what its cells hold, from the row's list on. -/
import Derived.Test.YtbmeinicjfmjlaaDoorRows
import Derived.Test.YtbmeinicjfmjlaaDoorMem
import Derived.Test.YtbmeinicjfmjlaaDoorU8Math
import Derived.Lib.LaidTab
namespace Go.Proofs.YtbmeinicjfmjlaaDoor
open Go.ChangeShapes Go.WideShapes Go.ChangeAt Go.RowKit
set_option linter.unusedVariables false

def leadsArr : Array Value := #[.int .u8 0, .int .u8 127, .int .u8 0, .int .i64 1, .int .u8 0, .int .u8 0, .int .u8 194, .int .u8 223, .int .u8 192, .int .i64 2, .int .u8 128, .int .u8 191, .int .u8 224, .int .u8 224, .int .u8 224, .int .i64 3, .int .u8 160, .int .u8 191, .int .u8 225, .int .u8 236, .int .u8 224, .int .i64 3, .int .u8 128, .int .u8 191, .int .u8 237, .int .u8 237, .int .u8 224, .int .i64 3, .int .u8 128, .int .u8 159, .int .u8 238, .int .u8 239, .int .u8 224, .int .i64 3, .int .u8 128, .int .u8 191, .int .u8 240, .int .u8 240, .int .u8 240, .int .i64 4, .int .u8 144, .int .u8 191, .int .u8 241, .int .u8 243, .int .u8 240, .int .i64 4, .int .u8 128, .int .u8 191, .int .u8 244, .int .u8 244, .int .u8 240, .int .i64 4, .int .u8 128, .int .u8 143]
def ldF (k : Nat) : Int := [(0 : Int), (194 : Int), (224 : Int), (225 : Int), (237 : Int), (238 : Int), (240 : Int), (241 : Int), (244 : Int)].getD k 0
def ldL (k : Nat) : Int := [(127 : Int), (223 : Int), (224 : Int), (236 : Int), (237 : Int), (239 : Int), (240 : Int), (243 : Int), (244 : Int)].getD k 0
def ldM (k : Nat) : Int := [(0 : Int), (192 : Int), (224 : Int), (224 : Int), (224 : Int), (224 : Int), (240 : Int), (240 : Int), (240 : Int)].getD k 0
def ldS (k : Nat) : Int := [(1 : Int), (2 : Int), (3 : Int), (3 : Int), (3 : Int), (3 : Int), (4 : Int), (4 : Int), (4 : Int)].getD k 0
def ldLo (k : Nat) : Int := [(0 : Int), (128 : Int), (160 : Int), (128 : Int), (128 : Int), (128 : Int), (144 : Int), (128 : Int), (128 : Int)].getD k 0
def ldHi (k : Nat) : Int := [(0 : Int), (191 : Int), (191 : Int), (191 : Int), (159 : Int), (191 : Int), (191 : Int), (191 : Int), (143 : Int)].getD k 0
/-- the table lies where it lies -/
def Tab (w : World) : Prop := ∃ t fr, w.heap[0]? = some (.cells leadsArr t fr)
theorem Tab.lt {w : World} (h : Tab w) : 0 < w.heap.size := by
  obtain ⟨t, fr, h⟩ := h
  apply Classical.byContradiction; intro hn
  rw [Array.getElem?_eq_none (by omega)] at h; cases h
theorem Tab.below {w w' : World} {B : Nat} (h : Tab w) (hb : Below B w w') (hB : 0 < B) : Tab w' := by
  obtain ⟨t, fr, h⟩ := h
  exact ⟨t, fr, (hb.block _ hB).trans h⟩
theorem Tab.below' {w w' : World} (h : Tab w) (hb : Below w.heap.size w w') : Tab w' := h.below hb h.lt
theorem Tab.but {w w' : World} {g : Nat} (h : Tab w) (hb : But g w w') (hg : g ≠ 0) : Tab w' := by
  have hl := h.lt
  obtain ⟨t, fr, h⟩ := h
  exact ⟨t, fr, (hb.block _ hl (fun e => by injection e with e; exact hg e.symm)).trans h⟩
theorem Tab.cell {w : World} (h : Tab w) (i : Nat) : w.cell? ⟨0, i, none⟩ = leadsArr[i]? := by
  obtain ⟨t, fr, h⟩ := h
  exact cell_of_row w _ i leadsArr t fr h
/-- a block of a reader is not the table -/
theorem Tab.ne {w : World} (h : Tab w) {g : Nat} {t : TypeId} {a b c : Int} (hk : Blk w g t #[.int .i64 a, .int .i64 b, .int .i32 c]) : g ≠ 0 := by
  rintro rfl
  have h1 := h.cell 0
  rw [hk.cell 0] at h1
  simp [leadsArr] at h1

theorem cellsU8 : Tryd.prog.cellsOf 5 = 1 := by kernel_rfl
theorem cellsInt : Tryd.prog.cellsOf 3 = 1 := by kernel_rfl
theorem cellsLead : Tryd.prog.cellsOf 57 = 6 := by kernel_rfl
theorem cellsLeads : Tryd.prog.cellsOf 58 = 54 := by kernel_rfl
theorem gLeads : Tryd.prog.globalNamed "orthoepy/utf8.leads" = some 0 := by kernel_rfl
theorem gLeadsType : (Tryd.prog.globals[0]?).map (·.type) = some 58 := by kernel_rfl

theorem lead_cells {H : Type} {enc : TypeId × Value → H} {w : World} {base : Nat} {sp : Nat → Bool} {held : Bool} {fuel : Nat} {cs : List Value} {a b c d e f : Int} {p : List MemPlace}
    (h : DataW.trod enc Tryd.prog w base sp held fuel 57 cs = some (.agg [.lit (.int .u8 a), .lit (.int .u8 b), .lit (.int .u8 c), .lit (.int .i64 d), .lit (.int .u8 e), .lit (.int .u8 f)], p)) :
    cs = [.int .u8 a, .int .u8 b, .int .u8 c, .int .i64 d, .int .u8 e, .int .u8 f] := by
  obtain ⟨xs, n, _, hx, hlen, hxl, hf⟩ := DataW.trod_struct Tryd.underlying57 h
  rw [cellsLead] at hlen
  have e1 := congrArg Prod.fst hx
  simp only [DataW.agg.injEq] at e1
  match cs, hlen, xs, hxl with
  | [c0, c1, c2, c3, c4, c5], _, [y0, y1, y2, y3, y4, y5], _ =>
    simp at e1
    obtain ⟨e0, e1, e2, e3, e4, e5⟩ := e1
    have g0 := hf 0 _ rfl
    have g1 := hf 1 _ rfl
    have g2 := hf 2 _ rfl
    have g3 := hf 3 _ rfl
    have g4 := hf 4 _ rfl
    have g5 := hf 5 _ rfl
    simp [cellsU8, cellsInt] at g0 g1 g2 g3 g4 g5
    obtain ⟨z0, f0, r0, _⟩ := DataW.trod_int Tryd.underlying5 g0
    obtain ⟨z1, f1, r1, _⟩ := DataW.trod_int Tryd.underlying5 g1
    obtain ⟨z2, f2, r2, _⟩ := DataW.trod_int Tryd.underlying5 g2
    obtain ⟨z3, f3, r3, _⟩ := DataW.trod_int Tryd.underlying3 g3
    obtain ⟨z4, f4, r4, _⟩ := DataW.trod_int Tryd.underlying5 g4
    obtain ⟨z5, f5, r5, _⟩ := DataW.trod_int Tryd.underlying5 g5
    subst r0 r1 r2 r3 r4 r5
    simp at e0 e1 e2 e3 e4 e5 f0 f1 f2 f3 f4 f5
    subst e0 e1 e2 e3 e4 e5 f0 f1 f2 f3 f4 f5
    rfl

theorem drop6 {l : List Value} {n m : Nat} (hm : m = n + 6) : l.drop n = (l.drop n).take 6 ++ l.drop m := by
  subst hm
  rw [← List.drop_drop, List.take_append_drop]

theorem tab_of_laid {W : World} (h : laidMetH Tryd.prog [("orthoepy/utf8.leads", Rows.laid_orthoepy_utf8_leads)] W) : Tab W := by
  have h' : laidMet Tryd.prog [("orthoepy/utf8.leads", Rows.laid_orthoepy_utf8_leads)] W := h
  obtain ⟨ps, ⟨g', t', cs, fuel, p, q, hg', ht', hvar, hd, _, _⟩, _⟩ := h'
  obtain rfl := Option.some.inj (gLeads.symm.trans hg')
  obtain rfl := Option.some.inj (gLeadsType.symm.trans ht')
  obtain ⟨xs, m, _, hx, hlen, hxl, hel⟩ := DataW.trod_array Tryd.underlying58 hd
  rw [cellsLeads] at hlen
  rw [cellsLead] at hel
  have e1 := congrArg Prod.fst hx
  unfold Rows.laid_orthoepy_utf8_leads at e1
  simp only [DataW.agg.injEq] at e1
  match xs, hxl with
  | [y0, y1, y2, y3, y4, y5, y6, y7, y8], _ =>
    simp only [List.map_cons, List.map_nil, List.cons.injEq, and_true] at e1
    obtain ⟨e0, e1, e2, e3, e4, e5, e6, e7, e8⟩ := e1
    have k0 := hel 0 (by omega)
    have k1 := hel 1 (by omega)
    have k2 := hel 2 (by omega)
    have k3 := hel 3 (by omega)
    have k4 := hel 4 (by omega)
    have k5 := hel 5 (by omega)
    have k6 := hel 6 (by omega)
    have k7 := hel 7 (by omega)
    have k8 := hel 8 (by omega)
    obtain ⟨d0, p0⟩ := y0; obtain ⟨d1, p1⟩ := y1; obtain ⟨d2, p2⟩ := y2; obtain ⟨d3, p3⟩ := y3; obtain ⟨d4, p4⟩ := y4
    obtain ⟨d5, p5⟩ := y5; obtain ⟨d6, p6⟩ := y6; obtain ⟨d7, p7⟩ := y7; obtain ⟨d8, p8⟩ := y8
    dsimp only at e0 e1 e2 e3 e4 e5 e6 e7 e8
    subst e0 e1 e2 e3 e4 e5 e6 e7 e8
    have c0 := lead_cells k0
    have c1 := lead_cells k1
    have c2 := lead_cells k2
    have c3 := lead_cells k3
    have c4 := lead_cells k4
    have c5 := lead_cells k5
    have c6 := lead_cells k6
    have c7 := lead_cells k7
    have c8 := lead_cells k8
    simp only [Nat.zero_mul, Nat.one_mul, Nat.reduceMul] at c0 c1 c2 c3 c4 c5 c6 c7 c8
    have hnil : cs.toList.drop 54 = [] := List.drop_eq_nil_of_le (by omega)
    have hall : cs.toList = leadsArr.toList := by
      rw [← List.drop_zero (l := cs.toList), drop6 (m := 6) rfl, c0, drop6 (n := 6) (m := 12) rfl, c1, drop6 (n := 12) (m := 18) rfl, c2, drop6 (n := 18) (m := 24) rfl, c3, drop6 (n := 24) (m := 30) rfl, c4,
        drop6 (n := 30) (m := 36) rfl, c5, drop6 (n := 36) (m := 42) rfl, c6, drop6 (n := 42) (m := 48) rfl, c7, drop6 (n := 48) (m := 54) rfl, c8, hnil]
      rfl
    have hcs : cs = leadsArr := by cases cs; simp only [leadsArr] at *; simpa using hall
    subst hcs
    unfold World.var? at hvar
    rw [gLeads] at hvar
    simp only [Option.bind_some] at hvar
    split at hvar
    · rename_i cs' t' fr' hh
      injection hvar with hvar
      subst hvar
      exact ⟨_, _, hh⟩
    · cases hvar

theorem index_lead0 (w : World) : (Instr.index 58 (.agg leadsArr) (.int .i64 ((0 : Nat) : Int))).run Tryd.prog w = .ok (.agg #[.int .u8 (ldF 0), .int .u8 (ldL 0), .int .u8 (ldM 0), .int .i64 (ldS 0), .int .u8 (ldLo 0), .int .u8 (ldHi 0)]) w := by kernel_rfl
theorem index_lead1 (w : World) : (Instr.index 58 (.agg leadsArr) (.int .i64 ((1 : Nat) : Int))).run Tryd.prog w = .ok (.agg #[.int .u8 (ldF 1), .int .u8 (ldL 1), .int .u8 (ldM 1), .int .i64 (ldS 1), .int .u8 (ldLo 1), .int .u8 (ldHi 1)]) w := by kernel_rfl
theorem index_lead2 (w : World) : (Instr.index 58 (.agg leadsArr) (.int .i64 ((2 : Nat) : Int))).run Tryd.prog w = .ok (.agg #[.int .u8 (ldF 2), .int .u8 (ldL 2), .int .u8 (ldM 2), .int .i64 (ldS 2), .int .u8 (ldLo 2), .int .u8 (ldHi 2)]) w := by kernel_rfl
theorem index_lead3 (w : World) : (Instr.index 58 (.agg leadsArr) (.int .i64 ((3 : Nat) : Int))).run Tryd.prog w = .ok (.agg #[.int .u8 (ldF 3), .int .u8 (ldL 3), .int .u8 (ldM 3), .int .i64 (ldS 3), .int .u8 (ldLo 3), .int .u8 (ldHi 3)]) w := by kernel_rfl
theorem index_lead4 (w : World) : (Instr.index 58 (.agg leadsArr) (.int .i64 ((4 : Nat) : Int))).run Tryd.prog w = .ok (.agg #[.int .u8 (ldF 4), .int .u8 (ldL 4), .int .u8 (ldM 4), .int .i64 (ldS 4), .int .u8 (ldLo 4), .int .u8 (ldHi 4)]) w := by kernel_rfl
theorem index_lead5 (w : World) : (Instr.index 58 (.agg leadsArr) (.int .i64 ((5 : Nat) : Int))).run Tryd.prog w = .ok (.agg #[.int .u8 (ldF 5), .int .u8 (ldL 5), .int .u8 (ldM 5), .int .i64 (ldS 5), .int .u8 (ldLo 5), .int .u8 (ldHi 5)]) w := by kernel_rfl
theorem index_lead6 (w : World) : (Instr.index 58 (.agg leadsArr) (.int .i64 ((6 : Nat) : Int))).run Tryd.prog w = .ok (.agg #[.int .u8 (ldF 6), .int .u8 (ldL 6), .int .u8 (ldM 6), .int .i64 (ldS 6), .int .u8 (ldLo 6), .int .u8 (ldHi 6)]) w := by kernel_rfl
theorem index_lead7 (w : World) : (Instr.index 58 (.agg leadsArr) (.int .i64 ((7 : Nat) : Int))).run Tryd.prog w = .ok (.agg #[.int .u8 (ldF 7), .int .u8 (ldL 7), .int .u8 (ldM 7), .int .i64 (ldS 7), .int .u8 (ldLo 7), .int .u8 (ldHi 7)]) w := by kernel_rfl
theorem index_lead8 (w : World) : (Instr.index 58 (.agg leadsArr) (.int .i64 ((8 : Nat) : Int))).run Tryd.prog w = .ok (.agg #[.int .u8 (ldF 8), .int .u8 (ldL 8), .int .u8 (ldM 8), .int .i64 (ldS 8), .int .u8 (ldLo 8), .int .u8 (ldHi 8)]) w := by kernel_rfl
theorem index_lead (k : Nat) (hk : k < 9) (w : World) : (Instr.index 58 (.agg leadsArr) (.int .i64 ((k : Nat) : Int))).run Tryd.prog w = .ok (.agg #[.int .u8 (ldF k), .int .u8 (ldL k), .int .u8 (ldM k), .int .i64 (ldS k), .int .u8 (ldLo k), .int .u8 (ldHi k)]) w := by
  match k, hk with
  | 0, _ => exact index_lead0 w
  | 1, _ => exact index_lead1 w
  | 2, _ => exact index_lead2 w
  | 3, _ => exact index_lead3 w
  | 4, _ => exact index_lead4 w
  | 5, _ => exact index_lead5 w
  | 6, _ => exact index_lead6 w
  | 7, _ => exact index_lead7 w
  | 8, _ => exact index_lead8 w
theorem Tab.lo {w : World} (h : Tab w) (r : Nat) (hr : r < 9) : w.cell? ⟨0, r * 6 + 4, none⟩ = some (.int .u8 (ldLo r)) := by
  rw [h.cell]
  match r, hr with
  | 0, _ => rfl
  | 1, _ => rfl
  | 2, _ => rfl
  | 3, _ => rfl
  | 4, _ => rfl
  | 5, _ => rfl
  | 6, _ => rfl
  | 7, _ => rfl
  | 8, _ => rfl
theorem Tab.hi {w : World} (h : Tab w) (r : Nat) (hr : r < 9) : w.cell? ⟨0, r * 6 + 5, none⟩ = some (.int .u8 (ldHi r)) := by
  rw [h.cell]
  match r, hr with
  | 0, _ => rfl
  | 1, _ => rfl
  | 2, _ => rfl
  | 3, _ => rfl
  | 4, _ => rfl
  | 5, _ => rfl
  | 6, _ => rfl
  | 7, _ => rfl
  | 8, _ => rfl
theorem Tab.sz {w : World} (h : Tab w) (r : Nat) (hr : r < 9) : w.cell? ⟨0, r * 6 + 3, none⟩ = some (.int .i64 (ldS r)) := by
  rw [h.cell]
  match r, hr with
  | 0, _ => rfl
  | 1, _ => rfl
  | 2, _ => rfl
  | 3, _ => rfl
  | 4, _ => rfl
  | 5, _ => rfl
  | 6, _ => rfl
  | 7, _ => rfl
  | 8, _ => rfl
end Go.Proofs.YtbmeinicjfmjlaaDoor
