/- string(b) of a row; a row with marks. -/
import Derived.Test.YtiibfejgiilakaaDoorRow
import Derived.Laws.BytesArg
import Derived.Lib.SlBytesConst
namespace Go.Proofs.YtiibfejgiilakaaDoor
set_option maxRecDepth 100000
open Go.ChangeShapes Go.WideShapes Go.ChangeAt Go.RowKit
set_option linter.unusedVariables false

theorem conv_str (w : World) (B : Nat) (A : Option Addr) (n c : Nat) (xs : List Int) (hn : xs.length = n) (hI : Ints w B .u8 A xs) : (convert 22 9 (.slice A n c)).run Tryd.prog w = .ok (.string (strOfNums xs)) w := by
  subst hn
  cases A with
  | none =>
    have hx : xs = [] := by
      rcases hI with h | ⟨b, o, e, _⟩
      · exact h
      · cases e
    subst hx
    exact run_convert_bytes_nil w 22 5 Tryd.underlying22 Tryd.underlying5 _ _ _ Tryd.underlying9
  | some ad =>
    rcases hI with h | ⟨b, o, e, _, hc⟩
    · subst h
      rw [run_convert_bytes_string w _ _ 5 _ _ _ Tryd.underlying22 Tryd.underlying5 Tryd.underlying9]
      exact run_bytesToString w ad 0 c [] (by simpa using run_loadCells_list (P := Tryd.prog) w ad [] (fun j v hj => by simp at hj))
    · injection e with e
      subst e
      exact run_convert_bytes_arg w 22 5 Tryd.underlying22 Tryd.underlying5 b o _ c xs rfl hc _ Tryd.underlying9
theorem Ints.mark (w : World) (t : TypeId) (k : IntKind) (ys : List Int) (fr : Nat × Nat) : Ints (w.alloc (.cells (ys.map (Value.int k)).toArray t fr)) (w.heap.size + 1) k (some ⟨w.heap.size, 0, none⟩) ys := by
  refine .inr ⟨_, _, rfl, by omega, fun j hj => ?_⟩
  rw [Nat.zero_add, cell_of_row _ w.heap.size j (ys.map (Value.int k)).toArray t fr (heap_alloc_new w _)]
  simp [List.getD_eq_getElem?_getD, List.getElem?_eq_getElem hj]
end Go.Proofs.YtiibfejgiilakaaDoor
