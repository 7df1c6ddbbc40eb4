/- Layer 10: what the walks ask of the program's seven functions; when two numbers are the same. -/
import Derived.Test.YtadbnajodpfpgaaDoorG10RRead
import Derived.Test.YtadbnajodpfpgaaDoorG10Print
namespace Go.Proofs.YtadbnajodpfpgaaDoor
set_option maxRecDepth 100000
open Go.ChangeShapes Go.WideShapes Go.ChangeAt Go.RowKit
set_option linter.unusedVariables false
set_option linter.unusedSimpArgs false

def I64 (n : Int) : Prop := -9223372036854775808 ≤ n ∧ n ≤ 9223372036854775807
structure DigitsOk : Prop where
  check : ∀ (x : Dc) (w : World), x.d.length ≤ 1000 → I64 x.e → Calls Tryd.prog 9 #[dcV x] w fun e w' => e = .returned (.bool (checkF x)) ∧ Below w.heap.size w w'
  norm : ∀ (x : Dc) (w : World), x.d.length ≤ 1000 → checkF x = true → Calls Tryd.prog 18 #[dcV x] w fun e w' => e = .returned (dcV (normF x)) ∧ Below w.heap.size w w'
  read : ∀ (s : ByteArray) (w : World), s.size ≤ 1000 → Calls Tryd.prog 11 #[.string s] w fun e w' => e = .returned (readV (readF (L8 s))) ∧ Below w.heap.size w w'
  cmp : ∀ (a b : Dc) (w : World), a.d.length ≤ 1000 → b.d.length ≤ 1000 → checkF a = true → checkF b = true → Calls Tryd.prog 20 #[dcV a, dcV b] w fun e w' => e = .returned (.int .i64 (cmpF a b)) ∧ Below w.heap.size w w'
  whole : ∀ (x : Dc) (w : World), x.d.length ≤ 1000 → checkF x = true → Calls Tryd.prog 22 #[dcV x] w fun e w' => e = .returned (.bool (wholeF x)) ∧ Below w.heap.size w w'
  int : ∀ (x : Dc) (w : World), x.d.length ≤ 1000 → checkF x = true → Calls Tryd.prog 16 #[dcV x] w fun e w' => e = .returned (.tuple #[.int .i64 (intF x).1, .int .i64 (intF x).2]) ∧ Below w.heap.size w w'
  print : ∀ (n : Int) (w : World), I64 n → Calls Tryd.prog 13 #[.int .i64 n] w fun e w' => e = .returned (.string (bs (printF n))) ∧ Below w.heap.size w w'
theorem eq_dc (n m : Bool) (s t : ByteArray) (e f : Int) (w : World) : (binOp .eql 23 (.agg #[.bool n, .string s, .int .i64 e]) (.agg #[.bool m, .string t, .int .i64 f])).run Tryd.prog w = .ok (.bool (n == m && (s.toList == t.toList && e == f))) w := by
  have hS : Tryd.prog.underlying 23 = some (.struct (Tryd.prog.fieldsOf 23)) := by kernel_rfl
  have hp : Tryd.prog.stoodInHeld 23 = false := by kernel_rfl
  rw [run_eql_struct, show (10000 : Nat) = 9999 + 1 from rfl, run_equalIn_agg w 9999 23 _ _ hS hp]
  simp only [Program.fieldsOf, Tryd.underlying23]
  go_simp
  by_cases h1 : n = m <;> by_cases h2 : s.toList = t.toList <;> by_cases h3 : e = f <;> simp [h1, h2, h3]
theorem neq_dc (n m : Bool) (s t : ByteArray) (e f : Int) (w : World) : (binOp .neq 23 (.agg #[.bool n, .string s, .int .i64 e]) (.agg #[.bool m, .string t, .int .i64 f])).run Tryd.prog w = .ok (.bool (!(n == m && (s.toList == t.toList && e == f)))) w := by
  have h := eq_dc n m s t e f w
  rw [run_eql_struct] at h
  rw [run_neq_struct]
  cases hh : (Op.equalIn 10000 23 (.agg #[.bool n, .string s, .int .i64 e]) (.agg #[.bool m, .string t, .int .i64 f])).run Tryd.prog w with
  | ok b w' =>
    rw [hh] at h
    simp only [Result.andThen] at h ⊢
    injection h with h1 h2
    injection h1 with h1
    rw [h1, h2]
  | halt x w' => rw [hh] at h; cases h
theorem dc_self (n : Bool) (s : ByteArray) (e : Int) : (n == n && (s.toList == s.toList && e == e)) = true := by simp
end Go.Proofs.YtadbnajodpfpgaaDoor
