/- What texts and digits share: a number as it is handed on, digits by a walk's tests. No program in it. -/
import Derived.Test.YtakbbhhhdcnlnaaDoorG10Read
import Derived.Test.YtakbbhhhdcnlnaaDoorStr8
import Derived.Test.YtakbbhhhdcnlnaaDoorStill
import Derived.Test.YtakbbhhhdcnlnaaDoorRows
import Derived.WalkKit
import Derived.ProofKit
import Derived.Lib.Hide
namespace Go.Proofs.YtakbbhhhdcnlnaaDoor
set_option maxRecDepth 100000
open Go.ChangeShapes Go.WideShapes Go.ChangeAt Go.RowKit
set_option linter.unusedVariables false
set_option linter.unusedSimpArgs false

/-- a decimal number as it is handed on -/
def dcV (x : Dc) : Value := .agg #[.bool x.n, .string (bs x.d), .int .i64 x.e]
def allB (l : List UInt8) : Bool := l.all isD
theorem allB_snoc (l : List UInt8) (c : UInt8) : allB (l ++ [c]) = (allB l && isD c) := by simp [allB]
theorem allB_no {s : ByteArray} {k : Nat} (h : k < s.size) (hc : isD s[k] = false) : allB (L8 s) = false := by
  cases hh : allB (L8 s) with
  | false => rfl
  | true =>
    have := List.all_eq_true.1 hh s[k] (List.mem_of_getElem? (L8_at s k h))
    rw [hc] at this; cases this
def checkF (x : Dc) : Bool := allB x.d && (decide (-1000000000 ≤ x.e) && decide (x.e ≤ 1000000000))
theorem isD_lo {c : UInt8} : isD c = true ↔ (48 ≤ c.toNat ∧ c.toNat ≤ 57) := by unfold isD; exact decide_eq_true_iff
/-- a digit, as the walk asks it -/
theorem isD_ask (c : UInt8) : (isD c = true ∧ decide ((c.toNat : Int) < 48) = false ∧ decide ((57 : Int) < c.toNat) = false ∧ decide ((48 : Int) ≤ c.toNat) = true ∧ decide ((c.toNat : Int) ≤ 57) = true)
    ∨ (isD c = false ∧ decide ((c.toNat : Int) < 48) = true ∧ decide ((48 : Int) ≤ c.toNat) = false)
    ∨ (isD c = false ∧ decide ((c.toNat : Int) < 48) = false ∧ decide ((57 : Int) < c.toNat) = true ∧ decide ((48 : Int) ≤ c.toNat) = true ∧ decide ((c.toNat : Int) ≤ 57) = false) := by
  by_cases h1 : c.toNat < 48
  · refine .inr (.inl ⟨?_, decide_eq_true (by omega), decide_eq_false (by omega)⟩)
    cases hh : isD c with
    | false => rfl
    | true => have := isD_lo.1 hh; omega
  · by_cases h2 : 57 < c.toNat
    · refine .inr (.inr ⟨?_, decide_eq_false (by omega), decide_eq_true (by omega), decide_eq_true (by omega), decide_eq_false (by omega)⟩)
      cases hh : isD c with
      | false => rfl
      | true => have := isD_lo.1 hh; omega
    · exact .inl ⟨isD_lo.2 (by omega), decide_eq_false (by omega), decide_eq_false (by omega), decide_eq_true (by omega), decide_eq_true (by omega)⟩

end Go.Proofs.YtakbbhhhdcnlnaaDoor
