/- The document's Check of layer 10 by its contract. -/
import Derived.Test.YtadbnajodpfpgaaDoorG10Read
import Derived.Test.YtadbnajodpfpgaaDoorStr8
import Derived.Test.YtadbnajodpfpgaaDoorStill
import Derived.Test.YtadbnajodpfpgaaDoorRows
import Derived.WalkKit
import Derived.ProofKit
import Derived.Lib.Hide
namespace Go.Proofs.YtadbnajodpfpgaaDoor
set_option maxRecDepth 100000
open Go.ChangeShapes Go.WideShapes Go.ChangeAt Go.RowKit
set_option linter.unusedVariables false
set_option linter.unusedSimpArgs false

/-- a decimal number as it is handed on -/
def dcV (x : Dc) : Value := .agg #[.bool x.n, .string (bs x.d), .int .i64 x.e]
def allB (l : List UInt8) : Bool := l.all isD
theorem allB_snoc (l : List UInt8) (c : UInt8) : allB (l ++ [c]) = (allB l && isD c) := by simp [allB]
theorem allB_no {s : ByteArray} {k : Nat} (h : k < s.size) (hc : isD s[k] = false) : allB (L8 s) = false := by
  cases hh : allB (L8 s) with
  | false => rfl
  | true =>
    have := List.all_eq_true.1 hh s[k] (List.mem_of_getElem? (L8_at s k h))
    rw [hc] at this; cases this
def checkF (x : Dc) : Bool := allB x.d && (decide (-1000000000 ≤ x.e) && decide (x.e ≤ 1000000000))
theorem isD_lo {c : UInt8} : isD c = true ↔ (48 ≤ c.toNat ∧ c.toNat ≤ 57) := by unfold isD; exact decide_eq_true_iff
/-- a digit, as the walk asks it -/
theorem isD_ask (c : UInt8) : (isD c = true ∧ decide ((c.toNat : Int) < 48) = false ∧ decide ((57 : Int) < c.toNat) = false ∧ decide ((48 : Int) ≤ c.toNat) = true ∧ decide ((c.toNat : Int) ≤ 57) = true)
    ∨ (isD c = false ∧ decide ((c.toNat : Int) < 48) = true ∧ decide ((48 : Int) ≤ c.toNat) = false)
    ∨ (isD c = false ∧ decide ((c.toNat : Int) < 48) = false ∧ decide ((57 : Int) < c.toNat) = true ∧ decide ((48 : Int) ≤ c.toNat) = true ∧ decide ((c.toNat : Int) ≤ 57) = false) := by
  by_cases h1 : c.toNat < 48
  · refine .inr (.inl ⟨?_, decide_eq_true (by omega), decide_eq_false (by omega)⟩)
    cases hh : isD c with
    | false => rfl
    | true => have := isD_lo.1 hh; omega
  · by_cases h2 : 57 < c.toNat
    · refine .inr (.inr ⟨?_, decide_eq_false (by omega), decide_eq_true (by omega), decide_eq_true (by omega), decide_eq_false (by omega)⟩)
      cases hh : isD c with
      | false => rfl
      | true => have := isD_lo.1 hh; omega
    · exact .inl ⟨isD_lo.2 (by omega), decide_eq_false (by omega), decide_eq_false (by omega), decide_eq_true (by omega), decide_eq_true (by omega)⟩

set_option maxHeartbeats 2000000 in
theorem rcheck_any (x : Dc) (w : World) (hx : x.d.length ≤ 9223372036854775807) : Calls Tryd.prog 10 #[dcV x] w fun e w' => e = .returned (.bool (checkF x)) ∧ Below w.heap.size w w' := by
  obtain ⟨n, d, e⟩ := x
  unfold dcV checkF
  dsimp only at *
  obtain ⟨s, rfl⟩ : ∃ s, d = L8 s := ⟨bs d, rfl⟩
  rw [bs_L8]
  rw [L8_len] at hx
  generalize hr : (allB (L8 s) && (decide (-1000000000 ≤ e) && decide (e ≤ 1000000000))) = r
  have HR := Lib.hid hr
  clear hr
  go_enter Tryd.func10, Tryd.ntmps10
  go_wp2_with fail
  go_loop [3] (fun i => ∃ k : Nat, k ≤ s.size ∧ i = .int .i64 k ∧ allB ((L8 s).take k) = true) (fun i => s.size - (intOf i).toNat)
  case atStart => exact ⟨0, by omega, rfl, rfl⟩
  case round =>
    obtain ⟨k, hk, rfl, hal⟩ := hrel
    have HA := Lib.hid hal
    clear hal
    by_cases hlt : k < s.size
    · have hlt' : (k : Int) < s.size := by omega
      have HT := Lib.hid (L8_take s k hlt)
      rcases isD_ask s[k] with ⟨hd, h1, h2, h3, h4⟩ | ⟨hd, h1, h3⟩ | ⟨hd, h1, h2, h3, h4⟩
      · have HD := Lib.hid hd
        clear hd
        go_wp2
        go_round
        case rel => exact ⟨k + 1, by omega, by go_num, by rw [HT.out, allB_snoc, HA.out, HD.out]; rfl⟩
        case measure => simp [intOf]; omega
      · have hrr : r = false := by rw [← HR.out, allB_no hlt hd]; rfl
        subst hrr
        clear hd HR HT
        go_wp2
        go_ret
        exact ⟨rfl, (Below.refl _ _).alloc (Nat.le_refl _) _⟩
      · have hrr : r = false := by rw [← HR.out, allB_no hlt hd]; rfl
        subst hrr
        clear hd HR HT
        go_wp2
        go_ret
        exact ⟨rfl, (Below.refl _ _).alloc (Nat.le_refl _) _⟩
    · have hlt' : ¬ (k : Int) < s.size := by omega
      have hall : allB (L8 s) = true := by
        have := HA.out
        rwa [List.take_of_length_le (by rw [L8_len]; omega)] at this
      have hrr : r = (decide (-1000000000 ≤ e) && decide (e ≤ 1000000000)) := by rw [← HR.out, hall]; rfl
      clear HR HA hall
      by_cases he1 : -1000000000 ≤ e
      · have he1' : decide (-1000000000 ≤ e) = true := decide_eq_true he1
        rw [he1', Bool.true_and] at hrr
        subst hrr
        go_wp2
        go_ret
        exact ⟨rfl, (Below.refl _ _).alloc (Nat.le_refl _) _⟩
      · have he1' : decide (-1000000000 ≤ e) = false := decide_eq_false he1
        rw [he1', Bool.false_and] at hrr
        subst hrr
        go_wp2
        go_ret
        exact ⟨rfl, (Below.refl _ _).alloc (Nat.le_refl _) _⟩
end Go.Proofs.YtadbnajodpfpgaaDoor
