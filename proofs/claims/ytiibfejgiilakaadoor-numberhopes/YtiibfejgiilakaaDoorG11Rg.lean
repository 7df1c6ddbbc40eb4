/- What a number's reading says: how many noughts may stand behind its digits, which powers may still come, whether it may become one. No program in it. -/
import Derived.Test.YtiibfejgiilakaaDoorG11Math
namespace Go.Proofs.YtiibfejgiilakaaDoor
set_option linter.unusedVariables false

/-- a reading -/
structure Rg where
  p : Nat
  n : Bool
  d : List UInt8
  z : Nat
  b : Nat
  m : Bool
  w : Nat
def takeR (r : Rg) (c : UInt8) : Rg := if c = 48 then (if r.d = [] then r else { r with z := r.z + 1 }) else { r with d := r.d ++ (List.replicate (min r.z 16) 48 ++ [c]), z := 0 }
def withR (r : Rg) (c : UInt8) (q : Nat) : Rg :=
  match q with
  | 1 => { r with p := 1, n := true }
  | 3 => takeR { r with p := 3 } c
  | 5 => takeR { r with p := 5, b := r.b + 1 } c
  | 7 => { r with p := 7, m := c == 45 }
  | 8 => { r with p := 8, w := min (10 * r.w + dv c) 1000000000 }
  | q => { r with p := q }
def roomF (d : List UInt8) : Int := if (intF ⟨false, d, 16 - (d.length : Int)⟩).2 = 0 then 16 - (d.length : Int) else 15 - (d.length : Int)
/-- one of v, v with a digit behind it, with two .. lies from lo to hi -/
def reachB (v : Nat) (lo hi : Int) : Bool := (List.range 12).any fun k => decide (((v * 10 ^ k : Nat) : Int) ≤ hi ∧ lo ≤ ((v * 10 ^ k + 10 ^ k : Nat) : Int) - 1)
def loF (r : Rg) : Int := if r.m then -((r.b : Int) - r.z + roomF r.d) else (r.b : Int) - r.z
def hiF (r : Rg) : Int := if r.m then -((r.b : Int) - r.z) else (r.b : Int) - r.z + roomF r.d
def mayR (r : Rg) : Bool :=
  if r.d = [] then true else if roomF r.d < 0 then false
  else if r.p = 7 then decide (loF r ≤ 1000000000 ∧ 0 ≤ hiF r) else if r.p = 8 then reachB r.w (loF r) (hiF r) else decide (loF r ≤ 1000000000 ∧ -1000000000 ≤ hiF r)
def asR (r : Rg) : Dc := ⟨r.n, r.d, (r.z : Int) - r.b + (if r.m then -(r.w : Int) else r.w)⟩
theorem reach_iff (v : Nat) (lo hi : Int) : reachB v lo hi = true ↔ ∃ k, k < 12 ∧ ((v * 10 ^ k : Nat) : Int) ≤ hi ∧ lo ≤ ((v * 10 ^ k + 10 ^ k : Nat) : Int) - 1 := by
  unfold reachB
  rw [List.any_eq_true]
  constructor
  · rintro ⟨k, hk, h⟩; exact ⟨k, List.mem_range.1 hk, of_decide_eq_true h⟩
  · rintro ⟨k, hk, h⟩; exact ⟨k, List.mem_range.2 hk, decide_eq_true h⟩
theorem ten_ge (k : Nat) (h : 12 ≤ k) : 1000000000000 ≤ 10 ^ k := by
  have h1 : (10 : Nat) ^ 12 ≤ 10 ^ k := Nat.pow_le_pow_right (by omega) h
  omega
/-- more digits than eleven need not be looked at -/
theorem reach_any {v : Nat} {lo hi : Int} (hh : hi < 1000000000) (hl : lo < 1000000000) {k : Nat} (h1 : ((v * 10 ^ k : Nat) : Int) ≤ hi) (h2 : lo ≤ ((v * 10 ^ k + 10 ^ k : Nat) : Int) - 1) : reachB v lo hi = true := by
  rw [reach_iff]
  by_cases hk : k < 12
  · exact ⟨k, hk, h1, h2⟩
  · have ht := ten_ge k (by omega)
    have hv : v = 0 := by
      rcases Nat.eq_zero_or_pos v with h | h
      · exact h
      · have : 1 * 10 ^ k ≤ v * 10 ^ k := Nat.mul_le_mul_right _ h
        omega
    subst hv
    have h3 : (0 * 10 ^ 11 : Nat) = 0 := Nat.zero_mul _
    have h4 : (10 : Nat) ^ 11 = 100000000000 := by decide
    rw [Nat.zero_mul] at h1
    refine ⟨11, by decide, ?_, ?_⟩
    · rw [h3]; exact h1
    · rw [h3, h4]; clear h2 ht; omega
/-- v and what comes behind it is past hi, or has passed by -/
theorem reach_no {v : Nat} {lo hi : Int} {k : Nat} (hh : hi < 1000000000) (hs : ∀ j, j < k → ¬ (((v * 10 ^ j : Nat) : Int) ≤ hi ∧ lo ≤ ((v * 10 ^ j + 10 ^ j : Nat) : Int) - 1)) (hk : ¬ (((v * 10 ^ k : Nat) : Int) ≤ hi ∧ lo ≤ ((v * 10 ^ k + 10 ^ k : Nat) : Int) - 1)) (he : hi < ((v * 10 ^ k : Nat) : Int) ∨ (1000000000 ≤ ((v * 10 ^ k + 10 ^ k : Nat) : Int) - 1 ∧ lo < 1000000000)) : reachB v lo hi = false := by
  cases hr : reachB v lo hi with
  | false => rfl
  | true =>
    obtain ⟨j, _, h1, h2⟩ := (reach_iff v lo hi).1 hr
    exfalso
    rcases Nat.lt_trichotomy j k with h | h | h
    · exact hs j h ⟨h1, h2⟩
    · subst h; exact hk ⟨h1, h2⟩
    · have hp : 10 ^ k ≤ 10 ^ j := Nat.pow_le_pow_right (by omega) (by omega)
      have hm : v * 10 ^ k ≤ v * 10 ^ j := Nat.mul_le_mul_left _ hp
      rcases he with he | ⟨he, hl⟩
      · omega
      · have hx : hi < ((v * 10 ^ k : Nat) : Int) := by
          by_cases hx : ((v * 10 ^ k : Nat) : Int) ≤ hi
          · exact absurd ⟨hx, by omega⟩ hk
          · omega
        omega
theorem intF_nm {d : List UInt8} {n : Bool} {e : Int} (h : NmD d) : intF ⟨n, d, e⟩ = if e < 0 then (0, errFraction) else if 16 < (d.length : Int) + e then (0, errRange) else if maxW < num d * 10 ^ e.toNat then (0, errRange) else ((if n then -((num d * 10 ^ e.toNat : Nat) : Int) else ((num d * 10 ^ e.toNat : Nat) : Int)), 0) := by
  unfold intF
  rw [norm_id (x := ⟨n, d, e⟩) h]
theorem room_ok {d : List UInt8} (h : NmD d) (hd : allD d) (k : Nat) : (intF ⟨false, d, k⟩).2 = 0 ↔ (k : Int) ≤ roomF d := by
  have hne : errRange ≠ 0 := by decide
  have hne2 : errFraction ≠ 0 := by decide
  have hlt := num_lt hd
  unfold roomF
  rw [intF_nm h, intF_nm h]
  have hk0 : ¬ ((k : Int) < 0) := by omega
  rw [if_neg hk0]
  by_cases hl : d.length ≤ 16
  · have e0 : ¬ (16 - (d.length : Int) < 0) := by omega
    have e1 : ¬ (16 < (d.length : Int) + (16 - (d.length : Int))) := by omega
    have e2 : (16 - (d.length : Int)).toNat = 16 - d.length := by omega
    rw [if_neg e0, if_neg e1, e2]
    by_cases hk : 16 < (d.length : Int) + (k : Int)
    · rw [if_pos hk]
      constructor
      · intro h; exact absurd h hne
      · intro h
        split at h <;> omega
    · rw [if_neg hk]
      have e3 : ((k : Int)).toNat = k := by omega
      rw [e3]
      by_cases hk2 : k = 16 - d.length
      · subst hk2
        by_cases hm : maxW < num d * 10 ^ (16 - d.length)
        · rw [if_pos hm, if_neg hne]
          constructor
          · intro h; exact absurd h hne
          · intro h; omega
        · rw [if_neg hm, if_pos rfl]
          constructor
          · intro _; omega
          · intro _; rfl
      · have hm : ¬ maxW < num d * 10 ^ k := by
          have h1 : num d * 10 ^ k < 10 ^ d.length * 10 ^ k := Nat.mul_lt_mul_of_pos_right hlt (Nat.pow_pos (by omega))
          rw [← Nat.pow_add] at h1
          have h2 : (10 : Nat) ^ (d.length + k) ≤ 10 ^ 15 := Nat.pow_le_pow_right (by omega) (by omega)
          unfold maxW
          omega
        rw [if_neg hm]
        constructor
        · intro _; split <;> omega
        · intro _; rfl
  · have e0 : (16 - (d.length : Int) < 0) := by omega
    have hk : 16 < (d.length : Int) + (k : Int) := by omega
    rw [if_pos e0, if_pos hk, if_neg hne2]
    constructor
    · intro h; exact absurd h hne
    · intro h; omega
theorem room_le (d : List UInt8) : roomF d ≤ 16 ∧ 15 - (d.length : Int) ≤ roomF d := by unfold roomF; split <;> omega
end Go.Proofs.YtiibfejgiilakaaDoor
