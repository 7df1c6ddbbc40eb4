/- Plain mathematics of layer 1 (scalar): no Go text in sight. -/
import Derived.Laws.BitsLemmas
namespace Go.Proofs.Ytmidoopapfkilaa

def kd (c : Int) : Int := if c < 0 then 0 else if 1114111 < c then 0 else if 65536 ≤ c then 3 else if c < 55296 then 1 else if 57343 < c then 1 else if c ≤ 56319 then 4 else 8
def hasB (k m : Int) : Bool := bits .and .u8 k m != 0
def isB (c : Int) : Bool := decide (0 ≤ c ∧ c < 55296 ∨ 57343 < c ∧ c ≤ 1114111)
def pairedB (c : Int) : Bool := decide (65536 ≤ c ∧ c ≤ 1114111)
def highB (c : Int) : Bool := decide (55296 ≤ c ∧ c ≤ 56319)
def lowB (c : Int) : Bool := decide (56320 ≤ c ∧ c ≤ 57343)
def noncharB (c : Int) : Bool := decide (64976 ≤ c ∧ c ≤ 65007 ∨ (0 ≤ c ∧ c ≤ 1114111 ∧ 65534 ≤ c % 65536))
def unitsI (c : Int) : Int := if isB c then (if 65536 ≤ c then 2 else 1) else 0

theorem cls (c : Int) : c < 0 ∨ 1114111 < c ∨ (65536 ≤ c ∧ c ≤ 1114111) ∨ (0 ≤ c ∧ c < 55296) ∨ (57343 < c ∧ c < 65536) ∨ (55296 ≤ c ∧ c ≤ 56319) ∨ (56319 < c ∧ c ≤ 57343) := by omega

theorem kd_cases (c : Int) : (c < 0 ∧ kd c = 0) ∨ (1114111 < c ∧ kd c = 0) ∨ ((65536 ≤ c ∧ c ≤ 1114111) ∧ kd c = 3) ∨ ((0 ≤ c ∧ c < 55296) ∧ kd c = 1) ∨ ((57343 < c ∧ c < 65536) ∧ kd c = 1) ∨ ((55296 ≤ c ∧ c ≤ 56319) ∧ kd c = 4) ∨ ((56319 < c ∧ c ≤ 57343) ∧ kd c = 8) := by
  unfold kd
  repeat' split
  all_goals omega

theorem has_is (c : Int) : hasB (kd c) 1 = isB c := by
  rcases kd_cases c with ⟨h, e⟩ | ⟨h, e⟩ | ⟨h, e⟩ | ⟨h, e⟩ | ⟨h, e⟩ | ⟨h, e⟩ | ⟨h, e⟩
  all_goals
    rw [e]; unfold isB hasB
    first
    | (rw [decide_eq_true (by omega)]; decide)
    | (rw [decide_eq_false (by omega)]; decide)
theorem has_paired (c : Int) : hasB (kd c) 2 = pairedB c := by
  rcases kd_cases c with ⟨h, e⟩ | ⟨h, e⟩ | ⟨h, e⟩ | ⟨h, e⟩ | ⟨h, e⟩ | ⟨h, e⟩ | ⟨h, e⟩
  all_goals
    rw [e]; unfold pairedB hasB
    first
    | (rw [decide_eq_true (by omega)]; decide)
    | (rw [decide_eq_false (by omega)]; decide)
theorem has_high (c : Int) : hasB (kd c) 4 = highB c := by
  rcases kd_cases c with ⟨h, e⟩ | ⟨h, e⟩ | ⟨h, e⟩ | ⟨h, e⟩ | ⟨h, e⟩ | ⟨h, e⟩ | ⟨h, e⟩
  all_goals
    rw [e]; unfold highB hasB
    first
    | (rw [decide_eq_true (by omega)]; decide)
    | (rw [decide_eq_false (by omega)]; decide)
theorem has_low (c : Int) : hasB (kd c) 8 = lowB c := by
  rcases kd_cases c with ⟨h, e⟩ | ⟨h, e⟩ | ⟨h, e⟩ | ⟨h, e⟩ | ⟨h, e⟩ | ⟨h, e⟩ | ⟨h, e⟩
  all_goals
    rw [e]; unfold lowB hasB
    first
    | (rw [decide_eq_true (by omega)]; decide)
    | (rw [decide_eq_false (by omega)]; decide)

theorem and_fffe (x : Nat) : x &&& 65534 = 2 * ((x / 2) % 32768) := by
  apply Nat.eq_of_testBit_eq
  intro i
  rw [Nat.testBit_and]
  cases i with
  | zero => simp [Nat.testBit_zero]
  | succ i =>
    rw [Nat.testBit_succ, Nat.testBit_succ, Nat.testBit_succ]
    have e1 : 65534 / 2 = 2 ^ 15 - 1 := by decide
    have e2 : 2 * (x / 2 % 32768) / 2 = x / 2 % 2 ^ 15 := by omega
    rw [e1, e2, ← Nat.testBit_and, Nat.and_two_pow_sub_one_eq_mod]

theorem mask1023 (x : Int) (h₀ : 0 ≤ x) (h₁ : x < 2147483648) : bits .and .i32 x 1023 = x % 1024 :=
  bits_mask .i32 31 (by decide) wraps_i32 10 (by decide) x h₀ (by omega)
theorem maskfffe (x : Int) (h₀ : 0 ≤ x) (h₁ : x < 2147483648) : bits .and .i32 x 65534 = 2 * ((x / 2) % 32768) := by
  obtain ⟨a, rfl⟩ := Int.eq_ofNat_of_zero_le h₀
  have h := (bits_nat .i32 31 (by decide) wraps_i32 a 65534 (by omega) (by decide)).1
  rw [and_fffe] at h
  have e : ((65534 : Nat) : Int) = 65534 := rfl
  rw [e] at h
  rw [h]
  omega
theorem isfffe (x : Int) (h₀ : 0 ≤ x) (h₁ : x < 2147483648) : (bits .and .i32 x 65534 == 65534) = decide (65534 ≤ x % 65536) := by
  rw [maskfffe x h₀ h₁]
  by_cases h : 65534 ≤ x % 65536
  · rw [decide_eq_true h, beq_iff_eq]; omega
  · rw [decide_eq_false h, beq_eq_false_iff_ne]; omega
end Go.Proofs.Ytmidoopapfkilaa
