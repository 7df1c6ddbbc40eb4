/- Joined of: ScalarMath, RefIs, Law00R, Law00. -/
import Derived.Laws.BitsLemmas
import Derived.Test.YtdmcidljjfogjaaDoorRows
import Derived.WalkKit
import Derived.ProofKit
import Derived.OpenShut
import Derived.WalkLawsBesides
import Derived.Test.YtdmcidljjfogjaaDoorJ9A
import Derived.Test.YtdmcidljjfogjaaDoorJ9G
/- Plain mathematics of layer 1 (scalar): no Go text in sight. -/
namespace Go.Proofs.YtdmcidljjfogjaaDoor

def kd (c : Int) : Int := if c < 0 then 0 else if 1114111 < c then 0 else if 65536 ≤ c then 3 else if c < 55296 then 1 else if 57343 < c then 1 else if c ≤ 56319 then 4 else 8
def hasB (k m : Int) : Bool := bits .and .u8 k m != 0
def isB (c : Int) : Bool := decide (0 ≤ c ∧ c < 55296 ∨ 57343 < c ∧ c ≤ 1114111)
def pairedB (c : Int) : Bool := decide (65536 ≤ c ∧ c ≤ 1114111)
def highB (c : Int) : Bool := decide (55296 ≤ c ∧ c ≤ 56319)
def lowB (c : Int) : Bool := decide (56320 ≤ c ∧ c ≤ 57343)
def noncharB (c : Int) : Bool := decide (64976 ≤ c ∧ c ≤ 65007 ∨ (0 ≤ c ∧ c ≤ 1114111 ∧ 65534 ≤ c % 65536))
def unitsI (c : Int) : Int := if isB c then (if 65536 ≤ c then 2 else 1) else 0

theorem cls (c : Int) : c < 0 ∨ 1114111 < c ∨ (65536 ≤ c ∧ c ≤ 1114111) ∨ (0 ≤ c ∧ c < 55296) ∨ (57343 < c ∧ c < 65536) ∨ (55296 ≤ c ∧ c ≤ 56319) ∨ (56319 < c ∧ c ≤ 57343) := by omega

theorem kd_cases (c : Int) : (c < 0 ∧ kd c = 0) ∨ (1114111 < c ∧ kd c = 0) ∨ ((65536 ≤ c ∧ c ≤ 1114111) ∧ kd c = 3) ∨ ((0 ≤ c ∧ c < 55296) ∧ kd c = 1) ∨ ((57343 < c ∧ c < 65536) ∧ kd c = 1) ∨ ((55296 ≤ c ∧ c ≤ 56319) ∧ kd c = 4) ∨ ((56319 < c ∧ c ≤ 57343) ∧ kd c = 8) := by
  unfold kd
  repeat' split
  all_goals omega

theorem has_is (c : Int) : hasB (kd c) 1 = isB c := by
  rcases kd_cases c with ⟨h, e⟩ | ⟨h, e⟩ | ⟨h, e⟩ | ⟨h, e⟩ | ⟨h, e⟩ | ⟨h, e⟩ | ⟨h, e⟩
  all_goals
    rw [e]; unfold isB hasB
    first
    | (rw [decide_eq_true (by omega)]; decide)
    | (rw [decide_eq_false (by omega)]; decide)
theorem has_paired (c : Int) : hasB (kd c) 2 = pairedB c := by
  rcases kd_cases c with ⟨h, e⟩ | ⟨h, e⟩ | ⟨h, e⟩ | ⟨h, e⟩ | ⟨h, e⟩ | ⟨h, e⟩ | ⟨h, e⟩
  all_goals
    rw [e]; unfold pairedB hasB
    first
    | (rw [decide_eq_true (by omega)]; decide)
    | (rw [decide_eq_false (by omega)]; decide)
theorem has_high (c : Int) : hasB (kd c) 4 = highB c := by
  rcases kd_cases c with ⟨h, e⟩ | ⟨h, e⟩ | ⟨h, e⟩ | ⟨h, e⟩ | ⟨h, e⟩ | ⟨h, e⟩ | ⟨h, e⟩
  all_goals
    rw [e]; unfold highB hasB
    first
    | (rw [decide_eq_true (by omega)]; decide)
    | (rw [decide_eq_false (by omega)]; decide)
theorem has_low (c : Int) : hasB (kd c) 8 = lowB c := by
  rcases kd_cases c with ⟨h, e⟩ | ⟨h, e⟩ | ⟨h, e⟩ | ⟨h, e⟩ | ⟨h, e⟩ | ⟨h, e⟩ | ⟨h, e⟩
  all_goals
    rw [e]; unfold lowB hasB
    first
    | (rw [decide_eq_true (by omega)]; decide)
    | (rw [decide_eq_false (by omega)]; decide)

theorem and_fffe (x : Nat) : x &&& 65534 = 2 * ((x / 2) % 32768) := by
  apply Nat.eq_of_testBit_eq
  intro i
  rw [Nat.testBit_and]
  cases i with
  | zero => simp [Nat.testBit_zero]
  | succ i =>
    rw [Nat.testBit_succ, Nat.testBit_succ, Nat.testBit_succ]
    have e1 : 65534 / 2 = 2 ^ 15 - 1 := by decide
    have e2 : 2 * (x / 2 % 32768) / 2 = x / 2 % 2 ^ 15 := by omega
    rw [e1, e2, ← Nat.testBit_and, Nat.and_two_pow_sub_one_eq_mod]

theorem mask1023 (x : Int) (h₀ : 0 ≤ x) (h₁ : x < 2147483648) : bits .and .i32 x 1023 = x % 1024 :=
  bits_mask .i32 31 (by decide) wraps_i32 10 (by decide) x h₀ (by omega)
theorem maskfffe (x : Int) (h₀ : 0 ≤ x) (h₁ : x < 2147483648) : bits .and .i32 x 65534 = 2 * ((x / 2) % 32768) := by
  obtain ⟨a, rfl⟩ := Int.eq_ofNat_of_zero_le h₀
  have h := (bits_nat .i32 31 (by decide) wraps_i32 a 65534 (by omega) (by decide)).1
  rw [and_fffe] at h
  have e : ((65534 : Nat) : Int) = 65534 := rfl
  rw [e] at h
  rw [h]
  omega
theorem isfffe (x : Int) (h₀ : 0 ≤ x) (h₁ : x < 2147483648) : (bits .and .i32 x 65534 == 65534) = decide (65534 ≤ x % 65536) := by
  rw [maskfffe x h₀ h₁]
  by_cases h : 65534 ≤ x % 65536
  · rw [decide_eq_true h, beq_iff_eq]; omega
  · rw [decide_eq_false h, beq_eq_false_iff_ne]; omega
end Go.Proofs.YtdmcidljjfogjaaDoor

/- Contract of the document's own Is (orthoepyref01). -/
namespace Go.Proofs.YtdmcidljjfogjaaDoor
open Go.ChangeShapes Go.WideShapes Go.ChangeAt Go.RowKit
set_option linter.unusedVariables false

theorem r_is_any (c : Int) (w : World) : Calls Tryd.prog 43 #[.int .i32 c] w fun e w' => e = .returned (.bool (isB c)) ∧ w = w' := by
  rcases cls c with h | h | ⟨h, g⟩ | ⟨h, g⟩ | ⟨h, g⟩ | ⟨h, g⟩ | ⟨h, g⟩
  · have e : isB c = false := decide_eq_false (by omega)
    rw [e]; clear e
    go_enter Tryd.func43, Tryd.ntmps43
    go_wp2
    go_ret
    exact ⟨rfl, rfl⟩
  · have e : isB c = false := decide_eq_false (by omega)
    rw [e]; clear e
    have d : decide (c ≤ 1114111) = false := decide_eq_false (by omega)
    have d0 : decide (c < 55296) = false := decide_eq_false (by omega)
    go_enter Tryd.func43, Tryd.ntmps43
    go_wp2
    go_ret
    exact ⟨rfl, rfl⟩
  · have e : isB c = true := decide_eq_true (by omega)
    rw [e]; clear e
    have d : decide (c ≤ 1114111) = true := decide_eq_true (by omega)
    go_enter Tryd.func43, Tryd.ntmps43
    go_wp2
    go_ret
    exact ⟨rfl, rfl⟩
  · have e : isB c = true := decide_eq_true (by omega)
    rw [e]; clear e
    go_enter Tryd.func43, Tryd.ntmps43
    go_wp2
    go_ret
    exact ⟨rfl, rfl⟩
  · have e : isB c = true := decide_eq_true (by omega)
    rw [e]; clear e
    have d : decide (c ≤ 1114111) = true := decide_eq_true (by omega)
    go_enter Tryd.func43, Tryd.ntmps43
    go_wp2
    go_ret
    exact ⟨rfl, rfl⟩
  · have e : isB c = false := decide_eq_false (by omega)
    rw [e]; clear e
    have d0 : decide (c < 55296) = false := decide_eq_false (by omega)
    go_enter Tryd.func43, Tryd.ntmps43
    go_wp2
    go_ret
    exact ⟨rfl, rfl⟩
  · have e : isB c = false := decide_eq_false (by omega)
    rw [e]; clear e
    have d0 : decide (c < 55296) = false := decide_eq_false (by omega)
    go_enter Tryd.func43, Tryd.ntmps43
    go_wp2
    go_ret
    exact ⟨rfl, rfl⟩
end Go.Proofs.YtdmcidljjfogjaaDoor

/- orthoepylaw00's Place and Rune by contracts. -/
namespace Go.Proofs.YtdmcidljjfogjaaDoor
open Go.ChangeShapes Go.WideShapes Go.ChangeAt Go.RowKit
set_option linter.unusedVariables false

def tb12 (k : Nat) : Int := [(65 : Int), (69 : Int), (79 : Int), (97 : Int), (101 : Int), (111 : Int), (2325 : Int), (2344 : Int), (4352 : Int), (4370 : Int), (12363 : Int), (2503 : Int)].getD k 0
theorem tb12_bd (k : Nat) : 0 ≤ tb12 k ∧ tb12 k ≤ 1114111 := by
  match k with
  | 0 => decide
  | 1 => decide
  | 2 => decide
  | 3 => decide
  | 4 => decide
  | 5 => decide
  | 6 => decide
  | 7 => decide
  | 8 => decide
  | 9 => decide
  | 10 => decide
  | 11 => decide
  | _ + 12 => simp [tb12]
theorem idx12_0 (w : World) : (Instr.index 101 (.agg #[.int .i32 65, .int .i32 69, .int .i32 79, .int .i32 97, .int .i32 101, .int .i32 111, .int .i32 2325, .int .i32 2344, .int .i32 4352, .int .i32 4370, .int .i32 12363, .int .i32 2503]) (.int .i32 ((0 : Nat) : Int))).run Tryd.prog w = .ok (.int .i32 (tb12 0)) w := by kernel_rfl
theorem idx12_1 (w : World) : (Instr.index 101 (.agg #[.int .i32 65, .int .i32 69, .int .i32 79, .int .i32 97, .int .i32 101, .int .i32 111, .int .i32 2325, .int .i32 2344, .int .i32 4352, .int .i32 4370, .int .i32 12363, .int .i32 2503]) (.int .i32 ((1 : Nat) : Int))).run Tryd.prog w = .ok (.int .i32 (tb12 1)) w := by kernel_rfl
theorem idx12_2 (w : World) : (Instr.index 101 (.agg #[.int .i32 65, .int .i32 69, .int .i32 79, .int .i32 97, .int .i32 101, .int .i32 111, .int .i32 2325, .int .i32 2344, .int .i32 4352, .int .i32 4370, .int .i32 12363, .int .i32 2503]) (.int .i32 ((2 : Nat) : Int))).run Tryd.prog w = .ok (.int .i32 (tb12 2)) w := by kernel_rfl
theorem idx12_3 (w : World) : (Instr.index 101 (.agg #[.int .i32 65, .int .i32 69, .int .i32 79, .int .i32 97, .int .i32 101, .int .i32 111, .int .i32 2325, .int .i32 2344, .int .i32 4352, .int .i32 4370, .int .i32 12363, .int .i32 2503]) (.int .i32 ((3 : Nat) : Int))).run Tryd.prog w = .ok (.int .i32 (tb12 3)) w := by kernel_rfl
theorem idx12_4 (w : World) : (Instr.index 101 (.agg #[.int .i32 65, .int .i32 69, .int .i32 79, .int .i32 97, .int .i32 101, .int .i32 111, .int .i32 2325, .int .i32 2344, .int .i32 4352, .int .i32 4370, .int .i32 12363, .int .i32 2503]) (.int .i32 ((4 : Nat) : Int))).run Tryd.prog w = .ok (.int .i32 (tb12 4)) w := by kernel_rfl
theorem idx12_5 (w : World) : (Instr.index 101 (.agg #[.int .i32 65, .int .i32 69, .int .i32 79, .int .i32 97, .int .i32 101, .int .i32 111, .int .i32 2325, .int .i32 2344, .int .i32 4352, .int .i32 4370, .int .i32 12363, .int .i32 2503]) (.int .i32 ((5 : Nat) : Int))).run Tryd.prog w = .ok (.int .i32 (tb12 5)) w := by kernel_rfl
theorem idx12_6 (w : World) : (Instr.index 101 (.agg #[.int .i32 65, .int .i32 69, .int .i32 79, .int .i32 97, .int .i32 101, .int .i32 111, .int .i32 2325, .int .i32 2344, .int .i32 4352, .int .i32 4370, .int .i32 12363, .int .i32 2503]) (.int .i32 ((6 : Nat) : Int))).run Tryd.prog w = .ok (.int .i32 (tb12 6)) w := by kernel_rfl
theorem idx12_7 (w : World) : (Instr.index 101 (.agg #[.int .i32 65, .int .i32 69, .int .i32 79, .int .i32 97, .int .i32 101, .int .i32 111, .int .i32 2325, .int .i32 2344, .int .i32 4352, .int .i32 4370, .int .i32 12363, .int .i32 2503]) (.int .i32 ((7 : Nat) : Int))).run Tryd.prog w = .ok (.int .i32 (tb12 7)) w := by kernel_rfl
theorem idx12_8 (w : World) : (Instr.index 101 (.agg #[.int .i32 65, .int .i32 69, .int .i32 79, .int .i32 97, .int .i32 101, .int .i32 111, .int .i32 2325, .int .i32 2344, .int .i32 4352, .int .i32 4370, .int .i32 12363, .int .i32 2503]) (.int .i32 ((8 : Nat) : Int))).run Tryd.prog w = .ok (.int .i32 (tb12 8)) w := by kernel_rfl
theorem idx12_9 (w : World) : (Instr.index 101 (.agg #[.int .i32 65, .int .i32 69, .int .i32 79, .int .i32 97, .int .i32 101, .int .i32 111, .int .i32 2325, .int .i32 2344, .int .i32 4352, .int .i32 4370, .int .i32 12363, .int .i32 2503]) (.int .i32 ((9 : Nat) : Int))).run Tryd.prog w = .ok (.int .i32 (tb12 9)) w := by kernel_rfl
theorem idx12_10 (w : World) : (Instr.index 101 (.agg #[.int .i32 65, .int .i32 69, .int .i32 79, .int .i32 97, .int .i32 101, .int .i32 111, .int .i32 2325, .int .i32 2344, .int .i32 4352, .int .i32 4370, .int .i32 12363, .int .i32 2503]) (.int .i32 ((10 : Nat) : Int))).run Tryd.prog w = .ok (.int .i32 (tb12 10)) w := by kernel_rfl
theorem idx12_11 (w : World) : (Instr.index 101 (.agg #[.int .i32 65, .int .i32 69, .int .i32 79, .int .i32 97, .int .i32 101, .int .i32 111, .int .i32 2325, .int .i32 2344, .int .i32 4352, .int .i32 4370, .int .i32 12363, .int .i32 2503]) (.int .i32 ((11 : Nat) : Int))).run Tryd.prog w = .ok (.int .i32 (tb12 11)) w := by kernel_rfl
theorem idx12 (k : Nat) (hk : k < 12) (w : World) : (Instr.index 101 (.agg #[.int .i32 65, .int .i32 69, .int .i32 79, .int .i32 97, .int .i32 101, .int .i32 111, .int .i32 2325, .int .i32 2344, .int .i32 4352, .int .i32 4370, .int .i32 12363, .int .i32 2503]) (.int .i32 (k : Int))).run Tryd.prog w = .ok (.int .i32 (tb12 k)) w := by
  match k, hk with
  | 0, _ => exact idx12_0 w
  | 1, _ => exact idx12_1 w
  | 2, _ => exact idx12_2 w
  | 3, _ => exact idx12_3 w
  | 4, _ => exact idx12_4 w
  | 5, _ => exact idx12_5 w
  | 6, _ => exact idx12_6 w
  | 7, _ => exact idx12_7 w
  | 8, _ => exact idx12_8 w
  | 9, _ => exact idx12_9 w
  | 10, _ => exact idx12_10 w
  | 11, _ => exact idx12_11 w
  | k + 12, h => exact absurd h (by omega)
theorem idxI12 (x : Int) (h0 : 0 ≤ x) (h1 : x < 12) : ∃ c, (0 ≤ c ∧ c ≤ 1114111) ∧ ∀ w : World, (Instr.index 101 (.agg #[.int .i32 65, .int .i32 69, .int .i32 79, .int .i32 97, .int .i32 101, .int .i32 111, .int .i32 2325, .int .i32 2344, .int .i32 4352, .int .i32 4370, .int .i32 12363, .int .i32 2503]) (.int .i32 x)).run Tryd.prog w = .ok (.int .i32 c) w := by
  obtain ⟨k, rfl⟩ := Int.eq_ofNat_of_zero_le h0
  exact ⟨tb12 k, tb12_bd k, fun w => idx12 k (by omega) w⟩
def tb24 (k : Nat) : Int := [(768 : Int), (769 : Int), (770 : Int), (771 : Int), (772 : Int), (774 : Int), (775 : Int), (776 : Int), (778 : Int), (780 : Int), (803 : Int), (807 : Int), (808 : Int), (795 : Int), (837 : Int), (820 : Int), (2364 : Int), (12441 : Int), (12442 : Int), (1456 : Int), (1460 : Int), (824 : Int), (834 : Int), (2494 : Int)].getD k 0
theorem tb24_bd (k : Nat) : 0 ≤ tb24 k ∧ tb24 k ≤ 1114111 := by
  match k with
  | 0 => decide
  | 1 => decide
  | 2 => decide
  | 3 => decide
  | 4 => decide
  | 5 => decide
  | 6 => decide
  | 7 => decide
  | 8 => decide
  | 9 => decide
  | 10 => decide
  | 11 => decide
  | 12 => decide
  | 13 => decide
  | 14 => decide
  | 15 => decide
  | 16 => decide
  | 17 => decide
  | 18 => decide
  | 19 => decide
  | 20 => decide
  | 21 => decide
  | 22 => decide
  | 23 => decide
  | _ + 24 => simp [tb24]
theorem idx24_0 (w : World) : (Instr.index 102 (.agg #[.int .i32 768, .int .i32 769, .int .i32 770, .int .i32 771, .int .i32 772, .int .i32 774, .int .i32 775, .int .i32 776, .int .i32 778, .int .i32 780, .int .i32 803, .int .i32 807, .int .i32 808, .int .i32 795, .int .i32 837, .int .i32 820, .int .i32 2364, .int .i32 12441, .int .i32 12442, .int .i32 1456, .int .i32 1460, .int .i32 824, .int .i32 834, .int .i32 2494]) (.int .i32 ((0 : Nat) : Int))).run Tryd.prog w = .ok (.int .i32 (tb24 0)) w := by kernel_rfl
theorem idx24_1 (w : World) : (Instr.index 102 (.agg #[.int .i32 768, .int .i32 769, .int .i32 770, .int .i32 771, .int .i32 772, .int .i32 774, .int .i32 775, .int .i32 776, .int .i32 778, .int .i32 780, .int .i32 803, .int .i32 807, .int .i32 808, .int .i32 795, .int .i32 837, .int .i32 820, .int .i32 2364, .int .i32 12441, .int .i32 12442, .int .i32 1456, .int .i32 1460, .int .i32 824, .int .i32 834, .int .i32 2494]) (.int .i32 ((1 : Nat) : Int))).run Tryd.prog w = .ok (.int .i32 (tb24 1)) w := by kernel_rfl
theorem idx24_2 (w : World) : (Instr.index 102 (.agg #[.int .i32 768, .int .i32 769, .int .i32 770, .int .i32 771, .int .i32 772, .int .i32 774, .int .i32 775, .int .i32 776, .int .i32 778, .int .i32 780, .int .i32 803, .int .i32 807, .int .i32 808, .int .i32 795, .int .i32 837, .int .i32 820, .int .i32 2364, .int .i32 12441, .int .i32 12442, .int .i32 1456, .int .i32 1460, .int .i32 824, .int .i32 834, .int .i32 2494]) (.int .i32 ((2 : Nat) : Int))).run Tryd.prog w = .ok (.int .i32 (tb24 2)) w := by kernel_rfl
theorem idx24_3 (w : World) : (Instr.index 102 (.agg #[.int .i32 768, .int .i32 769, .int .i32 770, .int .i32 771, .int .i32 772, .int .i32 774, .int .i32 775, .int .i32 776, .int .i32 778, .int .i32 780, .int .i32 803, .int .i32 807, .int .i32 808, .int .i32 795, .int .i32 837, .int .i32 820, .int .i32 2364, .int .i32 12441, .int .i32 12442, .int .i32 1456, .int .i32 1460, .int .i32 824, .int .i32 834, .int .i32 2494]) (.int .i32 ((3 : Nat) : Int))).run Tryd.prog w = .ok (.int .i32 (tb24 3)) w := by kernel_rfl
theorem idx24_4 (w : World) : (Instr.index 102 (.agg #[.int .i32 768, .int .i32 769, .int .i32 770, .int .i32 771, .int .i32 772, .int .i32 774, .int .i32 775, .int .i32 776, .int .i32 778, .int .i32 780, .int .i32 803, .int .i32 807, .int .i32 808, .int .i32 795, .int .i32 837, .int .i32 820, .int .i32 2364, .int .i32 12441, .int .i32 12442, .int .i32 1456, .int .i32 1460, .int .i32 824, .int .i32 834, .int .i32 2494]) (.int .i32 ((4 : Nat) : Int))).run Tryd.prog w = .ok (.int .i32 (tb24 4)) w := by kernel_rfl
theorem idx24_5 (w : World) : (Instr.index 102 (.agg #[.int .i32 768, .int .i32 769, .int .i32 770, .int .i32 771, .int .i32 772, .int .i32 774, .int .i32 775, .int .i32 776, .int .i32 778, .int .i32 780, .int .i32 803, .int .i32 807, .int .i32 808, .int .i32 795, .int .i32 837, .int .i32 820, .int .i32 2364, .int .i32 12441, .int .i32 12442, .int .i32 1456, .int .i32 1460, .int .i32 824, .int .i32 834, .int .i32 2494]) (.int .i32 ((5 : Nat) : Int))).run Tryd.prog w = .ok (.int .i32 (tb24 5)) w := by kernel_rfl
theorem idx24_6 (w : World) : (Instr.index 102 (.agg #[.int .i32 768, .int .i32 769, .int .i32 770, .int .i32 771, .int .i32 772, .int .i32 774, .int .i32 775, .int .i32 776, .int .i32 778, .int .i32 780, .int .i32 803, .int .i32 807, .int .i32 808, .int .i32 795, .int .i32 837, .int .i32 820, .int .i32 2364, .int .i32 12441, .int .i32 12442, .int .i32 1456, .int .i32 1460, .int .i32 824, .int .i32 834, .int .i32 2494]) (.int .i32 ((6 : Nat) : Int))).run Tryd.prog w = .ok (.int .i32 (tb24 6)) w := by kernel_rfl
theorem idx24_7 (w : World) : (Instr.index 102 (.agg #[.int .i32 768, .int .i32 769, .int .i32 770, .int .i32 771, .int .i32 772, .int .i32 774, .int .i32 775, .int .i32 776, .int .i32 778, .int .i32 780, .int .i32 803, .int .i32 807, .int .i32 808, .int .i32 795, .int .i32 837, .int .i32 820, .int .i32 2364, .int .i32 12441, .int .i32 12442, .int .i32 1456, .int .i32 1460, .int .i32 824, .int .i32 834, .int .i32 2494]) (.int .i32 ((7 : Nat) : Int))).run Tryd.prog w = .ok (.int .i32 (tb24 7)) w := by kernel_rfl
theorem idx24_8 (w : World) : (Instr.index 102 (.agg #[.int .i32 768, .int .i32 769, .int .i32 770, .int .i32 771, .int .i32 772, .int .i32 774, .int .i32 775, .int .i32 776, .int .i32 778, .int .i32 780, .int .i32 803, .int .i32 807, .int .i32 808, .int .i32 795, .int .i32 837, .int .i32 820, .int .i32 2364, .int .i32 12441, .int .i32 12442, .int .i32 1456, .int .i32 1460, .int .i32 824, .int .i32 834, .int .i32 2494]) (.int .i32 ((8 : Nat) : Int))).run Tryd.prog w = .ok (.int .i32 (tb24 8)) w := by kernel_rfl
theorem idx24_9 (w : World) : (Instr.index 102 (.agg #[.int .i32 768, .int .i32 769, .int .i32 770, .int .i32 771, .int .i32 772, .int .i32 774, .int .i32 775, .int .i32 776, .int .i32 778, .int .i32 780, .int .i32 803, .int .i32 807, .int .i32 808, .int .i32 795, .int .i32 837, .int .i32 820, .int .i32 2364, .int .i32 12441, .int .i32 12442, .int .i32 1456, .int .i32 1460, .int .i32 824, .int .i32 834, .int .i32 2494]) (.int .i32 ((9 : Nat) : Int))).run Tryd.prog w = .ok (.int .i32 (tb24 9)) w := by kernel_rfl
theorem idx24_10 (w : World) : (Instr.index 102 (.agg #[.int .i32 768, .int .i32 769, .int .i32 770, .int .i32 771, .int .i32 772, .int .i32 774, .int .i32 775, .int .i32 776, .int .i32 778, .int .i32 780, .int .i32 803, .int .i32 807, .int .i32 808, .int .i32 795, .int .i32 837, .int .i32 820, .int .i32 2364, .int .i32 12441, .int .i32 12442, .int .i32 1456, .int .i32 1460, .int .i32 824, .int .i32 834, .int .i32 2494]) (.int .i32 ((10 : Nat) : Int))).run Tryd.prog w = .ok (.int .i32 (tb24 10)) w := by kernel_rfl
theorem idx24_11 (w : World) : (Instr.index 102 (.agg #[.int .i32 768, .int .i32 769, .int .i32 770, .int .i32 771, .int .i32 772, .int .i32 774, .int .i32 775, .int .i32 776, .int .i32 778, .int .i32 780, .int .i32 803, .int .i32 807, .int .i32 808, .int .i32 795, .int .i32 837, .int .i32 820, .int .i32 2364, .int .i32 12441, .int .i32 12442, .int .i32 1456, .int .i32 1460, .int .i32 824, .int .i32 834, .int .i32 2494]) (.int .i32 ((11 : Nat) : Int))).run Tryd.prog w = .ok (.int .i32 (tb24 11)) w := by kernel_rfl
theorem idx24_12 (w : World) : (Instr.index 102 (.agg #[.int .i32 768, .int .i32 769, .int .i32 770, .int .i32 771, .int .i32 772, .int .i32 774, .int .i32 775, .int .i32 776, .int .i32 778, .int .i32 780, .int .i32 803, .int .i32 807, .int .i32 808, .int .i32 795, .int .i32 837, .int .i32 820, .int .i32 2364, .int .i32 12441, .int .i32 12442, .int .i32 1456, .int .i32 1460, .int .i32 824, .int .i32 834, .int .i32 2494]) (.int .i32 ((12 : Nat) : Int))).run Tryd.prog w = .ok (.int .i32 (tb24 12)) w := by kernel_rfl
theorem idx24_13 (w : World) : (Instr.index 102 (.agg #[.int .i32 768, .int .i32 769, .int .i32 770, .int .i32 771, .int .i32 772, .int .i32 774, .int .i32 775, .int .i32 776, .int .i32 778, .int .i32 780, .int .i32 803, .int .i32 807, .int .i32 808, .int .i32 795, .int .i32 837, .int .i32 820, .int .i32 2364, .int .i32 12441, .int .i32 12442, .int .i32 1456, .int .i32 1460, .int .i32 824, .int .i32 834, .int .i32 2494]) (.int .i32 ((13 : Nat) : Int))).run Tryd.prog w = .ok (.int .i32 (tb24 13)) w := by kernel_rfl
theorem idx24_14 (w : World) : (Instr.index 102 (.agg #[.int .i32 768, .int .i32 769, .int .i32 770, .int .i32 771, .int .i32 772, .int .i32 774, .int .i32 775, .int .i32 776, .int .i32 778, .int .i32 780, .int .i32 803, .int .i32 807, .int .i32 808, .int .i32 795, .int .i32 837, .int .i32 820, .int .i32 2364, .int .i32 12441, .int .i32 12442, .int .i32 1456, .int .i32 1460, .int .i32 824, .int .i32 834, .int .i32 2494]) (.int .i32 ((14 : Nat) : Int))).run Tryd.prog w = .ok (.int .i32 (tb24 14)) w := by kernel_rfl
theorem idx24_15 (w : World) : (Instr.index 102 (.agg #[.int .i32 768, .int .i32 769, .int .i32 770, .int .i32 771, .int .i32 772, .int .i32 774, .int .i32 775, .int .i32 776, .int .i32 778, .int .i32 780, .int .i32 803, .int .i32 807, .int .i32 808, .int .i32 795, .int .i32 837, .int .i32 820, .int .i32 2364, .int .i32 12441, .int .i32 12442, .int .i32 1456, .int .i32 1460, .int .i32 824, .int .i32 834, .int .i32 2494]) (.int .i32 ((15 : Nat) : Int))).run Tryd.prog w = .ok (.int .i32 (tb24 15)) w := by kernel_rfl
theorem idx24_16 (w : World) : (Instr.index 102 (.agg #[.int .i32 768, .int .i32 769, .int .i32 770, .int .i32 771, .int .i32 772, .int .i32 774, .int .i32 775, .int .i32 776, .int .i32 778, .int .i32 780, .int .i32 803, .int .i32 807, .int .i32 808, .int .i32 795, .int .i32 837, .int .i32 820, .int .i32 2364, .int .i32 12441, .int .i32 12442, .int .i32 1456, .int .i32 1460, .int .i32 824, .int .i32 834, .int .i32 2494]) (.int .i32 ((16 : Nat) : Int))).run Tryd.prog w = .ok (.int .i32 (tb24 16)) w := by kernel_rfl
theorem idx24_17 (w : World) : (Instr.index 102 (.agg #[.int .i32 768, .int .i32 769, .int .i32 770, .int .i32 771, .int .i32 772, .int .i32 774, .int .i32 775, .int .i32 776, .int .i32 778, .int .i32 780, .int .i32 803, .int .i32 807, .int .i32 808, .int .i32 795, .int .i32 837, .int .i32 820, .int .i32 2364, .int .i32 12441, .int .i32 12442, .int .i32 1456, .int .i32 1460, .int .i32 824, .int .i32 834, .int .i32 2494]) (.int .i32 ((17 : Nat) : Int))).run Tryd.prog w = .ok (.int .i32 (tb24 17)) w := by kernel_rfl
theorem idx24_18 (w : World) : (Instr.index 102 (.agg #[.int .i32 768, .int .i32 769, .int .i32 770, .int .i32 771, .int .i32 772, .int .i32 774, .int .i32 775, .int .i32 776, .int .i32 778, .int .i32 780, .int .i32 803, .int .i32 807, .int .i32 808, .int .i32 795, .int .i32 837, .int .i32 820, .int .i32 2364, .int .i32 12441, .int .i32 12442, .int .i32 1456, .int .i32 1460, .int .i32 824, .int .i32 834, .int .i32 2494]) (.int .i32 ((18 : Nat) : Int))).run Tryd.prog w = .ok (.int .i32 (tb24 18)) w := by kernel_rfl
theorem idx24_19 (w : World) : (Instr.index 102 (.agg #[.int .i32 768, .int .i32 769, .int .i32 770, .int .i32 771, .int .i32 772, .int .i32 774, .int .i32 775, .int .i32 776, .int .i32 778, .int .i32 780, .int .i32 803, .int .i32 807, .int .i32 808, .int .i32 795, .int .i32 837, .int .i32 820, .int .i32 2364, .int .i32 12441, .int .i32 12442, .int .i32 1456, .int .i32 1460, .int .i32 824, .int .i32 834, .int .i32 2494]) (.int .i32 ((19 : Nat) : Int))).run Tryd.prog w = .ok (.int .i32 (tb24 19)) w := by kernel_rfl
theorem idx24_20 (w : World) : (Instr.index 102 (.agg #[.int .i32 768, .int .i32 769, .int .i32 770, .int .i32 771, .int .i32 772, .int .i32 774, .int .i32 775, .int .i32 776, .int .i32 778, .int .i32 780, .int .i32 803, .int .i32 807, .int .i32 808, .int .i32 795, .int .i32 837, .int .i32 820, .int .i32 2364, .int .i32 12441, .int .i32 12442, .int .i32 1456, .int .i32 1460, .int .i32 824, .int .i32 834, .int .i32 2494]) (.int .i32 ((20 : Nat) : Int))).run Tryd.prog w = .ok (.int .i32 (tb24 20)) w := by kernel_rfl
theorem idx24_21 (w : World) : (Instr.index 102 (.agg #[.int .i32 768, .int .i32 769, .int .i32 770, .int .i32 771, .int .i32 772, .int .i32 774, .int .i32 775, .int .i32 776, .int .i32 778, .int .i32 780, .int .i32 803, .int .i32 807, .int .i32 808, .int .i32 795, .int .i32 837, .int .i32 820, .int .i32 2364, .int .i32 12441, .int .i32 12442, .int .i32 1456, .int .i32 1460, .int .i32 824, .int .i32 834, .int .i32 2494]) (.int .i32 ((21 : Nat) : Int))).run Tryd.prog w = .ok (.int .i32 (tb24 21)) w := by kernel_rfl
theorem idx24_22 (w : World) : (Instr.index 102 (.agg #[.int .i32 768, .int .i32 769, .int .i32 770, .int .i32 771, .int .i32 772, .int .i32 774, .int .i32 775, .int .i32 776, .int .i32 778, .int .i32 780, .int .i32 803, .int .i32 807, .int .i32 808, .int .i32 795, .int .i32 837, .int .i32 820, .int .i32 2364, .int .i32 12441, .int .i32 12442, .int .i32 1456, .int .i32 1460, .int .i32 824, .int .i32 834, .int .i32 2494]) (.int .i32 ((22 : Nat) : Int))).run Tryd.prog w = .ok (.int .i32 (tb24 22)) w := by kernel_rfl
theorem idx24_23 (w : World) : (Instr.index 102 (.agg #[.int .i32 768, .int .i32 769, .int .i32 770, .int .i32 771, .int .i32 772, .int .i32 774, .int .i32 775, .int .i32 776, .int .i32 778, .int .i32 780, .int .i32 803, .int .i32 807, .int .i32 808, .int .i32 795, .int .i32 837, .int .i32 820, .int .i32 2364, .int .i32 12441, .int .i32 12442, .int .i32 1456, .int .i32 1460, .int .i32 824, .int .i32 834, .int .i32 2494]) (.int .i32 ((23 : Nat) : Int))).run Tryd.prog w = .ok (.int .i32 (tb24 23)) w := by kernel_rfl
theorem idx24 (k : Nat) (hk : k < 24) (w : World) : (Instr.index 102 (.agg #[.int .i32 768, .int .i32 769, .int .i32 770, .int .i32 771, .int .i32 772, .int .i32 774, .int .i32 775, .int .i32 776, .int .i32 778, .int .i32 780, .int .i32 803, .int .i32 807, .int .i32 808, .int .i32 795, .int .i32 837, .int .i32 820, .int .i32 2364, .int .i32 12441, .int .i32 12442, .int .i32 1456, .int .i32 1460, .int .i32 824, .int .i32 834, .int .i32 2494]) (.int .i32 (k : Int))).run Tryd.prog w = .ok (.int .i32 (tb24 k)) w := by
  match k, hk with
  | 0, _ => exact idx24_0 w
  | 1, _ => exact idx24_1 w
  | 2, _ => exact idx24_2 w
  | 3, _ => exact idx24_3 w
  | 4, _ => exact idx24_4 w
  | 5, _ => exact idx24_5 w
  | 6, _ => exact idx24_6 w
  | 7, _ => exact idx24_7 w
  | 8, _ => exact idx24_8 w
  | 9, _ => exact idx24_9 w
  | 10, _ => exact idx24_10 w
  | 11, _ => exact idx24_11 w
  | 12, _ => exact idx24_12 w
  | 13, _ => exact idx24_13 w
  | 14, _ => exact idx24_14 w
  | 15, _ => exact idx24_15 w
  | 16, _ => exact idx24_16 w
  | 17, _ => exact idx24_17 w
  | 18, _ => exact idx24_18 w
  | 19, _ => exact idx24_19 w
  | 20, _ => exact idx24_20 w
  | 21, _ => exact idx24_21 w
  | 22, _ => exact idx24_22 w
  | 23, _ => exact idx24_23 w
  | k + 24, h => exact absurd h (by omega)
theorem idxI24 (x : Int) (h0 : 0 ≤ x) (h1 : x < 24) : ∃ c, (0 ≤ c ∧ c ≤ 1114111) ∧ ∀ w : World, (Instr.index 102 (.agg #[.int .i32 768, .int .i32 769, .int .i32 770, .int .i32 771, .int .i32 772, .int .i32 774, .int .i32 775, .int .i32 776, .int .i32 778, .int .i32 780, .int .i32 803, .int .i32 807, .int .i32 808, .int .i32 795, .int .i32 837, .int .i32 820, .int .i32 2364, .int .i32 12441, .int .i32 12442, .int .i32 1456, .int .i32 1460, .int .i32 824, .int .i32 834, .int .i32 2494]) (.int .i32 x)).run Tryd.prog w = .ok (.int .i32 c) w := by
  obtain ⟨k, rfl⟩ := Int.eq_ofNat_of_zero_le h0
  exact ⟨tb24 k, tb24_bd k, fun w => idx24 k (by omega) w⟩
def tb16 (k : Nat) : Int := [(8491 : Int), (8486 : Int), (8490 : Int), (832 : Int), (833 : Int), (836 : Int), (884 : Int), (894 : Int), (2392 : Int), (2399 : Int), (63744 : Int), (64109 : Int), (194560 : Int), (119134 : Int), (64300 : Int), (10972 : Int)].getD k 0
theorem tb16_bd (k : Nat) : 0 ≤ tb16 k ∧ tb16 k ≤ 1114111 := by
  match k with
  | 0 => decide
  | 1 => decide
  | 2 => decide
  | 3 => decide
  | 4 => decide
  | 5 => decide
  | 6 => decide
  | 7 => decide
  | 8 => decide
  | 9 => decide
  | 10 => decide
  | 11 => decide
  | 12 => decide
  | 13 => decide
  | 14 => decide
  | 15 => decide
  | _ + 16 => simp [tb16]
theorem idx16_0 (w : World) : (Instr.index 103 (.agg #[.int .i32 8491, .int .i32 8486, .int .i32 8490, .int .i32 832, .int .i32 833, .int .i32 836, .int .i32 884, .int .i32 894, .int .i32 2392, .int .i32 2399, .int .i32 63744, .int .i32 64109, .int .i32 194560, .int .i32 119134, .int .i32 64300, .int .i32 10972]) (.int .i32 ((0 : Nat) : Int))).run Tryd.prog w = .ok (.int .i32 (tb16 0)) w := by kernel_rfl
theorem idx16_1 (w : World) : (Instr.index 103 (.agg #[.int .i32 8491, .int .i32 8486, .int .i32 8490, .int .i32 832, .int .i32 833, .int .i32 836, .int .i32 884, .int .i32 894, .int .i32 2392, .int .i32 2399, .int .i32 63744, .int .i32 64109, .int .i32 194560, .int .i32 119134, .int .i32 64300, .int .i32 10972]) (.int .i32 ((1 : Nat) : Int))).run Tryd.prog w = .ok (.int .i32 (tb16 1)) w := by kernel_rfl
theorem idx16_2 (w : World) : (Instr.index 103 (.agg #[.int .i32 8491, .int .i32 8486, .int .i32 8490, .int .i32 832, .int .i32 833, .int .i32 836, .int .i32 884, .int .i32 894, .int .i32 2392, .int .i32 2399, .int .i32 63744, .int .i32 64109, .int .i32 194560, .int .i32 119134, .int .i32 64300, .int .i32 10972]) (.int .i32 ((2 : Nat) : Int))).run Tryd.prog w = .ok (.int .i32 (tb16 2)) w := by kernel_rfl
theorem idx16_3 (w : World) : (Instr.index 103 (.agg #[.int .i32 8491, .int .i32 8486, .int .i32 8490, .int .i32 832, .int .i32 833, .int .i32 836, .int .i32 884, .int .i32 894, .int .i32 2392, .int .i32 2399, .int .i32 63744, .int .i32 64109, .int .i32 194560, .int .i32 119134, .int .i32 64300, .int .i32 10972]) (.int .i32 ((3 : Nat) : Int))).run Tryd.prog w = .ok (.int .i32 (tb16 3)) w := by kernel_rfl
theorem idx16_4 (w : World) : (Instr.index 103 (.agg #[.int .i32 8491, .int .i32 8486, .int .i32 8490, .int .i32 832, .int .i32 833, .int .i32 836, .int .i32 884, .int .i32 894, .int .i32 2392, .int .i32 2399, .int .i32 63744, .int .i32 64109, .int .i32 194560, .int .i32 119134, .int .i32 64300, .int .i32 10972]) (.int .i32 ((4 : Nat) : Int))).run Tryd.prog w = .ok (.int .i32 (tb16 4)) w := by kernel_rfl
theorem idx16_5 (w : World) : (Instr.index 103 (.agg #[.int .i32 8491, .int .i32 8486, .int .i32 8490, .int .i32 832, .int .i32 833, .int .i32 836, .int .i32 884, .int .i32 894, .int .i32 2392, .int .i32 2399, .int .i32 63744, .int .i32 64109, .int .i32 194560, .int .i32 119134, .int .i32 64300, .int .i32 10972]) (.int .i32 ((5 : Nat) : Int))).run Tryd.prog w = .ok (.int .i32 (tb16 5)) w := by kernel_rfl
theorem idx16_6 (w : World) : (Instr.index 103 (.agg #[.int .i32 8491, .int .i32 8486, .int .i32 8490, .int .i32 832, .int .i32 833, .int .i32 836, .int .i32 884, .int .i32 894, .int .i32 2392, .int .i32 2399, .int .i32 63744, .int .i32 64109, .int .i32 194560, .int .i32 119134, .int .i32 64300, .int .i32 10972]) (.int .i32 ((6 : Nat) : Int))).run Tryd.prog w = .ok (.int .i32 (tb16 6)) w := by kernel_rfl
theorem idx16_7 (w : World) : (Instr.index 103 (.agg #[.int .i32 8491, .int .i32 8486, .int .i32 8490, .int .i32 832, .int .i32 833, .int .i32 836, .int .i32 884, .int .i32 894, .int .i32 2392, .int .i32 2399, .int .i32 63744, .int .i32 64109, .int .i32 194560, .int .i32 119134, .int .i32 64300, .int .i32 10972]) (.int .i32 ((7 : Nat) : Int))).run Tryd.prog w = .ok (.int .i32 (tb16 7)) w := by kernel_rfl
theorem idx16_8 (w : World) : (Instr.index 103 (.agg #[.int .i32 8491, .int .i32 8486, .int .i32 8490, .int .i32 832, .int .i32 833, .int .i32 836, .int .i32 884, .int .i32 894, .int .i32 2392, .int .i32 2399, .int .i32 63744, .int .i32 64109, .int .i32 194560, .int .i32 119134, .int .i32 64300, .int .i32 10972]) (.int .i32 ((8 : Nat) : Int))).run Tryd.prog w = .ok (.int .i32 (tb16 8)) w := by kernel_rfl
theorem idx16_9 (w : World) : (Instr.index 103 (.agg #[.int .i32 8491, .int .i32 8486, .int .i32 8490, .int .i32 832, .int .i32 833, .int .i32 836, .int .i32 884, .int .i32 894, .int .i32 2392, .int .i32 2399, .int .i32 63744, .int .i32 64109, .int .i32 194560, .int .i32 119134, .int .i32 64300, .int .i32 10972]) (.int .i32 ((9 : Nat) : Int))).run Tryd.prog w = .ok (.int .i32 (tb16 9)) w := by kernel_rfl
theorem idx16_10 (w : World) : (Instr.index 103 (.agg #[.int .i32 8491, .int .i32 8486, .int .i32 8490, .int .i32 832, .int .i32 833, .int .i32 836, .int .i32 884, .int .i32 894, .int .i32 2392, .int .i32 2399, .int .i32 63744, .int .i32 64109, .int .i32 194560, .int .i32 119134, .int .i32 64300, .int .i32 10972]) (.int .i32 ((10 : Nat) : Int))).run Tryd.prog w = .ok (.int .i32 (tb16 10)) w := by kernel_rfl
theorem idx16_11 (w : World) : (Instr.index 103 (.agg #[.int .i32 8491, .int .i32 8486, .int .i32 8490, .int .i32 832, .int .i32 833, .int .i32 836, .int .i32 884, .int .i32 894, .int .i32 2392, .int .i32 2399, .int .i32 63744, .int .i32 64109, .int .i32 194560, .int .i32 119134, .int .i32 64300, .int .i32 10972]) (.int .i32 ((11 : Nat) : Int))).run Tryd.prog w = .ok (.int .i32 (tb16 11)) w := by kernel_rfl
theorem idx16_12 (w : World) : (Instr.index 103 (.agg #[.int .i32 8491, .int .i32 8486, .int .i32 8490, .int .i32 832, .int .i32 833, .int .i32 836, .int .i32 884, .int .i32 894, .int .i32 2392, .int .i32 2399, .int .i32 63744, .int .i32 64109, .int .i32 194560, .int .i32 119134, .int .i32 64300, .int .i32 10972]) (.int .i32 ((12 : Nat) : Int))).run Tryd.prog w = .ok (.int .i32 (tb16 12)) w := by kernel_rfl
theorem idx16_13 (w : World) : (Instr.index 103 (.agg #[.int .i32 8491, .int .i32 8486, .int .i32 8490, .int .i32 832, .int .i32 833, .int .i32 836, .int .i32 884, .int .i32 894, .int .i32 2392, .int .i32 2399, .int .i32 63744, .int .i32 64109, .int .i32 194560, .int .i32 119134, .int .i32 64300, .int .i32 10972]) (.int .i32 ((13 : Nat) : Int))).run Tryd.prog w = .ok (.int .i32 (tb16 13)) w := by kernel_rfl
theorem idx16_14 (w : World) : (Instr.index 103 (.agg #[.int .i32 8491, .int .i32 8486, .int .i32 8490, .int .i32 832, .int .i32 833, .int .i32 836, .int .i32 884, .int .i32 894, .int .i32 2392, .int .i32 2399, .int .i32 63744, .int .i32 64109, .int .i32 194560, .int .i32 119134, .int .i32 64300, .int .i32 10972]) (.int .i32 ((14 : Nat) : Int))).run Tryd.prog w = .ok (.int .i32 (tb16 14)) w := by kernel_rfl
theorem idx16_15 (w : World) : (Instr.index 103 (.agg #[.int .i32 8491, .int .i32 8486, .int .i32 8490, .int .i32 832, .int .i32 833, .int .i32 836, .int .i32 884, .int .i32 894, .int .i32 2392, .int .i32 2399, .int .i32 63744, .int .i32 64109, .int .i32 194560, .int .i32 119134, .int .i32 64300, .int .i32 10972]) (.int .i32 ((15 : Nat) : Int))).run Tryd.prog w = .ok (.int .i32 (tb16 15)) w := by kernel_rfl
theorem idx16 (k : Nat) (hk : k < 16) (w : World) : (Instr.index 103 (.agg #[.int .i32 8491, .int .i32 8486, .int .i32 8490, .int .i32 832, .int .i32 833, .int .i32 836, .int .i32 884, .int .i32 894, .int .i32 2392, .int .i32 2399, .int .i32 63744, .int .i32 64109, .int .i32 194560, .int .i32 119134, .int .i32 64300, .int .i32 10972]) (.int .i32 (k : Int))).run Tryd.prog w = .ok (.int .i32 (tb16 k)) w := by
  match k, hk with
  | 0, _ => exact idx16_0 w
  | 1, _ => exact idx16_1 w
  | 2, _ => exact idx16_2 w
  | 3, _ => exact idx16_3 w
  | 4, _ => exact idx16_4 w
  | 5, _ => exact idx16_5 w
  | 6, _ => exact idx16_6 w
  | 7, _ => exact idx16_7 w
  | 8, _ => exact idx16_8 w
  | 9, _ => exact idx16_9 w
  | 10, _ => exact idx16_10 w
  | 11, _ => exact idx16_11 w
  | 12, _ => exact idx16_12 w
  | 13, _ => exact idx16_13 w
  | 14, _ => exact idx16_14 w
  | 15, _ => exact idx16_15 w
  | k + 16, h => exact absurd h (by omega)
theorem idxI16 (x : Int) (h0 : 0 ≤ x) (h1 : x < 16) : ∃ c, (0 ≤ c ∧ c ≤ 1114111) ∧ ∀ w : World, (Instr.index 103 (.agg #[.int .i32 8491, .int .i32 8486, .int .i32 8490, .int .i32 832, .int .i32 833, .int .i32 836, .int .i32 884, .int .i32 894, .int .i32 2392, .int .i32 2399, .int .i32 63744, .int .i32 64109, .int .i32 194560, .int .i32 119134, .int .i32 64300, .int .i32 10972]) (.int .i32 x)).run Tryd.prog w = .ok (.int .i32 c) w := by
  obtain ⟨k, rfl⟩ := Int.eq_ofNat_of_zero_le h0
  exact ⟨tb16 k, tb16_bd k, fun w => idx16 k (by omega) w⟩
def tb3 (k : Nat) : Int := [(4352 : Int), (4449 : Int), (4519 : Int)].getD k 0
theorem tb3_bd (k : Nat) : 0 ≤ tb3 k ∧ tb3 k ≤ 4519 := by
  match k with
  | 0 => decide
  | 1 => decide
  | 2 => decide
  | _ + 3 => simp [tb3]
theorem idx3_0 (w : World) : (Instr.index 58 (.agg #[.int .i32 4352, .int .i32 4449, .int .i32 4519]) (.int .i32 ((0 : Nat) : Int))).run Tryd.prog w = .ok (.int .i32 (tb3 0)) w := by kernel_rfl
theorem idx3_1 (w : World) : (Instr.index 58 (.agg #[.int .i32 4352, .int .i32 4449, .int .i32 4519]) (.int .i32 ((1 : Nat) : Int))).run Tryd.prog w = .ok (.int .i32 (tb3 1)) w := by kernel_rfl
theorem idx3_2 (w : World) : (Instr.index 58 (.agg #[.int .i32 4352, .int .i32 4449, .int .i32 4519]) (.int .i32 ((2 : Nat) : Int))).run Tryd.prog w = .ok (.int .i32 (tb3 2)) w := by kernel_rfl
theorem idx3 (k : Nat) (hk : k < 3) (w : World) : (Instr.index 58 (.agg #[.int .i32 4352, .int .i32 4449, .int .i32 4519]) (.int .i32 (k : Int))).run Tryd.prog w = .ok (.int .i32 (tb3 k)) w := by
  match k, hk with
  | 0, _ => exact idx3_0 w
  | 1, _ => exact idx3_1 w
  | 2, _ => exact idx3_2 w
  | k + 3, h => exact absurd h (by omega)
theorem idxI3 (x : Int) (h0 : 0 ≤ x) (h1 : x < 3) : ∃ c, (0 ≤ c ∧ c ≤ 4519) ∧ ∀ w : World, (Instr.index 58 (.agg #[.int .i32 4352, .int .i32 4449, .int .i32 4519]) (.int .i32 x)).run Tryd.prog w = .ok (.int .i32 c) w := by
  obtain ⟨k, rfl⟩ := Int.eq_ofNat_of_zero_le h0
  exact ⟨tb3 k, tb3_bd k, fun w => idx3 k (by omega) w⟩
def tb8 (k : Nat) : Int := [(128512 : Int), (65536 : Int), (1114109 : Int), (57344 : Int), (64307 : Int), (65533 : Int), (55295 : Int), (8232 : Int)].getD k 0
theorem tb8_bd (k : Nat) : 0 ≤ tb8 k ∧ tb8 k ≤ 1114111 := by
  match k with
  | 0 => decide
  | 1 => decide
  | 2 => decide
  | 3 => decide
  | 4 => decide
  | 5 => decide
  | 6 => decide
  | 7 => decide
  | _ + 8 => simp [tb8]
theorem idx8_0 (w : World) : (Instr.index 104 (.agg #[.int .i32 128512, .int .i32 65536, .int .i32 1114109, .int .i32 57344, .int .i32 64307, .int .i32 65533, .int .i32 55295, .int .i32 8232]) (.int .i32 ((0 : Nat) : Int))).run Tryd.prog w = .ok (.int .i32 (tb8 0)) w := by kernel_rfl
theorem idx8_1 (w : World) : (Instr.index 104 (.agg #[.int .i32 128512, .int .i32 65536, .int .i32 1114109, .int .i32 57344, .int .i32 64307, .int .i32 65533, .int .i32 55295, .int .i32 8232]) (.int .i32 ((1 : Nat) : Int))).run Tryd.prog w = .ok (.int .i32 (tb8 1)) w := by kernel_rfl
theorem idx8_2 (w : World) : (Instr.index 104 (.agg #[.int .i32 128512, .int .i32 65536, .int .i32 1114109, .int .i32 57344, .int .i32 64307, .int .i32 65533, .int .i32 55295, .int .i32 8232]) (.int .i32 ((2 : Nat) : Int))).run Tryd.prog w = .ok (.int .i32 (tb8 2)) w := by kernel_rfl
theorem idx8_3 (w : World) : (Instr.index 104 (.agg #[.int .i32 128512, .int .i32 65536, .int .i32 1114109, .int .i32 57344, .int .i32 64307, .int .i32 65533, .int .i32 55295, .int .i32 8232]) (.int .i32 ((3 : Nat) : Int))).run Tryd.prog w = .ok (.int .i32 (tb8 3)) w := by kernel_rfl
theorem idx8_4 (w : World) : (Instr.index 104 (.agg #[.int .i32 128512, .int .i32 65536, .int .i32 1114109, .int .i32 57344, .int .i32 64307, .int .i32 65533, .int .i32 55295, .int .i32 8232]) (.int .i32 ((4 : Nat) : Int))).run Tryd.prog w = .ok (.int .i32 (tb8 4)) w := by kernel_rfl
theorem idx8_5 (w : World) : (Instr.index 104 (.agg #[.int .i32 128512, .int .i32 65536, .int .i32 1114109, .int .i32 57344, .int .i32 64307, .int .i32 65533, .int .i32 55295, .int .i32 8232]) (.int .i32 ((5 : Nat) : Int))).run Tryd.prog w = .ok (.int .i32 (tb8 5)) w := by kernel_rfl
theorem idx8_6 (w : World) : (Instr.index 104 (.agg #[.int .i32 128512, .int .i32 65536, .int .i32 1114109, .int .i32 57344, .int .i32 64307, .int .i32 65533, .int .i32 55295, .int .i32 8232]) (.int .i32 ((6 : Nat) : Int))).run Tryd.prog w = .ok (.int .i32 (tb8 6)) w := by kernel_rfl
theorem idx8_7 (w : World) : (Instr.index 104 (.agg #[.int .i32 128512, .int .i32 65536, .int .i32 1114109, .int .i32 57344, .int .i32 64307, .int .i32 65533, .int .i32 55295, .int .i32 8232]) (.int .i32 ((7 : Nat) : Int))).run Tryd.prog w = .ok (.int .i32 (tb8 7)) w := by kernel_rfl
theorem idx8 (k : Nat) (hk : k < 8) (w : World) : (Instr.index 104 (.agg #[.int .i32 128512, .int .i32 65536, .int .i32 1114109, .int .i32 57344, .int .i32 64307, .int .i32 65533, .int .i32 55295, .int .i32 8232]) (.int .i32 (k : Int))).run Tryd.prog w = .ok (.int .i32 (tb8 k)) w := by
  match k, hk with
  | 0, _ => exact idx8_0 w
  | 1, _ => exact idx8_1 w
  | 2, _ => exact idx8_2 w
  | 3, _ => exact idx8_3 w
  | 4, _ => exact idx8_4 w
  | 5, _ => exact idx8_5 w
  | 6, _ => exact idx8_6 w
  | 7, _ => exact idx8_7 w
  | k + 8, h => exact absurd h (by omega)
theorem idxI8 (x : Int) (h0 : 0 ≤ x) (h1 : x < 8) : ∃ c, (0 ≤ c ∧ c ≤ 1114111) ∧ ∀ w : World, (Instr.index 104 (.agg #[.int .i32 128512, .int .i32 65536, .int .i32 1114109, .int .i32 57344, .int .i32 64307, .int .i32 65533, .int .i32 55295, .int .i32 8232]) (.int .i32 x)).run Tryd.prog w = .ok (.int .i32 c) w := by
  obtain ⟨k, rfl⟩ := Int.eq_ofNat_of_zero_le h0
  exact ⟨tb8 k, tb8_bd k, fun w => idx8 k (by omega) w⟩

theorem emod_of_tmod (v n : Int) (hn : 0 < n) : (v.tmod n < 0 → v.tmod n + n = v % n) ∧ (0 ≤ v.tmod n → v.tmod n = v % n) := by
  have e := @Int.tmod_eq_emod v n
  have h1 := Int.emod_nonneg v (show n ≠ 0 by omega)
  have h2 := Int.emod_lt_of_pos v hn
  rw [e]
  by_cases hd : 0 ≤ v ∨ n ∣ v
  · rw [if_pos hd]; constructor <;> intro h <;> omega
  · rw [if_neg hd]; constructor <;> intro h <;> omega
theorem place_any (v n : Int) (w : World) (hn : 0 < n) (hm : n ≤ 1099511627776) : Calls Tryd.prog 24 #[.int .i64 v, .int .i64 n] w fun e w' => e = .returned (.int .i64 (v % n)) ∧ w = w' := by
  obtain ⟨f1, f2⟩ := emod_of_tmod v n hn
  have b1 := Int.tmod_lt_of_pos v hn
  have b2 := Int.lt_tmod_of_pos v hn
  have hn0 : (n == 0) = false := beq_eq_false_iff_ne.2 (by omega)
  obtain ⟨t, ht⟩ : ∃ t, v.tmod n = t := ⟨_, rfl⟩
  by_cases hneg : t < 0
  · have e1 := f1 (by omega)
    rw [← e1, ht]
    rw [ht] at b1 b2
    clear e1 f1 f2
    go_enter Tryd.func24, Tryd.ntmps24
    go_wp2
    go_ret
    exact ⟨rfl, rfl⟩
  · have e1 := f2 (by omega)
    rw [← e1, ht]
    rw [ht] at b1 b2
    clear e1 f1 f2
    go_enter Tryd.func24, Tryd.ntmps24
    go_wp2
    go_ret
    exact ⟨rfl, rfl⟩

set_option maxHeartbeats 4000000 in
/-- a number's rune, whatever the world -/
theorem rune_fn (v : Int) : ∃ c : Int, (0 ≤ c ∧ c ≤ 1114111) ∧ ∀ w : World, Calls Tryd.prog 42 #[.int .i64 v] w fun e w' => e = .returned (.int .i32 c) ∧ w = w' := by
  have h0 := Int.emod_nonneg v (show (1099511627776 : Int) ≠ 0 by decide)
  have h1 := Int.emod_lt_of_pos v (show (0 : Int) < 1099511627776 by decide)
  have HP : Hid (∀ w, Calls Tryd.prog 24 #[.int .i64 v, .int .i64 1099511627776] w fun e w' => e = .returned (.int .i64 (v % 1099511627776)) ∧ w = w') := fun w => place_any v 1099511627776 w (by decide) (by decide)
  generalize v % 1099511627776 = k at h0 h1 HP
  have hn0 : 0 ≤ k / 16 % 100000 := by omega
  have hn1 : k / 16 % 100000 < 100000 := by omega
  obtain ⟨c12, b12, i12⟩ := idxI12 (k / 16 % 100000 % 12) (by omega) (by omega)
  obtain ⟨c24, b24, i24⟩ := idxI24 (k / 16 % 100000 % 24) (by omega) (by omega)
  obtain ⟨c16, b16, i16⟩ := idxI16 (k / 16 % 16) (by omega) (by omega)
  obtain ⟨c3, b3, i3⟩ := idxI3 (k / 16 % 100000 % 3) (by omega) (by omega)
  obtain ⟨c8, b8, i8⟩ := idxI8 (k / 16 % 8) (by omega) (by omega)
  have hr : k % 16 = 0 ∨ k % 16 = 1 ∨ k % 16 = 2 ∨ k % 16 = 3 ∨ k % 16 = 4 ∨ k % 16 = 5 ∨ k % 16 = 6 ∨ k % 16 = 7 ∨ k % 16 = 8 ∨ k % 16 = 9 ∨ k % 16 = 10 ∨ k % 16 = 11 ∨ k % 16 = 12 ∨ k % 16 = 13 ∨ k % 16 = 14 ∨ k % 16 = 15 := by omega
  rcases hr with hr | hr | hr | hr | hr | hr | hr | hr | hr | hr | hr | hr | hr | hr | hr | hr
  · refine ⟨97 + k / 16 % 100000 % 26, by omega, fun w => ?_⟩
    clear i12 i24 i16 i3 i8
    go_enter Tryd.func42, Tryd.ntmps42
    go_wp2_with fail
    with_reducible refine (HP.out w).mono ?_
    rintro e w' ⟨rfl, rfl⟩
    go_wp2
    go_ret
    exact ⟨rfl, rfl⟩
  · refine ⟨97 + k / 16 % 100000 % 26, by omega, fun w => ?_⟩
    clear i12 i24 i16 i3 i8
    go_enter Tryd.func42, Tryd.ntmps42
    go_wp2_with fail
    with_reducible refine (HP.out w).mono ?_
    rintro e w' ⟨rfl, rfl⟩
    go_wp2
    go_ret
    exact ⟨rfl, rfl⟩
  · refine ⟨c12, by omega, fun w => ?_⟩
    clear i24 i16 i3 i8
    go_enter Tryd.func42, Tryd.ntmps42
    go_wp2_with fail
    with_reducible refine (HP.out w).mono ?_
    rintro e w' ⟨rfl, rfl⟩
    go_wp2
    go_ret
    exact ⟨rfl, rfl⟩
  · refine ⟨c24, by omega, fun w => ?_⟩
    clear i12 i16 i3 i8
    go_enter Tryd.func42, Tryd.ntmps42
    go_wp2_with fail
    with_reducible refine (HP.out w).mono ?_
    rintro e w' ⟨rfl, rfl⟩
    go_wp2
    go_ret
    exact ⟨rfl, rfl⟩
  · refine ⟨c24, by omega, fun w => ?_⟩
    clear i12 i16 i3 i8
    go_enter Tryd.func42, Tryd.ntmps42
    go_wp2_with fail
    with_reducible refine (HP.out w).mono ?_
    rintro e w' ⟨rfl, rfl⟩
    go_wp2
    go_ret
    exact ⟨rfl, rfl⟩
  · refine ⟨c24, by omega, fun w => ?_⟩
    clear i12 i16 i3 i8
    go_enter Tryd.func42, Tryd.ntmps42
    go_wp2_with fail
    with_reducible refine (HP.out w).mono ?_
    rintro e w' ⟨rfl, rfl⟩
    go_wp2
    go_ret
    exact ⟨rfl, rfl⟩
  · refine ⟨192 + k / 16 % 100000 % 448, by omega, fun w => ?_⟩
    clear i12 i24 i16 i3 i8
    go_enter Tryd.func42, Tryd.ntmps42
    go_wp2_with fail
    with_reducible refine (HP.out w).mono ?_
    rintro e w' ⟨rfl, rfl⟩
    go_wp2
    go_ret
    exact ⟨rfl, rfl⟩
  · refine ⟨7680 + k / 16 % 100000 % 512, by omega, fun w => ?_⟩
    clear i12 i24 i16 i3 i8
    go_enter Tryd.func42, Tryd.ntmps42
    go_wp2_with fail
    with_reducible refine (HP.out w).mono ?_
    rintro e w' ⟨rfl, rfl⟩
    go_wp2
    go_ret
    exact ⟨rfl, rfl⟩
  · refine ⟨c16, by omega, fun w => ?_⟩
    clear i12 i24 i3 i8
    go_enter Tryd.func42, Tryd.ntmps42
    go_wp2_with fail
    with_reducible refine (HP.out w).mono ?_
    rintro e w' ⟨rfl, rfl⟩
    go_wp2
    go_ret
    exact ⟨rfl, rfl⟩
  · refine ⟨44032 + k / 16 % 100000 % 11172, by omega, fun w => ?_⟩
    clear i12 i24 i16 i3 i8
    go_enter Tryd.func42, Tryd.ntmps42
    go_wp2_with fail
    with_reducible refine (HP.out w).mono ?_
    rintro e w' ⟨rfl, rfl⟩
    go_wp2
    go_ret
    exact ⟨rfl, rfl⟩
  · refine ⟨c3 + k / 16 % 100000 / 3 % 30, by omega, fun w => ?_⟩
    clear i12 i24 i16 i8
    go_enter Tryd.func42, Tryd.ntmps42
    go_wp2_with fail
    with_reducible refine (HP.out w).mono ?_
    rintro e w' ⟨rfl, rfl⟩
    go_wp2
    go_ret
    exact ⟨rfl, rfl⟩
  · refine ⟨c8, by omega, fun w => ?_⟩
    clear i12 i24 i16 i3
    go_enter Tryd.func42, Tryd.ntmps42
    go_wp2_with fail
    with_reducible refine (HP.out w).mono ?_
    rintro e w' ⟨rfl, rfl⟩
    go_wp2
    go_ret
    exact ⟨rfl, rfl⟩
  · refine ⟨k / 16 % 100000 % 128, by omega, fun w => ?_⟩
    clear i12 i24 i16 i3 i8
    go_enter Tryd.func42, Tryd.ntmps42
    go_wp2_with fail
    with_reducible refine (HP.out w).mono ?_
    rintro e w' ⟨rfl, rfl⟩
    go_wp2
    go_ret
    exact ⟨rfl, rfl⟩
  · refine ⟨880 + k / 16 % 100000 % 1536, by omega, fun w => ?_⟩
    clear i12 i24 i16 i3 i8
    go_enter Tryd.func42, Tryd.ntmps42
    go_wp2_with fail
    with_reducible refine (HP.out w).mono ?_
    rintro e w' ⟨rfl, rfl⟩
    go_wp2
    go_ret
    exact ⟨rfl, rfl⟩
  · refine ⟨12352 + k / 16 % 100000 % 192, by omega, fun w => ?_⟩
    clear i12 i24 i16 i3 i8
    go_enter Tryd.func42, Tryd.ntmps42
    go_wp2_with fail
    with_reducible refine (HP.out w).mono ?_
    rintro e w' ⟨rfl, rfl⟩
    go_wp2
    go_ret
    exact ⟨rfl, rfl⟩
  · refine ⟨k / 16 % 1114112, by omega, fun w => ?_⟩
    clear i12 i24 i16 i3 i8
    go_enter Tryd.func42, Tryd.ntmps42
    go_wp2_with fail
    with_reducible refine (HP.out w).mono ?_
    rintro e w' ⟨rfl, rfl⟩
    go_wp2
    go_ret
    exact ⟨rfl, rfl⟩
/-- some rune, and nothing else -/
def SomeRune (w : World) (e : Ending) (w' : World) : Prop := ∃ c : Int, (0 ≤ c ∧ c ≤ 1114111) ∧ e = .returned (.int .i32 c) ∧ w = w'
theorem rune_any (v : Int) (w : World) : Calls Tryd.prog 42 #[.int .i64 v] w (SomeRune w) := by
  obtain ⟨c, hc, h⟩ := rune_fn v
  exact (h w).mono fun e w' ⟨he, hw⟩ => ⟨c, hc, he, hw⟩
end Go.Proofs.YtdmcidljjfogjaaDoor

/- orthoepylaw00's Runes by its contract. -/
namespace Go.Proofs.YtdmcidljjfogjaaDoor
open Go.ChangeShapes Go.WideShapes Go.ChangeAt Go.RowKit
set_option linter.unusedVariables false

theorem info_r32 : (Tryd.prog.info? 21).map (fun i => (i.zero, i.size, i.bytes)) = some (some (.int .i32 0), 1, 4) := by kernel_rfl
/-- at most 60 scalars in a row of the call's own -/
def SomeRow (w : World) (e : Ending) (w' : World) : Prop :=
  ∃ (v : Value) (l : List Int), e = .returned v ∧ Own w' w.heap.size 21 .i32 v l ∧ (∀ c ∈ l, isB c = true) ∧ l.length ≤ 60 ∧ Below w.heap.size w w'
def RunesLoop (w : World) (n : Nat) (s3 s4 : Value) (w1 : World) : Prop :=
  ∃ (k : Nat) (l : List Int), k ≤ n ∧ k ≤ 60 ∧ l.length ≤ k ∧ s4 = .int .i64 k ∧ Own w1 w.heap.size 21 .i32 s3 l ∧ (∀ c ∈ l, isB c = true) ∧ Below w.heap.size w w1
set_option maxHeartbeats 1000000 in
theorem runes_any (a : Option Addr) (len cap : Nat) (z : List Int) (w : World) (r : ArgRow .i64 w a len cap z) : Calls Tryd.prog 22 #[.slice a len cap] w (SomeRow w) := by
  obtain ⟨hz, hle, hmx, _, hI, _⟩ := r
  subst hz
  unfold maxLen at hmx
  have HI := Lib.hid hI
  clear hI
  go_enter Tryd.func22, Tryd.ntmps22
  go_wp2_with fail
  go_loopw [3, 4] (fun s3 s4 w1 => RunesLoop w z.length s3 s4 w1) (fun _ i _ => z.length - (intOf i).toNat)
  case atStart => exact ⟨0, [], by omega, by omega, by simp, rfl, World.ownsRow_nil _ _ _ _, (fun _ h => (by cases h)), Below.refl _ _⟩
  case round =>
    obtain ⟨k, l, hk, hk60, hl, rfl, hO, hS, hb⟩ := hrel
    have HS := Lib.hid hS
    have HO := Lib.hid hO
    clear hS hO
    by_cases hlt : k < z.length ∧ k < 60
    · obtain ⟨hlt, hlt60⟩ := hlt
      obtain ⟨b, o, rfl, hbl, hc⟩ := HI.out.at (by omega)
      have hcell : wr.cell? ⟨b, o + k, none⟩ = some (.int .i64 (z.getD k 0)) := (hb.cell (p := ⟨b, o + k, none⟩) hbl).trans (hc k hlt)
      have hlt' : (k : Int) < z.length := by omega
      have hlt6' : (k : Int) < 60 := by omega
      generalize z.getD k 0 = x at hcell
      clear hc
      go_wp2_with fail
      with_reducible refine (rune_any x wr).mono ?_
      rintro e w2 ⟨c, hcb, rfl, rfl⟩
      cases hi : isB c with
      | false =>
        go_wp2_with fail
        with_reducible refine (r_is_any c _).mono ?_
        rintro e w3 ⟨rfl, rfl⟩
        go_wp2
        go_roundw
        case rel => exact ⟨k + 1, l, by omega, by omega, by omega, by go_num, HO.out, HS.out, hb⟩
        case measure => simp [intOf]; omega
      | true =>
        have HC := Lib.hid hi
        go_wp2_with (first
          | (go_at_call 43; ((with_reducible refine (r_is_any c _).mono ?_); rintro e w3 ⟨rfl, rfl⟩))
          | (at_builtin; refine wpList_app rfl (.tmp 23) (.tmp 25) 22 rfl w.heap.size 21 .i32 4 Tryd.underlying22 info_r32 (by omega) _ l rfl (HO.out.alloc _) _ _ 1 [c] rfl (fun h => by cases h) (Ints.lit wr 21 .i32 [c]) (by simp; omega) (by simp; have := hb.size; omega) ?_; intro v3 w3 hO3 hg3))
        have hbz : w.heap.size ≤ wr.heap.size := hb.size
        have hb4 : Below w.heap.size w w3 := (hb.alloc hbz _).trans (own_grown_below (HO.out.alloc _) hg3 (by simp; omega))
        go_roundw
        case rel => exact ⟨k + 1, l ++ [c], by omega, by omega, by simp; omega, by go_num, hO3, (fun x hx => (by
          rcases List.mem_append.1 hx with h | h
          · exact HS.out x h
          · simp at h; subst h; exact HC.out)), hb4⟩
        case measure => simp [intOf]; omega
    · by_cases hlt1 : k < z.length
      · have hlt6 : decide ((k : Int) < 60) = false := decide_eq_false (by omega)
        have hlt' : decide ((k : Int) < z.length) = true := decide_eq_true (by omega)
        have hlt'' : (k : Int) < z.length := by omega
        go_wp2
        go_ret
        exact ⟨_, l, rfl, HO.out, HS.out, by omega, hb⟩
      · have hlt' : decide ((k : Int) < z.length) = false := decide_eq_false (by omega)
        go_wp2
        go_ret
        exact ⟨_, l, rfl, HO.out, HS.out, by omega, hb⟩
end Go.Proofs.YtdmcidljjfogjaaDoor
