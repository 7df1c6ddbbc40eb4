/- Joined of: ScalarMath, ScalarIs, ScHLN, Mem, U8Math, U8Tab, U8Begin, U8Push, U8Read, U8First. -/
import Derived.Laws.BitsLemmas
import Derived.Test.YtdcfhkiajeiaoaaDoorRows
import Derived.WalkKit
import Derived.ProofKit
import Derived.OpenShut
import Derived.WalkLawsBesides
import Derived.Below
import Derived.Laws.OwnMore
import Derived.Laws.Rows
import Derived.Laws.ResultCell
import Derived.Deep.Draws
import Derived.Lib.Hide
import Derived.Lib.LaidTab
import Derived.StillTailTactics
import Derived.Deep.QuietTactic
import Derived.BigQuiet
/- Plain mathematics of layer 1 (scalar): no Go text in sight. -/
namespace Go.Proofs.YtdcfhkiajeiaoaaDoor

def kd (c : Int) : Int := if c < 0 then 0 else if 1114111 < c then 0 else if 65536 ≤ c then 3 else if c < 55296 then 1 else if 57343 < c then 1 else if c ≤ 56319 then 4 else 8
def hasB (k m : Int) : Bool := bits .and .u8 k m != 0
def isB (c : Int) : Bool := decide (0 ≤ c ∧ c < 55296 ∨ 57343 < c ∧ c ≤ 1114111)
def pairedB (c : Int) : Bool := decide (65536 ≤ c ∧ c ≤ 1114111)
def highB (c : Int) : Bool := decide (55296 ≤ c ∧ c ≤ 56319)
def lowB (c : Int) : Bool := decide (56320 ≤ c ∧ c ≤ 57343)
def noncharB (c : Int) : Bool := decide (64976 ≤ c ∧ c ≤ 65007 ∨ (0 ≤ c ∧ c ≤ 1114111 ∧ 65534 ≤ c % 65536))
def unitsI (c : Int) : Int := if isB c then (if 65536 ≤ c then 2 else 1) else 0

theorem cls (c : Int) : c < 0 ∨ 1114111 < c ∨ (65536 ≤ c ∧ c ≤ 1114111) ∨ (0 ≤ c ∧ c < 55296) ∨ (57343 < c ∧ c < 65536) ∨ (55296 ≤ c ∧ c ≤ 56319) ∨ (56319 < c ∧ c ≤ 57343) := by omega

theorem kd_cases (c : Int) : (c < 0 ∧ kd c = 0) ∨ (1114111 < c ∧ kd c = 0) ∨ ((65536 ≤ c ∧ c ≤ 1114111) ∧ kd c = 3) ∨ ((0 ≤ c ∧ c < 55296) ∧ kd c = 1) ∨ ((57343 < c ∧ c < 65536) ∧ kd c = 1) ∨ ((55296 ≤ c ∧ c ≤ 56319) ∧ kd c = 4) ∨ ((56319 < c ∧ c ≤ 57343) ∧ kd c = 8) := by
  unfold kd
  repeat' split
  all_goals omega

theorem has_is (c : Int) : hasB (kd c) 1 = isB c := by
  rcases kd_cases c with ⟨h, e⟩ | ⟨h, e⟩ | ⟨h, e⟩ | ⟨h, e⟩ | ⟨h, e⟩ | ⟨h, e⟩ | ⟨h, e⟩
  all_goals
    rw [e]; unfold isB hasB
    first
    | (rw [decide_eq_true (by omega)]; decide)
    | (rw [decide_eq_false (by omega)]; decide)
theorem has_paired (c : Int) : hasB (kd c) 2 = pairedB c := by
  rcases kd_cases c with ⟨h, e⟩ | ⟨h, e⟩ | ⟨h, e⟩ | ⟨h, e⟩ | ⟨h, e⟩ | ⟨h, e⟩ | ⟨h, e⟩
  all_goals
    rw [e]; unfold pairedB hasB
    first
    | (rw [decide_eq_true (by omega)]; decide)
    | (rw [decide_eq_false (by omega)]; decide)
theorem has_high (c : Int) : hasB (kd c) 4 = highB c := by
  rcases kd_cases c with ⟨h, e⟩ | ⟨h, e⟩ | ⟨h, e⟩ | ⟨h, e⟩ | ⟨h, e⟩ | ⟨h, e⟩ | ⟨h, e⟩
  all_goals
    rw [e]; unfold highB hasB
    first
    | (rw [decide_eq_true (by omega)]; decide)
    | (rw [decide_eq_false (by omega)]; decide)
theorem has_low (c : Int) : hasB (kd c) 8 = lowB c := by
  rcases kd_cases c with ⟨h, e⟩ | ⟨h, e⟩ | ⟨h, e⟩ | ⟨h, e⟩ | ⟨h, e⟩ | ⟨h, e⟩ | ⟨h, e⟩
  all_goals
    rw [e]; unfold lowB hasB
    first
    | (rw [decide_eq_true (by omega)]; decide)
    | (rw [decide_eq_false (by omega)]; decide)

theorem and_fffe (x : Nat) : x &&& 65534 = 2 * ((x / 2) % 32768) := by
  apply Nat.eq_of_testBit_eq
  intro i
  rw [Nat.testBit_and]
  cases i with
  | zero => simp [Nat.testBit_zero]
  | succ i =>
    rw [Nat.testBit_succ, Nat.testBit_succ, Nat.testBit_succ]
    have e1 : 65534 / 2 = 2 ^ 15 - 1 := by decide
    have e2 : 2 * (x / 2 % 32768) / 2 = x / 2 % 2 ^ 15 := by omega
    rw [e1, e2, ← Nat.testBit_and, Nat.and_two_pow_sub_one_eq_mod]

theorem mask1023 (x : Int) (h₀ : 0 ≤ x) (h₁ : x < 2147483648) : bits .and .i32 x 1023 = x % 1024 :=
  bits_mask .i32 31 (by decide) wraps_i32 10 (by decide) x h₀ (by omega)
theorem maskfffe (x : Int) (h₀ : 0 ≤ x) (h₁ : x < 2147483648) : bits .and .i32 x 65534 = 2 * ((x / 2) % 32768) := by
  obtain ⟨a, rfl⟩ := Int.eq_ofNat_of_zero_le h₀
  have h := (bits_nat .i32 31 (by decide) wraps_i32 a 65534 (by omega) (by decide)).1
  rw [and_fffe] at h
  have e : ((65534 : Nat) : Int) = 65534 := rfl
  rw [e] at h
  rw [h]
  omega
theorem isfffe (x : Int) (h₀ : 0 ≤ x) (h₁ : x < 2147483648) : (bits .and .i32 x 65534 == 65534) = decide (65534 ≤ x % 65536) := by
  rw [maskfffe x h₀ h₁]
  by_cases h : 65534 ≤ x % 65536
  · rw [decide_eq_true h, beq_iff_eq]; omega
  · rw [decide_eq_false h, beq_eq_false_iff_ne]; omega
end Go.Proofs.YtdcfhkiajeiaoaaDoor

/- Contracts of package scalar's kindOf, has and Is: each returns what its plain twin says, at every argument, and leaves the world alone. -/
namespace Go.Proofs.YtdcfhkiajeiaoaaDoor
open Go.ChangeShapes Go.WideShapes Go.ChangeAt Go.RowKit
set_option linter.unusedVariables false

theorem skindOf_any (c : Int) (w : World) : Calls Tryd.prog 80 #[.int .i32 c] w fun e w' => e = .returned (.int .u8 (kd c)) ∧ w = w' := by
  rcases kd_cases c with ⟨h, e⟩ | ⟨h, e⟩ | ⟨⟨h, g⟩, e⟩ | ⟨⟨h, g⟩, e⟩ | ⟨⟨h, g⟩, e⟩ | ⟨⟨h, g⟩, e⟩ | ⟨⟨h, g⟩, e⟩
  all_goals
    rw [e]; clear e
    go_enter Tryd.func80, Tryd.ntmps80
    go_wp2
    go_ret
    exact ⟨rfl, rfl⟩

theorem has_any (k m : Int) (w : World) : Calls Tryd.prog 81 #[.int .u8 k, .int .u8 m] w fun e w' => e = .returned (.bool (hasB k m)) ∧ w = w' := by
  go_enter Tryd.func81, Tryd.ntmps81
  go_wp2
  go_ret
  exact ⟨rfl, rfl⟩

theorem is_any (c : Int) (w : World) : Calls Tryd.prog 82 #[.int .i32 c] w fun e w' => e = .returned (.bool (isB c)) ∧ w = w' := by
  rw [← has_is]
  go_enter Tryd.func82, Tryd.ntmps82
  go_wp2_with fail
  with_reducible refine (skindOf_any _ _).mono ?_
  rintro e w' ⟨rfl, rfl⟩
  go_wp2_with fail
  with_reducible refine (has_any _ _ _).mono ?_
  rintro e w' ⟨rfl, rfl⟩
  go_wp2
  go_ret
  exact ⟨rfl, rfl⟩
end Go.Proofs.YtdcfhkiajeiaoaaDoor

/- Contracts of scalar.High, Low, Nonchar, Join (the rest of Scalar.tpl is ScalarIs). -/
namespace Go.Proofs.YtdcfhkiajeiaoaaDoor
set_option maxRecDepth 100000
theorem high_any (c : Int) (w : World) (h0 : 0 ≤ c) (h1 : c ≤ 65535) : Calls Tryd.prog 72 #[.int .u16 c] w fun e w' => e = .returned (.bool (highB c)) ∧ w = w' := by
  rw [← has_high]
  go_enter Tryd.func72, Tryd.ntmps72
  go_wp2_with fail
  with_reducible refine (skindOf_any _ _).mono ?_
  rintro e w' ⟨rfl, rfl⟩
  go_wp2_with fail
  with_reducible refine (has_any _ _ _).mono ?_
  rintro e w' ⟨rfl, rfl⟩
  go_wp2
  go_ret
  exact ⟨rfl, rfl⟩

theorem low_any (c : Int) (w : World) (h0 : 0 ≤ c) (h1 : c ≤ 65535) : Calls Tryd.prog 69 #[.int .u16 c] w fun e w' => e = .returned (.bool (lowB c)) ∧ w = w' := by
  rw [← has_low]
  go_enter Tryd.func69, Tryd.ntmps69
  go_wp2_with fail
  with_reducible refine (skindOf_any _ _).mono ?_
  rintro e w' ⟨rfl, rfl⟩
  go_wp2_with fail
  with_reducible refine (has_any _ _ _).mono ?_
  rintro e w' ⟨rfl, rfl⟩
  go_wp2
  go_ret
  exact ⟨rfl, rfl⟩

theorem nonchar_any (c : Int) (w : World) (h0 : -2147483648 ≤ c) (h1 : c ≤ 2147483647) : Calls Tryd.prog 70 #[.int .i32 c] w fun e w' => e = .returned (.bool (noncharB c)) ∧ w = w' := by
  by_cases hr : 64976 ≤ c ∧ c ≤ 65007
  · obtain ⟨h, g⟩ := hr
    have hn : noncharB c = true := decide_eq_true (by omega)
    rw [hn]; clear hn
    go_enter Tryd.func70, Tryd.ntmps70
    go_wp2
    go_ret
    exact ⟨rfl, rfl⟩
  by_cases hi : isB c = true
  · have hi' := of_decide_eq_true hi
    have hm := isfffe c (by omega) (by omega)
    have hn : noncharB c = decide (65534 ≤ c % 65536) := by
      unfold noncharB
      by_cases h : 65534 ≤ c % 65536
      · rw [decide_eq_true h, decide_eq_true (by omega)]
      · rw [decide_eq_false h, decide_eq_false (by omega)]
    rw [hn, ← hm]; clear hn hm hi'
    by_cases hlo : 64976 ≤ c
    all_goals
      go_enter Tryd.func70, Tryd.ntmps70
      go_wp2_with fail
      with_reducible refine (is_any _ _).mono ?_
      rintro e w' ⟨rfl, rfl⟩
      go_wp2
      go_ret
      exact ⟨rfl, rfl⟩
  · have hi' := of_decide_eq_false (Bool.eq_false_iff.2 hi)
    have hf : isB c = false := Bool.eq_false_iff.2 hi
    have hn : noncharB c = false := decide_eq_false (by omega)
    rw [hn]; clear hn hi hi'
    by_cases hlo : 64976 ≤ c
    all_goals
      go_enter Tryd.func70, Tryd.ntmps70
      go_wp2_with fail
      with_reducible refine (is_any _ _).mono ?_
      rintro e w' ⟨rfl, rfl⟩
      go_wp2
      go_ret
      exact ⟨rfl, rfl⟩

theorem join_no (h l : Int) (w : World) (h0 : 0 ≤ h) (h1 : h ≤ 65535) (l0 : 0 ≤ l) (l1 : l ≤ 65535) (hn : ¬ ((55296 ≤ h ∧ h ≤ 56319) ∧ 56320 ≤ l ∧ l ≤ 57343)) : Calls Tryd.prog 83 #[.int .u16 h, .int .u16 l] w fun e w' => e = .returned (.tuple #[.int .i32 0, .bool false]) ∧ w = w' := by
  by_cases hh : 55296 ≤ h ∧ h ≤ 56319
  · have a : highB h = true := decide_eq_true hh
    have b : lowB l = false := decide_eq_false (by omega)
    clear hn hh
    go_enter Tryd.func83, Tryd.ntmps83
    go_wp2_with fail
    with_reducible refine (high_any _ _ h0 h1).mono ?_
    rintro e w' ⟨rfl, rfl⟩
    go_wp2_with fail
    with_reducible refine (low_any _ _ l0 l1).mono ?_
    rintro e w' ⟨rfl, rfl⟩
    go_wp2
    go_ret2
    exact ⟨rfl, rfl⟩
  · have a : highB h = false := decide_eq_false hh
    clear hn hh
    go_enter Tryd.func83, Tryd.ntmps83
    go_wp2_with fail
    with_reducible refine (high_any _ _ h0 h1).mono ?_
    rintro e w' ⟨rfl, rfl⟩
    go_wp2
    go_ret2
    exact ⟨rfl, rfl⟩

theorem join_yes (h l : Int) (w : World) (h0 : 55296 ≤ h) (h1 : h ≤ 56319) (l0 : 56320 ≤ l) (l1 : l ≤ 57343) : Calls Tryd.prog 83 #[.int .u16 h, .int .u16 l] w fun e w' => e = .returned (.tuple #[.int .i32 (65536 + (h - 55296) * 1024 + (l - 56320)), .bool true]) ∧ w = w' := by
  have a : highB h = true := decide_eq_true ⟨h0, h1⟩
  have b : lowB l = true := decide_eq_true ⟨l0, l1⟩
  go_enter Tryd.func83, Tryd.ntmps83
  go_wp2_with fail
  with_reducible refine (high_any _ _ (by omega) (by omega)).mono ?_
  rintro e w' ⟨rfl, rfl⟩
  go_wp2_with fail
  with_reducible refine (low_any _ _ (by omega) (by omega)).mono ?_
  rintro e w' ⟨rfl, rfl⟩
  go_wp2
  go_ret2
  exact ⟨rfl, rfl⟩

end Go.Proofs.YtdcfhkiajeiaoaaDoor

/- Words for memory that these proofs share: a slice that reads as a row of numbers, a block known whole, what stays as it was. -/
namespace Go.Proofs.YtdcfhkiajeiaoaaDoor
open Go.RowKit

/-- block g is just these cells -/
def Blk (w : World) (g : Nat) (t : TypeId) (cs : Array Value) : Prop := w.heap[g]? = some (.cells cs t (0, 0))
theorem Blk.lt {w : World} {g : Nat} {t : TypeId} {cs : Array Value} (h : Blk w g t cs) : g < w.heap.size := by
  apply Classical.byContradiction; intro hn
  unfold Blk at h; rw [Array.getElem?_eq_none (by omega)] at h; cases h
theorem Blk.cell {w : World} {g : Nat} {t : TypeId} {cs : Array Value} (h : Blk w g t cs) (i : Nat) : w.cell? ⟨g, i, none⟩ = cs[i]? := cell_of_row w g i cs t (0, 0) h
theorem Blk.frozen {w : World} {g : Nat} {t : TypeId} {cs : Array Value} (h : Blk w g t cs) (i : Nat) : w.frozen? ⟨g, i, none⟩ = false := by
  unfold Blk at h; simp [World.frozen?, h]
theorem Blk.below {w w' : World} {g : Nat} {t : TypeId} {cs : Array Value} {B : Nat} (h : Blk w g t cs) (hb : Below B w w') (hg : g < B) : Blk w' g t cs := (hb.block g hg).trans h
theorem Blk.new (w : World) (t : TypeId) (cs : Array Value) : Blk (w.alloc (.cells cs t)) w.heap.size t cs := heap_alloc_new w _

theorem Blk.set {w : World} {g : Nat} {t : TypeId} {cs : Array Value} (h : Blk w g t cs) (i : Nat) (u : Value) : Blk (w.setCell ⟨g, i, none⟩ u) g t (cs.setIfInBounds i u) := by
  unfold Blk at h ⊢; simp [World.setCell, Array.getElem?_modify, h]
theorem Blk.alloc {w : World} {g : Nat} {t : TypeId} {cs : Array Value} (h : Blk w g t cs) (o : Obj) : Blk (w.alloc o) g t cs := (Below.heap_alloc w o g h.lt).trans h
theorem Blk.far {w : World} {g : Nat} {t : TypeId} {cs : Array Value} (h : Blk w g t cs) {p : Addr} (hp : g ≠ p.block) (u : Value) : Blk (w.setCell p u) g t cs := (Below.heap_setCell w p u g hp).trans h
theorem Blk.drewN {w : World} {g : Nat} {t : TypeId} {cs : Array Value} (h : Blk w g t cs) (n : Nat) : Blk (w.drewN n) g t cs := h
theorem Blk.drew {w : World} {g : Nat} {t : TypeId} {cs : Array Value} (h : Blk w g t cs) : Blk w.drew g t cs := h
/-- a struct in a block of its own, and one more result -/
theorem results_blk {P : Program} {fn : Func} {p u : Tmp} {ty : TypeId} (h : fn.results = #[.cell p ty, .tmp u]) (tmps : Array Value) (w : World) (g : Nat) (t : TypeId) (cs : Array Value) (d : TypeDesc)
    (hp : tmps.getD p undef = .pointer (some ⟨g, 0, none⟩)) (hg : Blk w g t cs) (hu : P.underlying ty = some d) (hd : (match d with | .struct _ | .array _ _ => true | _ => false) = true) (hi : (P.info? ty).map (·.size) = some cs.size) :
    (results fn tmps).run P w = .ok (.tuple #[.agg cs, tmps.getD u undef]) w := by
  rw [results_cell_tmp h, hp]
  simp [asAddr, run_loadVar_row w g t ty cs (0, 0) d hg hu hd hi, Result.andThen]

/-- but for block g all that was there is as it was -/
def But (g : Nat) (w w' : World) : Prop := w.grownBy w' (some g)
theorem But.refl (g : Nat) (w : World) : But g w w := ⟨rfl, rfl, rfl, Nat.le_refl _, fun _ _ _ => rfl⟩
theorem But.trans {g : Nat} {a b c : World} (h : But g a b) (k : But g b c) : But g a c :=
  ⟨k.os.trans h.os, k.tape.trans h.tape, k.output.trans h.output, Nat.le_trans h.size k.size, fun i hi hn => (k.block i (Nat.lt_of_lt_of_le hi h.size) hn).trans (h.block i hi hn)⟩
theorem But.set {g : Nat} {a b : World} (h : But g a b) (i : Nat) (u : Value) : But g a (b.setCell ⟨g, i, none⟩ u) :=
  ⟨h.os, h.tape, h.output, by have := h.size; simpa [World.setCell] using this, fun k hk hn => (Below.heap_setCell b ⟨g, i, none⟩ u k (fun e => hn (by rw [e]))).trans (h.block k hk hn)⟩
theorem But.of_below {g : Nat} {a b : World} (h : Below a.heap.size a b) : But g a b := ⟨h.os, h.tape, h.output, h.size, fun i hi _ => h.block i hi⟩
theorem But.below {g B : Nat} {a b : World} (h : But g a b) (hB : B ≤ g) (hs : B ≤ a.heap.size) : Below B a b :=
  ⟨h.os, h.tape, h.output, h.size, fun i hi => h.block i (by omega) (fun e => by injection e; omega)⟩
theorem But.blk {g g' : Nat} {a b : World} {t : TypeId} {cs : Array Value} (h : But g a b) (hk : Blk a g' t cs) (hne : g' ≠ g) : Blk b g' t cs :=
  (h.block g' hk.lt (fun e => by injection e with e; exact hne e)).trans hk
theorem But.cell {g : Nat} {a b : World} (h : But g a b) {p : Addr} (hp : p.block < a.heap.size) (hne : p.block ≠ g) : b.cell? p = a.cell? p :=
  World.cell?_of_block (h.block p.block hp (fun e => by injection e with e; exact hne e))

/-- a slice of one-cell numbers of kind k reads as xs; it lies below block B -/
def Ints (w : World) (B : Nat) (k : IntKind) (A : Option Addr) (xs : List Int) : Prop :=
  xs = [] ∨ ∃ b o, A = some ⟨b, o, none⟩ ∧ b < B ∧ ∀ j, j < xs.length → w.cell? ⟨b, o + j, none⟩ = some (.int k (xs.getD j 0))
theorem Ints.nil (w : World) (B : Nat) (k : IntKind) (A : Option Addr) : Ints w B k A [] := .inl rfl
theorem Ints.at {w : World} {B : Nat} {k : IntKind} {A : Option Addr} {xs : List Int} (h : Ints w B k A xs) (hp : 0 < xs.length) :
    ∃ b o, A = some ⟨b, o, none⟩ ∧ b < B ∧ ∀ j, j < xs.length → w.cell? ⟨b, o + j, none⟩ = some (.int k (xs.getD j 0)) := by
  rcases h with h | h
  · subst h; simp at hp
  · exact h
theorem Ints.below {w w' : World} {B B' : Nat} {k : IntKind} {A : Option Addr} {xs : List Int} (h : Ints w B k A xs) (hb : Below B' w w') (hB : B ≤ B') : Ints w' B k A xs := by
  rcases h with h | ⟨b, o, e, hl, hc⟩
  · exact .inl h
  · exact .inr ⟨b, o, e, hl, fun j hj => (hb.cell (p := ⟨b, o + j, none⟩) (by simpa using Nat.lt_of_lt_of_le hl hB)).trans (hc j hj)⟩
theorem Ints.more {w : World} {B B' : Nat} {k : IntKind} {A : Option Addr} {xs : List Int} (h : Ints w B k A xs) (hB : B ≤ B') : Ints w B' k A xs := by
  rcases h with h | ⟨b, o, e, hl, hc⟩
  · exact .inl h
  · exact .inr ⟨b, o, e, by omega, hc⟩
theorem Ints.take {w : World} {B : Nat} {k : IntKind} {A : Option Addr} {xs : List Int} (h : Ints w B k A xs) (n : Nat) : Ints w B k A (xs.take n) := by
  rcases h with h | ⟨b, o, e, hl, hc⟩
  · subst h; exact .inl (by simp)
  · refine .inr ⟨b, o, e, hl, fun j hj => ?_⟩
    rw [List.length_take] at hj
    rw [hc j (by omega)]
    simp only [List.getD_eq_getElem?_getD, List.getElem?_take]
    rw [if_pos (by omega)]
theorem Ints.drop {w : World} {B : Nat} {k : IntKind} {b o : Nat} {xs : List Int} (h : Ints w B k (some ⟨b, o, none⟩) xs) (n : Nat) : Ints w B k (some ⟨b, o + n, none⟩) (xs.drop n) := by
  rcases h with h | ⟨b', o', e, hl, hc⟩
  · subst h; exact .inl (by simp)
  · injection e with e; injection e with e1 e2; subst e1 e2
    refine .inr ⟨_, _, rfl, hl, fun j hj => ?_⟩
    rw [List.length_drop] at hj
    have := hc (n + j) (by omega)
    rw [← Nat.add_assoc] at this
    rw [this]
    simp only [List.getD_eq_getElem?_getD, List.getElem?_drop]
/-- from a row of the call's own -/
theorem Ints.own {w : World} {base : Nat} {e : TypeId} {k : IntKind} {A : Option Addr} {n c : Nat} {xs : List Int} (h : w.ownsRow base e 1 (.slice A n c) n (xs.map (Value.int k))) : Ints w w.heap.size k A xs := by
  rcases h.2 with ⟨e1, e2⟩ | ⟨g, cap, cur, hv, hb, hh, hnc, hm, hcs, ht⟩
  · have hl := h.1; rw [e2] at hl; simp at hl; exact .inl hl
  · injection hv with hA
    refine .inr ⟨g, 0, hA, ?_, fun j hj => ?_⟩
    · apply Classical.byContradiction; intro hn
      rw [Array.getElem?_eq_none (by omega)] at hh; cases hh
    · rw [cell_of_row w g (0 + j) cur e (0, 0) hh]
      have hj' : (xs.map (Value.int k))[j]? = some (.int k (xs.getD j 0)) := by simp [List.getElem?_map, List.getD_eq_getElem?_getD, List.getElem?_eq_getElem hj]
      rw [← ht, List.getElem?_take] at hj'
      split at hj'
      · simpa using hj'
      · cases hj'
theorem own_len {w : World} {base : Nat} {e : TypeId} {v : Value} {n : Nat} {xs : List Value} (h : w.ownsRow base e 1 v n xs) : xs.length = n := by simpa using h.1
theorem own_form {w : World} {base : Nat} {e : TypeId} {v : Value} {n : Nat} {xs : List Value} (h : w.ownsRow base e 1 v n xs) : ∃ A c, v = .slice A n c ∧ n ≤ c ∧ c ≤ maxLen := by
  rcases h.2 with ⟨e1, e2⟩ | ⟨g, cap, cur, hv, hb, hh, hnc, hm, hcs, ht⟩
  · exact ⟨none, 0, by rw [e1, e2], by omega, by simp [maxLen]⟩
  · exact ⟨_, cap, hv, hnc, hm⟩
theorem own_below {w w' : World} {base B : Nat} {e : TypeId} {v : Value} {n : Nat} {xs : List Value} (h : w.ownsRow base e 1 v n xs) (hb : Below B w w') (hB : w.heap.size ≤ B) : w'.ownsRow base e 1 v n xs :=
  h.kept (row := none) ⟨hb.os, hb.tape, hb.output, hb.size, fun i hi _ => hb.block i (by omega)⟩ (by
    cases hv : v.ownBlock with
    | none => exact .inl rfl
    | some g => exact .inr (by simp))
theorem below_drewN' {B : Nat} {a w : World} (h : Below B a w) (n : Nat) : Below B a (w.drewN n) := ⟨h.os, h.tape, h.output, h.size, h.block⟩
end Go.Proofs.YtdcfhkiajeiaoaaDoor

/- Plain mathematics of layer 2 (utf8): bytes of scalars, how bytes begin a scalar; no Go text in sight. -/
namespace Go.Proofs.YtdcfhkiajeiaoaaDoor
set_option maxRecDepth 100000

def byt (c : Int) : List Int :=
  if isB c then
    if c < 128 then [c]
    else if c < 2048 then [192 + c / 64, 128 + c % 64]
    else if c < 65536 then [224 + c / 4096, 128 + c / 64 % 64, 128 + c % 64]
    else [240 + c / 262144, 128 + c / 4096 % 64, 128 + c / 64 % 64, 128 + c % 64]
  else []
def txt (l : List Int) : List Int := l.flatMap byt
def lng (x : Int) : Int := if x < 128 then 1 else if x < 194 then 0 else if x ≤ 223 then 2 else if x ≤ 239 then 3 else if x ≤ 244 then 4 else 0
def lo2 (f : Int) : Int := if f = 224 then 160 else if f = 240 then 144 else 128
def hi2 (f : Int) : Int := if f = 237 then 159 else if f = 244 then 143 else 191
def secB (f x : Int) : Bool := decide (lo2 f ≤ x ∧ x ≤ hi2 f)
def tlB (x : Int) : Bool := decide (128 ≤ x ∧ x ≤ 191)
def how : List Int → Int
  | [a] => if lng a = 1 then 2 else if 1 < lng a then 1 else 0
  | [a, b] => if 2 ≤ lng a ∧ secB a b = true then (if lng a = 2 then 2 else 1) else 0
  | [a, b, c] => if 3 ≤ lng a ∧ secB a b = true ∧ tlB c = true then (if lng a = 3 then 2 else 1) else 0
  | [a, b, c, d] => if 4 ≤ lng a ∧ secB a b = true ∧ tlB c = true ∧ tlB d = true then 2 else 0
  | _ => 0
def mkT (a : Int) : Int := if a < 128 then 0 else if a < 224 then 192 else if a < 240 then 224 else 240
def ubits : List Int → Int
  | [a] => a - mkT a
  | [a, b] => (a - mkT a) * 64 + (b - 128)
  | [a, b, c] => ((a - mkT a) * 64 + (b - 128)) * 64 + (c - 128)
  | [a, b, c, d] => (((a - mkT a) * 64 + (b - 128)) * 64 + (c - 128)) * 64 + (d - 128)
  | _ => 0
def rowOf (a : Int) : Nat :=
  if a < 128 then 0 else if a < 224 then 1 else if a = 224 then 2 else if a < 237 then 3 else if a = 237 then 4
  else if a < 240 then 5 else if a = 240 then 6 else if a < 244 then 7 else 8

theorem lng_le (a : Int) : 0 ≤ lng a ∧ lng a ≤ 4 := by unfold lng; repeat' split
                                                       all_goals omega
theorem how_cases (l : List Int) : how l = 0 ∨ how l = 1 ∨ how l = 2 := by
  unfold how; repeat' split
  all_goals simp
theorem how_len1 {l : List Int} (h : how l = 1) : 1 ≤ l.length ∧ l.length ≤ 3 := by
  match l, h with
  | [], h => simp [how] at h
  | [_], _ => simp
  | [_, _], _ => simp
  | [_, _, _], _ => simp
  | [_, _, _, _], h => simp only [how] at h; split at h <;> cases h
  | _ :: _ :: _ :: _ :: _ :: _, h => simp [how] at h
theorem how_len {l : List Int} (h : how l ≠ 0) : 1 ≤ l.length ∧ l.length ≤ 4 := by
  match l, h with
  | [], h => simp [how] at h
  | [_], _ => simp
  | [_, _], _ => simp
  | [_, _, _], _ => simp
  | [_, _, _, _], _ => simp
  | _ :: _ :: _ :: _ :: _ :: _, h => simp [how] at h

/-- how many bytes of b begin a scalar and end none -/
def fk (b : List Int) : Nat :=
  if 1 ≤ b.length ∧ how (b.take 1) = 1 then
    if 2 ≤ b.length ∧ how (b.take 2) = 1 then
      if 3 ≤ b.length ∧ how (b.take 3) = 1 then 3 else 2
    else 1
  else 0
theorem fk_eq (b : List Int) (k : Nat) (hk : k ≤ b.length) (hr : ∀ j, 1 ≤ j → j ≤ k → how (b.take j) = 1) (he : k = b.length ∨ how (b.take (k + 1)) ≠ 1) : fk b = k := by
  have h3 : k ≤ 3 := by
    rcases Nat.lt_or_ge 3 k with h | h
    · have := (how_len1 (hr 4 (by omega) (by omega))).2
      rw [List.length_take] at this; omega
    · omega
  have e : k = 0 ∨ k = 1 ∨ k = 2 ∨ k = 3 := by omega
  unfold fk
  rcases e with rfl | rfl | rfl | rfl
  · rw [if_neg]; rintro ⟨a, c⟩; rcases he with h | h
    · omega
    · exact h c
  · have := hr 1 (by omega) (by omega)
    rw [if_pos ⟨by omega, this⟩, if_neg]; rintro ⟨a, c⟩; rcases he with h | h
    · omega
    · exact h c
  · have h1 := hr 1 (by omega) (by omega)
    have h2 := hr 2 (by omega) (by omega)
    rw [if_pos ⟨by omega, h1⟩, if_pos ⟨by omega, h2⟩, if_neg]; rintro ⟨a, c⟩; rcases he with h | h
    · omega
    · exact h c
  · have h1 := hr 1 (by omega) (by omega)
    have h2 := hr 2 (by omega) (by omega)
    have h3 := hr 3 (by omega) (by omega)
    rw [if_pos ⟨by omega, h1⟩, if_pos ⟨by omega, h2⟩, if_pos ⟨by omega, h3⟩]
theorem fk_spec (b : List Int) : fk b ≤ b.length ∧ (∀ j, 1 ≤ j → j ≤ fk b → how (b.take j) = 1) ∧ (fk b = b.length ∨ how (b.take (fk b + 1)) ≠ 1) := by
  unfold fk
  by_cases h1 : 1 ≤ b.length ∧ how (b.take 1) = 1
  · rw [if_pos h1]
    by_cases h2 : 2 ≤ b.length ∧ how (b.take 2) = 1
    · rw [if_pos h2]
      by_cases h3 : 3 ≤ b.length ∧ how (b.take 3) = 1
      · rw [if_pos h3]
        refine ⟨h3.1, fun j a c => ?_, ?_⟩
        · have : j = 1 ∨ j = 2 ∨ j = 3 := by omega
          rcases this with rfl | rfl | rfl
          · exact h1.2
          · exact h2.2
          · exact h3.2
        · by_cases hl : 3 = b.length
          · exact .inl hl
          · refine .inr fun h => ?_
            have := (how_len1 h).2
            rw [List.length_take] at this; omega
      · rw [if_neg h3]
        refine ⟨h2.1, fun j a c => ?_, ?_⟩
        · have : j = 1 ∨ j = 2 := by omega
          rcases this with rfl | rfl
          · exact h1.2
          · exact h2.2
        · by_cases hl : 2 = b.length
          · exact .inl hl
          · exact .inr fun h => h3 ⟨by omega, h⟩
    · rw [if_neg h2]
      refine ⟨h1.1, fun j a c => ?_, ?_⟩
      · have : j = 1 := by omega
        subst this; exact h1.2
      · by_cases hl : 1 = b.length
        · exact .inl hl
        · exact .inr fun h => h2 ⟨by omega, h⟩
  · rw [if_neg h1]
    refine ⟨by omega, fun j a c => by omega, ?_⟩
    by_cases hl : 0 = b.length
    · exact .inl hl
    · exact .inr fun h => h1 ⟨by omega, h⟩

def fOk (b : List Int) : Bool := decide (fk b < b.length ∧ how (b.take (fk b + 1)) = 2)
def fN (b : List Int) : Nat := if fOk b then fk b + 1 else fk b
def fC (b : List Int) : Int := if fOk b then ubits (b.take (fk b + 1)) else 0
theorem first_yes {b : List Int} {k : Nat} (hk : k < b.length) (hr : ∀ j, 1 ≤ j → j ≤ k → how (b.take j) = 1) (h2 : how (b.take (k + 1)) = 2) : fOk b = true ∧ fN b = k + 1 ∧ fC b = ubits (b.take (k + 1)) := by
  have e := fk_eq b k (by omega) hr (.inr (by rw [h2]; decide))
  have ho : fOk b = true := by unfold fOk; rw [e]; exact decide_eq_true ⟨hk, h2⟩
  refine ⟨ho, ?_, ?_⟩
  · unfold fN; rw [ho, e]; rfl
  · unfold fC; rw [ho, e]; rfl
theorem first_no {b : List Int} {k : Nat} (hk : k ≤ b.length) (hr : ∀ j, 1 ≤ j → j ≤ k → how (b.take j) = 1) (h2 : k = b.length ∨ how (b.take (k + 1)) = 0) : fOk b = false ∧ fN b = k ∧ fC b = 0 := by
  have e := fk_eq b k hk hr (by rcases h2 with h | h
                                · exact .inl h
                                · right; rw [h]; decide)
  have ho : fOk b = false := by
    unfold fOk; rw [e]; apply decide_eq_false; rintro ⟨a, c⟩
    rcases h2 with h | h
    · omega
    · rw [h] at c; cases c
  refine ⟨ho, ?_, ?_⟩
  · unfold fN; rw [ho, e]; rfl
  · unfold fC; rw [ho]; rfl
theorem fN_le (b : List Int) : fN b ≤ b.length := by
  unfold fN
  cases h : fOk b
  · have := (fk_spec b).1; simpa using this
  · have := of_decide_eq_true h; simp; omega
theorem fN_pos {b : List Int} (h : fOk b = true) : 1 ≤ fN b := by unfold fN; rw [h]; simp

/-- all scalars of b, from 'at' on, l ahead of them; fuel first -/
def allA (b : List Int) : Nat → Nat → List Int → List Int × Nat × Bool
  | 0, n, l => (l, n, true)
  | f + 1, n, l => if n < b.length then (if fOk (b.drop n) then allA b f (n + fN (b.drop n)) (l ++ [fC (b.drop n)]) else ([], n + fN (b.drop n), false)) else (l, n, true)
def allS (b : List Int) : List Int × Nat × Bool := allA b (b.length + 1) 0 []
/-- where a loop over b stands -/
def AllAt (b : List Int) (n : Nat) (l : List Int) : Prop := n ≤ b.length ∧ l.length ≤ n ∧ ∃ f, b.length - n < f ∧ allA b f n l = allS b
theorem AllAt.start (b : List Int) : AllAt b 0 [] := ⟨Nat.zero_le _, Nat.le_refl _, b.length + 1, by omega, rfl⟩
theorem AllAt.step {b : List Int} {n : Nat} {l : List Int} (h : AllAt b n l) (hn : n < b.length) (ho : fOk (b.drop n) = true) : AllAt b (n + fN (b.drop n)) (l ++ [fC (b.drop n)]) := by
  obtain ⟨_, hl, f, hf, e⟩ := h
  have hp := fN_pos ho
  have hle := fN_le (b.drop n)
  rw [List.length_drop] at hle
  match f, hf, e with
  | f + 1, hf, e =>
    refine ⟨by omega, by simp; omega, f, by omega, ?_⟩
    rw [← e]
    show _ = allA b (f + 1) n l
    rw [allA, if_pos hn, if_pos ho]
theorem AllAt.fail {b : List Int} {n : Nat} {l : List Int} (h : AllAt b n l) (hn : n < b.length) (ho : fOk (b.drop n) = false) : allS b = ([], n + fN (b.drop n), false) := by
  obtain ⟨_, _, f, hf, e⟩ := h
  match f, hf, e with
  | f + 1, hf, e => rw [← e, allA, if_pos hn, ho]; rfl
theorem AllAt.done {b : List Int} {n : Nat} {l : List Int} (h : AllAt b n l) (hn : b.length ≤ n) : allS b = (l, n, true) := by
  obtain ⟨_, _, f, hf, e⟩ := h
  match f, hf, e with
  | f + 1, hf, e => rw [← e, allA, if_neg (by omega)]

/-- what a reader tells -/
def pH (bs : List Int) (x : Int) : Int := if how (bs ++ [x]) = 2 then 2 else if how (bs ++ [x]) = 1 then 1 else 3
def pC (bs : List Int) (x : Int) : Int := if how (bs ++ [x]) = 2 then ubits (bs ++ [x]) else 0
def pS (bs : List Int) (x : Int) : List Int := if how (bs ++ [x]) = 2 then [] else if how (bs ++ [x]) = 1 then bs ++ [x] else bs
end Go.Proofs.YtdcfhkiajeiaoaaDoor

/- The table 'leads' of package utf8: what its cells hold, from the row's list on. -/
namespace Go.Proofs.YtdcfhkiajeiaoaaDoor
set_option maxRecDepth 100000
open Go.ChangeShapes Go.WideShapes Go.ChangeAt Go.RowKit
set_option linter.unusedVariables false

def leadsArr : Array Value := #[.int .u8 0, .int .u8 127, .int .u8 0, .int .i64 1, .int .u8 0, .int .u8 0, .int .u8 194, .int .u8 223, .int .u8 192, .int .i64 2, .int .u8 128, .int .u8 191, .int .u8 224, .int .u8 224, .int .u8 224, .int .i64 3, .int .u8 160, .int .u8 191, .int .u8 225, .int .u8 236, .int .u8 224, .int .i64 3, .int .u8 128, .int .u8 191, .int .u8 237, .int .u8 237, .int .u8 224, .int .i64 3, .int .u8 128, .int .u8 159, .int .u8 238, .int .u8 239, .int .u8 224, .int .i64 3, .int .u8 128, .int .u8 191, .int .u8 240, .int .u8 240, .int .u8 240, .int .i64 4, .int .u8 144, .int .u8 191, .int .u8 241, .int .u8 243, .int .u8 240, .int .i64 4, .int .u8 128, .int .u8 191, .int .u8 244, .int .u8 244, .int .u8 240, .int .i64 4, .int .u8 128, .int .u8 143]
def ldF (k : Nat) : Int := [(0 : Int), (194 : Int), (224 : Int), (225 : Int), (237 : Int), (238 : Int), (240 : Int), (241 : Int), (244 : Int)].getD k 0
def ldL (k : Nat) : Int := [(127 : Int), (223 : Int), (224 : Int), (236 : Int), (237 : Int), (239 : Int), (240 : Int), (243 : Int), (244 : Int)].getD k 0
def ldM (k : Nat) : Int := [(0 : Int), (192 : Int), (224 : Int), (224 : Int), (224 : Int), (224 : Int), (240 : Int), (240 : Int), (240 : Int)].getD k 0
def ldS (k : Nat) : Int := [(1 : Int), (2 : Int), (3 : Int), (3 : Int), (3 : Int), (3 : Int), (4 : Int), (4 : Int), (4 : Int)].getD k 0
def ldLo (k : Nat) : Int := [(0 : Int), (128 : Int), (160 : Int), (128 : Int), (128 : Int), (128 : Int), (144 : Int), (128 : Int), (128 : Int)].getD k 0
def ldHi (k : Nat) : Int := [(0 : Int), (191 : Int), (191 : Int), (191 : Int), (159 : Int), (191 : Int), (191 : Int), (191 : Int), (143 : Int)].getD k 0
/-- the table lies where it lies -/
def Tab (w : World) : Prop := ∃ t fr, w.heap[0]? = some (.cells leadsArr t fr)
theorem Tab.lt {w : World} (h : Tab w) : 0 < w.heap.size := by
  obtain ⟨t, fr, h⟩ := h
  apply Classical.byContradiction; intro hn
  rw [Array.getElem?_eq_none (by omega)] at h; cases h
theorem Tab.below {w w' : World} {B : Nat} (h : Tab w) (hb : Below B w w') (hB : 0 < B) : Tab w' := by
  obtain ⟨t, fr, h⟩ := h
  exact ⟨t, fr, (hb.block _ hB).trans h⟩
theorem Tab.below' {w w' : World} (h : Tab w) (hb : Below w.heap.size w w') : Tab w' := h.below hb h.lt
theorem Tab.but {w w' : World} {g : Nat} (h : Tab w) (hb : But g w w') (hg : g ≠ 0) : Tab w' := by
  have hl := h.lt
  obtain ⟨t, fr, h⟩ := h
  exact ⟨t, fr, (hb.block _ hl (fun e => by injection e with e; exact hg e.symm)).trans h⟩
theorem Tab.cell {w : World} (h : Tab w) (i : Nat) : w.cell? ⟨0, i, none⟩ = leadsArr[i]? := by
  obtain ⟨t, fr, h⟩ := h
  exact cell_of_row w _ i leadsArr t fr h
/-- a block of a reader is not the table -/
theorem Tab.ne {w : World} (h : Tab w) {g : Nat} {t : TypeId} {a b c : Int} (hk : Blk w g t #[.int .i64 a, .int .i64 b, .int .i32 c]) : g ≠ 0 := by
  rintro rfl
  have h1 := h.cell 0
  rw [hk.cell 0] at h1
  simp [leadsArr] at h1

theorem cellsU8 : Tryd.prog.cellsOf 5 = 1 := by kernel_rfl
theorem cellsInt : Tryd.prog.cellsOf 3 = 1 := by kernel_rfl
theorem cellsLead : Tryd.prog.cellsOf 108 = 6 := by kernel_rfl
theorem cellsLeads : Tryd.prog.cellsOf 109 = 54 := by kernel_rfl
theorem gLeads : Tryd.prog.globalNamed "orthoepy/utf8.leads" = some 0 := by kernel_rfl
theorem gLeadsType : (Tryd.prog.globals[0]?).map (·.type) = some 109 := by kernel_rfl

theorem lead_cells {H : Type} {enc : TypeId × Value → H} {w : World} {base : Nat} {sp : Nat → Bool} {held : Bool} {fuel : Nat} {cs : List Value} {a b c d e f : Int} {p : List MemPlace}
    (h : DataW.trod enc Tryd.prog w base sp held fuel 108 cs = some (.agg [.lit (.int .u8 a), .lit (.int .u8 b), .lit (.int .u8 c), .lit (.int .i64 d), .lit (.int .u8 e), .lit (.int .u8 f)], p)) :
    cs = [.int .u8 a, .int .u8 b, .int .u8 c, .int .i64 d, .int .u8 e, .int .u8 f] := by
  obtain ⟨xs, n, _, hx, hlen, hxl, hf⟩ := DataW.trod_struct Tryd.underlying108 h
  rw [cellsLead] at hlen
  have e1 := congrArg Prod.fst hx
  simp only [DataW.agg.injEq] at e1
  match cs, hlen, xs, hxl with
  | [c0, c1, c2, c3, c4, c5], _, [y0, y1, y2, y3, y4, y5], _ =>
    simp at e1
    obtain ⟨e0, e1, e2, e3, e4, e5⟩ := e1
    have g0 := hf 0 _ rfl
    have g1 := hf 1 _ rfl
    have g2 := hf 2 _ rfl
    have g3 := hf 3 _ rfl
    have g4 := hf 4 _ rfl
    have g5 := hf 5 _ rfl
    simp [cellsU8, cellsInt] at g0 g1 g2 g3 g4 g5
    obtain ⟨z0, f0, r0, _⟩ := DataW.trod_int Tryd.underlying5 g0
    obtain ⟨z1, f1, r1, _⟩ := DataW.trod_int Tryd.underlying5 g1
    obtain ⟨z2, f2, r2, _⟩ := DataW.trod_int Tryd.underlying5 g2
    obtain ⟨z3, f3, r3, _⟩ := DataW.trod_int Tryd.underlying3 g3
    obtain ⟨z4, f4, r4, _⟩ := DataW.trod_int Tryd.underlying5 g4
    obtain ⟨z5, f5, r5, _⟩ := DataW.trod_int Tryd.underlying5 g5
    subst r0 r1 r2 r3 r4 r5
    simp at e0 e1 e2 e3 e4 e5 f0 f1 f2 f3 f4 f5
    subst e0 e1 e2 e3 e4 e5 f0 f1 f2 f3 f4 f5
    rfl

theorem drop6 {l : List Value} {n m : Nat} (hm : m = n + 6) : l.drop n = (l.drop n).take 6 ++ l.drop m := by
  subst hm
  rw [← List.drop_drop, List.take_append_drop]

theorem tab_of_laid {W : World} (h : laidMetH Tryd.prog [("orthoepy/utf8.leads", Rows.laid_orthoepy_utf8_leads)] W) : Tab W := by
  have h' : laidMet Tryd.prog [("orthoepy/utf8.leads", Rows.laid_orthoepy_utf8_leads)] W := h
  obtain ⟨ps, ⟨g', t', cs, fuel, p, q, hg', ht', hvar, hd, _, _⟩, _⟩ := h'
  obtain rfl := Option.some.inj (gLeads.symm.trans hg')
  obtain rfl := Option.some.inj (gLeadsType.symm.trans ht')
  obtain ⟨xs, m, _, hx, hlen, hxl, hel⟩ := DataW.trod_array Tryd.underlying109 hd
  rw [cellsLeads] at hlen
  rw [cellsLead] at hel
  have e1 := congrArg Prod.fst hx
  unfold Rows.laid_orthoepy_utf8_leads at e1
  simp only [DataW.agg.injEq] at e1
  match xs, hxl with
  | [y0, y1, y2, y3, y4, y5, y6, y7, y8], _ =>
    simp only [List.map_cons, List.map_nil, List.cons.injEq, and_true] at e1
    obtain ⟨e0, e1, e2, e3, e4, e5, e6, e7, e8⟩ := e1
    have k0 := hel 0 (by omega)
    have k1 := hel 1 (by omega)
    have k2 := hel 2 (by omega)
    have k3 := hel 3 (by omega)
    have k4 := hel 4 (by omega)
    have k5 := hel 5 (by omega)
    have k6 := hel 6 (by omega)
    have k7 := hel 7 (by omega)
    have k8 := hel 8 (by omega)
    obtain ⟨d0, p0⟩ := y0; obtain ⟨d1, p1⟩ := y1; obtain ⟨d2, p2⟩ := y2; obtain ⟨d3, p3⟩ := y3; obtain ⟨d4, p4⟩ := y4
    obtain ⟨d5, p5⟩ := y5; obtain ⟨d6, p6⟩ := y6; obtain ⟨d7, p7⟩ := y7; obtain ⟨d8, p8⟩ := y8
    dsimp only at e0 e1 e2 e3 e4 e5 e6 e7 e8
    subst e0 e1 e2 e3 e4 e5 e6 e7 e8
    have c0 := lead_cells k0
    have c1 := lead_cells k1
    have c2 := lead_cells k2
    have c3 := lead_cells k3
    have c4 := lead_cells k4
    have c5 := lead_cells k5
    have c6 := lead_cells k6
    have c7 := lead_cells k7
    have c8 := lead_cells k8
    simp only [Nat.zero_mul, Nat.one_mul, Nat.reduceMul] at c0 c1 c2 c3 c4 c5 c6 c7 c8
    have hnil : cs.toList.drop 54 = [] := List.drop_eq_nil_of_le (by omega)
    have hall : cs.toList = leadsArr.toList := by
      rw [← List.drop_zero (l := cs.toList), drop6 (m := 6) rfl, c0, drop6 (n := 6) (m := 12) rfl, c1, drop6 (n := 12) (m := 18) rfl, c2, drop6 (n := 18) (m := 24) rfl, c3, drop6 (n := 24) (m := 30) rfl, c4,
        drop6 (n := 30) (m := 36) rfl, c5, drop6 (n := 36) (m := 42) rfl, c6, drop6 (n := 42) (m := 48) rfl, c7, drop6 (n := 48) (m := 54) rfl, c8, hnil]
      rfl
    have hcs : cs = leadsArr := by cases cs; simp only [leadsArr] at *; simpa using hall
    subst hcs
    unfold World.var? at hvar
    rw [gLeads] at hvar
    simp only [Option.bind_some] at hvar
    split at hvar
    · rename_i cs' t' fr' hh
      injection hvar with hvar
      subst hvar
      exact ⟨_, _, hh⟩
    · cases hvar

theorem index_lead0 (w : World) : (Instr.index 109 (.agg leadsArr) (.int .i64 ((0 : Nat) : Int))).run Tryd.prog w = .ok (.agg #[.int .u8 (ldF 0), .int .u8 (ldL 0), .int .u8 (ldM 0), .int .i64 (ldS 0), .int .u8 (ldLo 0), .int .u8 (ldHi 0)]) w := by kernel_rfl
theorem index_lead1 (w : World) : (Instr.index 109 (.agg leadsArr) (.int .i64 ((1 : Nat) : Int))).run Tryd.prog w = .ok (.agg #[.int .u8 (ldF 1), .int .u8 (ldL 1), .int .u8 (ldM 1), .int .i64 (ldS 1), .int .u8 (ldLo 1), .int .u8 (ldHi 1)]) w := by kernel_rfl
theorem index_lead2 (w : World) : (Instr.index 109 (.agg leadsArr) (.int .i64 ((2 : Nat) : Int))).run Tryd.prog w = .ok (.agg #[.int .u8 (ldF 2), .int .u8 (ldL 2), .int .u8 (ldM 2), .int .i64 (ldS 2), .int .u8 (ldLo 2), .int .u8 (ldHi 2)]) w := by kernel_rfl
theorem index_lead3 (w : World) : (Instr.index 109 (.agg leadsArr) (.int .i64 ((3 : Nat) : Int))).run Tryd.prog w = .ok (.agg #[.int .u8 (ldF 3), .int .u8 (ldL 3), .int .u8 (ldM 3), .int .i64 (ldS 3), .int .u8 (ldLo 3), .int .u8 (ldHi 3)]) w := by kernel_rfl
theorem index_lead4 (w : World) : (Instr.index 109 (.agg leadsArr) (.int .i64 ((4 : Nat) : Int))).run Tryd.prog w = .ok (.agg #[.int .u8 (ldF 4), .int .u8 (ldL 4), .int .u8 (ldM 4), .int .i64 (ldS 4), .int .u8 (ldLo 4), .int .u8 (ldHi 4)]) w := by kernel_rfl
theorem index_lead5 (w : World) : (Instr.index 109 (.agg leadsArr) (.int .i64 ((5 : Nat) : Int))).run Tryd.prog w = .ok (.agg #[.int .u8 (ldF 5), .int .u8 (ldL 5), .int .u8 (ldM 5), .int .i64 (ldS 5), .int .u8 (ldLo 5), .int .u8 (ldHi 5)]) w := by kernel_rfl
theorem index_lead6 (w : World) : (Instr.index 109 (.agg leadsArr) (.int .i64 ((6 : Nat) : Int))).run Tryd.prog w = .ok (.agg #[.int .u8 (ldF 6), .int .u8 (ldL 6), .int .u8 (ldM 6), .int .i64 (ldS 6), .int .u8 (ldLo 6), .int .u8 (ldHi 6)]) w := by kernel_rfl
theorem index_lead7 (w : World) : (Instr.index 109 (.agg leadsArr) (.int .i64 ((7 : Nat) : Int))).run Tryd.prog w = .ok (.agg #[.int .u8 (ldF 7), .int .u8 (ldL 7), .int .u8 (ldM 7), .int .i64 (ldS 7), .int .u8 (ldLo 7), .int .u8 (ldHi 7)]) w := by kernel_rfl
theorem index_lead8 (w : World) : (Instr.index 109 (.agg leadsArr) (.int .i64 ((8 : Nat) : Int))).run Tryd.prog w = .ok (.agg #[.int .u8 (ldF 8), .int .u8 (ldL 8), .int .u8 (ldM 8), .int .i64 (ldS 8), .int .u8 (ldLo 8), .int .u8 (ldHi 8)]) w := by kernel_rfl
theorem index_lead (k : Nat) (hk : k < 9) (w : World) : (Instr.index 109 (.agg leadsArr) (.int .i64 ((k : Nat) : Int))).run Tryd.prog w = .ok (.agg #[.int .u8 (ldF k), .int .u8 (ldL k), .int .u8 (ldM k), .int .i64 (ldS k), .int .u8 (ldLo k), .int .u8 (ldHi k)]) w := by
  match k, hk with
  | 0, _ => exact index_lead0 w
  | 1, _ => exact index_lead1 w
  | 2, _ => exact index_lead2 w
  | 3, _ => exact index_lead3 w
  | 4, _ => exact index_lead4 w
  | 5, _ => exact index_lead5 w
  | 6, _ => exact index_lead6 w
  | 7, _ => exact index_lead7 w
  | 8, _ => exact index_lead8 w
theorem Tab.lo {w : World} (h : Tab w) (r : Nat) (hr : r < 9) : w.cell? ⟨0, r * 6 + 4, none⟩ = some (.int .u8 (ldLo r)) := by
  rw [h.cell]
  match r, hr with
  | 0, _ => rfl
  | 1, _ => rfl
  | 2, _ => rfl
  | 3, _ => rfl
  | 4, _ => rfl
  | 5, _ => rfl
  | 6, _ => rfl
  | 7, _ => rfl
  | 8, _ => rfl
theorem Tab.hi {w : World} (h : Tab w) (r : Nat) (hr : r < 9) : w.cell? ⟨0, r * 6 + 5, none⟩ = some (.int .u8 (ldHi r)) := by
  rw [h.cell]
  match r, hr with
  | 0, _ => rfl
  | 1, _ => rfl
  | 2, _ => rfl
  | 3, _ => rfl
  | 4, _ => rfl
  | 5, _ => rfl
  | 6, _ => rfl
  | 7, _ => rfl
  | 8, _ => rfl
theorem Tab.sz {w : World} (h : Tab w) (r : Nat) (hr : r < 9) : w.cell? ⟨0, r * 6 + 3, none⟩ = some (.int .i64 (ldS r)) := by
  rw [h.cell]
  match r, hr with
  | 0, _ => rfl
  | 1, _ => rfl
  | 2, _ => rfl
  | 3, _ => rfl
  | 4, _ => rfl
  | 5, _ => rfl
  | 6, _ => rfl
  | 7, _ => rfl
  | 8, _ => rfl
end Go.Proofs.YtdcfhkiajeiaoaaDoor

/- Contract of utf8.begin. -/
namespace Go.Proofs.YtdcfhkiajeiaoaaDoor
set_option maxRecDepth 100000
open Go.ChangeShapes Go.WideShapes Go.ChangeAt Go.RowKit
set_option linter.unusedVariables false

def lead1 (x : Int) : Bool := decide (lng x ≠ 0)
def NoRow (x : Int) (k : Nat) : Prop := ∀ j, j < k → ¬ (ldF j ≤ x ∧ x ≤ ldL j)
theorem lng_some (x : Int) (h : x ≤ 127 ∨ 194 ≤ x ∧ x ≤ 244) : lng x ≠ 0 := by unfold lng; ((repeat' split) <;> omega)
theorem lng_none (x : Int) (h : ¬ (x ≤ 127 ∨ 194 ≤ x ∧ x ≤ 244)) : lng x = 0 := by unfold lng; ((repeat' split) <;> omega)
set_option maxHeartbeats 2000000 in
theorem row_hit (x : Int) (k : Nat) (h0 : 0 ≤ x) (h1 : x ≤ 255) (hk : k < 9) (a : ldF k ≤ x) (b : x ≤ ldL k) : lng x ≠ 0 ∧ rowOf x = k ∧ ldM k = mkT x ∧ 0 ≤ x - mkT x := by
  have hm : rowOf x = k → mkT x = ldM k → 0 ≤ x - ldM k → lng x ≠ 0 → lng x ≠ 0 ∧ rowOf x = k ∧ ldM k = mkT x ∧ 0 ≤ x - mkT x := fun p q r t => ⟨t, p, q.symm, by omega⟩
  match k, hk with
  | 0, _ => exact hm (by unfold rowOf; have a' : (0 : Int) ≤ x := a; have b' : x ≤ 127 := b; ((repeat' split) <;> omega)) (by have a' : (0 : Int) ≤ x := a; have b' : x ≤ 127 := b; show mkT x = 0; unfold mkT; ((repeat' split) <;> omega)) (by have a' : (0 : Int) ≤ x := a; show 0 ≤ x - 0; omega) (lng_some x (by have a' : (0 : Int) ≤ x := a; have b' : x ≤ 127 := b; omega))
  | 1, _ => exact hm (by unfold rowOf; have a' : (194 : Int) ≤ x := a; have b' : x ≤ 223 := b; ((repeat' split) <;> omega)) (by have a' : (194 : Int) ≤ x := a; have b' : x ≤ 223 := b; show mkT x = 192; unfold mkT; ((repeat' split) <;> omega)) (by have a' : (194 : Int) ≤ x := a; show 0 ≤ x - 192; omega) (lng_some x (by have a' : (194 : Int) ≤ x := a; have b' : x ≤ 223 := b; omega))
  | 2, _ => exact hm (by unfold rowOf; have a' : (224 : Int) ≤ x := a; have b' : x ≤ 224 := b; ((repeat' split) <;> omega)) (by have a' : (224 : Int) ≤ x := a; have b' : x ≤ 224 := b; show mkT x = 224; unfold mkT; ((repeat' split) <;> omega)) (by have a' : (224 : Int) ≤ x := a; show 0 ≤ x - 224; omega) (lng_some x (by have a' : (224 : Int) ≤ x := a; have b' : x ≤ 224 := b; omega))
  | 3, _ => exact hm (by unfold rowOf; have a' : (225 : Int) ≤ x := a; have b' : x ≤ 236 := b; ((repeat' split) <;> omega)) (by have a' : (225 : Int) ≤ x := a; have b' : x ≤ 236 := b; show mkT x = 224; unfold mkT; ((repeat' split) <;> omega)) (by have a' : (225 : Int) ≤ x := a; show 0 ≤ x - 224; omega) (lng_some x (by have a' : (225 : Int) ≤ x := a; have b' : x ≤ 236 := b; omega))
  | 4, _ => exact hm (by unfold rowOf; have a' : (237 : Int) ≤ x := a; have b' : x ≤ 237 := b; ((repeat' split) <;> omega)) (by have a' : (237 : Int) ≤ x := a; have b' : x ≤ 237 := b; show mkT x = 224; unfold mkT; ((repeat' split) <;> omega)) (by have a' : (237 : Int) ≤ x := a; show 0 ≤ x - 224; omega) (lng_some x (by have a' : (237 : Int) ≤ x := a; have b' : x ≤ 237 := b; omega))
  | 5, _ => exact hm (by unfold rowOf; have a' : (238 : Int) ≤ x := a; have b' : x ≤ 239 := b; ((repeat' split) <;> omega)) (by have a' : (238 : Int) ≤ x := a; have b' : x ≤ 239 := b; show mkT x = 224; unfold mkT; ((repeat' split) <;> omega)) (by have a' : (238 : Int) ≤ x := a; show 0 ≤ x - 224; omega) (lng_some x (by have a' : (238 : Int) ≤ x := a; have b' : x ≤ 239 := b; omega))
  | 6, _ => exact hm (by unfold rowOf; have a' : (240 : Int) ≤ x := a; have b' : x ≤ 240 := b; ((repeat' split) <;> omega)) (by have a' : (240 : Int) ≤ x := a; have b' : x ≤ 240 := b; show mkT x = 240; unfold mkT; ((repeat' split) <;> omega)) (by have a' : (240 : Int) ≤ x := a; show 0 ≤ x - 240; omega) (lng_some x (by have a' : (240 : Int) ≤ x := a; have b' : x ≤ 240 := b; omega))
  | 7, _ => exact hm (by unfold rowOf; have a' : (241 : Int) ≤ x := a; have b' : x ≤ 243 := b; ((repeat' split) <;> omega)) (by have a' : (241 : Int) ≤ x := a; have b' : x ≤ 243 := b; show mkT x = 240; unfold mkT; ((repeat' split) <;> omega)) (by have a' : (241 : Int) ≤ x := a; show 0 ≤ x - 240; omega) (lng_some x (by have a' : (241 : Int) ≤ x := a; have b' : x ≤ 243 := b; omega))
  | 8, _ => exact hm (by unfold rowOf; have a' : (244 : Int) ≤ x := a; have b' : x ≤ 244 := b; ((repeat' split) <;> omega)) (by have a' : (244 : Int) ≤ x := a; have b' : x ≤ 244 := b; show mkT x = 240; unfold mkT; ((repeat' split) <;> omega)) (by have a' : (244 : Int) ≤ x := a; show 0 ≤ x - 240; omega) (lng_some x (by have a' : (244 : Int) ≤ x := a; have b' : x ≤ 244 := b; omega))
theorem row_none (x : Int) (h0 : 0 ≤ x) (h1 : x ≤ 255) (h : NoRow x 9) : lng x = 0 := by
  have k0 : ¬ ((0 : Int) ≤ x ∧ x ≤ 127) := h 0 (by omega)
  have k1 : ¬ ((194 : Int) ≤ x ∧ x ≤ 223) := h 1 (by omega)
  have k2 : ¬ ((224 : Int) ≤ x ∧ x ≤ 224) := h 2 (by omega)
  have k3 : ¬ ((225 : Int) ≤ x ∧ x ≤ 236) := h 3 (by omega)
  have k4 : ¬ ((237 : Int) ≤ x ∧ x ≤ 237) := h 4 (by omega)
  have k5 : ¬ ((238 : Int) ≤ x ∧ x ≤ 239) := h 5 (by omega)
  have k6 : ¬ ((240 : Int) ≤ x ∧ x ≤ 240) := h 6 (by omega)
  have k7 : ¬ ((241 : Int) ≤ x ∧ x ≤ 243) := h 7 (by omega)
  have k8 : ¬ ((244 : Int) ≤ x ∧ x ≤ 244) := h 8 (by omega)
  exact lng_none x (by omega)
theorem ld_bd (k : Nat) (hk : k < 9) : (0 ≤ ldF k ∧ ldF k ≤ 255) ∧ (0 ≤ ldL k ∧ ldL k ≤ 255) ∧ (0 ≤ ldM k ∧ ldM k ≤ 255) := by
  match k, hk with
  | 0, _ => decide
  | 1, _ => decide
  | 2, _ => decide
  | 3, _ => decide
  | 4, _ => decide
  | 5, _ => decide
  | 6, _ => decide
  | 7, _ => decide
  | 8, _ => decide
def bgL (x : Int) : Int := if lng x = 0 then 0 else 1
def bgR (x : Int) : Int := if lng x = 0 then 0 else rowOf x
def bgB (x : Int) : Int := if lng x = 0 then 0 else x - mkT x

set_option maxHeartbeats 1000000 in
theorem begin_any (x : Int) (w : World) (h0 : 0 ≤ x) (h1 : x ≤ 255) (hT : Tab w) :
    Calls Tryd.prog 86 #[.int .u8 x] w fun e w' => e = .returned (.tuple #[.agg #[.int .i64 (bgL x), .int .i64 (bgR x), .int .i32 (bgB x)], .bool (lead1 x)]) ∧ Below w.heap.size w w' := by
  have hT' := hT
  obtain ⟨tt, fr, hg⟩ := hT'
  have HG := Lib.hid hg
  clear hg
  go_enter Tryd.func86, Tryd.ntmps86
  go_wp2_with (refine wpList_load_row rfl 109 _ rfl 0 rfl tt leadsArr fr _ (by rw [Below.heap_alloc _ _ _ hT.lt]; exact HG.out) Tryd.underlying109 rfl (by kernel_rfl) ?_)
  generalize hW0 : w.alloc (Obj.cells #[Value.int IntKind.i64 0, Value.int IntKind.i64 0, Value.int IntKind.i32 0] 104) = W0
  have b0 : Below w.heap.size w W0 := by rw [← hW0]; exact (Below.refl _ _).alloc (Nat.le_refl _) _
  have k0 : Blk W0 w.heap.size 104 #[Value.int IntKind.i64 0, Value.int IntKind.i64 0, Value.int IntKind.i32 0] := by rw [← hW0]; exact Blk.new w _ _
  have z0 : w.heap.size < W0.heap.size := by rw [← hW0]; simp
  clear hW0
  go_loopw [7] (fun i w1 => ∃ k : Nat, k ≤ 9 ∧ i = .int .i64 k ∧ Below W0.heap.size W0 w1 ∧ NoRow x k) (fun i _ => 9 - (intOf i).toNat)
  case atStart => exact ⟨0, by omega, rfl, Below.refl _ _, fun j hj => by omega⟩
  case round =>
    obtain ⟨k, hk, rfl, hb, hn⟩ := hrel
    by_cases hlt : k < 9
    · have hi := index_lead k hlt
      have hbd := ld_bd k hlt
      have kr := k0.below hb z0
      have KR := Lib.hid kr
      have c0 : wr.cell? ⟨w.heap.size, 0, none⟩ = some (.int .i64 0) := kr.cell 0
      have c1 : wr.cell? ⟨w.heap.size, 1, none⟩ = some (.int .i64 0) := kr.cell 1
      have c2 : wr.cell? ⟨w.heap.size, 2, none⟩ = some (.int .i32 0) := kr.cell 2
      have f0 : wr.frozen? ⟨w.heap.size, 0, none⟩ = false := kr.frozen 0
      have f1 : wr.frozen? ⟨w.heap.size, 1, none⟩ = false := kr.frozen 1
      have f2 : wr.frozen? ⟨w.heap.size, 2, none⟩ = false := kr.frozen 2
      have hz : w.heap.size < wr.heap.size := by have := hb.size; omega
      have hlt' : (k : Int) < 9 := by omega
      clear kr
      by_cases ha : ldF k ≤ x
      · by_cases hc : x ≤ ldL k
        · obtain ⟨r1, r2, r3, r4⟩ := row_hit x k h0 h1 hlt ha hc
          have r5 : ldM k ≤ x := by omega
          have HP : Hid (bgL x = 1 ∧ bgR x = k ∧ bgB x = x - ldM k ∧ lead1 x = true) := ⟨by simp [bgL, r1], by simp [bgR, r1, r2], by simp [bgB, r1, r3], by simp [lead1, r1]⟩
          have HB := Lib.hid hb
          clear r1 r2 r3 r4 hb
          go_wp2
          refine bodyPost_ret (results_blk Tryd.results86 _ _ _ _ _ _ rfl ((((KR.out.set 0 _).set 1 _).set 2 _).alloc _) Tryd.underlying104 rfl (by kernel_rfl)) rfl ?_
          obtain ⟨p1, p2, p3, p4⟩ := HP.out
          refine ⟨by rw [p1, p2, p3, p4]; rfl, ?_⟩
          have hbb := b0.trans (HB.out.mono (Nat.le_of_lt z0))
          exact (((hbb.setCell (p := ⟨w.heap.size, 0, none⟩) (Nat.le_refl _) _).setCell (p := ⟨w.heap.size, 1, none⟩) (Nat.le_refl _) _).setCell (p := ⟨w.heap.size, 2, none⟩) (Nat.le_refl _) _).alloc (by simp [World.setCell]; omega) _
        · have hc' : ldL k < x := by omega
          go_wp2
          go_roundw
          case rel => exact ⟨k + 1, by omega, by go_num, hb.alloc hb.size _, fun j hj hh => by
            rcases Nat.lt_or_ge j k with h | h
            · exact hn j h hh
            · have : j = k := by omega
              subst this; exact hc hh.2⟩
          case measure => simp [intOf]; omega
      · have ha' : decide (ldF k ≤ x) = false := decide_eq_false ha
        go_wp2
        go_roundw
        case rel => exact ⟨k + 1, by omega, by go_num, hb.alloc hb.size _, fun j hj hh => by
            rcases Nat.lt_or_ge j k with h | h
            · exact hn j h hh
            · have : j = k := by omega
              subst this; exact ha hh.1⟩
        case measure => simp [intOf]; omega
    · have kr := k0.below hb z0
      have KR := Lib.hid kr
      have c0 : wr.cell? ⟨w.heap.size, 0, none⟩ = some (.int .i64 0) := kr.cell 0
      have c1 : wr.cell? ⟨w.heap.size, 1, none⟩ = some (.int .i64 0) := kr.cell 1
      have c2 : wr.cell? ⟨w.heap.size, 2, none⟩ = some (.int .i32 0) := kr.cell 2
      have f0 : wr.frozen? ⟨w.heap.size, 0, none⟩ = false := kr.frozen 0
      have f1 : wr.frozen? ⟨w.heap.size, 1, none⟩ = false := kr.frozen 1
      have f2 : wr.frozen? ⟨w.heap.size, 2, none⟩ = false := kr.frozen 2
      have hz : w.heap.size < wr.heap.size := by have := hb.size; omega
      have hk9 : k = 9 := by omega
      subst hk9
      have r1 := row_none x h0 h1 hn
      have HP : Hid (bgL x = 0 ∧ bgR x = 0 ∧ bgB x = 0 ∧ lead1 x = false) := ⟨by simp [bgL, r1], by simp [bgR, r1], by simp [bgB, r1], by simp [lead1, r1]⟩
      clear r1
      go_wp2
      refine bodyPost_ret (results_blk Tryd.results86 _ _ _ _ _ _ rfl (((KR.out.set 0 _).set 1 _).set 2 _) Tryd.underlying104 rfl (by kernel_rfl)) rfl ?_
      obtain ⟨p1, p2, p3, p4⟩ := HP.out
      refine ⟨by rw [p1, p2, p3, p4]; rfl, ?_⟩
      have hbb := b0.trans (hb.mono (Nat.le_of_lt z0))
      exact ((hbb.setCell (p := ⟨w.heap.size, 0, none⟩) (Nat.le_refl _) _).setCell (p := ⟨w.heap.size, 1, none⟩) (Nat.le_refl _) _).setCell (p := ⟨w.heap.size, 2, none⟩) (Nat.le_refl _) _
end Go.Proofs.YtdcfhkiajeiaoaaDoor

/- Contracts of utf8.Reader's methods. -/
namespace Go.Proofs.YtdcfhkiajeiaoaaDoor
set_option maxRecDepth 100000
open Go.ChangeShapes Go.WideShapes Go.ChangeAt Go.RowKit
set_option linter.unusedVariables false

theorem or_tail (b x : Int) (b0 : 0 ≤ b) (b1 : b < 32768) (h0 : 128 ≤ x) (h1 : x ≤ 191) : bits .or .i32 (b * 64) (wrap32 (x % 64)) = b * 64 + (x - 128) := by
  have e : wrap32 (x % 64) = x - 128 := by rw [IntWalk.wrap32_in _ (by omega)]; omega
  rw [e]; clear e
  have e1 : 0 ≤ x - 128 := by omega
  have e2 : x - 128 < 64 := by omega
  generalize x - 128 = y at *
  exact i32_or6 _ _ (by omega) (by omega) (by omega) e1 e2
theorem left_any (g : Nat) (l r b : Int) (w : World) (hk : Blk w g 104 #[.int .i64 l, .int .i64 r, .int .i32 b]) :
    Calls Tryd.prog 78 #[.pointer (some ⟨g, 0, none⟩)] w fun e w' => e = .returned (.int .i64 l) ∧ w = w' := by
  have c0 : w.cell? ⟨g, 0, none⟩ = some (.int .i64 l) := hk.cell 0
  clear hk
  go_enter Tryd.func78, Tryd.ntmps78
  go_wp2
  go_ret
  exact ⟨rfl, rfl⟩

theorem new_any (w : World) :
    Calls Tryd.prog 76 #[] w fun e w' => e = .returned (.pointer (some ⟨w.heap.size, 0, none⟩)) ∧ w.alloc (.cells #[.int .i64 0, .int .i64 0, .int .i32 0] 104) = w' := by
  go_enter Tryd.func76, Tryd.ntmps76
  go_wp2
  go_ret
  exact ⟨rfl, rfl⟩

def folB (l : Int) (r : Nat) (x : Int) : Bool := if l = 1 then decide (ldLo r ≤ x ∧ x ≤ ldHi r) else decide (128 ≤ x ∧ x ≤ 191)
theorem follows_one (g : Nat) (r : Nat) (b x : Int) (w : World) (hr : r < 9) (hk : Blk w g 104 #[.int .i64 1, .int .i64 r, .int .i32 b]) (hT : Tab w) :
    Calls Tryd.prog 87 #[.pointer (some ⟨g, 0, none⟩), .int .u8 x] w fun e w' => e = .returned (.bool (folB 1 r x)) ∧ w = w' := by
  have c0 : w.cell? ⟨g, 0, none⟩ = some (.int .i64 1) := hk.cell 0
  have c1 : w.cell? ⟨g, 1, none⟩ = some (.int .i64 r) := hk.cell 1
  have t0 := hT.lo r hr
  have t1 := hT.hi r hr
  clear hk hT
  by_cases ha : ldLo r ≤ x
  · have e : folB 1 r x = decide (x ≤ ldHi r) := by simp [folB, ha]
    rw [e]; clear e
    go_enter Tryd.func87, Tryd.ntmps87
    go_wp2
    go_ret
    exact ⟨rfl, rfl⟩
  · have e : folB 1 r x = false := by simp [folB, ha]
    rw [e]; clear e
    have ha' : decide (ldLo r ≤ x) = false := decide_eq_false ha
    go_enter Tryd.func87, Tryd.ntmps87
    go_wp2
    go_ret
    exact ⟨rfl, rfl⟩
theorem follows_more (g : Nat) (l r : Int) (b x : Int) (w : World) (hl : l ≠ 1) (hk : Blk w g 104 #[.int .i64 l, .int .i64 r, .int .i32 b]) :
    Calls Tryd.prog 87 #[.pointer (some ⟨g, 0, none⟩), .int .u8 x] w fun e w' => e = .returned (.bool (tlB x)) ∧ w = w' := by
  have c0 : w.cell? ⟨g, 0, none⟩ = some (.int .i64 l) := hk.cell 0
  have hl' : (l == 1) = false := beq_eq_false_iff_ne.2 hl
  clear hk hl
  by_cases ha : 128 ≤ x
  · have e : tlB x = decide (x ≤ 191) := by simp [tlB, ha]
    rw [e]; clear e
    go_enter Tryd.func87, Tryd.ntmps87
    go_wp2
    go_ret
    exact ⟨rfl, rfl⟩
  · have e : tlB x = false := by simp [tlB, ha]
    rw [e]; clear e
    have ha' : decide (128 ≤ x) = false := decide_eq_false ha
    go_enter Tryd.func87, Tryd.ntmps87
    go_wp2
    go_ret
    exact ⟨rfl, rfl⟩

theorem with_zero (g : Nat) (x : Int) (w : World) (h0 : 0 ≤ x) (h1 : x ≤ 255) (hk : Blk w g 104 #[.int .i64 0, .int .i64 0, .int .i32 0]) (hT : Tab w) :
    Calls Tryd.prog 84 #[.pointer (some ⟨g, 0, none⟩), .int .u8 x] w fun e w' => e = .returned (.tuple #[.agg #[.int .i64 (bgL x), .int .i64 (bgR x), .int .i32 (bgB x)], .bool (lead1 x)]) ∧ Below w.heap.size w w' := by
  have c0 : w.cell? ⟨g, 0, none⟩ = some (.int .i64 0) := hk.cell 0
  have hgl := hk.lt
  clear hk
  go_enter Tryd.func84, Tryd.ntmps84
  go_wp2_with fail
  generalize hW0 : w.alloc (Obj.cells #[Value.int IntKind.i64 0, Value.int IntKind.i64 0, Value.int IntKind.i32 0] 104) = W0
  have b0 : Below w.heap.size w W0 := by rw [← hW0]; exact (Below.refl _ _).alloc (Nat.le_refl _) _
  have k0 : Blk W0 w.heap.size 104 #[Value.int IntKind.i64 0, Value.int IntKind.i64 0, Value.int IntKind.i32 0] := by rw [← hW0]; exact Blk.new w _ _
  have z0 : w.heap.size < W0.heap.size := by rw [← hW0]; simp
  clear hW0
  with_reducible refine (begin_any _ _ h0 h1 (hT.below' b0)).mono ?_
  rintro e w1 ⟨rfl, hb⟩
  have kr := k0.below hb z0
  have KR := Lib.hid kr
  have HB := Lib.hid hb
  have e0 : w1.cell? ⟨w.heap.size, 0, none⟩ = some (.int .i64 0) := kr.cell 0
  have e1 : w1.cell? ⟨w.heap.size, 1, none⟩ = some (.int .i64 0) := kr.cell 1
  have e2 : w1.cell? ⟨w.heap.size, 2, none⟩ = some (.int .i32 0) := kr.cell 2
  have f0 : w1.frozen? ⟨w.heap.size, 0, none⟩ = false := kr.frozen 0
  have f1 : w1.frozen? ⟨w.heap.size, 1, none⟩ = false := kr.frozen 1
  have f2 : w1.frozen? ⟨w.heap.size, 2, none⟩ = false := kr.frozen 2
  clear kr hb k0
  go_wp2
  refine bodyPost_ret (results_blk Tryd.results84 _ _ _ _ _ _ rfl (((KR.out.set 0 _).set 1 _).set 2 _) Tryd.underlying104 rfl (by kernel_rfl)) rfl ?_
  refine ⟨rfl, ?_⟩
  have hbb := b0.trans (HB.out.mono (Nat.le_of_lt z0))
  exact ((hbb.setCell (p := ⟨w.heap.size, 0, none⟩) (Nat.le_refl _) _).setCell (p := ⟨w.heap.size, 1, none⟩) (Nat.le_refl _) _).setCell (p := ⟨w.heap.size, 2, none⟩) (Nat.le_refl _) _

set_option maxHeartbeats 1000000 in
theorem with_yes (g : Nat) (l r b x : Int) (F : Bool) (w : World) (h0 : 128 ≤ x) (h1 : x ≤ 191) (l1 : 1 ≤ l) (l2 : l ≤ 3) (b0 : 0 ≤ b) (b1 : b < 32768) (hk : Blk w g 104 #[.int .i64 l, .int .i64 r, .int .i32 b])
    (hf : ∀ w', Blk w' g 104 #[.int .i64 l, .int .i64 r, .int .i32 b] → Below w.heap.size w w' → Calls Tryd.prog 87 #[.pointer (some ⟨g, 0, none⟩), .int .u8 x] w' fun e w'' => e = .returned (.bool true) ∧ w' = w'') :
    Calls Tryd.prog 84 #[.pointer (some ⟨g, 0, none⟩), .int .u8 x] w fun e w' => e = .returned (.tuple #[.agg #[.int .i64 (l + 1), .int .i64 r, .int .i32 (b * 64 + (x - 128))], .bool true]) ∧ Below w.heap.size w w' := by
  have c0 : w.cell? ⟨g, 0, none⟩ = some (.int .i64 l) := hk.cell 0
  have c1 : w.cell? ⟨g, 1, none⟩ = some (.int .i64 r) := hk.cell 1
  have c2 : w.cell? ⟨g, 2, none⟩ = some (.int .i32 b) := hk.cell 2
  have hgl := hk.lt
  have hl0 : (l == 0) = false := beq_eq_false_iff_ne.2 (by omega)
  have HK := Lib.hid hk
  have HF := Lib.hid hf
  clear hk hf
  go_enter Tryd.func84, Tryd.ntmps84
  go_wp2_with fail
  with_reducible refine (HF.out _ (HK.out.alloc _) ((Below.refl _ _).alloc (Nat.le_refl _) _)).mono ?_
  rintro e w1 ⟨rfl, rfl⟩
  go_wp2
  have kz := Blk.new w 104 #[Value.int IntKind.i64 0, Value.int IntKind.i64 0, Value.int IntKind.i32 0]
  have kg := HK.out.alloc (Obj.cells #[Value.int IntKind.i64 0, Value.int IntKind.i64 0, Value.int IntKind.i32 0] 104)
  have hb := (Below.refl w.heap.size w).alloc (Nat.le_refl _) (Obj.cells #[Value.int IntKind.i64 0, Value.int IntKind.i64 0, Value.int IntKind.i32 0] 104)
  generalize w.alloc (Obj.cells #[Value.int IntKind.i64 0, Value.int IntKind.i64 0, Value.int IntKind.i32 0] 104) = W0 at kz kg hb ⊢
  refine wp_region_still_tail 19 (by kernel_rfl) (by kernel_rfl) ?_
  simp only [List.take_succ_cons, List.take_zero, List.drop_succ_cons, List.drop_zero]
  generalize hW1 : ({ W0 with drawn := W0.drawn + 1 } : World) = W1
  have kz1 : Blk W1 w.heap.size 104 #[Value.int IntKind.i64 0, Value.int IntKind.i64 0, Value.int IntKind.i32 0] := by rw [← hW1]; exact kz
  have kg1 : Blk W1 g 104 #[.int .i64 l, .int .i64 r, .int .i32 b] := by rw [← hW1]; exact kg
  have hb1 : Below w.heap.size w W1 := by rw [← hW1]; exact hb.drew
  clear hW1 kz kg hb c0 c1 c2
  have c0 : W1.cell? ⟨g, 0, none⟩ = some (.int .i64 l) := kg1.cell 0
  have c1 : W1.cell? ⟨g, 1, none⟩ = some (.int .i64 r) := kg1.cell 1
  have c2 : W1.cell? ⟨g, 2, none⟩ = some (.int .i32 b) := kg1.cell 2
  have e0 : W1.cell? ⟨w.heap.size, 0, none⟩ = some (.int .i64 0) := kz1.cell 0
  have e1 : W1.cell? ⟨w.heap.size, 1, none⟩ = some (.int .i64 0) := kz1.cell 1
  have e2 : W1.cell? ⟨w.heap.size, 2, none⟩ = some (.int .i32 0) := kz1.cell 2
  have f0 : W1.frozen? ⟨w.heap.size, 0, none⟩ = false := kz1.frozen 0
  have f1 : W1.frozen? ⟨w.heap.size, 1, none⟩ = false := kz1.frozen 1
  have f2 : W1.frozen? ⟨w.heap.size, 2, none⟩ = false := kz1.frozen 2
  have KZ := Lib.hid kz1
  have HB := Lib.hid hb1
  clear kz1 kg1 hb1
  repeat still_step
  refine wpStill_nil ?_
  go_wp2
  have eo := or_tail b x b0 b1 h0 h1
  refine bodyPost_ret (results_blk Tryd.results84 _ _ _ _ _ _ rfl (((KZ.out.set 0 _).set 1 _).set 2 _) Tryd.underlying104 rfl (by kernel_rfl)) rfl ?_
  refine ⟨by rw [← eo]; rfl, ?_⟩
  exact ((HB.out.setCell (p := ⟨w.heap.size, 0, none⟩) (Nat.le_refl _) _).setCell (p := ⟨w.heap.size, 1, none⟩) (Nat.le_refl _) _).setCell (p := ⟨w.heap.size, 2, none⟩) (Nat.le_refl _) _

theorem with_no (g : Nat) (l r b x : Int) (w : World) (l1 : 1 ≤ l) (l2 : l ≤ 3) (hk : Blk w g 104 #[.int .i64 l, .int .i64 r, .int .i32 b])
    (hf : ∀ w', Blk w' g 104 #[.int .i64 l, .int .i64 r, .int .i32 b] → Below w.heap.size w w' → Calls Tryd.prog 87 #[.pointer (some ⟨g, 0, none⟩), .int .u8 x] w' fun e w'' => e = .returned (.bool false) ∧ w' = w'') :
    Calls Tryd.prog 84 #[.pointer (some ⟨g, 0, none⟩), .int .u8 x] w fun e w' => e = .returned (.tuple #[.agg #[.int .i64 0, .int .i64 0, .int .i32 0], .bool false]) ∧ Below w.heap.size w w' := by
  have c0 : w.cell? ⟨g, 0, none⟩ = some (.int .i64 l) := hk.cell 0
  have hgl := hk.lt
  have hl0 : (l == 0) = false := beq_eq_false_iff_ne.2 (by omega)
  have HK := Lib.hid hk
  have HF := Lib.hid hf
  clear hk hf
  go_enter Tryd.func84, Tryd.ntmps84
  go_wp2_with fail
  with_reducible refine (HF.out _ (HK.out.alloc _) ((Below.refl _ _).alloc (Nat.le_refl _) _)).mono ?_
  rintro e w1 ⟨rfl, rfl⟩
  have kz := Blk.new w 104 #[Value.int IntKind.i64 0, Value.int IntKind.i64 0, Value.int IntKind.i32 0]
  have hb := (Below.refl w.heap.size w).alloc (Nat.le_refl _) (Obj.cells #[Value.int IntKind.i64 0, Value.int IntKind.i64 0, Value.int IntKind.i32 0] 104)
  generalize w.alloc (Obj.cells #[Value.int IntKind.i64 0, Value.int IntKind.i64 0, Value.int IntKind.i32 0] 104) = W1 at kz hb ⊢
  have e0 : W1.cell? ⟨w.heap.size, 0, none⟩ = some (.int .i64 0) := kz.cell 0
  have e1 : W1.cell? ⟨w.heap.size, 1, none⟩ = some (.int .i64 0) := kz.cell 1
  have e2 : W1.cell? ⟨w.heap.size, 2, none⟩ = some (.int .i32 0) := kz.cell 2
  have f0 : W1.frozen? ⟨w.heap.size, 0, none⟩ = false := kz.frozen 0
  have f1 : W1.frozen? ⟨w.heap.size, 1, none⟩ = false := kz.frozen 1
  have f2 : W1.frozen? ⟨w.heap.size, 2, none⟩ = false := kz.frozen 2
  have KZ := Lib.hid kz
  have HB := Lib.hid hb
  clear kz hb
  go_wp2
  refine bodyPost_ret (results_blk Tryd.results84 _ _ _ _ _ _ rfl (((KZ.out.set 0 _).set 1 _).set 2 _) Tryd.underlying104 rfl (by kernel_rfl)) rfl ?_
  refine ⟨rfl, ?_⟩
  exact ((HB.out.setCell (p := ⟨w.heap.size, 0, none⟩) (Nat.le_refl _) _).setCell (p := ⟨w.heap.size, 1, none⟩) (Nat.le_refl _) _).setCell (p := ⟨w.heap.size, 2, none⟩) (Nat.le_refl _) _

/-- what 'with' hands back, told of one call -/
def WithIs (g : Nat) (x l' r' b' : Int) (ok : Bool) (w : World) : Prop :=
  Calls Tryd.prog 84 #[.pointer (some ⟨g, 0, none⟩), .int .u8 x] w fun e w' => e = .returned (.tuple #[.agg #[.int .i64 l', .int .i64 r', .int .i32 b'], .bool ok]) ∧ Below w.heap.size w w'

theorem WithIs.calls {g : Nat} {x l' r' b' : Int} {ok : Bool} {w : World} (h : WithIs g x l' r' b' ok w) :
  Calls Tryd.prog 84 #[.pointer (some ⟨g, 0, none⟩), .int .u8 x] w fun e w' => e = .returned (.tuple #[.agg #[.int .i64 l', .int .i64 r', .int .i32 b'], .bool ok]) ∧ Below w.heap.size w w' := h

theorem push_refused (g : Nat) (x l r b l' r' b' : Int) (w : World) (hk : Blk w g 104 #[.int .i64 l, .int .i64 r, .int .i32 b]) (hw : WithIs g x l' r' b' false w) :
    Calls Tryd.prog 77 #[.pointer (some ⟨g, 0, none⟩), .int .u8 x] w fun e w' => e = .returned (.tuple #[.int .i32 0, .int .i64 3]) ∧ Blk w' g 104 #[.int .i64 l, .int .i64 r, .int .i32 b] ∧ But g w w' := by
  have HK := Lib.hid hk
  clear hk
  go_enter Tryd.func77, Tryd.ntmps77
  go_wp2_with fail
  with_reducible refine hw.calls.mono ?_
  rintro e w1 ⟨rfl, hb⟩
  have HB := Lib.hid hb
  clear hb hw
  go_wp2
  go_ret2
  have hb2 := HB.out.alloc HB.out.size (Obj.cells #[Value.int IntKind.i64 l', Value.int IntKind.i64 r', Value.int IntKind.i32 b'] 104)
  exact ⟨rfl, HK.out.below hb2 HK.out.lt, But.of_below hb2⟩
set_option maxHeartbeats 1000000 in
theorem push_begun (g : Nat) (x l r b l' b' : Int) (r' : Nat) (w : World) (hr : r' < 9) (hl : l' < ldS r') (hT : Tab w) (hk : Blk w g 104 #[.int .i64 l, .int .i64 r, .int .i32 b]) (hw : WithIs g x l' r' b' true w) :
    Calls Tryd.prog 77 #[.pointer (some ⟨g, 0, none⟩), .int .u8 x] w fun e w' => e = .returned (.tuple #[.int .i32 0, .int .i64 1]) ∧ Blk w' g 104 #[.int .i64 l', .int .i64 r', .int .i32 b'] ∧ But g w w' := by
  have HK := Lib.hid hk
  clear hk
  go_enter Tryd.func77, Tryd.ntmps77
  go_wp2_with fail
  with_reducible refine hw.calls.mono ?_
  rintro e w1 ⟨rfl, hb⟩
  have k1 := HK.out.below hb HK.out.lt
  have t1 := (hT.below' hb).sz r' hr
  have ht1 := (hT.below' hb).lt
  have hz := k1.lt
  have c0 : w1.cell? ⟨g, 0, none⟩ = some (.int .i64 l) := k1.cell 0
  have c1 : w1.cell? ⟨g, 1, none⟩ = some (.int .i64 r) := k1.cell 1
  have c2 : w1.cell? ⟨g, 2, none⟩ = some (.int .i32 b) := k1.cell 2
  have f0 : w1.frozen? ⟨g, 0, none⟩ = false := k1.frozen 0
  have f1 : w1.frozen? ⟨g, 1, none⟩ = false := k1.frozen 1
  have f2 : w1.frozen? ⟨g, 2, none⟩ = false := k1.frozen 2
  have hr9 : (r' : Int) < 9 := by omega
  have HB := Lib.hid hb
  have K1 := Lib.hid k1
  clear hb hw k1
  go_wp2
  go_quiet (fail)
  go_wp2
  go_ret2
  have ka := ((K1.out.alloc (Obj.cells #[Value.int IntKind.i64 l', Value.int IntKind.i64 r', Value.int IntKind.i32 b'] 104)).drewN nq)
  refine ⟨rfl, ((ka.set 0 _).set 1 _).set 2 _, ?_⟩
  have hb2 : But g w _ := But.of_below (below_drewN' (HB.out.alloc HB.out.size (Obj.cells #[Value.int IntKind.i64 l', Value.int IntKind.i64 r', Value.int IntKind.i32 b'] 104)) nq)
  exact ((hb2.set 0 _).set 1 _).set 2 _
set_option maxHeartbeats 1000000 in
theorem push_whole (g : Nat) (x l r b l' b' : Int) (r' : Nat) (w : World) (hr : r' < 9) (hl : ¬ l' < ldS r') (hT : Tab w) (hk : Blk w g 104 #[.int .i64 l, .int .i64 r, .int .i32 b]) (hw : WithIs g x l' r' b' true w) :
    Calls Tryd.prog 77 #[.pointer (some ⟨g, 0, none⟩), .int .u8 x] w fun e w' => e = .returned (.tuple #[.int .i32 b', .int .i64 2]) ∧ Blk w' g 104 #[.int .i64 0, .int .i64 0, .int .i32 0] ∧ But g w w' := by
  have HK := Lib.hid hk
  clear hk
  have hl' : decide (l' < ldS r') = false := decide_eq_false hl
  go_enter Tryd.func77, Tryd.ntmps77
  go_wp2_with fail
  with_reducible refine hw.calls.mono ?_
  rintro e w1 ⟨rfl, hb⟩
  have k1 := HK.out.below hb HK.out.lt
  have t1 := (hT.below' hb).sz r' hr
  have ht1 := (hT.below' hb).lt
  have hz := k1.lt
  have c0 : w1.cell? ⟨g, 0, none⟩ = some (.int .i64 l) := k1.cell 0
  have c1 : w1.cell? ⟨g, 1, none⟩ = some (.int .i64 r) := k1.cell 1
  have c2 : w1.cell? ⟨g, 2, none⟩ = some (.int .i32 b) := k1.cell 2
  have f0 : w1.frozen? ⟨g, 0, none⟩ = false := k1.frozen 0
  have f1 : w1.frozen? ⟨g, 1, none⟩ = false := k1.frozen 1
  have f2 : w1.frozen? ⟨g, 2, none⟩ = false := k1.frozen 2
  have hr9 : (r' : Int) < 9 := by omega
  have HB := Lib.hid hb
  have K1 := Lib.hid k1
  clear hb hw k1
  go_wp2
  go_quiet (fail)
  go_wp2
  go_ret2
  have ka := ((K1.out.alloc (Obj.cells #[Value.int IntKind.i64 l', Value.int IntKind.i64 r', Value.int IntKind.i32 b'] 104)).drewN nq)
  refine ⟨rfl, ((ka.set 0 _).set 1 _).set 2 _, ?_⟩
  have hb2 : But g w _ := But.of_below (below_drewN' (HB.out.alloc HB.out.size (Obj.cells #[Value.int IntKind.i64 l', Value.int IntKind.i64 r', Value.int IntKind.i32 b'] 104)) nq)
  exact ((hb2.set 0 _).set 1 _).set 2 _
end Go.Proofs.YtdcfhkiajeiaoaaDoor

/- The reader of package utf8, told by the bytes that are begun. -/
namespace Go.Proofs.YtdcfhkiajeiaoaaDoor
set_option maxRecDepth 100000
open Go.ChangeShapes Go.WideShapes Go.ChangeAt Go.RowKit
set_option linter.unusedVariables false

theorem lng_two {a : Int} (h : 2 ≤ lng a) : 194 ≤ a ∧ a ≤ 244 := by
  unfold lng at h
  apply Classical.byContradiction; intro hn
  have : a < 128 ∨ (128 ≤ a ∧ a < 194) ∨ 244 < a := by omega
  rcases this with c | c | c
  · rw [if_pos c] at h; omega
  · rw [if_neg (by omega), if_pos c.2] at h; omega
  · rw [if_neg (by omega), if_neg (by omega), if_neg (by omega), if_neg (by omega), if_neg (by omega)] at h; omega
theorem row_cases {a : Int} (h0 : 194 ≤ a) (h1 : a ≤ 244) : (a ≤ 223 ∧ rowOf a = 1) ∨ (a = 224 ∧ rowOf a = 2) ∨ ((225 ≤ a ∧ a ≤ 236) ∧ rowOf a = 3) ∨ (a = 237 ∧ rowOf a = 4) ∨ ((238 ≤ a ∧ a ≤ 239) ∧ rowOf a = 5) ∨ (a = 240 ∧ rowOf a = 6) ∨ ((241 ≤ a ∧ a ≤ 243) ∧ rowOf a = 7) ∨ (a = 244 ∧ rowOf a = 8) := by
  unfold rowOf
  (repeat' split) <;> omega
theorem row_facts {a : Int} (h : 2 ≤ lng a) : rowOf a < 9 ∧ ldS (rowOf a) = lng a ∧ ldLo (rowOf a) = lo2 a ∧ ldHi (rowOf a) = hi2 a ∧ 0 ≤ a - mkT a ∧ a - mkT a < 32 := by
  obtain ⟨h0, h1⟩ := lng_two h
  have hm : 0 ≤ a - mkT a ∧ a - mkT a < 32 := by unfold mkT; (repeat' split) <;> omega
  have fin : ∀ k : Nat, rowOf a = k → k < 9 → ldS k = lng a → ldLo k = lo2 a → ldHi k = hi2 a → rowOf a < 9 ∧ ldS (rowOf a) = lng a ∧ ldLo (rowOf a) = lo2 a ∧ ldHi (rowOf a) = hi2 a ∧ 0 ≤ a - mkT a ∧ a - mkT a < 32 := by
    intro k e1 e2 e3 e4 e5
    rw [e1]; exact ⟨e2, e3, e4, e5, hm⟩
  rcases row_cases h0 h1 with ⟨c, e⟩ | ⟨c, e⟩ | ⟨c, e⟩ | ⟨c, e⟩ | ⟨c, e⟩ | ⟨c, e⟩ | ⟨c, e⟩ | ⟨c, e⟩
  · exact fin 1 e (by omega) (by show (2 : Int) = _; unfold lng; (repeat' split) <;> omega) (by show (128 : Int) = _; unfold lo2; (repeat' split) <;> omega) (by show (191 : Int) = _; unfold hi2; (repeat' split) <;> omega)
  · exact fin 2 e (by omega) (by show (3 : Int) = _; unfold lng; (repeat' split) <;> omega) (by show (160 : Int) = _; unfold lo2; (repeat' split) <;> omega) (by show (191 : Int) = _; unfold hi2; (repeat' split) <;> omega)
  · exact fin 3 e (by omega) (by show (3 : Int) = _; unfold lng; (repeat' split) <;> omega) (by show (128 : Int) = _; unfold lo2; (repeat' split) <;> omega) (by show (191 : Int) = _; unfold hi2; (repeat' split) <;> omega)
  · exact fin 4 e (by omega) (by show (3 : Int) = _; unfold lng; (repeat' split) <;> omega) (by show (128 : Int) = _; unfold lo2; (repeat' split) <;> omega) (by show (159 : Int) = _; unfold hi2; (repeat' split) <;> omega)
  · exact fin 5 e (by omega) (by show (3 : Int) = _; unfold lng; (repeat' split) <;> omega) (by show (128 : Int) = _; unfold lo2; (repeat' split) <;> omega) (by show (191 : Int) = _; unfold hi2; (repeat' split) <;> omega)
  · exact fin 6 e (by omega) (by show (4 : Int) = _; unfold lng; (repeat' split) <;> omega) (by show (144 : Int) = _; unfold lo2; (repeat' split) <;> omega) (by show (191 : Int) = _; unfold hi2; (repeat' split) <;> omega)
  · exact fin 7 e (by omega) (by show (4 : Int) = _; unfold lng; (repeat' split) <;> omega) (by show (128 : Int) = _; unfold lo2; (repeat' split) <;> omega) (by show (191 : Int) = _; unfold hi2; (repeat' split) <;> omega)
  · exact fin 8 e (by omega) (by show (4 : Int) = _; unfold lng; (repeat' split) <;> omega) (by show (128 : Int) = _; unfold lo2; (repeat' split) <;> omega) (by show (143 : Int) = _; unfold hi2; (repeat' split) <;> omega)
theorem lng_one {a : Int} (h : lng a = 1) : a < 128 := by
  apply Classical.byContradiction; intro hn
  unfold lng at h; rw [if_neg hn] at h
  revert h; (repeat' split) <;> omega
theorem row_zero {a : Int} (h : a < 128) : rowOf a = 0 ∧ mkT a = 0 := by unfold rowOf mkT; rw [if_pos h, if_pos h]; exact ⟨rfl, rfl⟩
theorem sec_bd {a x : Int} (h : secB a x = true) : 128 ≤ x ∧ x ≤ 191 := by
  have h := of_decide_eq_true h
  unfold lo2 hi2 at h
  revert h; (repeat' split) <;> omega

def rr : List Int → Nat
  | [] => 0
  | a :: _ => rowOf a
/-- block g is a reader with bs begun -/
def RdAt (w : World) (g : Nat) (bs : List Int) : Prop := Blk w g 104 #[.int .i64 (bs.length : Int), .int .i64 (rr bs : Int), .int .i32 (ubits bs)]
def PushIs (g : Nat) (bs : List Int) (x : Int) (w : World) : Prop :=
  Calls Tryd.prog 77 #[.pointer (some ⟨g, 0, none⟩), .int .u8 x] w fun e w' => e = .returned (.tuple #[.int .i32 (pC bs x), .int .i64 (pH bs x)]) ∧ RdAt w' g (pS bs x) ∧ But g w w'

theorem push_of_no {g : Nat} {bs : List Int} {x l' r' b' : Int} {w : World} (hh : how (bs ++ [x]) = 0) (hk : RdAt w g bs) (hw : WithIs g x l' r' b' false w) : PushIs g bs x w := by
  have e1 : pC bs x = 0 := by simp [pC, hh]
  have e2 : pH bs x = 3 := by simp [pH, hh]
  have e3 : pS bs x = bs := by simp [pS, hh]
  unfold PushIs; rw [e1, e2, e3]
  exact push_refused g x _ _ _ l' r' b' w hk hw
theorem push_of_one {g : Nat} {bs : List Int} {x l' b' : Int} {r' : Nat} {w : World} (hh : how (bs ++ [x]) = 1) (hT : Tab w) (hk : RdAt w g bs) (hw : WithIs g x l' r' b' true w) (hr : r' < 9) (hl : l' < ldS r')
    (c1 : l' = ((bs ++ [x]).length : Int)) (c2 : r' = rr (bs ++ [x])) (c3 : b' = ubits (bs ++ [x])) : PushIs g bs x w := by
  have e1 : pC bs x = 0 := by simp [pC, hh]
  have e2 : pH bs x = 1 := by simp [pH, hh]
  have e3 : pS bs x = bs ++ [x] := by simp [pS, hh]
  unfold PushIs RdAt; rw [e1, e2, e3, ← c1, ← c2, ← c3]
  exact push_begun g x _ _ _ l' b' r' w hr hl hT hk hw
theorem push_of_two {g : Nat} {bs : List Int} {x l' b' : Int} {r' : Nat} {w : World} (hh : how (bs ++ [x]) = 2) (hT : Tab w) (hk : RdAt w g bs) (hw : WithIs g x l' r' b' true w) (hr : r' < 9) (hl : ¬ l' < ldS r')
    (c3 : b' = ubits (bs ++ [x])) : PushIs g bs x w := by
  have e1 : pC bs x = ubits (bs ++ [x]) := by simp [pC, hh]
  have e2 : pH bs x = 2 := by simp [pH, hh]
  have e3 : pS bs x = [] := by simp [pS, hh]
  unfold PushIs RdAt; rw [e1, e2, e3, ← c3]
  exact push_whole g x _ _ _ l' b' r' w hr hl hT hk hw

theorem push_any (g : Nat) (bs : List Int) (x : Int) (w : World) (h0 : 0 ≤ x) (h1 : x ≤ 255) (hbs : bs = [] ∨ how bs = 1) (hT : Tab w) (hk : RdAt w g bs) : PushIs g bs x w := by
  match bs, hbs with
  | [], _ =>
    have hw : WithIs g x (bgL x) (bgR x) (bgB x) (lead1 x) w := with_zero g x w h0 h1 hk hT
    have hl := lng_le x
    by_cases c0 : lng x = 0
    · have hh : how ([] ++ [x]) = 0 := by simp [how, c0]
      have e : lead1 x = false := by simp [lead1, c0]
      rw [e] at hw
      exact push_of_no hh hk hw
    · have e : lead1 x = true := by simp [lead1, c0]
      have e1 : bgL x = 1 := by simp [bgL, c0]
      have e2 : bgR x = (rowOf x : Nat) := by simp [bgR, c0]
      have e3 : bgB x = x - mkT x := by simp [bgB, c0]
      rw [e, e1, e2, e3] at hw
      by_cases c1 : lng x = 1
      · have hh : how ([] ++ [x]) = 2 := by simp [how, c1]
        have hr := (row_zero (lng_one c1)).1
        refine push_of_two hh hT hk hw (by omega) ?_ rfl
        rw [hr]; show ¬ (1 : Int) < 1; omega
      · have hh : how ([] ++ [x]) = 1 := by
          show (if lng x = 1 then (2 : Int) else if 1 < lng x then 1 else 0) = 1
          rw [if_neg c1, if_pos (by omega)]
        obtain ⟨f1, f2, f3⟩ := row_facts (a := x) (by omega)
        refine push_of_one hh hT hk hw f1 (by omega) rfl rfl rfl
  | [a], hbs =>
    have hh : how [a] = 1 := by rcases hbs with h | h; cases h; exact h
    have ha : 2 ≤ lng a := by
      have hh' : (if lng a = 1 then (2 : Int) else if 1 < lng a then 1 else 0) = 1 := hh
      revert hh'; (repeat' split) <;> omega
    obtain ⟨f1, f2, f3, f4, f5, f6⟩ := row_facts ha
    have hfol : folB 1 (rowOf a) x = secB a x := by simp [folB, secB, f3, f4]
    cases hs : secB a x with
    | false =>
      have hn : how ([a] ++ [x]) = 0 := by simp [how, hs]
      refine push_of_no hn hk (with_no g 1 (rowOf a) _ x w (by omega) (by omega) hk fun w' hk' hb => ?_)
      have := follows_one g (rowOf a) _ x w' f1 hk' (hT.below' hb)
      rw [hfol, hs] at this; exact this
    | true =>
      obtain ⟨x0, x1⟩ := sec_bd hs
      have hw : WithIs g x (1 + 1) (rowOf a) (ubits [a] * 64 + (x - 128)) true w := with_yes g 1 (rowOf a) (ubits [a]) x true w x0 x1 (by omega) (by omega) f5 (by show a - mkT a < 32768; omega) hk fun w' hk' hb => by
        have := follows_one g (rowOf a) _ x w' f1 hk' (hT.below' hb)
        rw [hfol, hs] at this; exact this
      by_cases c2 : lng a = 2
      · have hn : how ([a] ++ [x]) = 2 := by simp [how, hs, c2]
        exact push_of_two hn hT hk hw f1 (by omega) rfl
      · have hn : how ([a] ++ [x]) = 1 := by simp [how, hs, c2]; omega
        exact push_of_one hn hT hk hw f1 (by omega) rfl rfl rfl
  | [a, b], hbs =>
    have hh : how [a, b] = 1 := by rcases hbs with h | h; cases h; exact h
    have ha : 3 ≤ lng a ∧ secB a b = true := by
      have hh' : (if 2 ≤ lng a ∧ secB a b = true then (if lng a = 2 then (2 : Int) else 1) else 0) = 1 := hh
      by_cases c : 2 ≤ lng a ∧ secB a b = true
      · rw [if_pos c] at hh'; refine ⟨?_, c.2⟩; revert hh'; split <;> omega
      · rw [if_neg c] at hh'; cases hh'
    obtain ⟨f1, f2, f3, f4, f5, f6⟩ := row_facts (a := a) (by omega)
    obtain ⟨y0, y1⟩ := sec_bd ha.2
    cases hs : tlB x with
    | false =>
      have hn : how ([a, b] ++ [x]) = 0 := by simp [how, hs]
      refine push_of_no hn hk (with_no g 2 (rowOf a) _ x w (by omega) (by omega) hk fun w' hk' hb => ?_)
      have := follows_more g 2 (rowOf a) _ x w' (by omega) hk'
      rw [hs] at this; exact this
    | true =>
      have hx := of_decide_eq_true hs
      have hw : WithIs g x (2 + 1) (rowOf a) (ubits [a, b] * 64 + (x - 128)) true w := with_yes g 2 (rowOf a) (ubits [a, b]) x true w hx.1 hx.2 (by omega) (by omega) (by show 0 ≤ (a - mkT a) * 64 + (b - 128); omega) (by show (a - mkT a) * 64 + (b - 128) < 32768; omega) hk fun w' hk' hb => by
        have := follows_more g 2 (rowOf a) _ x w' (by omega) hk'
        rw [hs] at this; exact this
      by_cases c2 : lng a = 3
      · have hn : how ([a, b] ++ [x]) = 2 := by simp [how, hs, c2, ha.2]
        exact push_of_two hn hT hk hw f1 (by omega) rfl
      · have hn : how ([a, b] ++ [x]) = 1 := by simp [how, hs, c2, ha.1, ha.2]
        exact push_of_one hn hT hk hw f1 (by have := lng_le a; omega) rfl rfl rfl
  | [a, b, c], hbs =>
    have hh : how [a, b, c] = 1 := by rcases hbs with h | h; cases h; exact h
    have ha : 4 ≤ lng a ∧ secB a b = true ∧ tlB c = true := by
      have hh' : (if 3 ≤ lng a ∧ secB a b = true ∧ tlB c = true then (if lng a = 3 then (2 : Int) else 1) else 0) = 1 := hh
      by_cases c : 3 ≤ lng a ∧ secB a b = true ∧ tlB c = true
      · rw [if_pos c] at hh'; refine ⟨?_, c.2⟩; revert hh'; split <;> omega
      · rw [if_neg c] at hh'; cases hh'
    obtain ⟨f1, f2, f3, f4, f5, f6⟩ := row_facts (a := a) (by omega)
    obtain ⟨y0, y1⟩ := sec_bd ha.2.1
    have hc := of_decide_eq_true ha.2.2
    have h4 := lng_two (a := a) (by omega)
    have hm : a - mkT a ≤ 4 := by
      have h240 : 240 ≤ a := by
        apply Classical.byContradiction; intro hn
        have := ha.1; unfold lng at this; revert this; (repeat' split) <;> omega
      unfold mkT; rw [if_neg (by omega), if_neg (by omega), if_neg (by omega)]; omega
    cases hs : tlB x with
    | false =>
      have hn : how ([a, b, c] ++ [x]) = 0 := by simp [how, hs]
      refine push_of_no hn hk (with_no g 3 (rowOf a) _ x w (by omega) (by omega) hk fun w' hk' hb => ?_)
      have := follows_more g 3 (rowOf a) _ x w' (by omega) hk'
      rw [hs] at this; exact this
    | true =>
      have hx := of_decide_eq_true hs
      have hw : WithIs g x (3 + 1) (rowOf a) (ubits [a, b, c] * 64 + (x - 128)) true w := with_yes g 3 (rowOf a) (ubits [a, b, c]) x true w hx.1 hx.2 (by omega) (by omega) (by show 0 ≤ ((a - mkT a) * 64 + (b - 128)) * 64 + (c - 128); omega) (by show ((a - mkT a) * 64 + (b - 128)) * 64 + (c - 128) < 32768; omega) hk fun w' hk' hb => by
        have := follows_more g 3 (rowOf a) _ x w' (by omega) hk'
        rw [hs] at this; exact this
      have hn : how ([a, b, c] ++ [x]) = 2 := by simp [how, hs, ha.1, ha.2.1, ha.2.2]
      exact push_of_two hn hT hk hw f1 (by have := lng_le a; omega) rfl
  | _ :: _ :: _ :: _ :: _, hbs =>
    rcases hbs with h | h
    · cases h
    · have := (how_len1 h).2; simp at this
end Go.Proofs.YtdcfhkiajeiaoaaDoor

/- Contract of utf8.First. -/
namespace Go.Proofs.YtdcfhkiajeiaoaaDoor
set_option maxRecDepth 100000
open Go.ChangeShapes Go.WideShapes Go.ChangeAt Go.RowKit
set_option linter.unusedVariables false

def Bts (xs : List Int) : Prop := ∀ x ∈ xs, 0 ≤ x ∧ x ≤ 255
theorem Bts.at {xs : List Int} (h : Bts xs) {k : Nat} (hk : k < xs.length) : 0 ≤ xs.getD k 0 ∧ xs.getD k 0 ≤ 255 := by
  rw [List.getD_eq_getElem?_getD, List.getElem?_eq_getElem hk]; exact h _ (List.getElem_mem hk)
theorem Bts.drop {xs : List Int} (h : Bts xs) (n : Nat) : Bts (xs.drop n) := fun x hx => h x (List.mem_of_mem_drop hx)
theorem Bts.take {xs : List Int} (h : Bts xs) (n : Nat) : Bts (xs.take n) := fun x hx => h x (List.mem_of_mem_take hx)
theorem take_getD (xs : List Int) (k : Nat) (hk : k < xs.length) : xs.take k ++ [xs.getD k 0] = xs.take (k + 1) := by
  rw [List.take_succ_eq_append_getElem hk, List.getD_eq_getElem?_getD, List.getElem?_eq_getElem hk]; rfl

theorem push_zero {g : Nat} {bs : List Int} {x : Int} {w : World} (h : PushIs g bs x w) (hh : how (bs ++ [x]) = 0) :
    Calls Tryd.prog 77 #[.pointer (some ⟨g, 0, none⟩), .int .u8 x] w fun e w' => e = .returned (.tuple #[.int .i32 0, .int .i64 3]) ∧ RdAt w' g bs ∧ But g w w' := by
  have e1 : pC bs x = 0 := by simp [pC, hh]
  have e2 : pH bs x = 3 := by simp [pH, hh]
  have e3 : pS bs x = bs := by simp [pS, hh]
  unfold PushIs at h; rw [e1, e2, e3] at h; exact h
theorem push_one {g : Nat} {bs : List Int} {x : Int} {w : World} (h : PushIs g bs x w) (hh : how (bs ++ [x]) = 1) :
    Calls Tryd.prog 77 #[.pointer (some ⟨g, 0, none⟩), .int .u8 x] w fun e w' => e = .returned (.tuple #[.int .i32 0, .int .i64 1]) ∧ RdAt w' g (bs ++ [x]) ∧ But g w w' := by
  have e1 : pC bs x = 0 := by simp [pC, hh]
  have e2 : pH bs x = 1 := by simp [pH, hh]
  have e3 : pS bs x = bs ++ [x] := by simp [pS, hh]
  unfold PushIs at h; rw [e1, e2, e3] at h; exact h
theorem push_two {g : Nat} {bs : List Int} {x : Int} {w : World} (h : PushIs g bs x w) (hh : how (bs ++ [x]) = 2) :
    Calls Tryd.prog 77 #[.pointer (some ⟨g, 0, none⟩), .int .u8 x] w fun e w' => e = .returned (.tuple #[.int .i32 (ubits (bs ++ [x])), .int .i64 2]) ∧ RdAt w' g [] ∧ But g w w' := by
  have e1 : pC bs x = ubits (bs ++ [x]) := by simp [pC, hh]
  have e2 : pH bs x = 2 := by simp [pH, hh]
  have e3 : pS bs x = [] := by simp [pS, hh]
  unfold PushIs at h; rw [e1, e2, e3] at h; exact h
theorem RdAt.ne {w : World} {g : Nat} {bs : List Int} (h : RdAt w g bs) (hT : Tab w) : g ≠ 0 := hT.ne h

theorem left_rd {w : World} {g : Nat} {bs : List Int} (h : RdAt w g bs) :
    Calls Tryd.prog 78 #[.pointer (some ⟨g, 0, none⟩)] w fun e w' => e = .returned (.int .i64 (bs.length : Int)) ∧ w = w' := left_any g _ _ _ w h

def FirstAt (xs : List Int) (w w1 : World) (k : Nat) : Prop :=
  k ≤ xs.length ∧ (∀ j, 1 ≤ j → j ≤ k → how (xs.take j) = 1) ∧ RdAt w1 w.heap.size (xs.take k) ∧ Tab w1 ∧ Below w.heap.size w w1

set_option maxHeartbeats 1000000 in
theorem first_any (A : Option Addr) (cap : Nat) (xs : List Int) (w : World) (hT : Tab w) (hI : Ints w w.heap.size .u8 A xs) (hB : Bts xs) (hm : xs.length ≤ maxLen) :
    Calls Tryd.prog 58 #[.slice A xs.length cap] w fun e w' => e = .returned (.tuple #[.int .i32 (fC xs), .int .i64 (fN xs : Int), .bool (fOk xs)]) ∧ Below w.heap.size w w' := by
  unfold maxLen at hm
  go_enter Tryd.func58, Tryd.ntmps58
  go_wp2_with fail
  with_reducible refine (new_any _).mono ?_
  rintro e w1 ⟨rfl, rfl⟩
  have s0 : FirstAt xs w (w.alloc (.cells #[.int .i64 0, .int .i64 0, .int .i32 0] 104)) 0 :=
    ⟨Nat.zero_le _, fun j h1 h2 => by omega, Blk.new w _ _, hT.below' ((Below.refl _ _).alloc (Nat.le_refl _) _), (Below.refl _ _).alloc (Nat.le_refl _) _⟩
  generalize w.alloc (.cells #[.int .i64 0, .int .i64 0, .int .i32 0] 104) = W0 at s0 ⊢
  go_wp2_with fail
  go_loopw [13] (fun i w1 => ∃ k : Nat, i = .int .i64 k ∧ FirstAt xs w w1 k) (fun i _ => xs.length - (intOf i).toNat)
  case atStart => exact ⟨0, rfl, s0⟩
  case round =>
    obtain ⟨k, rfl, hk, hr, hR, hT1, hb⟩ := hrel
    clear s0
    by_cases hlt : k < xs.length
    · obtain ⟨b, o, rfl, hbl, hc⟩ := hI.at (by omega)
      have hcell : wr.cell? ⟨b, o + k, none⟩ = some (.int .u8 (xs.getD k 0)) := (hb.cell (p := ⟨b, o + k, none⟩) hbl).trans (hc k hlt)
      obtain ⟨x0, x1⟩ := hB.at hlt
      have hp := push_any w.heap.size (xs.take k) (xs.getD k 0) wr x0 x1 (by
        rcases Nat.eq_zero_or_pos k with h | h
        · left; subst h; rfl
        · right; exact hr k h (Nat.le_refl _)) hT1 hR
      have HT : Hid (xs.take k ++ [xs.getD k 0] = xs.take (k + 1)) := take_getD xs k hlt
      have hne := hR.ne hT1
      have hz := hR.lt
      generalize xs.getD k 0 = x at hp HT hcell x0 x1
      have hlt' : (k : Int) < xs.length := by omega
      have HC := Lib.hid hc
      have HI := Lib.hid hI
      have HR := Lib.hid hr
      clear hI hc hr
      rcases how_cases (xs.take k ++ [x]) with hh | hh | hh
      · have hq := push_zero hp hh
        have HH := Lib.hid hh
        clear hh hp
        go_wp2_with fail
        with_reducible refine hq.mono ?_
        rintro e w2 ⟨rfl, hR2, hbt⟩
        have HB := Lib.hid (hb.trans (hbt.below (Nat.le_refl _) (by omega)))
        clear hR2 hbt hq
        go_wp2
        go_ret3
        have hh := HH.out
        rw [HT.out] at hh
        obtain ⟨r1, r2, r3⟩ := first_no (Nat.le_of_lt hlt) HR.out (.inr hh)
        exact ⟨by rw [r1, r2, r3]; rfl, HB.out⟩
      · have hq := push_one hp hh
        have HH := Lib.hid hh
        clear hh hp
        go_wp2_with fail
        with_reducible refine hq.mono ?_
        rintro e w2 ⟨rfl, hR2, hbt⟩
        have hb2 := hb.trans (hbt.below (Nat.le_refl _) (by omega))
        have HF : Hid (FirstAt xs w w2 (k + 1)) := by
          have hh := HH.out
          rw [HT.out] at hh hR2
          refine ⟨by omega, fun j h1 h2 => ?_, hR2, hT1.but hbt hne, hb2⟩
          rcases Nat.lt_or_ge k j with h | h
          · have : j = k + 1 := by omega
            subst this; exact hh
          · exact HR.out j h1 h
        clear hR2 hbt hq hb2
        go_wp2
        go_roundw
        case rel => exact ⟨k + 1, by go_num, HF.out⟩
        case measure => simp [intOf]; omega
      · have hq := push_two hp hh
        have HH := Lib.hid hh
        clear hh hp
        go_wp2_with fail
        with_reducible refine hq.mono ?_
        rintro e w2 ⟨rfl, hR2, hbt⟩
        have HB := Lib.hid (hb.trans (hbt.below (Nat.le_refl _) (by omega)))
        clear hR2 hbt hq
        go_wp2
        go_ret3
        have hh := HH.out
        rw [HT.out] at hh
        obtain ⟨r1, r2, r3⟩ := first_yes hlt HR.out hh
        exact ⟨by rw [r1, r2, r3, ← HT.out]; rfl, HB.out⟩
    · have hkk : k = xs.length := by omega
      subst hkk
      have HR := Lib.hid hr
      rw [List.take_length] at hR
      have hlt' : ¬ (xs.length : Int) < xs.length := by omega
      clear hr
      go_wp2_with fail
      with_reducible refine (left_rd hR).mono ?_
      rintro e w2 ⟨rfl, rfl⟩
      go_wp2
      go_ret3
      obtain ⟨r1, r2, r3⟩ := first_no (Nat.le_refl _) HR.out (.inl rfl)
      exact ⟨by rw [r1, r2, r3]; rfl, hb⟩
end Go.Proofs.YtdcfhkiajeiaoaaDoor
