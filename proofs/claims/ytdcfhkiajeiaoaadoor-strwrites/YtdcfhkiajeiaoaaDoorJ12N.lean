/- Joined of: N12ScM, R22Q, Law00R. -/
import Derived.Test.YtdcfhkiajeiaoaaDoorJ12D
import Derived.Test.YtdcfhkiajeiaoaaDoorRows
import Derived.Test.YtdcfhkiajeiaoaaDoorJ12A
import Derived.Test.YtdcfhkiajeiaoaaDoorJ12H
import Derived.Test.YtdcfhkiajeiaoaaDoorJ12C
import Derived.BigQuiet
/- A scalar's bytes, fed to a string: what becomes of it. No program in it. -/
namespace Go.Proofs.YtdcfhkiajeiaoaaDoor
set_option maxRecDepth 100000
set_option linter.unusedVariables false
set_option linter.unusedSimpArgs false

theorem feed_cons (s : Ss) (x : Int) (l : List Int) (i : Nat) : feedS s (x :: l) i = if (pushS s x).2.1 ≠ 0 ∨ (pushS s x).1 = true then (i, (pushS s x).2.1, (pushS s x).1, (pushS s x).2.2) else feedS (pushS s x).2.2 l (i + 1) := by rw [feedS]
theorem byt_small {c : Int} (h0 : 0 ≤ c) (h : c < 128) : byt c = [c] := by
  have hi : isB c = true := decide_eq_true (by omega)
  simp [byt, hi, h]
theorem feed_ctl {c : Int} (h0 : 0 ≤ c) (h : c < 32) : feedS ss0 (byt c) 0 = (0, 2, false, ss0) := by
  rw [byt_small h0 (by omega), feed_cons]
  have e : pushS ss0 c = (false, 2, ss0) := by unfold pushS; rw [if_pos (by simp; exact .inr h)]
  rw [e]
  rfl
theorem feed_quote : feedS ss0 (byt 34) 0 = (0, 0, true, { ss0 with v := true }) := by kernel_rfl
theorem feed_sign : feedS ss0 (byt 92) 0 = (1, 0, false, { ss0 with e := 1 }) := by kernel_rfl
theorem feed_plain {c : Int} (h0 : 32 ≤ c) (h : c < 128) (h1 : c ≠ 34) (h2 : c ≠ 92) : feedS ss0 (byt c) 0 = (1, 0, false, { ss0 with o := [c] }) := by
  rw [byt_small (by omega) h, feed_cons]
  have e : pushS ss0 c = (false, 0, { ss0 with o := [c] }) := by
    unfold pushS
    rw [if_neg (by simp [ss0]; omega), if_neg (by decide), if_neg (by decide), if_neg (by simp [ss0]; omega), if_neg h2, if_neg (by decide), if_neg h1]
    rfl
  rw [e]
  rfl
/-- the bytes of a scalar, of more than one -/
theorem byt_big {c : Int} (hi : isB c = true) (h : 128 ≤ c) : 2 ≤ (byt c).length ∧ ∀ x ∈ byt c, 128 ≤ x := by
  have hc := of_decide_eq_true hi
  unfold byt
  rw [if_pos hi]
  (repeat' split) <;> first | omega | skip
  all_goals (refine ⟨by simp, fun x hx => ?_⟩; simp only [List.mem_cons, List.not_mem_nil, or_false] at hx; omega)
theorem feed_rest {c : Int} (hi : isB c = true) (h : 128 ≤ c) : ∀ (n j : Nat), j + n + 1 = (byt c).length → feedS { ss0 with b := (byt c).take j } ((byt c).drop j) j = if noncharB c = true then ((byt c).length - 1, 6, false, { ss0 with b := (byt c).take ((byt c).length - 1) }) else ((byt c).length, 0, false, { ss0 with o := [c] }) := by
  have hs := scal_byt hi
  obtain ⟨h2, hb⟩ := byt_big hi h
  have step : ∀ (j : Nat) (hj : j < (byt c).length), pushS { ss0 with b := (byt c).take j } (byt c)[j] = (false, (bytS { ss0 with b := (byt c).take j } (byt c)[j]).1, (bytS { ss0 with b := (byt c).take j } (byt c)[j]).2) := by
    intro j hj
    have hx := hb _ (List.getElem_mem hj)
    unfold pushS
    rw [if_neg (by simp [ss0]; omega), if_neg (by simp [ss0]), if_neg (by simp [ss0]), if_pos (.inr hx)]
  have tk : ∀ (j : Nat) (hj : j < (byt c).length), (byt c).take j ++ [(byt c)[j]] = (byt c).take (j + 1) := fun j hj => by rw [List.take_append_getElem]
  intro n
  induction n with
  | zero =>
    intro j hj
    have hjl : j < (byt c).length := by omega
    rw [List.drop_eq_getElem_cons hjl, feed_cons, step j hjl]
    have e1 : (byt c).take (j + 1) = byt c := List.take_of_length_le (by omega)
    have e2 : bytS { ss0 with b := (byt c).take j } (byt c)[j] = if noncharB c = true then (6, { ss0 with b := (byt c).take j }) else (0, { ss0 with o := [c] }) := by
      unfold bytS
      dsimp only
      rw [tk j hjl, e1, hs.whole, hs.tells, if_neg (by decide), if_neg (by decide), if_neg (by decide)]
      rfl
    rw [e2]
    have e3 : (byt c).length - 1 = j := by omega
    have e4 : (byt c).drop (j + 1) = [] := List.drop_eq_nil_of_le (by omega)
    rw [e3, e4]
    by_cases hn : noncharB c = true
    · rw [if_pos hn, if_pos hn]
      rfl
    · rw [if_neg hn, if_neg hn]
      have e5 : (byt c).length = j + 1 := by omega
      rw [e5]
      rfl
  | succ n ih =>
    intro j hj
    have hjl : j < (byt c).length := by omega
    rw [List.drop_eq_getElem_cons hjl, feed_cons, step j hjl]
    have e2 : bytS { ss0 with b := (byt c).take j } (byt c)[j] = (0, { ss0 with b := (byt c).take (j + 1) }) := by
      unfold bytS
      dsimp only
      rw [tk j hjl, hs.begun (j + 1) (by omega) (by omega), if_neg (by decide), if_neg (by decide), if_pos rfl]
    rw [e2, if_neg (by simp)]
    exact ih (j + 1) (by omega)
theorem feed_big {c : Int} (hi : isB c = true) (h : 128 ≤ c) : feedS ss0 (byt c) 0 = if noncharB c = true then ((byt c).length - 1, 6, false, { ss0 with b := (byt c).take ((byt c).length - 1) }) else ((byt c).length, 0, false, { ss0 with o := [c] }) := by
  have h2 := (byt_big hi h).1
  exact feed_rest hi h ((byt c).length - 1) 0 (by omega)
theorem nonchar_big {c : Int} (h : noncharB c = true) : 128 ≤ c := by
  unfold noncharB at h
  have := of_decide_eq_true h
  omega
theorem feed_ok {c : Int} (hi : isB c = true) (h0 : 32 ≤ c) (h1 : c ≠ 34) (h2 : c ≠ 92) (hn : noncharB c = false) : feedS ss0 (byt c) 0 = ((byt c).length, 0, false, { ss0 with o := [c] }) := by
  by_cases h : c < 128
  · rw [feed_plain h0 h h1 h2, byt_small (by omega) h]
    rfl
  · rw [feed_big hi (by omega), if_neg (by rw [hn]; decide)]
theorem feed_non {c : Int} (hi : isB c = true) (hn : noncharB c = true) : ∃ (m : Nat) (b : List Int), (byt c).length = m + 1 ∧ 1 ≤ m ∧ b ≠ [] ∧ feedS ss0 (byt c) 0 = (m, 6, false, { ss0 with b := b }) := by
  have hb := nonchar_big hn
  have h2 := (byt_big hi hb).1
  refine ⟨(byt c).length - 1, (byt c).take ((byt c).length - 1), by omega, by omega, fun e => ?_, by rw [feed_big hi hb, if_pos hn]⟩
  have := congrArg List.length e
  rw [List.length_take] at this
  simp at this
  omega
theorem byt_plain {c : Int} (hi : isB c = true) (h0 : 32 ≤ c) (h1 : c ≠ 34) (h2 : c ≠ 92) : ∀ x ∈ byt c, 32 ≤ x ∧ x ≠ 34 ∧ x ≠ 92 := by
  intro x hx
  by_cases h : c < 128
  · rw [byt_small (by omega) h] at hx
    rw [List.mem_singleton.1 hx]
    exact ⟨h0, h1, h2⟩
  · have := (byt_big hi (by omega)).2 x hx
    omega
end Go.Proofs.YtdcfhkiajeiaoaaDoor

/- The document's Quote (layer 22) of a text in which nothing is to be escaped: its size. -/
namespace Go.Proofs.YtdcfhkiajeiaoaaDoor
set_option maxRecDepth 100000
open Go.ChangeShapes Go.WideShapes Go.ChangeAt Go.RowKit
set_option linter.unusedVariables false
set_option linter.unusedSimpArgs false

def QuL (s : ByteArray) (W : World) (out i : Value) (wr : World) : Prop := ∃ (k : Nat) (t : ByteArray), k ≤ s.size ∧ i = .int .i64 k ∧ out = .string t ∧ t.size = 1 + k ∧ Below W.heap.size W wr
set_option maxHeartbeats 4000000 in
theorem r_quote_plain (s : ByteArray) (w : World) (hm : s.size ≤ 100000) (hb : ∀ c ∈ L8 s, 32 ≤ c.toNat ∧ c.toNat ≠ 34 ∧ c.toNat ≠ 92) :
    Calls Tryd.prog 30 #[.string s] w fun e w' => ∃ t, e = .returned (.string t) ∧ t.size = s.size + 2 ∧ Below w.heap.size w w' := by
  have HB := Lib.hid hb
  clear hb
  go_enter Tryd.func30, Tryd.ntmps30
  go_wp2_with fail
  go_loopw [3, 4] (fun out i wr => QuL s w out i wr) (fun _ i _ => s.size - (intOf i).toNat)
  case atStart => exact ⟨0, _, by omega, rfl, rfl, rfl, Below.refl _ _⟩
  case round =>
    obtain ⟨k, t, hk, rfl, rfl, ht, hbw⟩ := hrel
    have HW := Lib.hid hbw
    clear hbw
    by_cases hlt : k < s.size
    · have hlt' : (k : Int) < s.size := by omega
      obtain ⟨b1, b2, b3⟩ := HB.out s[k] (by have h := L8_get s k hlt; rw [← h]; exact List.getElem_mem _)
      have n1 : ¬ ((s[k].toNat : Int) < 32) := by omega
      have n2 : ((s[k].toNat : Int) == 34) = false := beq_eq_false_iff_ne.2 (by omega)
      have n3 : ((s[k].toNat : Int) == 92) = false := beq_eq_false_iff_ne.2 (by omega)
      have hw1 : IntKind.i64.wrap ((k : Int) + 1) = (k : Int) + 1 := IntWalk.i64_in _ (by omega)
      have hx1 : (s.extract k (k + 1)).size = 1 := by rw [ByteArray.size_extract]; omega
      have e1 := ByteArray.size_append (a := t) (b := s.extract k (k + 1))
      have hs1 : ¬ t.size + (s.extract k (k + 1)).size > 9223372036854775807 := by omega
      have ht2 : (t ++ s.extract k (k + 1)).size = 1 + (k + 1) := by omega
      have hsl : ∀ w, (Instr.slice 9 (.string s) (some (.int .i64 k)) (some (.int .i64 ((k : Int) + 1))) none).run Tryd.prog w = .ok (.string (s.extract k (k + 1))) w := fun w => by
        have e1 : ((k : Int)).toNat = k := by omega
        have e2 : ((k : Int) + 1).toNat = k + 1 := by omega
        rw [run_slice_string w 9 _ .i64 .i64 k ((k : Int) + 1) Tryd.underlying9 (by omega) (by omega) (by omega), e1, e2]
      clear e1 hx1
      generalize s.extract k (k + 1) = X at *
      go_wp2_with fail
      go_roundw
      case rel => exact ⟨k + 1, _, by omega, by go_num, rfl, ht2, HW.out⟩
      case measure => simp [intOf]; omega
    · have hlt' : ¬ (k : Int) < s.size := by omega
      have e1 := ByteArray.size_append (a := t) (b := ⟨#[34]⟩)
      have e0 : (⟨#[34]⟩ : ByteArray).size = 1 := rfl
      have hs1 : ¬ t.size + (⟨#[34]⟩ : ByteArray).size > 9223372036854775807 := by omega
      have ht2 : (t ++ ⟨#[34]⟩).size = s.size + 2 := by omega
      clear e1 e0
      go_wp2_with fail
      go_ret
      exact ⟨_, rfl, ht2, HW.out⟩
end Go.Proofs.YtdcfhkiajeiaoaaDoor

/- orthoepylaw00's Place and Rune by contracts. -/
namespace Go.Proofs.YtdcfhkiajeiaoaaDoor
open Go.ChangeShapes Go.WideShapes Go.ChangeAt Go.RowKit
set_option linter.unusedVariables false

def tb12 (k : Nat) : Int := [(65 : Int), (69 : Int), (79 : Int), (97 : Int), (101 : Int), (111 : Int), (2325 : Int), (2344 : Int), (4352 : Int), (4370 : Int), (12363 : Int), (2503 : Int)].getD k 0
theorem tb12_bd (k : Nat) : 0 ≤ tb12 k ∧ tb12 k ≤ 1114111 := by
  match k with
  | 0 => decide
  | 1 => decide
  | 2 => decide
  | 3 => decide
  | 4 => decide
  | 5 => decide
  | 6 => decide
  | 7 => decide
  | 8 => decide
  | 9 => decide
  | 10 => decide
  | 11 => decide
  | _ + 12 => simp [tb12]
theorem idx12_0 (w : World) : (Instr.index 69 (.agg #[.int .i32 65, .int .i32 69, .int .i32 79, .int .i32 97, .int .i32 101, .int .i32 111, .int .i32 2325, .int .i32 2344, .int .i32 4352, .int .i32 4370, .int .i32 12363, .int .i32 2503]) (.int .i32 ((0 : Nat) : Int))).run Tryd.prog w = .ok (.int .i32 (tb12 0)) w := by kernel_rfl
theorem idx12_1 (w : World) : (Instr.index 69 (.agg #[.int .i32 65, .int .i32 69, .int .i32 79, .int .i32 97, .int .i32 101, .int .i32 111, .int .i32 2325, .int .i32 2344, .int .i32 4352, .int .i32 4370, .int .i32 12363, .int .i32 2503]) (.int .i32 ((1 : Nat) : Int))).run Tryd.prog w = .ok (.int .i32 (tb12 1)) w := by kernel_rfl
theorem idx12_2 (w : World) : (Instr.index 69 (.agg #[.int .i32 65, .int .i32 69, .int .i32 79, .int .i32 97, .int .i32 101, .int .i32 111, .int .i32 2325, .int .i32 2344, .int .i32 4352, .int .i32 4370, .int .i32 12363, .int .i32 2503]) (.int .i32 ((2 : Nat) : Int))).run Tryd.prog w = .ok (.int .i32 (tb12 2)) w := by kernel_rfl
theorem idx12_3 (w : World) : (Instr.index 69 (.agg #[.int .i32 65, .int .i32 69, .int .i32 79, .int .i32 97, .int .i32 101, .int .i32 111, .int .i32 2325, .int .i32 2344, .int .i32 4352, .int .i32 4370, .int .i32 12363, .int .i32 2503]) (.int .i32 ((3 : Nat) : Int))).run Tryd.prog w = .ok (.int .i32 (tb12 3)) w := by kernel_rfl
theorem idx12_4 (w : World) : (Instr.index 69 (.agg #[.int .i32 65, .int .i32 69, .int .i32 79, .int .i32 97, .int .i32 101, .int .i32 111, .int .i32 2325, .int .i32 2344, .int .i32 4352, .int .i32 4370, .int .i32 12363, .int .i32 2503]) (.int .i32 ((4 : Nat) : Int))).run Tryd.prog w = .ok (.int .i32 (tb12 4)) w := by kernel_rfl
theorem idx12_5 (w : World) : (Instr.index 69 (.agg #[.int .i32 65, .int .i32 69, .int .i32 79, .int .i32 97, .int .i32 101, .int .i32 111, .int .i32 2325, .int .i32 2344, .int .i32 4352, .int .i32 4370, .int .i32 12363, .int .i32 2503]) (.int .i32 ((5 : Nat) : Int))).run Tryd.prog w = .ok (.int .i32 (tb12 5)) w := by kernel_rfl
theorem idx12_6 (w : World) : (Instr.index 69 (.agg #[.int .i32 65, .int .i32 69, .int .i32 79, .int .i32 97, .int .i32 101, .int .i32 111, .int .i32 2325, .int .i32 2344, .int .i32 4352, .int .i32 4370, .int .i32 12363, .int .i32 2503]) (.int .i32 ((6 : Nat) : Int))).run Tryd.prog w = .ok (.int .i32 (tb12 6)) w := by kernel_rfl
theorem idx12_7 (w : World) : (Instr.index 69 (.agg #[.int .i32 65, .int .i32 69, .int .i32 79, .int .i32 97, .int .i32 101, .int .i32 111, .int .i32 2325, .int .i32 2344, .int .i32 4352, .int .i32 4370, .int .i32 12363, .int .i32 2503]) (.int .i32 ((7 : Nat) : Int))).run Tryd.prog w = .ok (.int .i32 (tb12 7)) w := by kernel_rfl
theorem idx12_8 (w : World) : (Instr.index 69 (.agg #[.int .i32 65, .int .i32 69, .int .i32 79, .int .i32 97, .int .i32 101, .int .i32 111, .int .i32 2325, .int .i32 2344, .int .i32 4352, .int .i32 4370, .int .i32 12363, .int .i32 2503]) (.int .i32 ((8 : Nat) : Int))).run Tryd.prog w = .ok (.int .i32 (tb12 8)) w := by kernel_rfl
theorem idx12_9 (w : World) : (Instr.index 69 (.agg #[.int .i32 65, .int .i32 69, .int .i32 79, .int .i32 97, .int .i32 101, .int .i32 111, .int .i32 2325, .int .i32 2344, .int .i32 4352, .int .i32 4370, .int .i32 12363, .int .i32 2503]) (.int .i32 ((9 : Nat) : Int))).run Tryd.prog w = .ok (.int .i32 (tb12 9)) w := by kernel_rfl
theorem idx12_10 (w : World) : (Instr.index 69 (.agg #[.int .i32 65, .int .i32 69, .int .i32 79, .int .i32 97, .int .i32 101, .int .i32 111, .int .i32 2325, .int .i32 2344, .int .i32 4352, .int .i32 4370, .int .i32 12363, .int .i32 2503]) (.int .i32 ((10 : Nat) : Int))).run Tryd.prog w = .ok (.int .i32 (tb12 10)) w := by kernel_rfl
theorem idx12_11 (w : World) : (Instr.index 69 (.agg #[.int .i32 65, .int .i32 69, .int .i32 79, .int .i32 97, .int .i32 101, .int .i32 111, .int .i32 2325, .int .i32 2344, .int .i32 4352, .int .i32 4370, .int .i32 12363, .int .i32 2503]) (.int .i32 ((11 : Nat) : Int))).run Tryd.prog w = .ok (.int .i32 (tb12 11)) w := by kernel_rfl
theorem idx12 (k : Nat) (hk : k < 12) (w : World) : (Instr.index 69 (.agg #[.int .i32 65, .int .i32 69, .int .i32 79, .int .i32 97, .int .i32 101, .int .i32 111, .int .i32 2325, .int .i32 2344, .int .i32 4352, .int .i32 4370, .int .i32 12363, .int .i32 2503]) (.int .i32 (k : Int))).run Tryd.prog w = .ok (.int .i32 (tb12 k)) w := by
  match k, hk with
  | 0, _ => exact idx12_0 w
  | 1, _ => exact idx12_1 w
  | 2, _ => exact idx12_2 w
  | 3, _ => exact idx12_3 w
  | 4, _ => exact idx12_4 w
  | 5, _ => exact idx12_5 w
  | 6, _ => exact idx12_6 w
  | 7, _ => exact idx12_7 w
  | 8, _ => exact idx12_8 w
  | 9, _ => exact idx12_9 w
  | 10, _ => exact idx12_10 w
  | 11, _ => exact idx12_11 w
  | k + 12, h => exact absurd h (by omega)
theorem idxI12 (x : Int) (h0 : 0 ≤ x) (h1 : x < 12) : ∃ c, (0 ≤ c ∧ c ≤ 1114111) ∧ ∀ w : World, (Instr.index 69 (.agg #[.int .i32 65, .int .i32 69, .int .i32 79, .int .i32 97, .int .i32 101, .int .i32 111, .int .i32 2325, .int .i32 2344, .int .i32 4352, .int .i32 4370, .int .i32 12363, .int .i32 2503]) (.int .i32 x)).run Tryd.prog w = .ok (.int .i32 c) w := by
  obtain ⟨k, rfl⟩ := Int.eq_ofNat_of_zero_le h0
  exact ⟨tb12 k, tb12_bd k, fun w => idx12 k (by omega) w⟩
def tb24 (k : Nat) : Int := [(768 : Int), (769 : Int), (770 : Int), (771 : Int), (772 : Int), (774 : Int), (775 : Int), (776 : Int), (778 : Int), (780 : Int), (803 : Int), (807 : Int), (808 : Int), (795 : Int), (837 : Int), (820 : Int), (2364 : Int), (12441 : Int), (12442 : Int), (1456 : Int), (1460 : Int), (824 : Int), (834 : Int), (2494 : Int)].getD k 0
theorem tb24_bd (k : Nat) : 0 ≤ tb24 k ∧ tb24 k ≤ 1114111 := by
  match k with
  | 0 => decide
  | 1 => decide
  | 2 => decide
  | 3 => decide
  | 4 => decide
  | 5 => decide
  | 6 => decide
  | 7 => decide
  | 8 => decide
  | 9 => decide
  | 10 => decide
  | 11 => decide
  | 12 => decide
  | 13 => decide
  | 14 => decide
  | 15 => decide
  | 16 => decide
  | 17 => decide
  | 18 => decide
  | 19 => decide
  | 20 => decide
  | 21 => decide
  | 22 => decide
  | 23 => decide
  | _ + 24 => simp [tb24]
theorem idx24_0 (w : World) : (Instr.index 70 (.agg #[.int .i32 768, .int .i32 769, .int .i32 770, .int .i32 771, .int .i32 772, .int .i32 774, .int .i32 775, .int .i32 776, .int .i32 778, .int .i32 780, .int .i32 803, .int .i32 807, .int .i32 808, .int .i32 795, .int .i32 837, .int .i32 820, .int .i32 2364, .int .i32 12441, .int .i32 12442, .int .i32 1456, .int .i32 1460, .int .i32 824, .int .i32 834, .int .i32 2494]) (.int .i32 ((0 : Nat) : Int))).run Tryd.prog w = .ok (.int .i32 (tb24 0)) w := by kernel_rfl
theorem idx24_1 (w : World) : (Instr.index 70 (.agg #[.int .i32 768, .int .i32 769, .int .i32 770, .int .i32 771, .int .i32 772, .int .i32 774, .int .i32 775, .int .i32 776, .int .i32 778, .int .i32 780, .int .i32 803, .int .i32 807, .int .i32 808, .int .i32 795, .int .i32 837, .int .i32 820, .int .i32 2364, .int .i32 12441, .int .i32 12442, .int .i32 1456, .int .i32 1460, .int .i32 824, .int .i32 834, .int .i32 2494]) (.int .i32 ((1 : Nat) : Int))).run Tryd.prog w = .ok (.int .i32 (tb24 1)) w := by kernel_rfl
theorem idx24_2 (w : World) : (Instr.index 70 (.agg #[.int .i32 768, .int .i32 769, .int .i32 770, .int .i32 771, .int .i32 772, .int .i32 774, .int .i32 775, .int .i32 776, .int .i32 778, .int .i32 780, .int .i32 803, .int .i32 807, .int .i32 808, .int .i32 795, .int .i32 837, .int .i32 820, .int .i32 2364, .int .i32 12441, .int .i32 12442, .int .i32 1456, .int .i32 1460, .int .i32 824, .int .i32 834, .int .i32 2494]) (.int .i32 ((2 : Nat) : Int))).run Tryd.prog w = .ok (.int .i32 (tb24 2)) w := by kernel_rfl
theorem idx24_3 (w : World) : (Instr.index 70 (.agg #[.int .i32 768, .int .i32 769, .int .i32 770, .int .i32 771, .int .i32 772, .int .i32 774, .int .i32 775, .int .i32 776, .int .i32 778, .int .i32 780, .int .i32 803, .int .i32 807, .int .i32 808, .int .i32 795, .int .i32 837, .int .i32 820, .int .i32 2364, .int .i32 12441, .int .i32 12442, .int .i32 1456, .int .i32 1460, .int .i32 824, .int .i32 834, .int .i32 2494]) (.int .i32 ((3 : Nat) : Int))).run Tryd.prog w = .ok (.int .i32 (tb24 3)) w := by kernel_rfl
theorem idx24_4 (w : World) : (Instr.index 70 (.agg #[.int .i32 768, .int .i32 769, .int .i32 770, .int .i32 771, .int .i32 772, .int .i32 774, .int .i32 775, .int .i32 776, .int .i32 778, .int .i32 780, .int .i32 803, .int .i32 807, .int .i32 808, .int .i32 795, .int .i32 837, .int .i32 820, .int .i32 2364, .int .i32 12441, .int .i32 12442, .int .i32 1456, .int .i32 1460, .int .i32 824, .int .i32 834, .int .i32 2494]) (.int .i32 ((4 : Nat) : Int))).run Tryd.prog w = .ok (.int .i32 (tb24 4)) w := by kernel_rfl
theorem idx24_5 (w : World) : (Instr.index 70 (.agg #[.int .i32 768, .int .i32 769, .int .i32 770, .int .i32 771, .int .i32 772, .int .i32 774, .int .i32 775, .int .i32 776, .int .i32 778, .int .i32 780, .int .i32 803, .int .i32 807, .int .i32 808, .int .i32 795, .int .i32 837, .int .i32 820, .int .i32 2364, .int .i32 12441, .int .i32 12442, .int .i32 1456, .int .i32 1460, .int .i32 824, .int .i32 834, .int .i32 2494]) (.int .i32 ((5 : Nat) : Int))).run Tryd.prog w = .ok (.int .i32 (tb24 5)) w := by kernel_rfl
theorem idx24_6 (w : World) : (Instr.index 70 (.agg #[.int .i32 768, .int .i32 769, .int .i32 770, .int .i32 771, .int .i32 772, .int .i32 774, .int .i32 775, .int .i32 776, .int .i32 778, .int .i32 780, .int .i32 803, .int .i32 807, .int .i32 808, .int .i32 795, .int .i32 837, .int .i32 820, .int .i32 2364, .int .i32 12441, .int .i32 12442, .int .i32 1456, .int .i32 1460, .int .i32 824, .int .i32 834, .int .i32 2494]) (.int .i32 ((6 : Nat) : Int))).run Tryd.prog w = .ok (.int .i32 (tb24 6)) w := by kernel_rfl
theorem idx24_7 (w : World) : (Instr.index 70 (.agg #[.int .i32 768, .int .i32 769, .int .i32 770, .int .i32 771, .int .i32 772, .int .i32 774, .int .i32 775, .int .i32 776, .int .i32 778, .int .i32 780, .int .i32 803, .int .i32 807, .int .i32 808, .int .i32 795, .int .i32 837, .int .i32 820, .int .i32 2364, .int .i32 12441, .int .i32 12442, .int .i32 1456, .int .i32 1460, .int .i32 824, .int .i32 834, .int .i32 2494]) (.int .i32 ((7 : Nat) : Int))).run Tryd.prog w = .ok (.int .i32 (tb24 7)) w := by kernel_rfl
theorem idx24_8 (w : World) : (Instr.index 70 (.agg #[.int .i32 768, .int .i32 769, .int .i32 770, .int .i32 771, .int .i32 772, .int .i32 774, .int .i32 775, .int .i32 776, .int .i32 778, .int .i32 780, .int .i32 803, .int .i32 807, .int .i32 808, .int .i32 795, .int .i32 837, .int .i32 820, .int .i32 2364, .int .i32 12441, .int .i32 12442, .int .i32 1456, .int .i32 1460, .int .i32 824, .int .i32 834, .int .i32 2494]) (.int .i32 ((8 : Nat) : Int))).run Tryd.prog w = .ok (.int .i32 (tb24 8)) w := by kernel_rfl
theorem idx24_9 (w : World) : (Instr.index 70 (.agg #[.int .i32 768, .int .i32 769, .int .i32 770, .int .i32 771, .int .i32 772, .int .i32 774, .int .i32 775, .int .i32 776, .int .i32 778, .int .i32 780, .int .i32 803, .int .i32 807, .int .i32 808, .int .i32 795, .int .i32 837, .int .i32 820, .int .i32 2364, .int .i32 12441, .int .i32 12442, .int .i32 1456, .int .i32 1460, .int .i32 824, .int .i32 834, .int .i32 2494]) (.int .i32 ((9 : Nat) : Int))).run Tryd.prog w = .ok (.int .i32 (tb24 9)) w := by kernel_rfl
theorem idx24_10 (w : World) : (Instr.index 70 (.agg #[.int .i32 768, .int .i32 769, .int .i32 770, .int .i32 771, .int .i32 772, .int .i32 774, .int .i32 775, .int .i32 776, .int .i32 778, .int .i32 780, .int .i32 803, .int .i32 807, .int .i32 808, .int .i32 795, .int .i32 837, .int .i32 820, .int .i32 2364, .int .i32 12441, .int .i32 12442, .int .i32 1456, .int .i32 1460, .int .i32 824, .int .i32 834, .int .i32 2494]) (.int .i32 ((10 : Nat) : Int))).run Tryd.prog w = .ok (.int .i32 (tb24 10)) w := by kernel_rfl
theorem idx24_11 (w : World) : (Instr.index 70 (.agg #[.int .i32 768, .int .i32 769, .int .i32 770, .int .i32 771, .int .i32 772, .int .i32 774, .int .i32 775, .int .i32 776, .int .i32 778, .int .i32 780, .int .i32 803, .int .i32 807, .int .i32 808, .int .i32 795, .int .i32 837, .int .i32 820, .int .i32 2364, .int .i32 12441, .int .i32 12442, .int .i32 1456, .int .i32 1460, .int .i32 824, .int .i32 834, .int .i32 2494]) (.int .i32 ((11 : Nat) : Int))).run Tryd.prog w = .ok (.int .i32 (tb24 11)) w := by kernel_rfl
theorem idx24_12 (w : World) : (Instr.index 70 (.agg #[.int .i32 768, .int .i32 769, .int .i32 770, .int .i32 771, .int .i32 772, .int .i32 774, .int .i32 775, .int .i32 776, .int .i32 778, .int .i32 780, .int .i32 803, .int .i32 807, .int .i32 808, .int .i32 795, .int .i32 837, .int .i32 820, .int .i32 2364, .int .i32 12441, .int .i32 12442, .int .i32 1456, .int .i32 1460, .int .i32 824, .int .i32 834, .int .i32 2494]) (.int .i32 ((12 : Nat) : Int))).run Tryd.prog w = .ok (.int .i32 (tb24 12)) w := by kernel_rfl
theorem idx24_13 (w : World) : (Instr.index 70 (.agg #[.int .i32 768, .int .i32 769, .int .i32 770, .int .i32 771, .int .i32 772, .int .i32 774, .int .i32 775, .int .i32 776, .int .i32 778, .int .i32 780, .int .i32 803, .int .i32 807, .int .i32 808, .int .i32 795, .int .i32 837, .int .i32 820, .int .i32 2364, .int .i32 12441, .int .i32 12442, .int .i32 1456, .int .i32 1460, .int .i32 824, .int .i32 834, .int .i32 2494]) (.int .i32 ((13 : Nat) : Int))).run Tryd.prog w = .ok (.int .i32 (tb24 13)) w := by kernel_rfl
theorem idx24_14 (w : World) : (Instr.index 70 (.agg #[.int .i32 768, .int .i32 769, .int .i32 770, .int .i32 771, .int .i32 772, .int .i32 774, .int .i32 775, .int .i32 776, .int .i32 778, .int .i32 780, .int .i32 803, .int .i32 807, .int .i32 808, .int .i32 795, .int .i32 837, .int .i32 820, .int .i32 2364, .int .i32 12441, .int .i32 12442, .int .i32 1456, .int .i32 1460, .int .i32 824, .int .i32 834, .int .i32 2494]) (.int .i32 ((14 : Nat) : Int))).run Tryd.prog w = .ok (.int .i32 (tb24 14)) w := by kernel_rfl
theorem idx24_15 (w : World) : (Instr.index 70 (.agg #[.int .i32 768, .int .i32 769, .int .i32 770, .int .i32 771, .int .i32 772, .int .i32 774, .int .i32 775, .int .i32 776, .int .i32 778, .int .i32 780, .int .i32 803, .int .i32 807, .int .i32 808, .int .i32 795, .int .i32 837, .int .i32 820, .int .i32 2364, .int .i32 12441, .int .i32 12442, .int .i32 1456, .int .i32 1460, .int .i32 824, .int .i32 834, .int .i32 2494]) (.int .i32 ((15 : Nat) : Int))).run Tryd.prog w = .ok (.int .i32 (tb24 15)) w := by kernel_rfl
theorem idx24_16 (w : World) : (Instr.index 70 (.agg #[.int .i32 768, .int .i32 769, .int .i32 770, .int .i32 771, .int .i32 772, .int .i32 774, .int .i32 775, .int .i32 776, .int .i32 778, .int .i32 780, .int .i32 803, .int .i32 807, .int .i32 808, .int .i32 795, .int .i32 837, .int .i32 820, .int .i32 2364, .int .i32 12441, .int .i32 12442, .int .i32 1456, .int .i32 1460, .int .i32 824, .int .i32 834, .int .i32 2494]) (.int .i32 ((16 : Nat) : Int))).run Tryd.prog w = .ok (.int .i32 (tb24 16)) w := by kernel_rfl
theorem idx24_17 (w : World) : (Instr.index 70 (.agg #[.int .i32 768, .int .i32 769, .int .i32 770, .int .i32 771, .int .i32 772, .int .i32 774, .int .i32 775, .int .i32 776, .int .i32 778, .int .i32 780, .int .i32 803, .int .i32 807, .int .i32 808, .int .i32 795, .int .i32 837, .int .i32 820, .int .i32 2364, .int .i32 12441, .int .i32 12442, .int .i32 1456, .int .i32 1460, .int .i32 824, .int .i32 834, .int .i32 2494]) (.int .i32 ((17 : Nat) : Int))).run Tryd.prog w = .ok (.int .i32 (tb24 17)) w := by kernel_rfl
theorem idx24_18 (w : World) : (Instr.index 70 (.agg #[.int .i32 768, .int .i32 769, .int .i32 770, .int .i32 771, .int .i32 772, .int .i32 774, .int .i32 775, .int .i32 776, .int .i32 778, .int .i32 780, .int .i32 803, .int .i32 807, .int .i32 808, .int .i32 795, .int .i32 837, .int .i32 820, .int .i32 2364, .int .i32 12441, .int .i32 12442, .int .i32 1456, .int .i32 1460, .int .i32 824, .int .i32 834, .int .i32 2494]) (.int .i32 ((18 : Nat) : Int))).run Tryd.prog w = .ok (.int .i32 (tb24 18)) w := by kernel_rfl
theorem idx24_19 (w : World) : (Instr.index 70 (.agg #[.int .i32 768, .int .i32 769, .int .i32 770, .int .i32 771, .int .i32 772, .int .i32 774, .int .i32 775, .int .i32 776, .int .i32 778, .int .i32 780, .int .i32 803, .int .i32 807, .int .i32 808, .int .i32 795, .int .i32 837, .int .i32 820, .int .i32 2364, .int .i32 12441, .int .i32 12442, .int .i32 1456, .int .i32 1460, .int .i32 824, .int .i32 834, .int .i32 2494]) (.int .i32 ((19 : Nat) : Int))).run Tryd.prog w = .ok (.int .i32 (tb24 19)) w := by kernel_rfl
theorem idx24_20 (w : World) : (Instr.index 70 (.agg #[.int .i32 768, .int .i32 769, .int .i32 770, .int .i32 771, .int .i32 772, .int .i32 774, .int .i32 775, .int .i32 776, .int .i32 778, .int .i32 780, .int .i32 803, .int .i32 807, .int .i32 808, .int .i32 795, .int .i32 837, .int .i32 820, .int .i32 2364, .int .i32 12441, .int .i32 12442, .int .i32 1456, .int .i32 1460, .int .i32 824, .int .i32 834, .int .i32 2494]) (.int .i32 ((20 : Nat) : Int))).run Tryd.prog w = .ok (.int .i32 (tb24 20)) w := by kernel_rfl
theorem idx24_21 (w : World) : (Instr.index 70 (.agg #[.int .i32 768, .int .i32 769, .int .i32 770, .int .i32 771, .int .i32 772, .int .i32 774, .int .i32 775, .int .i32 776, .int .i32 778, .int .i32 780, .int .i32 803, .int .i32 807, .int .i32 808, .int .i32 795, .int .i32 837, .int .i32 820, .int .i32 2364, .int .i32 12441, .int .i32 12442, .int .i32 1456, .int .i32 1460, .int .i32 824, .int .i32 834, .int .i32 2494]) (.int .i32 ((21 : Nat) : Int))).run Tryd.prog w = .ok (.int .i32 (tb24 21)) w := by kernel_rfl
theorem idx24_22 (w : World) : (Instr.index 70 (.agg #[.int .i32 768, .int .i32 769, .int .i32 770, .int .i32 771, .int .i32 772, .int .i32 774, .int .i32 775, .int .i32 776, .int .i32 778, .int .i32 780, .int .i32 803, .int .i32 807, .int .i32 808, .int .i32 795, .int .i32 837, .int .i32 820, .int .i32 2364, .int .i32 12441, .int .i32 12442, .int .i32 1456, .int .i32 1460, .int .i32 824, .int .i32 834, .int .i32 2494]) (.int .i32 ((22 : Nat) : Int))).run Tryd.prog w = .ok (.int .i32 (tb24 22)) w := by kernel_rfl
theorem idx24_23 (w : World) : (Instr.index 70 (.agg #[.int .i32 768, .int .i32 769, .int .i32 770, .int .i32 771, .int .i32 772, .int .i32 774, .int .i32 775, .int .i32 776, .int .i32 778, .int .i32 780, .int .i32 803, .int .i32 807, .int .i32 808, .int .i32 795, .int .i32 837, .int .i32 820, .int .i32 2364, .int .i32 12441, .int .i32 12442, .int .i32 1456, .int .i32 1460, .int .i32 824, .int .i32 834, .int .i32 2494]) (.int .i32 ((23 : Nat) : Int))).run Tryd.prog w = .ok (.int .i32 (tb24 23)) w := by kernel_rfl
theorem idx24 (k : Nat) (hk : k < 24) (w : World) : (Instr.index 70 (.agg #[.int .i32 768, .int .i32 769, .int .i32 770, .int .i32 771, .int .i32 772, .int .i32 774, .int .i32 775, .int .i32 776, .int .i32 778, .int .i32 780, .int .i32 803, .int .i32 807, .int .i32 808, .int .i32 795, .int .i32 837, .int .i32 820, .int .i32 2364, .int .i32 12441, .int .i32 12442, .int .i32 1456, .int .i32 1460, .int .i32 824, .int .i32 834, .int .i32 2494]) (.int .i32 (k : Int))).run Tryd.prog w = .ok (.int .i32 (tb24 k)) w := by
  match k, hk with
  | 0, _ => exact idx24_0 w
  | 1, _ => exact idx24_1 w
  | 2, _ => exact idx24_2 w
  | 3, _ => exact idx24_3 w
  | 4, _ => exact idx24_4 w
  | 5, _ => exact idx24_5 w
  | 6, _ => exact idx24_6 w
  | 7, _ => exact idx24_7 w
  | 8, _ => exact idx24_8 w
  | 9, _ => exact idx24_9 w
  | 10, _ => exact idx24_10 w
  | 11, _ => exact idx24_11 w
  | 12, _ => exact idx24_12 w
  | 13, _ => exact idx24_13 w
  | 14, _ => exact idx24_14 w
  | 15, _ => exact idx24_15 w
  | 16, _ => exact idx24_16 w
  | 17, _ => exact idx24_17 w
  | 18, _ => exact idx24_18 w
  | 19, _ => exact idx24_19 w
  | 20, _ => exact idx24_20 w
  | 21, _ => exact idx24_21 w
  | 22, _ => exact idx24_22 w
  | 23, _ => exact idx24_23 w
  | k + 24, h => exact absurd h (by omega)
theorem idxI24 (x : Int) (h0 : 0 ≤ x) (h1 : x < 24) : ∃ c, (0 ≤ c ∧ c ≤ 1114111) ∧ ∀ w : World, (Instr.index 70 (.agg #[.int .i32 768, .int .i32 769, .int .i32 770, .int .i32 771, .int .i32 772, .int .i32 774, .int .i32 775, .int .i32 776, .int .i32 778, .int .i32 780, .int .i32 803, .int .i32 807, .int .i32 808, .int .i32 795, .int .i32 837, .int .i32 820, .int .i32 2364, .int .i32 12441, .int .i32 12442, .int .i32 1456, .int .i32 1460, .int .i32 824, .int .i32 834, .int .i32 2494]) (.int .i32 x)).run Tryd.prog w = .ok (.int .i32 c) w := by
  obtain ⟨k, rfl⟩ := Int.eq_ofNat_of_zero_le h0
  exact ⟨tb24 k, tb24_bd k, fun w => idx24 k (by omega) w⟩
def tb16 (k : Nat) : Int := [(8491 : Int), (8486 : Int), (8490 : Int), (832 : Int), (833 : Int), (836 : Int), (884 : Int), (894 : Int), (2392 : Int), (2399 : Int), (63744 : Int), (64109 : Int), (194560 : Int), (119134 : Int), (64300 : Int), (10972 : Int)].getD k 0
theorem tb16_bd (k : Nat) : 0 ≤ tb16 k ∧ tb16 k ≤ 1114111 := by
  match k with
  | 0 => decide
  | 1 => decide
  | 2 => decide
  | 3 => decide
  | 4 => decide
  | 5 => decide
  | 6 => decide
  | 7 => decide
  | 8 => decide
  | 9 => decide
  | 10 => decide
  | 11 => decide
  | 12 => decide
  | 13 => decide
  | 14 => decide
  | 15 => decide
  | _ + 16 => simp [tb16]
theorem idx16_0 (w : World) : (Instr.index 71 (.agg #[.int .i32 8491, .int .i32 8486, .int .i32 8490, .int .i32 832, .int .i32 833, .int .i32 836, .int .i32 884, .int .i32 894, .int .i32 2392, .int .i32 2399, .int .i32 63744, .int .i32 64109, .int .i32 194560, .int .i32 119134, .int .i32 64300, .int .i32 10972]) (.int .i32 ((0 : Nat) : Int))).run Tryd.prog w = .ok (.int .i32 (tb16 0)) w := by kernel_rfl
theorem idx16_1 (w : World) : (Instr.index 71 (.agg #[.int .i32 8491, .int .i32 8486, .int .i32 8490, .int .i32 832, .int .i32 833, .int .i32 836, .int .i32 884, .int .i32 894, .int .i32 2392, .int .i32 2399, .int .i32 63744, .int .i32 64109, .int .i32 194560, .int .i32 119134, .int .i32 64300, .int .i32 10972]) (.int .i32 ((1 : Nat) : Int))).run Tryd.prog w = .ok (.int .i32 (tb16 1)) w := by kernel_rfl
theorem idx16_2 (w : World) : (Instr.index 71 (.agg #[.int .i32 8491, .int .i32 8486, .int .i32 8490, .int .i32 832, .int .i32 833, .int .i32 836, .int .i32 884, .int .i32 894, .int .i32 2392, .int .i32 2399, .int .i32 63744, .int .i32 64109, .int .i32 194560, .int .i32 119134, .int .i32 64300, .int .i32 10972]) (.int .i32 ((2 : Nat) : Int))).run Tryd.prog w = .ok (.int .i32 (tb16 2)) w := by kernel_rfl
theorem idx16_3 (w : World) : (Instr.index 71 (.agg #[.int .i32 8491, .int .i32 8486, .int .i32 8490, .int .i32 832, .int .i32 833, .int .i32 836, .int .i32 884, .int .i32 894, .int .i32 2392, .int .i32 2399, .int .i32 63744, .int .i32 64109, .int .i32 194560, .int .i32 119134, .int .i32 64300, .int .i32 10972]) (.int .i32 ((3 : Nat) : Int))).run Tryd.prog w = .ok (.int .i32 (tb16 3)) w := by kernel_rfl
theorem idx16_4 (w : World) : (Instr.index 71 (.agg #[.int .i32 8491, .int .i32 8486, .int .i32 8490, .int .i32 832, .int .i32 833, .int .i32 836, .int .i32 884, .int .i32 894, .int .i32 2392, .int .i32 2399, .int .i32 63744, .int .i32 64109, .int .i32 194560, .int .i32 119134, .int .i32 64300, .int .i32 10972]) (.int .i32 ((4 : Nat) : Int))).run Tryd.prog w = .ok (.int .i32 (tb16 4)) w := by kernel_rfl
theorem idx16_5 (w : World) : (Instr.index 71 (.agg #[.int .i32 8491, .int .i32 8486, .int .i32 8490, .int .i32 832, .int .i32 833, .int .i32 836, .int .i32 884, .int .i32 894, .int .i32 2392, .int .i32 2399, .int .i32 63744, .int .i32 64109, .int .i32 194560, .int .i32 119134, .int .i32 64300, .int .i32 10972]) (.int .i32 ((5 : Nat) : Int))).run Tryd.prog w = .ok (.int .i32 (tb16 5)) w := by kernel_rfl
theorem idx16_6 (w : World) : (Instr.index 71 (.agg #[.int .i32 8491, .int .i32 8486, .int .i32 8490, .int .i32 832, .int .i32 833, .int .i32 836, .int .i32 884, .int .i32 894, .int .i32 2392, .int .i32 2399, .int .i32 63744, .int .i32 64109, .int .i32 194560, .int .i32 119134, .int .i32 64300, .int .i32 10972]) (.int .i32 ((6 : Nat) : Int))).run Tryd.prog w = .ok (.int .i32 (tb16 6)) w := by kernel_rfl
theorem idx16_7 (w : World) : (Instr.index 71 (.agg #[.int .i32 8491, .int .i32 8486, .int .i32 8490, .int .i32 832, .int .i32 833, .int .i32 836, .int .i32 884, .int .i32 894, .int .i32 2392, .int .i32 2399, .int .i32 63744, .int .i32 64109, .int .i32 194560, .int .i32 119134, .int .i32 64300, .int .i32 10972]) (.int .i32 ((7 : Nat) : Int))).run Tryd.prog w = .ok (.int .i32 (tb16 7)) w := by kernel_rfl
theorem idx16_8 (w : World) : (Instr.index 71 (.agg #[.int .i32 8491, .int .i32 8486, .int .i32 8490, .int .i32 832, .int .i32 833, .int .i32 836, .int .i32 884, .int .i32 894, .int .i32 2392, .int .i32 2399, .int .i32 63744, .int .i32 64109, .int .i32 194560, .int .i32 119134, .int .i32 64300, .int .i32 10972]) (.int .i32 ((8 : Nat) : Int))).run Tryd.prog w = .ok (.int .i32 (tb16 8)) w := by kernel_rfl
theorem idx16_9 (w : World) : (Instr.index 71 (.agg #[.int .i32 8491, .int .i32 8486, .int .i32 8490, .int .i32 832, .int .i32 833, .int .i32 836, .int .i32 884, .int .i32 894, .int .i32 2392, .int .i32 2399, .int .i32 63744, .int .i32 64109, .int .i32 194560, .int .i32 119134, .int .i32 64300, .int .i32 10972]) (.int .i32 ((9 : Nat) : Int))).run Tryd.prog w = .ok (.int .i32 (tb16 9)) w := by kernel_rfl
theorem idx16_10 (w : World) : (Instr.index 71 (.agg #[.int .i32 8491, .int .i32 8486, .int .i32 8490, .int .i32 832, .int .i32 833, .int .i32 836, .int .i32 884, .int .i32 894, .int .i32 2392, .int .i32 2399, .int .i32 63744, .int .i32 64109, .int .i32 194560, .int .i32 119134, .int .i32 64300, .int .i32 10972]) (.int .i32 ((10 : Nat) : Int))).run Tryd.prog w = .ok (.int .i32 (tb16 10)) w := by kernel_rfl
theorem idx16_11 (w : World) : (Instr.index 71 (.agg #[.int .i32 8491, .int .i32 8486, .int .i32 8490, .int .i32 832, .int .i32 833, .int .i32 836, .int .i32 884, .int .i32 894, .int .i32 2392, .int .i32 2399, .int .i32 63744, .int .i32 64109, .int .i32 194560, .int .i32 119134, .int .i32 64300, .int .i32 10972]) (.int .i32 ((11 : Nat) : Int))).run Tryd.prog w = .ok (.int .i32 (tb16 11)) w := by kernel_rfl
theorem idx16_12 (w : World) : (Instr.index 71 (.agg #[.int .i32 8491, .int .i32 8486, .int .i32 8490, .int .i32 832, .int .i32 833, .int .i32 836, .int .i32 884, .int .i32 894, .int .i32 2392, .int .i32 2399, .int .i32 63744, .int .i32 64109, .int .i32 194560, .int .i32 119134, .int .i32 64300, .int .i32 10972]) (.int .i32 ((12 : Nat) : Int))).run Tryd.prog w = .ok (.int .i32 (tb16 12)) w := by kernel_rfl
theorem idx16_13 (w : World) : (Instr.index 71 (.agg #[.int .i32 8491, .int .i32 8486, .int .i32 8490, .int .i32 832, .int .i32 833, .int .i32 836, .int .i32 884, .int .i32 894, .int .i32 2392, .int .i32 2399, .int .i32 63744, .int .i32 64109, .int .i32 194560, .int .i32 119134, .int .i32 64300, .int .i32 10972]) (.int .i32 ((13 : Nat) : Int))).run Tryd.prog w = .ok (.int .i32 (tb16 13)) w := by kernel_rfl
theorem idx16_14 (w : World) : (Instr.index 71 (.agg #[.int .i32 8491, .int .i32 8486, .int .i32 8490, .int .i32 832, .int .i32 833, .int .i32 836, .int .i32 884, .int .i32 894, .int .i32 2392, .int .i32 2399, .int .i32 63744, .int .i32 64109, .int .i32 194560, .int .i32 119134, .int .i32 64300, .int .i32 10972]) (.int .i32 ((14 : Nat) : Int))).run Tryd.prog w = .ok (.int .i32 (tb16 14)) w := by kernel_rfl
theorem idx16_15 (w : World) : (Instr.index 71 (.agg #[.int .i32 8491, .int .i32 8486, .int .i32 8490, .int .i32 832, .int .i32 833, .int .i32 836, .int .i32 884, .int .i32 894, .int .i32 2392, .int .i32 2399, .int .i32 63744, .int .i32 64109, .int .i32 194560, .int .i32 119134, .int .i32 64300, .int .i32 10972]) (.int .i32 ((15 : Nat) : Int))).run Tryd.prog w = .ok (.int .i32 (tb16 15)) w := by kernel_rfl
theorem idx16 (k : Nat) (hk : k < 16) (w : World) : (Instr.index 71 (.agg #[.int .i32 8491, .int .i32 8486, .int .i32 8490, .int .i32 832, .int .i32 833, .int .i32 836, .int .i32 884, .int .i32 894, .int .i32 2392, .int .i32 2399, .int .i32 63744, .int .i32 64109, .int .i32 194560, .int .i32 119134, .int .i32 64300, .int .i32 10972]) (.int .i32 (k : Int))).run Tryd.prog w = .ok (.int .i32 (tb16 k)) w := by
  match k, hk with
  | 0, _ => exact idx16_0 w
  | 1, _ => exact idx16_1 w
  | 2, _ => exact idx16_2 w
  | 3, _ => exact idx16_3 w
  | 4, _ => exact idx16_4 w
  | 5, _ => exact idx16_5 w
  | 6, _ => exact idx16_6 w
  | 7, _ => exact idx16_7 w
  | 8, _ => exact idx16_8 w
  | 9, _ => exact idx16_9 w
  | 10, _ => exact idx16_10 w
  | 11, _ => exact idx16_11 w
  | 12, _ => exact idx16_12 w
  | 13, _ => exact idx16_13 w
  | 14, _ => exact idx16_14 w
  | 15, _ => exact idx16_15 w
  | k + 16, h => exact absurd h (by omega)
theorem idxI16 (x : Int) (h0 : 0 ≤ x) (h1 : x < 16) : ∃ c, (0 ≤ c ∧ c ≤ 1114111) ∧ ∀ w : World, (Instr.index 71 (.agg #[.int .i32 8491, .int .i32 8486, .int .i32 8490, .int .i32 832, .int .i32 833, .int .i32 836, .int .i32 884, .int .i32 894, .int .i32 2392, .int .i32 2399, .int .i32 63744, .int .i32 64109, .int .i32 194560, .int .i32 119134, .int .i32 64300, .int .i32 10972]) (.int .i32 x)).run Tryd.prog w = .ok (.int .i32 c) w := by
  obtain ⟨k, rfl⟩ := Int.eq_ofNat_of_zero_le h0
  exact ⟨tb16 k, tb16_bd k, fun w => idx16 k (by omega) w⟩
def tb3 (k : Nat) : Int := [(4352 : Int), (4449 : Int), (4519 : Int)].getD k 0
theorem tb3_bd (k : Nat) : 0 ≤ tb3 k ∧ tb3 k ≤ 4519 := by
  match k with
  | 0 => decide
  | 1 => decide
  | 2 => decide
  | _ + 3 => simp [tb3]
theorem idx3_0 (w : World) : (Instr.index 72 (.agg #[.int .i32 4352, .int .i32 4449, .int .i32 4519]) (.int .i32 ((0 : Nat) : Int))).run Tryd.prog w = .ok (.int .i32 (tb3 0)) w := by kernel_rfl
theorem idx3_1 (w : World) : (Instr.index 72 (.agg #[.int .i32 4352, .int .i32 4449, .int .i32 4519]) (.int .i32 ((1 : Nat) : Int))).run Tryd.prog w = .ok (.int .i32 (tb3 1)) w := by kernel_rfl
theorem idx3_2 (w : World) : (Instr.index 72 (.agg #[.int .i32 4352, .int .i32 4449, .int .i32 4519]) (.int .i32 ((2 : Nat) : Int))).run Tryd.prog w = .ok (.int .i32 (tb3 2)) w := by kernel_rfl
theorem idx3 (k : Nat) (hk : k < 3) (w : World) : (Instr.index 72 (.agg #[.int .i32 4352, .int .i32 4449, .int .i32 4519]) (.int .i32 (k : Int))).run Tryd.prog w = .ok (.int .i32 (tb3 k)) w := by
  match k, hk with
  | 0, _ => exact idx3_0 w
  | 1, _ => exact idx3_1 w
  | 2, _ => exact idx3_2 w
  | k + 3, h => exact absurd h (by omega)
theorem idxI3 (x : Int) (h0 : 0 ≤ x) (h1 : x < 3) : ∃ c, (0 ≤ c ∧ c ≤ 4519) ∧ ∀ w : World, (Instr.index 72 (.agg #[.int .i32 4352, .int .i32 4449, .int .i32 4519]) (.int .i32 x)).run Tryd.prog w = .ok (.int .i32 c) w := by
  obtain ⟨k, rfl⟩ := Int.eq_ofNat_of_zero_le h0
  exact ⟨tb3 k, tb3_bd k, fun w => idx3 k (by omega) w⟩
def tb8 (k : Nat) : Int := [(128512 : Int), (65536 : Int), (1114109 : Int), (57344 : Int), (64307 : Int), (65533 : Int), (55295 : Int), (8232 : Int)].getD k 0
theorem tb8_bd (k : Nat) : 0 ≤ tb8 k ∧ tb8 k ≤ 1114111 := by
  match k with
  | 0 => decide
  | 1 => decide
  | 2 => decide
  | 3 => decide
  | 4 => decide
  | 5 => decide
  | 6 => decide
  | 7 => decide
  | _ + 8 => simp [tb8]
theorem idx8_0 (w : World) : (Instr.index 73 (.agg #[.int .i32 128512, .int .i32 65536, .int .i32 1114109, .int .i32 57344, .int .i32 64307, .int .i32 65533, .int .i32 55295, .int .i32 8232]) (.int .i32 ((0 : Nat) : Int))).run Tryd.prog w = .ok (.int .i32 (tb8 0)) w := by kernel_rfl
theorem idx8_1 (w : World) : (Instr.index 73 (.agg #[.int .i32 128512, .int .i32 65536, .int .i32 1114109, .int .i32 57344, .int .i32 64307, .int .i32 65533, .int .i32 55295, .int .i32 8232]) (.int .i32 ((1 : Nat) : Int))).run Tryd.prog w = .ok (.int .i32 (tb8 1)) w := by kernel_rfl
theorem idx8_2 (w : World) : (Instr.index 73 (.agg #[.int .i32 128512, .int .i32 65536, .int .i32 1114109, .int .i32 57344, .int .i32 64307, .int .i32 65533, .int .i32 55295, .int .i32 8232]) (.int .i32 ((2 : Nat) : Int))).run Tryd.prog w = .ok (.int .i32 (tb8 2)) w := by kernel_rfl
theorem idx8_3 (w : World) : (Instr.index 73 (.agg #[.int .i32 128512, .int .i32 65536, .int .i32 1114109, .int .i32 57344, .int .i32 64307, .int .i32 65533, .int .i32 55295, .int .i32 8232]) (.int .i32 ((3 : Nat) : Int))).run Tryd.prog w = .ok (.int .i32 (tb8 3)) w := by kernel_rfl
theorem idx8_4 (w : World) : (Instr.index 73 (.agg #[.int .i32 128512, .int .i32 65536, .int .i32 1114109, .int .i32 57344, .int .i32 64307, .int .i32 65533, .int .i32 55295, .int .i32 8232]) (.int .i32 ((4 : Nat) : Int))).run Tryd.prog w = .ok (.int .i32 (tb8 4)) w := by kernel_rfl
theorem idx8_5 (w : World) : (Instr.index 73 (.agg #[.int .i32 128512, .int .i32 65536, .int .i32 1114109, .int .i32 57344, .int .i32 64307, .int .i32 65533, .int .i32 55295, .int .i32 8232]) (.int .i32 ((5 : Nat) : Int))).run Tryd.prog w = .ok (.int .i32 (tb8 5)) w := by kernel_rfl
theorem idx8_6 (w : World) : (Instr.index 73 (.agg #[.int .i32 128512, .int .i32 65536, .int .i32 1114109, .int .i32 57344, .int .i32 64307, .int .i32 65533, .int .i32 55295, .int .i32 8232]) (.int .i32 ((6 : Nat) : Int))).run Tryd.prog w = .ok (.int .i32 (tb8 6)) w := by kernel_rfl
theorem idx8_7 (w : World) : (Instr.index 73 (.agg #[.int .i32 128512, .int .i32 65536, .int .i32 1114109, .int .i32 57344, .int .i32 64307, .int .i32 65533, .int .i32 55295, .int .i32 8232]) (.int .i32 ((7 : Nat) : Int))).run Tryd.prog w = .ok (.int .i32 (tb8 7)) w := by kernel_rfl
theorem idx8 (k : Nat) (hk : k < 8) (w : World) : (Instr.index 73 (.agg #[.int .i32 128512, .int .i32 65536, .int .i32 1114109, .int .i32 57344, .int .i32 64307, .int .i32 65533, .int .i32 55295, .int .i32 8232]) (.int .i32 (k : Int))).run Tryd.prog w = .ok (.int .i32 (tb8 k)) w := by
  match k, hk with
  | 0, _ => exact idx8_0 w
  | 1, _ => exact idx8_1 w
  | 2, _ => exact idx8_2 w
  | 3, _ => exact idx8_3 w
  | 4, _ => exact idx8_4 w
  | 5, _ => exact idx8_5 w
  | 6, _ => exact idx8_6 w
  | 7, _ => exact idx8_7 w
  | k + 8, h => exact absurd h (by omega)
theorem idxI8 (x : Int) (h0 : 0 ≤ x) (h1 : x < 8) : ∃ c, (0 ≤ c ∧ c ≤ 1114111) ∧ ∀ w : World, (Instr.index 73 (.agg #[.int .i32 128512, .int .i32 65536, .int .i32 1114109, .int .i32 57344, .int .i32 64307, .int .i32 65533, .int .i32 55295, .int .i32 8232]) (.int .i32 x)).run Tryd.prog w = .ok (.int .i32 c) w := by
  obtain ⟨k, rfl⟩ := Int.eq_ofNat_of_zero_le h0
  exact ⟨tb8 k, tb8_bd k, fun w => idx8 k (by omega) w⟩

theorem emod_of_tmod (v n : Int) (hn : 0 < n) : (v.tmod n < 0 → v.tmod n + n = v % n) ∧ (0 ≤ v.tmod n → v.tmod n = v % n) := by
  have e := @Int.tmod_eq_emod v n
  have h1 := Int.emod_nonneg v (show n ≠ 0 by omega)
  have h2 := Int.emod_lt_of_pos v hn
  rw [e]
  by_cases hd : 0 ≤ v ∨ n ∣ v
  · rw [if_pos hd]; constructor <;> intro h <;> omega
  · rw [if_neg hd]; constructor <;> intro h <;> omega
theorem place_any (v n : Int) (w : World) (hn : 0 < n) (hm : n ≤ 1099511627776) : Calls Tryd.prog 42 #[.int .i64 v, .int .i64 n] w fun e w' => e = .returned (.int .i64 (v % n)) ∧ w = w' := by
  obtain ⟨f1, f2⟩ := emod_of_tmod v n hn
  have b1 := Int.tmod_lt_of_pos v hn
  have b2 := Int.lt_tmod_of_pos v hn
  have hn0 : (n == 0) = false := beq_eq_false_iff_ne.2 (by omega)
  obtain ⟨t, ht⟩ : ∃ t, v.tmod n = t := ⟨_, rfl⟩
  by_cases hneg : t < 0
  · have e1 := f1 (by omega)
    rw [← e1, ht]
    rw [ht] at b1 b2
    clear e1 f1 f2
    go_enter Tryd.func42, Tryd.ntmps42
    go_wp2
    go_ret
    exact ⟨rfl, rfl⟩
  · have e1 := f2 (by omega)
    rw [← e1, ht]
    rw [ht] at b1 b2
    clear e1 f1 f2
    go_enter Tryd.func42, Tryd.ntmps42
    go_wp2
    go_ret
    exact ⟨rfl, rfl⟩

set_option maxHeartbeats 4000000 in
/-- a number's rune, whatever the world -/
theorem rune_fn (v : Int) : ∃ c : Int, (0 ≤ c ∧ c ≤ 1114111) ∧ ∀ w : World, Calls Tryd.prog 27 #[.int .i64 v] w fun e w' => e = .returned (.int .i32 c) ∧ w = w' := by
  have h0 := Int.emod_nonneg v (show (1099511627776 : Int) ≠ 0 by decide)
  have h1 := Int.emod_lt_of_pos v (show (0 : Int) < 1099511627776 by decide)
  have HP : Hid (∀ w, Calls Tryd.prog 42 #[.int .i64 v, .int .i64 1099511627776] w fun e w' => e = .returned (.int .i64 (v % 1099511627776)) ∧ w = w') := fun w => place_any v 1099511627776 w (by decide) (by decide)
  generalize v % 1099511627776 = k at h0 h1 HP
  have hn0 : 0 ≤ k / 16 % 100000 := by omega
  have hn1 : k / 16 % 100000 < 100000 := by omega
  obtain ⟨c12, b12, i12⟩ := idxI12 (k / 16 % 100000 % 12) (by omega) (by omega)
  obtain ⟨c24, b24, i24⟩ := idxI24 (k / 16 % 100000 % 24) (by omega) (by omega)
  obtain ⟨c16, b16, i16⟩ := idxI16 (k / 16 % 16) (by omega) (by omega)
  obtain ⟨c3, b3, i3⟩ := idxI3 (k / 16 % 100000 % 3) (by omega) (by omega)
  obtain ⟨c8, b8, i8⟩ := idxI8 (k / 16 % 8) (by omega) (by omega)
  have hr : k % 16 = 0 ∨ k % 16 = 1 ∨ k % 16 = 2 ∨ k % 16 = 3 ∨ k % 16 = 4 ∨ k % 16 = 5 ∨ k % 16 = 6 ∨ k % 16 = 7 ∨ k % 16 = 8 ∨ k % 16 = 9 ∨ k % 16 = 10 ∨ k % 16 = 11 ∨ k % 16 = 12 ∨ k % 16 = 13 ∨ k % 16 = 14 ∨ k % 16 = 15 := by omega
  rcases hr with hr | hr | hr | hr | hr | hr | hr | hr | hr | hr | hr | hr | hr | hr | hr | hr
  · refine ⟨97 + k / 16 % 100000 % 26, by omega, fun w => ?_⟩
    clear i12 i24 i16 i3 i8
    go_enter Tryd.func27, Tryd.ntmps27
    go_wp2_with fail
    with_reducible refine (HP.out w).mono ?_
    rintro e w' ⟨rfl, rfl⟩
    go_wp2
    go_ret
    exact ⟨rfl, rfl⟩
  · refine ⟨97 + k / 16 % 100000 % 26, by omega, fun w => ?_⟩
    clear i12 i24 i16 i3 i8
    go_enter Tryd.func27, Tryd.ntmps27
    go_wp2_with fail
    with_reducible refine (HP.out w).mono ?_
    rintro e w' ⟨rfl, rfl⟩
    go_wp2
    go_ret
    exact ⟨rfl, rfl⟩
  · refine ⟨c12, by omega, fun w => ?_⟩
    clear i24 i16 i3 i8
    go_enter Tryd.func27, Tryd.ntmps27
    go_wp2_with fail
    with_reducible refine (HP.out w).mono ?_
    rintro e w' ⟨rfl, rfl⟩
    go_wp2
    go_ret
    exact ⟨rfl, rfl⟩
  · refine ⟨c24, by omega, fun w => ?_⟩
    clear i12 i16 i3 i8
    go_enter Tryd.func27, Tryd.ntmps27
    go_wp2_with fail
    with_reducible refine (HP.out w).mono ?_
    rintro e w' ⟨rfl, rfl⟩
    go_wp2
    go_ret
    exact ⟨rfl, rfl⟩
  · refine ⟨c24, by omega, fun w => ?_⟩
    clear i12 i16 i3 i8
    go_enter Tryd.func27, Tryd.ntmps27
    go_wp2_with fail
    with_reducible refine (HP.out w).mono ?_
    rintro e w' ⟨rfl, rfl⟩
    go_wp2
    go_ret
    exact ⟨rfl, rfl⟩
  · refine ⟨c24, by omega, fun w => ?_⟩
    clear i12 i16 i3 i8
    go_enter Tryd.func27, Tryd.ntmps27
    go_wp2_with fail
    with_reducible refine (HP.out w).mono ?_
    rintro e w' ⟨rfl, rfl⟩
    go_wp2
    go_ret
    exact ⟨rfl, rfl⟩
  · refine ⟨192 + k / 16 % 100000 % 448, by omega, fun w => ?_⟩
    clear i12 i24 i16 i3 i8
    go_enter Tryd.func27, Tryd.ntmps27
    go_wp2_with fail
    with_reducible refine (HP.out w).mono ?_
    rintro e w' ⟨rfl, rfl⟩
    go_wp2
    go_ret
    exact ⟨rfl, rfl⟩
  · refine ⟨7680 + k / 16 % 100000 % 512, by omega, fun w => ?_⟩
    clear i12 i24 i16 i3 i8
    go_enter Tryd.func27, Tryd.ntmps27
    go_wp2_with fail
    with_reducible refine (HP.out w).mono ?_
    rintro e w' ⟨rfl, rfl⟩
    go_wp2
    go_ret
    exact ⟨rfl, rfl⟩
  · refine ⟨c16, by omega, fun w => ?_⟩
    clear i12 i24 i3 i8
    go_enter Tryd.func27, Tryd.ntmps27
    go_wp2_with fail
    with_reducible refine (HP.out w).mono ?_
    rintro e w' ⟨rfl, rfl⟩
    go_wp2
    go_ret
    exact ⟨rfl, rfl⟩
  · refine ⟨44032 + k / 16 % 100000 % 11172, by omega, fun w => ?_⟩
    clear i12 i24 i16 i3 i8
    go_enter Tryd.func27, Tryd.ntmps27
    go_wp2_with fail
    with_reducible refine (HP.out w).mono ?_
    rintro e w' ⟨rfl, rfl⟩
    go_wp2
    go_ret
    exact ⟨rfl, rfl⟩
  · refine ⟨c3 + k / 16 % 100000 / 3 % 30, by omega, fun w => ?_⟩
    clear i12 i24 i16 i8
    go_enter Tryd.func27, Tryd.ntmps27
    go_wp2_with fail
    with_reducible refine (HP.out w).mono ?_
    rintro e w' ⟨rfl, rfl⟩
    go_wp2
    go_ret
    exact ⟨rfl, rfl⟩
  · refine ⟨c8, by omega, fun w => ?_⟩
    clear i12 i24 i16 i3
    go_enter Tryd.func27, Tryd.ntmps27
    go_wp2_with fail
    with_reducible refine (HP.out w).mono ?_
    rintro e w' ⟨rfl, rfl⟩
    go_wp2
    go_ret
    exact ⟨rfl, rfl⟩
  · refine ⟨k / 16 % 100000 % 128, by omega, fun w => ?_⟩
    clear i12 i24 i16 i3 i8
    go_enter Tryd.func27, Tryd.ntmps27
    go_wp2_with fail
    with_reducible refine (HP.out w).mono ?_
    rintro e w' ⟨rfl, rfl⟩
    go_wp2
    go_ret
    exact ⟨rfl, rfl⟩
  · refine ⟨880 + k / 16 % 100000 % 1536, by omega, fun w => ?_⟩
    clear i12 i24 i16 i3 i8
    go_enter Tryd.func27, Tryd.ntmps27
    go_wp2_with fail
    with_reducible refine (HP.out w).mono ?_
    rintro e w' ⟨rfl, rfl⟩
    go_wp2
    go_ret
    exact ⟨rfl, rfl⟩
  · refine ⟨12352 + k / 16 % 100000 % 192, by omega, fun w => ?_⟩
    clear i12 i24 i16 i3 i8
    go_enter Tryd.func27, Tryd.ntmps27
    go_wp2_with fail
    with_reducible refine (HP.out w).mono ?_
    rintro e w' ⟨rfl, rfl⟩
    go_wp2
    go_ret
    exact ⟨rfl, rfl⟩
  · refine ⟨k / 16 % 1114112, by omega, fun w => ?_⟩
    clear i12 i24 i16 i3 i8
    go_enter Tryd.func27, Tryd.ntmps27
    go_wp2_with fail
    with_reducible refine (HP.out w).mono ?_
    rintro e w' ⟨rfl, rfl⟩
    go_wp2
    go_ret
    exact ⟨rfl, rfl⟩
/-- some rune, and nothing else -/
def SomeRune (w : World) (e : Ending) (w' : World) : Prop := ∃ c : Int, (0 ≤ c ∧ c ≤ 1114111) ∧ e = .returned (.int .i32 c) ∧ w = w'
theorem rune_any (v : Int) (w : World) : Calls Tryd.prog 27 #[.int .i64 v] w (SomeRune w) := by
  obtain ⟨c, hc, h⟩ := rune_fn v
  exact (h w).mono fun e w' ⟨he, hw⟩ => ⟨c, hc, he, hw⟩
end Go.Proofs.YtdcfhkiajeiaoaaDoor
