/- FaultNames, FaultNone. -/
import Derived.Test.YtakbbhhhdcnlnaaDoorN14Awk
namespace Go.Proofs.YtakbbhhhdcnlnaaDoor
set_option maxRecDepth 100000
open Go.RowKit
set_option linter.unusedVariables false
set_option linter.unusedSimpArgs false

theorem nameL_inj : ∀ i j : Fin 20, nameL.getD i.val [] = nameL.getD j.val [] → i = j := by decide
theorem nameL_ne : ∀ i : Fin 20, nameL.getD i.val [] ≠ [] := by decide
theorem nmF_in {a : Int} (h : 0 ≤ a ∧ a ≤ 19) : nmF a ≠ [] := by
  unfold nmF
  rw [if_pos h]
  exact nameL_ne ⟨a.toNat, by omega⟩
theorem nmF_out {a : Int} (h : ¬ (0 ≤ a ∧ a ≤ 19)) : nmF a = [] := by
  unfold nmF
  rw [if_neg h]
theorem nmF_inj {a b : Int} (h : 0 ≤ a ∧ a ≤ 19) (k : 0 ≤ b ∧ b ≤ 19) (e : nmF a = nmF b) : a = b := by
  unfold nmF at e
  rw [if_pos h, if_pos k] at e
  have := nameL_inj ⟨a.toNat, by omega⟩ ⟨b.toNat, by omega⟩ e
  injection this with h2
  omega
theorem bs_nil : bs [] = ⟨#[]⟩ := rfl
theorem nm_empty (a : Int) : ((bs (nmF a)).toList == []) = !(decide (0 ≤ a ∧ a ≤ 19)) := by
  rw [L8_toList, L8_bs]
  by_cases h : 0 ≤ a ∧ a ≤ 19
  · rw [decide_eq_true h]
    cases hh : nmF a with
    | nil => exact absurd hh (nmF_in h)
    | cons x l => rfl
  · rw [decide_eq_false h, nmF_out h]; rfl
/-- the walk, whatever the tests say -/
theorem names_core (a b : Int) (w : World) (hV : Vs w) (X Y : ByteArray) (hx : bs (nmF a) = X) (hy : bs (nmF b) = Y)
    (ia ja ib jb : Bool) (h1 : decide (0 ≤ a) = ia) (h2 : decide (a ≤ 19) = ja) (h3 : decide (0 ≤ b) = ib) (h4 : decide (b ≤ 19) = jb)
    (hxe : (X.toList == []) = !(ia && ja)) (hye : (Y.toList == []) = !(ib && jb)) (q r : Bool) (hq : (X.toList == Y.toList) = q) (hr : (a == b) = r) (hqr : (ia && ja && (ib && jb)) = true → q = r) :
    Calls Tryd.prog 4 #[.int .i64 a, .int .i64 b] w fun e w' => e = .returned (.bool true) ∧ Below w.heap.size w w' := by
  have hn1 := Lib.hid (name_any a w hV.n)
  have hn2 := Lib.hid (name_any b w hV.n)
  have hn3 := Lib.hid (rname_any a w)
  rw [hx] at hn1 hn3
  rw [hy] at hn2
  have hXX : (X.toList == X.toList) = true := by simp
  have hA := Lib.hid (fun W hb => awake_any W (hV.go hb))
  clear hx hy hV
  go_enter Tryd.func4, Tryd.ntmps4
  go_wp2_with fail
  refine (hn1.out).mono ?_
  rintro e w1 ⟨rfl, rfl⟩
  go_wp2_with fail
  refine (hn2.out).mono ?_
  rintro e w1 ⟨rfl, rfl⟩
  cases ia <;> cases ja <;> cases ib <;> cases jb
  all_goals (go_wp2_with fail)
  all_goals (refine (hn3.out).mono ?_)
  all_goals (rintro e w2 ⟨rfl, hb2⟩; have hb3 := Lib.hid hb2; have ha := Lib.hid (hA.out w2 hb2); clear hb2)
  all_goals (try (have hqq := hqr rfl; subst hqq))
  all_goals (clear hqr)
  all_goals (try cases q)
  all_goals (go_wp2_with (go_at_call 7; refine (ha.out).mono ?_; rintro e w4 ⟨rfl, hb4⟩; replace hb4 := Lib.hid hb4))
  all_goals (go_ret; exact ⟨rfl, hb3.out.trans (hb4.out.mono hb3.out.size)⟩)
theorem names_walk (a b : Int) (w : World) (hV : Vs w) : Calls Tryd.prog 4 #[.int .i64 a, .int .i64 b] w fun e w' => e = .returned (.bool true) ∧ Below w.heap.size w w' := by
  refine names_core a b w hV _ _ rfl rfl _ _ _ _ rfl rfl rfl rfl ?_ ?_ _ _ rfl rfl ?_
  · rw [nm_empty]; by_cases h1 : 0 ≤ a <;> by_cases h2 : a ≤ 19 <;> simp [h1, h2]
  · rw [nm_empty]; by_cases h1 : 0 ≤ b <;> by_cases h2 : b ≤ 19 <;> simp [h1, h2]
  · intro h
    simp only [Bool.and_eq_true, decide_eq_true_eq] at h
    rw [L8_toList, L8_toList, L8_bs, L8_bs]
    by_cases e : a = b
    · subst e; simp
    · rw [beq_eq_false_iff_ne.2 e, beq_eq_false_iff_ne]
      exact fun h' => e (nmF_inj h.1 h.2 h')

set_option maxHeartbeats 4000000 in
theorem none_walk (a : Int) (s : ByteArray) (n c : Int) (w : World) (hV : Vs w) : Calls Tryd.prog 6 #[.int .i64 a, .string s, .int .i64 n, .int .i64 c] w fun e w' => e = .returned (.bool true) ∧ Below w.heap.size w w' := by
  have q2 : ∀ w, (binOp .eql 30 (.agg #[.int .i64 0, .int .i64 0, .int .i64 0]) (.agg #[.int .i64 0, .int .i64 0, .int .i64 0])).run Tryd.prog w = .ok (.bool true) w := fun w => by rw [eq_ft]; rfl
  go_enter Tryd.func6, Tryd.ntmps6
  go_wp2_with fail
  refine (new_ok _ _).mono ?_
  rintro e w1 ⟨rfl, rfl⟩
  go_wp2_with fail
  refine (wrap_nil _ _).mono ?_
  rintro e w1 ⟨rfl, rfl⟩
  go_wp2_with fail
  refine (input_nil _ _).mono ?_
  rintro e w1 ⟨rfl, rfl⟩
  go_wp2_with fail
  refine (wrap_nil _ _).mono ?_
  rintro e w1 ⟨rfl, rfl⟩
  go_wp2_with fail
  refine (input_nil _ _).mono ?_
  rintro e w1 ⟨rfl, rfl⟩
  go_wp2_with fail
  refine (of_nil _).mono ?_
  rintro e w2 ⟨rfl, hb2⟩
  have hV2 := Lib.hid (hV.go hb2)
  replace hb2 := Lib.hid hb2
  clear hV
  go_wp2_with fail
  refine (text_nil _).mono ?_
  rintro e w3 ⟨rfl, hb3⟩
  have hV3 := Lib.hid (hV2.out.go hb3)
  have hS3 := Lib.hid (hb2.out.trans (hb3.mono hb2.out.size))
  clear hV2 hb2 hb3
  go_wp2_with fail
  refine (is_nil _ _).mono ?_
  rintro e w4 ⟨rfl, rfl⟩
  go_wp2_with fail
  refine (awake_any _ hV3.out).mono ?_
  rintro e w5 ⟨rfl, hb5⟩
  have hS5 := Lib.hid (hS3.out.trans (hb5.mono hS3.out.size))
  clear hb5
  go_wp2_with fail
  go_ret
  exact ⟨rfl, hS5.out⟩
end Go.Proofs.YtakbbhhhdcnlnaaDoor
