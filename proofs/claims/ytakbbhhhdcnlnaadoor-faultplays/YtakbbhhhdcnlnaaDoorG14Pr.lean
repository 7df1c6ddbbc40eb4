/- The document's Print of layer 10 by its contract, where the seat holds no more of that layer (G10Print but for its imports). -/
import Derived.Test.YtakbbhhhdcnlnaaDoorG10Dc
import Derived.IntWalk
import Derived.BigQuiet
namespace Go.Proofs.YtakbbhhhdcnlnaaDoor
set_option maxRecDepth 100000
open Go.ChangeShapes Go.WideShapes Go.ChangeAt Go.RowKit
set_option linter.unusedVariables false
set_option linter.unusedSimpArgs false

theorem ret_str {a b : ByteArray} (h : a = b) : Ending.returned (.string a) = .returned (.string b) := by rw [h]
/-- a digit, as a string -/
def dgS (k : Nat) : ByteArray := bs [UInt8.ofNat (48 + k)]
theorem dgS_size (k : Nat) : (dgS k).size = 1 := rfl
theorem all_cut (k : Nat) (hk : k < 10) : (⟨#[48, 49, 50, 51, 52, 53, 54, 55, 56, 57]⟩ : ByteArray).extract k (k + 1) = dgS k := by
  have : k = 0 ∨ k = 1 ∨ k = 2 ∨ k = 3 ∨ k = 4 ∨ k = 5 ∨ k = 6 ∨ k = 7 ∨ k = 8 ∨ k = 9 := by omega
  rcases this with rfl | rfl | rfl | rfl | rfl | rfl | rfl | rfl | rfl | rfl <;> rfl
theorem all_slice (k : Nat) (hk : k < 10) (w : World) : (Instr.slice 9 (.string ⟨#[48, 49, 50, 51, 52, 53, 54, 55, 56, 57]⟩) (some (.int .i64 k)) (some (.int .i64 ((k : Int) + 1))) none).run Tryd.prog w = .ok (.string (dgS k)) w := by
  have hz : (⟨#[48, 49, 50, 51, 52, 53, 54, 55, 56, 57]⟩ : ByteArray).size = 10 := rfl
  rw [run_slice_string w 9 _ .i64 .i64 k ((k : Int) + 1) Tryd.underlying9 (by omega) (by omega) (by rw [hz]; omega)]
  have e1 : ((k : Int)).toNat = k := by omega
  have e2 : ((k : Int) + 1).toNat = k + 1 := by omega
  rw [e1, e2, all_cut k hk]
theorem bs_app (a b : List UInt8) : bs a ++ bs b = bs (a ++ b) := L8_inj (by rw [L8_app, L8_bs, L8_bs, L8_bs])
theorem print_neg {n q : Int} {k : Nat} (hn : n = 10 * q - k) (hk : k < 10) (hq : q < 0) : bs (printF q) ++ dgS k = bs (printF n) := by
  unfold dgS
  rw [bs_app]
  unfold printF
  rw [if_pos hq, if_pos (by omega), List.append_assoc]
  have e : n.natAbs = 10 * q.natAbs + k := by omega
  rw [dig_hi (n := n.natAbs) (by omega)]
  have e1 : n.natAbs / 10 = q.natAbs := by omega
  have e2 : n.natAbs % 10 = k := by omega
  rw [e1, e2]
theorem print_pos {n q : Int} {k : Nat} (hn : n = 10 * q + k) (hk : k < 10) (hq : 0 < q) : bs (printF q) ++ dgS k = bs (printF n) := by
  unfold dgS
  rw [bs_app]
  unfold printF
  rw [if_neg (by omega), if_neg (by omega), List.nil_append, List.nil_append]
  have e : n.natAbs = 10 * q.natAbs + k := by omega
  rw [dig_hi (n := n.natAbs) (by omega)]
  have e1 : n.natAbs / 10 = q.natAbs := by omega
  have e2 : n.natAbs % 10 = k := by omega
  rw [e1, e2]
theorem print_len {n : Int} (h0 : -9223372036854775808 ≤ n) (h1 : n ≤ 9223372036854775807) : (bs (printF n)).size ≤ 20 := by
  rw [bs_size]
  unfold printF
  have h := dig_len (n := n.natAbs) (k := 19) (by omega) (by omega)
  rw [List.length_append]
  split <;> simp <;> omega
theorem tdiv_neg {n : Int} (h : n ≤ 0) : n.tdiv 10 = -((-n) / 10) ∧ n.tmod 10 = -((-n) % 10) := by
  have h1 := Int.neg_tdiv (-n) 10
  have h2 := Int.neg_tmod (-n) 10
  rw [Int.neg_neg] at h1 h2
  rw [h1, h2, Int.tdiv_eq_ediv_of_nonneg (by omega), Int.tmod_eq_emod_of_nonneg (by omega)]
  exact ⟨rfl, rfl⟩
theorem quiet_still {P : Program} {f : FuncId} {args : Array Value} {w : World} {n : Nat} {v : Value}
    (h : Calls P f args (w.drewN n) fun e w' => e = .returned v ∧ Still (w.drewN n) w') : Calls P f args (w.drewN n) fun e w'' => e = .returned v ∧ ∃ m, w'' = w.drewN m :=
  h.mono fun _ _ ⟨he, m, hm⟩ => ⟨he, n + m, by rw [hm, World.drewN_drewN]⟩
abbrev PrOk (m : Nat) : Prop := ∀ (n : Int), n.natAbs ≤ m → -9223372036854775808 ≤ n → n ≤ 9223372036854775807 → ∀ w : World, Calls Tryd.prog 20 #[.int .i64 n] w fun e w' => e = .returned (.string (bs (printF n))) ∧ Still w w'
set_option maxHeartbeats 4000000 in
theorem rprint_step (m : Nat) (IH : ∀ j, j < m → PrOk j) : PrOk m := by
  intro n hm h0 h1 w
  by_cases hneg : n ≤ -10
  · obtain ⟨e1, e2⟩ := tdiv_neg (n := n) (by omega)
    obtain ⟨k, hk0⟩ : ∃ k : Nat, (k : Int) = (-n) % 10 := ⟨((-n) % 10).toNat, by omega⟩
    obtain ⟨q, hq0⟩ : ∃ q : Int, q = -((-n) / 10) := ⟨_, rfl⟩
    have hq : n.tdiv 10 = q := by rw [e1, hq0]
    have hk : n.tmod 10 = -(k : Int) := by rw [e2, hk0]
    have hlt : k < 10 := by omega
    have hqn : q < 0 := by omega
    have HP : Hid (bs (printF q) ++ dgS k = bs (printF n)) := Lib.hid (print_neg (by omega) hlt hqn)
    have HI := Lib.hid (fun w => IH q.natAbs (by omega) q (Nat.le_refl _) (by omega) (by omega) w)
    have hPs : (bs (printF q)).size ≤ 20 := print_len (by omega) (by omega)
    have hgs : (dgS k).size ≤ 1 := Nat.le_refl _
    have hsl := all_slice k hlt
    have hex := all_cut k hlt
    have hqlo : -9223372036854775808 ≤ q := by omega
    clear IH hm e1 e2 hk0 hq0
    generalize bs (printF n) = R at *
    generalize bs (printF q) = P at *
    generalize dgS k = D at *
    have hsum : ¬ P.size + D.size > 9223372036854775807 := by omega
    have hwq : IntKind.i64.wrap q = q := IntWalk.i64_in _ (by omega)
    have hw1 : IntKind.i64.wrap ((k : Int) + 1) = (k : Int) + 1 := IntWalk.i64_in _ (by omega)
    go_enter Tryd.func20, Tryd.ntmps20
    go_wp2_with fail
    go_quiet ((go_at_call 20; with_reducible exact quiet_still (HI.out _)))
    go_wp2
    go_ret
    exact ⟨ret_str HP.out, _, rfl⟩
  · by_cases hsm : n < 0
    · obtain ⟨k, hk⟩ : ∃ k : Nat, n = -(k : Int) := ⟨n.natAbs, by omega⟩
      have hlt : k < 10 := by omega
      have HP : Hid (bs [45] ++ dgS k = bs (printF n)) := Lib.hid (by
        unfold dgS printF
        rw [if_pos hsm, bs_app]
        have e : n.natAbs = k := by omega
        rw [e, dig_lo hlt])
      have hsl := all_slice k hlt
      have hex := all_cut k hlt
      have hgs : (dgS k).size ≤ 1 := Nat.le_refl _
      clear IH hm
      subst hk
      generalize bs (printF (-(k : Int))) = R at *
      generalize dgS k = D at *
      have hsum : ¬ (⟨#[45]⟩ : ByteArray).size + D.size > 9223372036854775807 := by
        have : (⟨#[45]⟩ : ByteArray).size = 1 := rfl
        omega
      go_enter Tryd.func20, Tryd.ntmps20
      go_wp2
      go_ret
      exact ⟨ret_str HP.out, Still.refl _⟩
    · by_cases hlo : n < 10
      · obtain ⟨k, hk⟩ : ∃ k : Nat, n = (k : Int) := ⟨n.natAbs, by omega⟩
        have hlt : k < 10 := by omega
        have HP : Hid (dgS k = bs (printF n)) := Lib.hid (by
          unfold dgS printF
          rw [if_neg hsm, List.nil_append]
          have e : n.natAbs = k := by omega
          rw [e, dig_lo hlt])
        have hsl := all_slice k hlt
        have hex := all_cut k hlt
        clear IH hm
        subst hk
        generalize bs (printF (k : Int)) = R at *
        generalize dgS k = D at *
        go_enter Tryd.func20, Tryd.ntmps20
        go_wp2
        go_ret
        exact ⟨ret_str HP.out, Still.refl _⟩
      · obtain ⟨k, hk0⟩ : ∃ k : Nat, (k : Int) = n % 10 := ⟨(n % 10).toNat, by omega⟩
        obtain ⟨q, hq0⟩ : ∃ q : Int, q = n / 10 := ⟨_, rfl⟩
        have hq : n.tdiv 10 = q := by rw [hq0]; exact Int.tdiv_eq_ediv_of_nonneg (by omega)
        have hk : n.tmod 10 = (k : Int) := by rw [hk0]; exact Int.tmod_eq_emod_of_nonneg (by omega)
        have hq' : n / 10 = q := hq0.symm
        have hk' : n % 10 = (k : Int) := hk0.symm
        have hlt : k < 10 := by omega
        have hqn : 0 < q := by omega
        have HP : Hid (bs (printF q) ++ dgS k = bs (printF n)) := Lib.hid (print_pos (by omega) hlt hqn)
        have HI := Lib.hid (fun w => IH q.natAbs (by omega) q (Nat.le_refl _) (by omega) (by omega) w)
        have hPs : (bs (printF q)).size ≤ 20 := print_len (by omega) (by omega)
        have hgs : (dgS k).size ≤ 1 := Nat.le_refl _
        have hsl := all_slice k hlt
        have hex := all_cut k hlt
        have hqhi : q ≤ 9223372036854775807 := by omega
        clear IH hm hk0 hq0
        generalize bs (printF n) = R at *
        generalize bs (printF q) = P at *
        generalize dgS k = D at *
        have hsum : ¬ P.size + D.size > 9223372036854775807 := by omega
        have hwq : IntKind.i64.wrap q = q := IntWalk.i64_in _ (by omega)
        have hw1 : IntKind.i64.wrap ((k : Int) + 1) = (k : Int) + 1 := IntWalk.i64_in _ (by omega)
        go_enter Tryd.func20, Tryd.ntmps20
        go_wp2_with fail
        go_quiet ((go_at_call 20; with_reducible exact quiet_still (HI.out _)))
        go_wp2
        go_ret
        exact ⟨ret_str HP.out, _, rfl⟩
theorem rprint_any (n : Int) (h0 : -9223372036854775808 ≤ n) (h1 : n ≤ 9223372036854775807) (w : World) : Calls Tryd.prog 20 #[.int .i64 n] w fun e w' => e = .returned (.string (bs (printF n))) ∧ Still w w' := by
  have h : ∀ m, PrOk m := fun m => Nat.strongRecOn m fun m ih => rprint_step m ih
  exact h n.natAbs n (Nat.le_refl _) h0 h1 w
end Go.Proofs.YtakbbhhhdcnlnaaDoor
