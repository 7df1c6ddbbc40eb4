/- orthoepylaw00's Place by its contract, alone. -/
import Derived.Test.YthiakokjijfgoaaRows
import Derived.Test.YthiakokjijfgoaaMem
namespace Go.Proofs.Ythiakokjijfgoaa
open Go.ChangeShapes Go.WideShapes Go.ChangeAt Go.RowKit
set_option linter.unusedVariables false

theorem emod_of_tmod (v n : Int) (hn : 0 < n) : (v.tmod n < 0 → v.tmod n + n = v % n) ∧ (0 ≤ v.tmod n → v.tmod n = v % n) := by
  have e := @Int.tmod_eq_emod v n
  have h1 := Int.emod_nonneg v (show n ≠ 0 by omega)
  have h2 := Int.emod_lt_of_pos v hn
  rw [e]
  by_cases hd : 0 ≤ v ∨ n ∣ v
  · rw [if_pos hd]; constructor <;> intro h <;> omega
  · rw [if_neg hd]; constructor <;> intro h <;> omega
theorem place_any (v n : Int) (w : World) (hn : 0 < n) (hm : n ≤ 1099511627776) : Calls Try.prog 24 #[.int .i64 v, .int .i64 n] w fun e w' => e = .returned (.int .i64 (v % n)) ∧ w = w' := by
  obtain ⟨f1, f2⟩ := emod_of_tmod v n hn
  have b1 := Int.tmod_lt_of_pos v hn
  have b2 := Int.lt_tmod_of_pos v hn
  have hn0 : (n == 0) = false := beq_eq_false_iff_ne.2 (by omega)
  obtain ⟨t, ht⟩ : ∃ t, v.tmod n = t := ⟨_, rfl⟩
  by_cases hneg : t < 0
  · have e1 := f1 (by omega)
    rw [← e1, ht]
    rw [ht] at b1 b2
    clear e1 f1 f2
    go_enter Try.func24, Try.ntmps24
    go_wp2
    go_ret
    exact ⟨rfl, rfl⟩
  · have e1 := f2 (by omega)
    rw [← e1, ht]
    rw [ht] at b1 b2
    clear e1 f1 f2
    go_enter Try.func24, Try.ntmps24
    go_wp2
    go_ret
    exact ⟨rfl, rfl⟩
end Go.Proofs.Ythiakokjijfgoaa
