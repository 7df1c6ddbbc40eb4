/- The document's Same by its contract. -/
import Derived.Test.YtiejfgfpkkiinaaRow
import Derived.Test.YtiejfgfpkkiinaaStill
import Derived.Test.YtiejfgfpkkiinaaRows
namespace Go.Proofs.Ytiejfgfpkkiinaa
open Go.ChangeShapes Go.WideShapes Go.ChangeAt Go.RowKit
set_option linter.unusedVariables false

theorem ne_at {xs ys : List Int} {k : Nat} (h : xs.getD k 0 ≠ ys.getD k 0) : decide (xs = ys) = false := decide_eq_false (fun e => h (by rw [e]))
def SameLoop (w : World) (xs ys : List Int) (i : Value) (w1 : World) : Prop := ∃ k : Nat, k ≤ xs.length ∧ i = .int .i64 k ∧ xs.take k = ys.take k ∧ Still w w1

set_option maxHeartbeats 1000000 in
theorem same_any (A B : Option Addr) (n m c d : Nat) (xs ys : List Int) (w : World) (hn : xs.length = n) (hm : ys.length = m) (hA : Ints w w.heap.size .i32 A xs) (hB : Ints w w.heap.size .i32 B ys) (hl : n ≤ 1048576) (hl2 : m ≤ 1048576) :
    Calls Try.prog 10 #[.slice A n c, .slice B m d] w fun e w' => e = .returned (.bool (decide (xs = ys))) ∧ Still w w' := by
  have HA := Lib.hid hA
  have HB := Lib.hid hB
  clear hA hB
  by_cases hnm : n = m
  · subst hnm
    generalize hres : decide (xs = ys) = R
    have HRES := Lib.hid hres
    clear hres
    have HM := Lib.hid hm
    clear hm
    have hne : ((n : Int) != n) = false := by simp
    have HN := Lib.hid hn
    clear hn
    go_enter Try.func10, Try.ntmps10
    go_wp2_with fail
    go_loopw [5] (fun i w1 => SameLoop w xs ys i w1) (fun i _ => n - (intOf i).toNat)
    case atStart => exact ⟨0, by omega, rfl, rfl, Still.refl w⟩
    case round =>
      obtain ⟨k, hk, rfl, hT, hst⟩ := hrel
      rw [HN.out] at hk
      by_cases hlt : k < n
      · have hkx : k < xs.length := by rw [HN.out]; exact hlt
        have hky : k < ys.length := by rw [HM.out]; exact hlt
        obtain ⟨b, o, rfl, hbl, hc⟩ := HA.out.at (by omega)
        obtain ⟨b', o', rfl, hbl', hc'⟩ := HB.out.at (by omega)
        have h1 : wr.cell? ⟨b, o + k, none⟩ = some (.int .i32 (xs.getD k 0)) := (hst.cell _).trans (hc k hkx)
        have h2 : wr.cell? ⟨b', o' + k, none⟩ = some (.int .i32 (ys.getD k 0)) := (hst.cell _).trans (hc' k hky)
        have hlt' : (k : Int) < n := by omega
        have HS := Lib.hid (take_snoc xs k hkx)
        have HS' := Lib.hid (take_snoc ys k hky)
        have HT := Lib.hid hT
        have HE := Lib.hid (ne_at (xs := xs) (ys := ys) (k := k))
        generalize xs.getD k 0 = x at *
        generalize ys.getD k 0 = y at *
        clear hc hc' hT hkx hky
        by_cases hxy : x = y
        · subst hxy
          have hx : (x != x) = false := by simp
          go_wp2_with fail
          go_quiet (fail)
          go_wp2
          go_roundw
          case rel => exact ⟨k + 1, by rw [HN.out]; omega, by go_num, by rw [HS.out, HS'.out, HT.out], hst.drewN _⟩
          case measure => simp [intOf]; omega
        · have hx : (x != y) = true := by simp [hxy]
          have hr : R = false := HRES.out.symm.trans (HE.out hxy)
          subst hr
          clear HRES HE
          go_wp2_with fail
          go_quiet (fail)
          go_wp2
          go_ret
          exact ⟨rfl, hst.drewN _⟩
      · have hkk : k = n := by omega
        subst hkk
        have hlt' : ¬ (k : Int) < k := by omega
        have hr : R = true := by
          rw [← HRES.out]
          refine decide_eq_true ?_
          have e := hT
          rw [List.take_of_length_le (by rw [HN.out]; exact Nat.le_refl _), List.take_of_length_le (by rw [HM.out]; exact Nat.le_refl _)] at e
          exact e
        subst hr
        clear HRES hT
        go_wp2
        go_ret
        exact ⟨rfl, hst⟩
  · have hr : decide (xs = ys) = false := decide_eq_false (fun e => hnm (by rw [← hn, ← hm, e]))
    rw [hr]
    have hne : ((n : Int) != m) = true := by simp; omega
    clear hr hn hm
    go_enter Try.func10, Try.ntmps10
    go_wp2
    go_ret
    exact ⟨rfl, Still.refl w⟩

end Go.Proofs.Ytiejfgfpkkiinaa
