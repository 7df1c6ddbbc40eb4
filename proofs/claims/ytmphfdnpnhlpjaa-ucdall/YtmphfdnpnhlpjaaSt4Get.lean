/- Package stage: isPlace, Get and Blocks by contracts; what a table is in memory. -/
import Derived.Test.YtmphfdnpnhlpjaaRows
import Derived.Test.YtmphfdnpnhlpjaaMap4
import Derived.Test.YtmphfdnpnhlpjaaStill
namespace Go.Proofs.Ytmphfdnpnhlpjaa
open Go.ChangeShapes Go.WideShapes Go.ChangeAt Go.RowKit
set_option linter.unusedVariables false

theorem isPlace_any (c : Int) (w : World) : Calls Try.prog 31 #[.int .i32 c] w fun e w' => e = .returned (.bool (isPl c)) ∧ w = w' := by
  by_cases h : 0 ≤ c
  · by_cases h2 : c ≤ 1114111
    · rw [isPl_iff.2 ⟨h, h2⟩]
      go_enter Try.func31, Try.ntmps31
      go_wp2
      go_ret
      exact ⟨rfl, rfl⟩
    · rw [isPl_no.2 (fun k => h2 k.2)]
      go_enter Try.func31, Try.ntmps31
      go_wp2
      go_ret
      exact ⟨rfl, rfl⟩
  · rw [isPl_no.2 (fun k => h k.1)]
    go_enter Try.func31, Try.ntmps31
    go_wp2
    go_ret
    exact ⟨rfl, rfl⟩

/-- block g is a table that has f, with n unlike blocks -/
def TabAt (w : World) (B g : Nat) (f : Int → Int) (n : Nat) : Prop :=
  g < B ∧ ∃ (a cap : Nat) (N : Nat → Nat), a < B ∧ n ≤ 4353 ∧ n ≤ cap ∧ w.cell? ⟨g, 4352, none⟩ = some (.slice (some ⟨a, 0, none⟩) n cap) ∧
    ∀ i, i < 4352 → N i < n ∧ w.cell? ⟨g, i, none⟩ = some (.int .u16 (N i)) ∧ ∀ j, j < 256 → w.cell? ⟨a, N i * 256 + j, none⟩ = some (.int .i64 (f (256 * (i : Int) + (j : Int))))
theorem TabAt.below {w w' : World} {B B' g : Nat} {f : Int → Int} {n : Nat} (h : TabAt w B g f n) (hb : Below B' w w') (hB : B ≤ B') : TabAt w' B g f n := by
  obtain ⟨hg, a, cap, N, ha, h1, h2, h3, h4⟩ := h
  refine ⟨hg, a, cap, N, ha, h1, h2, (hb.cell (p := ⟨g, 4352, none⟩) (show g < B' by omega)).trans h3, fun i hi => ?_⟩
  obtain ⟨k1, k2, k3⟩ := h4 i hi
  exact ⟨k1, (hb.cell (p := ⟨g, i, none⟩) (show g < B' by omega)).trans k2, fun j hj => (hb.cell (p := ⟨a, N i * 256 + j, none⟩) (show a < B' by omega)).trans (k3 j hj)⟩
theorem TabAt.more {w : World} {B B' g : Nat} {f : Int → Int} {n : Nat} (h : TabAt w B g f n) (hB : B ≤ B') : TabAt w B' g f n := by
  obtain ⟨hg, a, cap, N, ha, h1⟩ := h
  exact ⟨by omega, a, cap, N, by omega, h1⟩
theorem TabAt.still {w w' : World} {B g : Nat} {f : Int → Int} {n : Nat} (h : TabAt w B g f n) (hs : Still w w') : TabAt w' B g f n := h.below (hs.lower B) (Nat.le_refl _)

set_option maxHeartbeats 1000000 in
theorem get_in (c : Nat) (f : Int → Int) (g B n : Nat) (w : World) (hc : c ≤ 1114111) (ht : TabAt w B g f n) :
    Calls Try.prog 26 #[.pointer (some ⟨g, 0, none⟩), .int .i32 c] w fun e w' => e = .returned (.int .i64 (f c)) ∧ Still w w' := by
  obtain ⟨hg, a, cap, N, ha, h1, h2, h3, h4⟩ := ht
  obtain ⟨k1, k2, k3⟩ := h4 (c / 256) (by omega)
  have k4 := k3 (c % 256) (by omega)
  clear k3 h4
  have e1 : 256 * ((c / 256 : Nat) : Int) + ((c % 256 : Nat) : Int) = (c : Int) := by omega
  rw [e1] at k4
  clear e1
  have HP : Hid (∀ w, Calls Try.prog 31 #[.int .i32 c] w fun e w' => e = .returned (.bool true) ∧ w = w') := Lib.hid fun w => by
    have := isPlace_any c w
    rwa [isPl_iff.2 ⟨by omega, by omega⟩] at this
  generalize N (c / 256) = m at k1 k2 k4
  go_enter Try.func26, Try.ntmps26
  go_wp2_with fail
  with_reducible refine (HP.out _).mono ?_
  rintro e w' ⟨rfl, rfl⟩
  go_wp2_with fail
  go_quiet (fail)
  go_wp2
  go_ret
  exact ⟨rfl, _, rfl⟩

/-- what a table that was built has at whatever number -/
theorem get_any (c : Int) (f : Int → Int) (g B n : Nat) (w : World) (hf : ∀ c, isPl c = false → f c = 0) (ht : TabAt w B g f n) :
    Calls Try.prog 26 #[.pointer (some ⟨g, 0, none⟩), .int .i32 c] w fun e w' => e = .returned (.int .i64 (f c)) ∧ Still w w' := by
  by_cases h : isPl c = true
  · obtain ⟨h0, h1⟩ := isPl_iff.1 h
    obtain ⟨k, rfl⟩ := Int.eq_ofNat_of_zero_le h0
    exact get_in k f g B n w (by omega) ht
  · have h' : isPl c = false := by simpa using h
    rw [hf c h']
    have HP : Hid (∀ w, Calls Try.prog 31 #[.int .i32 c] w fun e w' => e = .returned (.bool false) ∧ w = w') := Lib.hid fun w => by
      have := isPlace_any c w
      rwa [h'] at this
    clear hf h h'
    go_enter Try.func26, Try.ntmps26
    go_wp2_with fail
    with_reducible refine (HP.out _).mono ?_
    rintro e w' ⟨rfl, rfl⟩
    go_wp2
    go_ret
    exact ⟨rfl, Still.refl _⟩
end Go.Proofs.Ytmphfdnpnhlpjaa
