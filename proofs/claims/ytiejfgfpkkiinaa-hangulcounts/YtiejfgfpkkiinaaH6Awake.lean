/- What the laws of layer 6 ask besides (awake). -/
import Derived.Test.YtiejfgfpkkiinaaH6
namespace Go.Proofs.Ytiejfgfpkkiinaa
open Go.ChangeShapes Go.WideShapes Go.ChangeAt Go.RowKit
set_option linter.unusedVariables false

/-- a row of three, told by its cells -/
def Row3 (w : World) (x y z : Int) (e : Ending) (w' : World) : Prop :=
  ∃ b o c, e = .returned (.slice (some ⟨b, o, none⟩) 3 c) ∧ (w'.cell? ⟨b, o, none⟩ = some (.int .i32 x) ∧ w'.cell? ⟨b, o + 1, none⟩ = some (.int .i32 y) ∧ w'.cell? ⟨b, o + 2, none⟩ = some (.int .i32 z)) ∧ Below w.heap.size w w'
theorem row3_of {w w' : World} {e : Ending} {x y z : Int} (h : RowSl .i32 w [x, y, z] e w') : Row3 w x y z e w' := by
  obtain ⟨A, c, rfl, hI, _, hb⟩ := h
  obtain ⟨b, o, rfl, _, hc⟩ := hI.at (by simp)
  exact ⟨b, o, c, rfl, ⟨hc 0 (by simp), hc 1 (by simp), hc 2 (by simp)⟩, hb⟩
theorem aw_split (w : World) : Calls Try.prog 11 #[.int .i32 44033] w (Row3 w 4352 4449 4520) :=
  (hsplit_any 44033 w (by omega) (by omega)).mono fun e w' h => row3_of (by have := RowRes.sl h; rwa [show split6 44033 = [4352, 4449, 4520] by decide] at this)
theorem aw_j1 (w : World) : Calls Try.prog 6 #[.int .i32 4352, .int .i32 4449] w fun e w' => e = .returned (.tuple #[.int .i32 44032, .bool true]) ∧ w = w' := hjoin_any 4352 4449 w
theorem aw_j2 (w : World) : Calls Try.prog 6 #[.int .i32 44032, .int .i32 4520] w fun e w' => e = .returned (.tuple #[.int .i32 44033, .bool true]) ∧ w = w' := hjoin_any 44032 4520 w
theorem aw_j3 (w : World) : Calls Try.prog 6 #[.int .i32 44033, .int .i32 4520] w fun e w' => e = .returned (.tuple #[.int .i32 0, .bool false]) ∧ w = w' := hjoin_any 44033 4520 w
theorem aw_k1 (w : World) : Calls Try.prog 8 #[.int .i32 44032] w fun e w' => e = .returned (.int .i64 4) ∧ w = w' := hkind_any 44032 w
theorem aw_k2 (w : World) : Calls Try.prog 8 #[.int .i32 44033] w fun e w' => e = .returned (.int .i64 5) ∧ w = w' := hkind_any 44033 w
theorem aw_k3 (w : World) : Calls Try.prog 8 #[.int .i32 97] w fun e w' => e = .returned (.int .i64 0) ∧ w = w' := hkind_any 97 w
set_option maxHeartbeats 1000000 in
theorem awake_any (w : World) : Calls Try.prog 13 #[] w fun e w' => e = .returned (.bool true) ∧ Below w.heap.size w w' := by
  go_enter Try.func13, Try.ntmps13
  go_wp2_with fail
  with_reducible refine (aw_split _).mono ?_
  rintro e w2 ⟨b, o, c, rfl, ⟨hc0, hc1, hc2⟩, hb⟩
  go_wp2_with fail
  with_reducible refine (aw_j1 _).mono ?_
  rintro e w' ⟨rfl, rfl⟩
  go_wp2_with fail
  with_reducible refine (aw_j2 _).mono ?_
  rintro e w' ⟨rfl, rfl⟩
  go_wp2_with fail
  with_reducible refine (aw_j3 _).mono ?_
  rintro e w' ⟨rfl, rfl⟩
  go_wp2_with fail
  with_reducible refine (aw_k1 _).mono ?_
  rintro e w' ⟨rfl, rfl⟩
  go_wp2_with fail
  with_reducible refine (aw_k2 _).mono ?_
  rintro e w' ⟨rfl, rfl⟩
  go_wp2_with fail
  with_reducible refine (aw_k3 _).mono ?_
  rintro e w' ⟨rfl, rfl⟩
  go_wp2
  go_ret
  exact ⟨rfl, hb⟩
end Go.Proofs.Ytiejfgfpkkiinaa
