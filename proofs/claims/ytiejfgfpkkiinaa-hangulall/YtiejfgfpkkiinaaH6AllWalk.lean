/- The walk of HangulAll. -/
import Derived.Test.YtiejfgfpkkiinaaR6
import Derived.Test.YtiejfgfpkkiinaaH6Awake
import Derived.Test.YtiejfgfpkkiinaaSame7
namespace Go.Proofs.Ytiejfgfpkkiinaa
open Go.ChangeShapes Go.WideShapes Go.ChangeAt Go.RowKit
set_option linter.unusedVariables false

/-- a row, its length by a letter -/
def RowSn (k : IntKind) (w : World) (zs : List Int) (n : Nat) (e : Ending) (w' : World) : Prop :=
  ∃ A c, e = .returned (.slice A n c) ∧ Ints w' w'.heap.size k A zs ∧ Below w.heap.size w w'
theorem RowSl.n {k : IntKind} {w w' : World} {zs : List Int} {n : Nat} {e : Ending} (h : RowSl k w zs e w') (hn : zs.length = n) : RowSn k w zs n e w' := by
  subst hn
  obtain ⟨A, c, rfl, hI, _, hb⟩ := h
  exact ⟨A, c, rfl, hI, hb⟩
set_option maxHeartbeats 1000000 in
theorem all_walk (c a b : Int) (w : World) (hc0 : -2147483648 ≤ c) (hc1 : c ≤ 2147483647) :
    Calls Try.prog 3 #[.int .i32 c, .int .i32 a, .int .i32 b] w fun e w' => e = .returned (.bool true) ∧ Below w.heap.size w w' := by
  have hl := split6_len c
  obtain ⟨n, hn⟩ : ∃ n, (split6 c).length = n := ⟨_, rfl⟩
  rw [hn] at hl
  have HP := Lib.hid (fun W => (hsplit_any c W hc0 hc1).mono fun e w' h => (RowRes.sl h).n hn)
  have HR := Lib.hid (fun W => (rsplit_any c W).mono fun e w' h => (RowRes.sl h).n hn)
  have HS := Lib.hid (fun A B d f W (hA : Ints W W.heap.size .i32 A (split6 c)) (hB : Ints W W.heap.size .i32 B (split6 c)) => (same_any A B n n d f (split6 c) (split6 c) W hn hn hA hB (by omega) (by omega)).mono fun e w' h => (by rwa [show decide (split6 c = split6 c) = true by simp] at h : e = .returned (.bool true) ∧ Still W w'))
  have HJ := Lib.hid (fun W => hjoin_any a b W)
  have HQ := Lib.hid (fun W => rjoin_any a b W)
  have HKC := Lib.hid (fun W => hkind_any c W)
  have HKA := Lib.hid (fun W => hkind_any a W)
  have HRC := Lib.hid (fun W => kind_any c W)
  have HRA := Lib.hid (fun W => kind_any a W)
  generalize split6 c = S at *
  generalize joinC a b = x at *
  generalize joinOk a b = ok at *
  generalize kind6 c = kc at *
  generalize kind6 a = ka at *
  clear hn
  have e1 : (kc == kc) = true := by simp
  have e2 : (ka == ka) = true := by simp
  have e3 : (x == x) = true := by simp
  have e4 : (ok == ok) = true := by simp
  go_enter Try.func3, Try.ntmps3
  go_wp2_with fail
  with_reducible refine (HJ.out _).mono ?_
  rintro e w' ⟨rfl, rfl⟩
  go_wp2_with fail
  with_reducible refine (HQ.out _).mono ?_
  rintro e w' ⟨rfl, rfl⟩
  go_wp2_with fail
  with_reducible refine (HKC.out _).mono ?_
  rintro e w' ⟨rfl, rfl⟩
  go_wp2_with fail
  with_reducible refine (HRC.out _).mono ?_
  rintro e w' ⟨rfl, rfl⟩
  go_wp2_with fail
  with_reducible refine (HKA.out _).mono ?_
  rintro e w' ⟨rfl, rfl⟩
  go_wp2_with fail
  with_reducible refine (HRA.out _).mono ?_
  rintro e w' ⟨rfl, rfl⟩
  go_wp2_with fail
  with_reducible refine (HP.out _).mono ?_
  rintro e w2 ⟨A, d, rfl, hI2, hb2⟩
  have HI2 := Lib.hid hI2
  clear hI2
  go_wp2_with fail
  with_reducible refine (HR.out _).mono ?_
  rintro e w3 ⟨B, f, rfl, hI3, hb3⟩
  have HI3 := Lib.hid hI3
  clear hI3
  go_wp2_with fail
  with_reducible refine (HS.out _ _ _ _ _ (HI2.out.go hb3) HI3.out).mono ?_
  rintro e w4 ⟨rfl, hb4⟩
  go_wp2_with fail
  with_reducible refine (awake_any _).mono ?_
  rintro e w5 ⟨rfl, hb5⟩
  go_wp2
  go_ret
  exact ⟨rfl, (hb2.trans (hb3.mono hb2.size)).trans ((hb4.lower _).trans (hb5.mono (by have := hb2.size; have := hb3.size; have := hb4.below.size; omega)))⟩
end Go.Proofs.Ytiejfgfpkkiinaa
