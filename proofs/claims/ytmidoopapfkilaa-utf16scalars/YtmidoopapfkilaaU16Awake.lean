/- Contract of awake (orthoepylaw03): the chapter's example, and a few more. -/
import Derived.Test.YtmidoopapfkilaaU16Cmp
import Derived.Test.YtmidoopapfkilaaU16Ref2
namespace Go.Proofs.Ytmidoopapfkilaa
open Go.ChangeShapes Go.WideShapes Go.ChangeAt Go.RowKit
set_option linter.unusedVariables false

/-- a row that has just been laid, where one more lies behind it -/
theorem Ints.lit2 (w : World) (t : TypeId) (k : IntKind) (ys : List Int) (o : Obj) : Ints ((w.alloc (.cells (ys.map (Value.int k)).toArray t)).alloc o) (w.heap.size + 1) k (some ⟨w.heap.size, 0, none⟩) ys :=
  (Ints.lit w t k ys).below (B' := w.heap.size + 1) ((Below.refl _ _).alloc (by simp) o) (Nat.le_refl _)

def AwRow (w : World) (n : Nat) (ys : List Int) (e : Ending) (w' : World) : Prop :=
  ∃ A c, e = .returned (.slice A n c) ∧ Ints w' w'.heap.size .u16 A ys ∧ (n ≤ c ∧ c ≤ maxLen) ∧ Below w.heap.size w w'
theorem aw_units (w : World) : Calls Try.prog 12 #[.slice (some ⟨w.heap.size, 0, none⟩) 3 3] (w.alloc (.cells #[.int .i32 128512, .int .i32 97, .int .i32 55296] 21)) (AwRow w 3 [55357, 56832, 97]) := by
  have hI : Ints (w.alloc (.cells #[.int .i32 128512, .int .i32 97, .int .i32 55296] 21)) (w.heap.size + 1) .i32 (some ⟨w.heap.size, 0, none⟩) [128512, 97, 55296] := Ints.lit w 21 .i32 [128512, 97, 55296]
  refine (unitsL_any _ 3 3 [128512, 97, 55296] _ rfl (by rw [World.size_alloc]; exact hI) (by omega)).mono ?_
  rintro e w' ⟨v, rfl, hO, hb⟩
  obtain ⟨A, c, rfl, h1, h2⟩ := own_form hO
  have e : uns [128512, 97, 55296] = [55357, 56832, 97] := by decide
  rw [e] at hO h1 ⊢
  rw [World.size_alloc] at hb
  exact ⟨A, c, rfl, Ints.own hO, ⟨h1, h2⟩, (((Below.refl _ w).alloc (Nat.le_refl _) _)).trans (hb.mono (by omega))⟩
def AwSc (w : World) (n : Nat) (k : Int) (ok : Bool) (e : Ending) (w' : World) : Prop :=
  ∃ A c, e = .returned (.tuple #[.slice A n c, .int .i64 k, .bool ok]) ∧ Below w.heap.size w w'
theorem aw_sc (A : Option Addr) (c : Nat) (w : World) (hI : Ints w w.heap.size .u16 A [55357, 56832, 97]) (h1 : 3 ≤ c) (h2 : c ≤ maxLen) : Calls Try.prog 9 #[.slice A 3 c] w (AwSc w 2 3 true) := by
  refine (scalars_any A 3 c [55357, 56832, 97] w rfl hI (fun x hx => by simp at hx; omega) (by omega) h1 h2).mono ?_
  rintro e w' ⟨v, rfl, hO, hb⟩
  obtain ⟨A, c, rfl, h1, h2⟩ := own_form hO
  have e : scS [55357, 56832, 97] = ([128512, 97], 3, true) := by decide
  rw [e]
  exact ⟨A, c, rfl, hb⟩
theorem aw_no (w : World) : Calls Try.prog 9 #[.slice (some ⟨w.heap.size, 0, none⟩) 2 2] (w.alloc (.cells #[.int .u16 97, .int .u16 56320] 43)) (AwSc w 0 1 false) := by
  have hI : Ints (w.alloc (.cells #[.int .u16 97, .int .u16 56320] 43)) (w.heap.size + 1) .u16 (some ⟨w.heap.size, 0, none⟩) [97, 56320] := Ints.lit w 43 .u16 [97, 56320]
  refine (scalars_any _ 2 2 [97, 56320] _ rfl (by rw [World.size_alloc]; exact hI) (fun x hx => by simp at hx; omega) (by omega) (by omega) (by simp [maxLen])).mono ?_
  rintro e w' ⟨v, rfl, hO, hb⟩
  obtain ⟨A, c, rfl, h1, h2⟩ := own_form hO
  have e : scS [97, 56320] = ([], 1, false) := by decide
  rw [e]
  rw [World.size_alloc] at hb
  exact ⟨A, c, rfl, (((Below.refl _ w).alloc (Nat.le_refl _) _)).trans (hb.mono (by omega))⟩
/-- Compare of two rows of one rune each -/
theorem cmp_lit (x y : Int) (w : World) (g : Nat) (hg : w.heap.size = g) : Calls Try.prog 15 #[.slice (some ⟨g, 0, none⟩) 1 1, .slice (some ⟨g + 1, 0, none⟩) 1 1] ((w.alloc (.cells #[.int .i32 x] 21)).alloc (.cells #[.int .i32 y] 21)) fun e w' => e = .returned (.int .i64 (cmpL (un1 x) (un1 y))) ∧ Below w.heap.size w w' := by
  subst hg
  have hX : Ints ((w.alloc (.cells #[.int .i32 x] 21)).alloc (.cells #[.int .i32 y] 21)) (w.heap.size + 1) .i32 (some ⟨w.heap.size, 0, none⟩) [x] := Ints.lit2 w 21 .i32 [x] _
  have hY : Ints ((w.alloc (.cells #[.int .i32 x] 21)).alloc (.cells #[.int .i32 y] 21)) ((w.alloc (.cells #[.int .i32 x] 21)).heap.size + 1) .i32 (some ⟨(w.alloc (.cells #[.int .i32 x] 21)).heap.size, 0, none⟩) [y] := Ints.lit _ 21 .i32 [y]
  rw [World.size_alloc] at hY
  refine (compare_any _ _ 1 1 1 1 [x] [y] _ rfl rfl (by simp only [World.size_alloc]; exact hX.more (by omega)) (by simp only [World.size_alloc]; exact hY) (by omega) (by omega)).mono ?_
  rintro e w' ⟨rfl, hb⟩
  simp only [World.size_alloc] at hb
  refine ⟨by simp [uns], ?_⟩
  exact (((Below.refl _ w).alloc (Nat.le_refl _) _).alloc (by simp) _).trans (hb.mono (by omega))

set_option maxHeartbeats 1000000 in
theorem awake_any (w : World) : Calls Try.prog 8 #[] w fun e w' => e = .returned (.bool true) ∧ Below w.heap.size w w' := by
  have hcm : cmpL (un1 128512) (un1 64307) = -1 := by decide
  have HC := Lib.hid hcm
  clear hcm
  go_enter Try.func8, Try.ntmps8
  go_wp2_with fail
  with_reducible refine (aw_units w).mono ?_
  rintro e w1 ⟨A1, c1, rfl, hI1, hc1, hb1⟩
  go_wp2_with fail
  with_reducible refine (aw_sc A1 c1 w1 hI1 hc1.1 hc1.2).mono ?_
  rintro e w2 ⟨A2, c2, rfl, hb2⟩
  go_wp2_with fail
  with_reducible refine (aw_no w2).mono ?_
  rintro e w3 ⟨A3, c3, rfl, hb3⟩
  go_wp2_with fail
  with_reducible refine (cmp_lit 128512 64307 w3 _ rfl).mono ?_
  rintro e w4 ⟨rfl, hb4⟩
  obtain ⟨b, o, rfl, hbl, hc⟩ := hI1.at (by simp)
  have hb24 := hb2.trans ((hb3.trans (hb4.mono hb3.size)).mono hb2.size)
  have hcell : w4.cell? ⟨b, o, none⟩ = some (.int .u16 55357) := (hb24.cell (p := ⟨b, o, none⟩) hbl).trans (hc 0 (by simp))
  have hb := hb1.trans (hb24.mono hb1.size)
  rw [HC.out]
  clear hc hI1 hb1 hb2 hb3 hb4 hb24
  go_wp2
  go_ret
  exact ⟨rfl, hb⟩
end Go.Proofs.Ytmidoopapfkilaa
