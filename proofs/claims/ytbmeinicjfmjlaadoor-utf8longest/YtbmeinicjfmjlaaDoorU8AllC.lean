/- Contract of utf8.All. -/
import Derived.Test.YtbmeinicjfmjlaaDoorU8First
import Derived.Test.YtbmeinicjfmjlaaDoorApp
namespace Go.Proofs.YtbmeinicjfmjlaaDoor
open Go.ChangeShapes Go.WideShapes Go.ChangeAt Go.RowKit
set_option linter.unusedVariables false

theorem info_i32 : (Tryd.prog.info? 21).map (fun i => (i.zero, i.size, i.bytes)) = some (some (.int .i32 0), 1, 4) := by kernel_rfl
theorem info_u8 : (Tryd.prog.info? 5).map (fun i => (i.zero, i.size, i.bytes)) = some (some (.int .u8 0), 1, 1) := by kernel_rfl

/-- what All hands back: a row of the call's own, how many bytes, whether all -/
def AllRes (w : World) (xs : List Int) (e : Ending) (w' : World) : Prop :=
  ∃ v, e = .returned (.tuple #[v, .int .i64 ((allS xs).2.1 : Int), .bool (allS xs).2.2]) ∧ Own w' w.heap.size 21 .i32 v (allS xs).1 ∧ Below w.heap.size w w'
def AllLoop (w : World) (xs : List Int) (s5 s6 : Value) (w1 : World) : Prop :=
  ∃ (n : Nat) (l : List Int), s6 = .int .i64 n ∧ AllAt xs n l ∧ Own w1 w.heap.size 21 .i32 s5 l ∧ Below w.heap.size w w1

theorem first_n (A : Option Addr) (n cap : Nat) (xs : List Int) (w : World) (hn : xs.length = n) (hT : Tab w) (hI : Ints w w.heap.size .u8 A xs) (hB : Bts xs) (hm : n ≤ maxLen) :
    Calls Tryd.prog 9 #[.slice A n cap] w fun e w' => e = .returned (.tuple #[.int .i32 (fC xs), .int .i64 (fN xs : Int), .bool (fOk xs)]) ∧ Below w.heap.size w w' := by
  subst hn; exact first_any A cap xs w hT hI hB hm

set_option maxHeartbeats 1000000 in
theorem all_any (A : Option Addr) (cap : Nat) (xs : List Int) (w : World) (hT : Tab w) (hI : Ints w w.heap.size .u8 A xs) (hB : Bts xs) (hm : xs.length ≤ 65536) (hc : xs.length ≤ cap) (hcm : cap ≤ maxLen) :
    Calls Tryd.prog 11 #[.slice A xs.length cap] w (AllRes w xs) := by
  unfold maxLen at hcm
  have HI := Lib.hid hI
  have HB := Lib.hid hB
  clear hI hB
  go_enter Tryd.func11, Tryd.ntmps11
  go_wp2_with fail
  go_loopw [5, 6] (fun s5 s6 w1 => AllLoop w xs s5 s6 w1) (fun _ i _ => xs.length - (intOf i).toNat)
  case atStart => exact ⟨0, [], rfl, AllAt.start xs, World.ownsRow_nil _ _ _ _, Below.refl _ _⟩
  case round =>
    obtain ⟨n, l, rfl, hA, hO, hb⟩ := hrel
    by_cases hlt : n < xs.length
    · obtain ⟨b, o, rfl, hbl, hcell⟩ := HI.out.at (by omega)
      have hlt' : (n : Int) < xs.length := by omega
      have hne : cap ≠ n := by omega
      have HO := Lib.hid hO
      have HA := Lib.hid hA
      have hl := hA.2.1
      clear hO hcell hA
      go_wp2_with fail
      with_reducible refine (first_n _ _ _ (xs.drop n) _ (by simp) (hT.below' hb) (((HI.out.below hb (Nat.le_refl _)).more hb.size).drop n) (HB.out.drop n) (by simp only [maxLen]; omega)).mono ?_
      rintro e w2 ⟨rfl, hb2⟩
      have hO2 := own_below HO.out hb2 (Nat.le_refl _)
      have hb3 := hb.trans (hb2.mono hb.size)
      have hf := fN_le (xs.drop n)
      rw [List.length_drop] at hf
      have HO2 := Lib.hid hO2
      clear hO2 hb2 hb
      cases hok : fOk (xs.drop n) with
      | false =>
        have HR := Lib.hid (HA.out.fail hlt hok)
        clear hok
        go_wp2
        go_ret3
        exact ⟨_, by rw [HR.out]; go_num, by rw [HR.out]; exact World.ownsRow_nil _ _ _ _, hb3⟩
      | true =>
        have HS := Lib.hid (HA.out.step hlt hok)
        have hp := fN_pos hok
        clear hok
        generalize fC (xs.drop n) = c at HS ⊢
        generalize fN (xs.drop n) = m at HS hf hp ⊢
        go_wp2_with (first
          | (at_builtin; refine wpList_app rfl (.tmp 28) (.tmp 30) 23 rfl w.heap.size 21 .i32 4 Tryd.underlying23 info_i32 (by omega) _ l rfl (HO2.out.alloc _) _ _ 1 [c] rfl (fun h => by cases h) (Ints.lit w2 21 .i32 [c]) (by simp; omega) (by simp; have := hb3.size; omega) ?_; intro v3 w3 hO3 hg3))
        have hbz : w.heap.size ≤ w2.heap.size := hb3.size
        have hb4 : Below w.heap.size w w3 := (hb3.alloc hbz _).trans (own_grown_below (HO2.out.alloc _) hg3 (by simp; omega))
        go_roundw
        case rel => exact ⟨n + m, l ++ [c], by go_num, HS.out, hO3, hb4⟩
        case measure => simp [intOf]; omega
    · have hn : xs.length ≤ n := by omega
      have hlt' : ¬ (n : Int) < xs.length := by omega
      have HR := Lib.hid (hA.done hn)
      have hbb := hA.1
      have HO := Lib.hid hO
      clear hO hA
      go_wp2
      go_ret3
      exact ⟨_, by rw [HR.out]; rfl, by rw [HR.out]; exact HO.out, hb⟩
end Go.Proofs.YtbmeinicjfmjlaaDoor
