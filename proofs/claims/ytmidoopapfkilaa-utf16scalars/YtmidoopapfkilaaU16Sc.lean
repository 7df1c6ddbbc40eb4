/- Contracts of utf16.first and utf16.Scalars. -/
import Derived.Test.YtmidoopapfkilaaU16Units
import Derived.Test.YtmidoopapfkilaaStill
namespace Go.Proofs.Ytmidoopapfkilaa
open Go.ChangeShapes Go.WideShapes Go.ChangeAt Go.RowKit
set_option linter.unusedVariables false

/-- what first tells -/
def fsC (u : List Int) : Int := if isB (u.getD 0 0) then u.getD 0 0 else if 1 < u.length ∧ pairB (u.getD 0 0) (u.getD 1 0) = true then joinI (u.getD 0 0) (u.getD 1 0) else 0
def fsOk (u : List Int) : Bool := isB (u.getD 0 0) || (decide (1 < u.length) && pairB (u.getD 0 0) (u.getD 1 0))

set_option maxHeartbeats 1000000 in
theorem first_any (A : Option Addr) (n cap : Nat) (u : List Int) (w : World) (hn : u.length = n) (h1 : 0 < n) (hI : Ints w w.heap.size .u16 A u) (hU : U16s u) (hm : n ≤ maxLen) :
    Calls Try.prog 23 #[.slice A n cap] w fun e w' => e = .returned (.tuple #[.int .i32 (fsC u), .bool (fsOk u)]) ∧ Still w w' := by
  subst hn
  unfold maxLen at hm
  obtain ⟨b, o, rfl, hbl, hc⟩ := hI.at h1
  have c0 : w.cell? ⟨b, o, none⟩ = some (.int .u16 (u.getD 0 0)) := hc 0 h1
  have x0 := hU.at h1
  cases hi : isB (u.getD 0 0) with
  | true =>
    have e1 : fsC u = u.getD 0 0 := by unfold fsC; rw [hi]; rfl
    have e2 : fsOk u = true := by unfold fsOk; rw [hi]; rfl
    rw [e1, e2]
    clear e1 e2 hc hI hU
    generalize u.getD 0 0 = x at *
    go_enter Try.func23, Try.ntmps23
    go_wp2_with fail
    with_reducible refine (is_any _ _).mono ?_
    rintro e w' ⟨rfl, rfl⟩
    go_wp2
    go_ret2
    exact ⟨rfl, Still.refl w⟩
  | false =>
    by_cases hl : 1 < u.length
    · have c1 : w.cell? ⟨b, o + 1, none⟩ = some (.int .u16 (u.getD 1 0)) := hc 1 hl
      have x1 := hU.at hl
      have hl' : ((u.length : Int) == 1) = false := beq_eq_false_iff_ne.2 (by omega)
      cases hp : pairB (u.getD 0 0) (u.getD 1 0) with
      | true =>
        have e1 : fsC u = joinI (u.getD 0 0) (u.getD 1 0) := by unfold fsC; rw [hi, hp, if_neg (by simp), if_pos ⟨hl, rfl⟩]
        have e2 : fsOk u = true := by unfold fsOk; rw [hi, hp, decide_eq_true hl]; rfl
        have hpp := of_decide_eq_true hp
        rw [e1, e2]
        clear e1 e2 hc hI hU hp
        generalize u.getD 0 0 = x at *
        generalize u.getD 1 0 = y at *
        have hj := fun W => join_yes x y W hpp.1.1 hpp.1.2 hpp.2.1 hpp.2.2
        have HJ := Lib.hid hj
        clear hj hpp
        go_enter Try.func23, Try.ntmps23
        go_wp2_with fail
        with_reducible refine (is_any _ _).mono ?_
        rintro e w' ⟨rfl, rfl⟩
        go_wp2_with fail
        go_quiet ((go_at_call 32; exact quiet_left' (HJ.out _)))
        go_wp2
        go_ret2
        exact ⟨rfl, (Still.refl w).drewN _⟩
      | false =>
        have e1 : fsC u = 0 := by unfold fsC; rw [hi, hp, if_neg (by simp), if_neg (by simp)]
        have e2 : fsOk u = false := by unfold fsOk; rw [hi, hp]; simp
        have hpp := of_decide_eq_false hp
        rw [e1, e2]
        clear e1 e2 hc hI hU hp
        generalize u.getD 0 0 = x at *
        generalize u.getD 1 0 = y at *
        have hj := fun W => join_no x y W x0.1 x0.2 x1.1 x1.2 hpp
        have HJ := Lib.hid hj
        clear hj hpp
        go_enter Try.func23, Try.ntmps23
        go_wp2_with fail
        with_reducible refine (is_any _ _).mono ?_
        rintro e w' ⟨rfl, rfl⟩
        go_wp2_with fail
        go_quiet ((go_at_call 32; exact quiet_left' (HJ.out _)))
        go_wp2
        go_ret2
        exact ⟨rfl, (Still.refl w).drewN _⟩
    · have hl' : ((u.length : Int) == 1) = true := beq_iff_eq.2 (by omega)
      have e1 : fsC u = 0 := by unfold fsC; rw [hi, if_neg (by simp), if_neg (fun k => hl k.1)]
      have e2 : fsOk u = false := by unfold fsOk; rw [hi, decide_eq_false hl]; rfl
      rw [e1, e2]
      clear e1 e2 hc hI hU
      generalize u.getD 0 0 = x at *
      go_enter Try.func23, Try.ntmps23
      go_wp2_with fail
      with_reducible refine (is_any _ _).mono ?_
      rintro e w' ⟨rfl, rfl⟩
      go_wp2
      go_ret2
      exact ⟨rfl, Still.refl w⟩

theorem U16s.drop {u : List Int} (h : U16s u) (n : Nat) : U16s (u.drop n) := fun x hx => h x (List.mem_of_mem_drop hx)
theorem drop_getD (u : List Int) (n k : Nat) : (u.drop n).getD k 0 = u.getD (n + k) 0 := by
  simp only [List.getD_eq_getElem?_getD, List.getElem?_drop]
theorem fs_at (u : List Int) (n : Nat) : fsC (u.drop n) = (if isB (u.getD n 0) then u.getD n 0 else if n + 1 < u.length ∧ pairB (u.getD n 0) (u.getD (n + 1) 0) = true then joinI (u.getD n 0) (u.getD (n + 1) 0) else 0) ∧ fsOk (u.drop n) = (isB (u.getD n 0) || (decide (n + 1 < u.length) && pairB (u.getD n 0) (u.getD (n + 1) 0))) := by
  have e : (1 < (u.drop n).length) = (n + 1 < u.length) := by rw [List.length_drop]; exact propext (by omega)
  unfold fsC fsOk
  simp only [drop_getD, Nat.add_zero, e, and_self]
/-- one step of Scalars -/
theorem ScAt.step {u : List Int} {n : Nat} {l : List Int} (h : ScAt u n l) (hU : U16s u) (hn : n < u.length) (ho : fsOk (u.drop n) = true) : ∃ m : Nat, unitsI (fsC (u.drop n)) = m ∧ 1 ≤ m ∧ m ≤ 2 ∧ ScAt u (n + m) (l ++ [fsC (u.drop n)]) := by
  obtain ⟨e1, e2⟩ := fs_at u n
  rw [e2] at ho
  cases hi : isB (u.getD n 0) with
  | true =>
    rw [hi] at e1
    rw [if_pos rfl] at e1
    rw [e1]
    exact ⟨1, one_units hi (hU.at hn).2, by omega, by omega, h.one hn hi⟩
  | false =>
    rw [hi] at e1 ho
    simp only [Bool.false_or, Bool.and_eq_true, decide_eq_true_eq] at ho
    rw [if_neg (by simp), if_pos ho] at e1
    rw [e1]
    exact ⟨2, join_units ho.2, by omega, by omega, h.two ho.1 ho.2⟩
theorem ScAt.stop {u : List Int} {n : Nat} {l : List Int} (h : ScAt u n l) (hn : n < u.length) (ho : fsOk (u.drop n) = false) : scS u = ([], n, false) := by
  obtain ⟨e1, e2⟩ := fs_at u n
  rw [e2] at ho
  simp only [Bool.or_eq_false_iff, Bool.and_eq_false_iff, decide_eq_false_iff_not] at ho
  exact h.fail hn ho.1 fun hh => ho.2.resolve_left (fun k => k hh)

/-- what Scalars hands back: a row of the call's own, how many units, whether all -/
def ScRes (w : World) (xs : List Int) (e : Ending) (w' : World) : Prop :=
  ∃ v, e = .returned (.tuple #[v, .int .i64 ((scS xs).2.1 : Int), .bool (scS xs).2.2]) ∧ Own w' w.heap.size 21 .i32 v (scS xs).1 ∧ Below w.heap.size w w'
def ScLoop (w : World) (xs : List Int) (s5 s6 : Value) (w1 : World) : Prop :=
  ∃ (n : Nat) (l : List Int), s6 = .int .i64 n ∧ ScAt xs n l ∧ Own w1 w.heap.size 21 .i32 s5 l ∧ Below w.heap.size w w1

set_option maxHeartbeats 2000000 in
theorem scalars_any (A : Option Addr) (n cap : Nat) (xs : List Int) (w : World) (hn : xs.length = n) (hI : Ints w w.heap.size .u16 A xs) (hU : U16s xs) (hm : n ≤ 262144) (hc : n ≤ cap) (hcm : cap ≤ maxLen) :
    Calls Try.prog 9 #[.slice A n cap] w (ScRes w xs) := by
  subst hn
  unfold maxLen at hcm
  have HI := Lib.hid hI
  have HU := Lib.hid hU
  clear hI hU
  go_enter Try.func9, Try.ntmps9
  go_wp2_with fail
  go_loopw [5, 6] (fun s5 s6 w1 => ScLoop w xs s5 s6 w1) (fun _ i _ => xs.length - (intOf i).toNat)
  case atStart => exact ⟨0, [], rfl, ScAt.start xs, World.ownsRow_nil _ _ _ _, Below.refl _ _⟩
  case round =>
    obtain ⟨n, l, rfl, hA, hO, hb⟩ := hrel
    by_cases hlt : n < xs.length
    · obtain ⟨b, o, rfl, hbl, hcell⟩ := HI.out.at (by omega)
      have hlt' : (n : Int) < xs.length := by omega
      have hne : cap ≠ n := by omega
      have HO := Lib.hid hO
      have HA := Lib.hid hA
      have hl := hA.2.1
      clear hO hcell hA
      go_wp2_with fail
      with_reducible refine (first_any _ _ _ (xs.drop n) _ (by simp) (by omega) (((HI.out.below hb (Nat.le_refl _)).more hb.size).drop n) (U16s.drop HU.out n) (by simp only [maxLen]; omega)).mono ?_
      rintro e w2 ⟨rfl, hs2⟩
      have hb2 := hs2.lower w.heap.size
      have hO2 := own_below HO.out hs2.below (Nat.le_refl _)
      have hb3 := hb.trans hb2
      have HO2 := Lib.hid hO2
      clear hO2 hb2 hb hs2
      cases hok : fsOk (xs.drop n) with
      | false =>
        have HR := Lib.hid (HA.out.stop hlt hok)
        clear hok
        go_wp2
        go_ret3
        exact ⟨_, by rw [HR.out]; rfl, by rw [HR.out]; exact World.ownsRow_nil _ _ _ _, hb3⟩
      | true =>
        obtain ⟨m, hu, hm1, hm2, hS⟩ := HA.out.step HU.out hlt hok
        have HS := Lib.hid hS
        have hle := hS.1
        clear hok hS
        generalize fsC (xs.drop n) = c at HS hu ⊢
        have hun : ∀ W, Calls Try.prog 24 #[.int .i32 c] W fun e w' => e = .returned (.int .i64 m) ∧ W = w' := fun W => by rw [← hu]; exact units_any c W
        have HUN := Lib.hid hun
        clear hun hu
        go_wp2_with (first
          | (at_builtin; refine wpList_app rfl (.tmp 23) (.tmp 25) 22 rfl w.heap.size 21 .i32 4 Try.underlying22 info_i32 (by omega) _ l rfl (HO2.out.alloc _) _ _ 1 [c] rfl (fun h => by cases h) (Ints.lit w2 21 .i32 [c]) (by simp; omega) (by simp; have := hb3.size; omega) ?_; intro v3 w3 hO3 hg3))
        have hbz : w.heap.size ≤ w2.heap.size := hb3.size
        have hb4 : Below w.heap.size w w3 := (hb3.alloc hbz _).trans (own_grown_below (HO2.out.alloc _) hg3 (by simp; omega))
        with_reducible refine (HUN.out _).mono ?_
        rintro e w' ⟨rfl, rfl⟩
        go_wp2
        go_roundw
        case rel => exact ⟨n + m, l ++ [c], by go_num, HS.out, hO3, hb4⟩
        case measure => simp [intOf]; omega
    · have hn : xs.length ≤ n := by omega
      have hlt' : ¬ (n : Int) < xs.length := by omega
      have HR := Lib.hid (hA.done hn)
      have hbb := hA.1
      have HO := Lib.hid hO
      clear hO hA
      go_wp2
      go_ret3
      exact ⟨_, by rw [HR.out]; rfl, by rw [HR.out]; exact HO.out, hb⟩
end Go.Proofs.Ytmidoopapfkilaa
