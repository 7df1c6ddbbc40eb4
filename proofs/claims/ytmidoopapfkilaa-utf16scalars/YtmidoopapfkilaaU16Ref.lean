/- Contracts of the document's Units, Scalars, Compare (orthoepyref03). -/
import Derived.Test.YtmidoopapfkilaaU16Sc
import Derived.Test.YtmidoopapfkilaaScRefJ
import Derived.Test.YtmidoopapfkilaaAppG
namespace Go.Proofs.Ytmidoopapfkilaa
open Go.ChangeShapes Go.WideShapes Go.ChangeAt Go.RowKit
set_option linter.unusedVariables false

def UnLoop (w : World) (xs : List Int) (s3 s4 : Value) (w1 : World) : Prop :=
  ∃ k : Nat, k ≤ xs.length ∧ s4 = .int .i64 k ∧ Own w1 w.heap.size 43 .u16 s3 (uns (xs.take k)) ∧ Below w.heap.size w w1

set_option maxHeartbeats 2000000 in
theorem r_unitsL_any (A : Option Addr) (n cap : Nat) (xs : List Int) (w : World) (hn : xs.length = n) (hI : Ints w w.heap.size .i32 A xs) (hm : n ≤ 65536) :
    Calls Try.prog 13 #[.slice A n cap] w (RowRes 43 .u16 w (uns xs)) := by
  subst hn
  have HI := Lib.hid hI
  clear hI
  go_enter Try.func13, Try.ntmps13
  go_wp2_with fail
  go_loopw [3, 4] (fun s3 s4 w1 => UnLoop w xs s3 s4 w1) (fun _ i _ => xs.length - (intOf i).toNat)
  case atStart => exact ⟨0, Nat.zero_le _, rfl, World.ownsRow_nil _ _ _ _, Below.refl _ _⟩
  case round =>
    obtain ⟨k, hk, rfl, hO, hb⟩ := hrel
    by_cases hlt : k < xs.length
    · obtain ⟨b, o, rfl, hbl, hc⟩ := HI.out.at (by omega)
      have hcell : wr.cell? ⟨b, o + k, none⟩ = some (.int .i32 (xs.getD k 0)) := (hb.cell (p := ⟨b, o + k, none⟩) hbl).trans (hc k hlt)
      have hlt' : (k : Int) < xs.length := by omega
      have HX := Lib.hid (uns_snoc xs k hlt)
      have hl := uns_len (xs.take k)
      have hl2 : (xs.take k).length ≤ k := List.length_take_le _ _
      have HO := Lib.hid hO
      have hbz := hb.size
      generalize xs.getD k 0 = x at hcell HX
      generalize uns (xs.take k) = us at HO HX hl
      clear hc hO
      rcases un1_cases x with ⟨hi, e⟩ | ⟨hi, hx, e⟩ | ⟨hx, hg, e⟩
      · rw [e] at HX
        have hs := of_decide_eq_false hi
        have hx : x < 65536 ∨ 1114111 < x := by omega
        have HS := Lib.hid (fun W => r_split_no x W hx)
        clear e hs hx
        go_wp2_with fail
        with_reducible refine (HS.out _).mono ?_
        rintro e w' ⟨rfl, rfl⟩
        go_wp2_with fail
        with_reducible refine (r_is_any _ _).mono ?_
        rintro e w' ⟨rfl, rfl⟩
        go_wp2
        go_roundw
        case rel => exact ⟨k + 1, by omega, by go_num, by rw [HX.out, List.append_nil]; exact HO.out, hb⟩
        case measure => simp [intOf]; omega
      · rw [e] at HX
        have hs := of_decide_eq_true hi
        have hx0 : 0 ≤ x := by omega
        have HS := Lib.hid (fun W => r_split_no x W (.inl hx))
        clear e hs
        go_wp2_with fail
        with_reducible refine (HS.out _).mono ?_
        rintro e w' ⟨rfl, rfl⟩
        go_wp2_with fail
        with_reducible refine (r_is_any _ _).mono ?_
        rintro e w' ⟨rfl, rfl⟩
        go_wp2_with (first
          | (at_builtin; refine wpList_app rfl (.tmp 36) (.tmp 42) 23 rfl w.heap.size 43 .u16 2 Try.underlying23 info_u16 (by omega) _ _ rfl (HO.out.alloc _) _ _ 1 [x] rfl (fun h => by cases h) (Ints.lit wr 43 .u16 [x]) (by simp; omega) (by simp; omega) ?_; intro v3 w3 hO3 hg3))
        have hb4 : Below w.heap.size w w3 := (hb.alloc hbz _).trans (own_grown_below (HO.out.alloc _) hg3 (by simp; omega))
        go_roundw
        case rel => exact ⟨k + 1, by omega, by go_num, by rw [HX.out]; exact hO3, hb4⟩
        case measure => simp [intOf]; omega
      · rw [e] at HX
        have HS := Lib.hid (fun W => r_split_yes x W hx hg)
        clear e
        generalize 55296 + (x - 65536) / 1024 = p at HX HS
        generalize 56320 + (x - 65536) % 1024 = q at HX HS
        go_wp2_with fail
        with_reducible refine (HS.out _).mono ?_
        rintro e w' ⟨rfl, rfl⟩
        go_wp2_with (first
          | (at_builtin; refine wpList_app rfl (.tmp 25) (.tmp 28) 23 rfl w.heap.size 43 .u16 2 Try.underlying23 info_u16 (by omega) _ _ rfl (HO.out.alloc _) _ _ 2 [p, q] rfl (fun h => by cases h) (Ints.lit wr 43 .u16 [p, q]) (by simp; omega) (by simp; omega) ?_; intro v3 w3 hO3 hg3))
        have hb4 : Below w.heap.size w w3 := (hb.alloc hbz _).trans (own_grown_below (HO.out.alloc _) hg3 (by simp; omega))
        go_roundw
        case rel => exact ⟨k + 1, by omega, by go_num, by rw [HX.out]; exact hO3, hb4⟩
        case measure => simp [intOf]; omega
    · have hkk : k = xs.length := by omega
      subst hkk
      have hlt' : ¬ (xs.length : Int) < xs.length := by omega
      rw [List.take_length] at hO
      have HO := Lib.hid hO
      clear hO
      go_wp2
      go_ret
      exact ⟨_, rfl, HO.out, hb⟩

set_option maxHeartbeats 2000000 in
theorem r_scalars_any (A : Option Addr) (n cap : Nat) (xs : List Int) (w : World) (hn : xs.length = n) (hI : Ints w w.heap.size .u16 A xs) (hU : U16s xs) (hm : n ≤ 262144) :
    Calls Try.prog 10 #[.slice A n cap] w (ScRes w xs) := by
  subst hn
  have HI := Lib.hid hI
  have HU := Lib.hid hU
  clear hI hU
  go_enter Try.func10, Try.ntmps10
  go_wp2_with fail
  go_loopw [5, 6] (fun s5 s6 w1 => ScLoop w xs s5 s6 w1) (fun _ i _ => xs.length - (intOf i).toNat)
  case atStart => exact ⟨0, [], rfl, ScAt.start xs, World.ownsRow_nil _ _ _ _, Below.refl _ _⟩
  case round =>
    obtain ⟨n, l, rfl, hA, hO, hb⟩ := hrel
    by_cases hlt : n < xs.length
    · obtain ⟨b, o, rfl, hbl, hcc⟩ := HI.out.at (by omega)
      have hcell : wr.cell? ⟨b, o + n, none⟩ = some (.int .u16 (xs.getD n 0)) := (hb.cell (p := ⟨b, o + n, none⟩) hbl).trans (hcc n hlt)
      have hlt' : (n : Int) < xs.length := by omega
      have HO := Lib.hid hO
      have HA := Lib.hid hA
      have hl := hA.2.1
      have hbz := hb.size
      have hux := HU.out.at hlt
      have hb16 := isB_u16 hux.1 hux.2
      have HC := Lib.hid hcc
      have HAo := Lib.hid (fun h => HA.out.one hlt h)
      have HAf := Lib.hid (fun h h' => HA.out.fail hlt h h')
      clear hO hA hcc
      by_cases h1 : n + 1 < xs.length
      · have c1 : wr.cell? ⟨b, o + (n + 1), none⟩ = some (.int .u16 (xs.getD (n + 1) 0)) := (hb.cell (p := ⟨b, o + (n + 1), none⟩) hbl).trans (HC.out (n + 1) h1)
        have h1' : (n : Int) + 1 < xs.length := by omega
        have HA2 := Lib.hid (fun h => HA.out.two h1 h)
        clear HC
        generalize xs.getD n 0 = x at *
        generalize xs.getD (n + 1) 0 = y at *
        cases hp : pairB x y with
        | true =>
          have hpp := of_decide_eq_true hp
          have HJ := Lib.hid (fun W => r_join_yes x y W hpp.1.1 hpp.1.2 hpp.2.1 hpp.2.2)
          have HS := Lib.hid (HA2.out hp)
          clear hp hpp hb16 HAf HAo HA2
          have ej : 65536 + (x - 55296) * 1024 + (y - 56320) = joinI x y := rfl
          rw [ej] at HJ
          clear ej
          generalize joinI x y = c at HJ HS
          go_wp2_with fail
          go_quiet ((go_at_call 25; exact quiet_left' (HJ.out _)))
          have hbq := below_drewN' hb nq
          have HOq : Hid (Own (wr.drewN nq) w.heap.size 21 .i32 u5 l) := HO
          generalize wr.drewN nq = wq at hbq HOq ⊢
          have hbz2 := hbq.size
          go_wp2_with (first
            | (at_builtin; refine wpList_app rfl (.tmp 34) (.tmp 36) 22 rfl w.heap.size 21 .i32 4 Try.underlying22 info_i32 (by omega) _ l rfl (HOq.out.alloc _) _ _ 1 [c] rfl (fun h => by cases h) (Ints.lit wq 21 .i32 [c]) (by simp; omega) (by simp; omega) ?_; intro v3 w3 hO3 hg3))
          have hb4 : Below w.heap.size w w3 := (hbq.alloc hbz2 _).trans (own_grown_below (HOq.out.alloc _) hg3 (by simp; omega))
          go_roundw
          case rel => exact ⟨n + 2, l ++ [c], by go_num, HS.out, hO3, hb4⟩
          case measure => simp [intOf]; omega
        | false =>
          have hpp := of_decide_eq_false hp
          have HJ := Lib.hid (fun W => r_join_no x y W hpp)
          clear hpp HA2
          have HP := Lib.hid hp
          clear hp
          go_wp2_with fail
          go_quiet ((go_at_call 25; exact quiet_left' (HJ.out _)))
          have hbq := below_drewN' hb nq
          have HOq : Hid (Own (wr.drewN nq) w.heap.size 21 .i32 u5 l) := HO
          have hcq : (wr.drewN nq).cell? ⟨b, o + n, none⟩ = some (.int .u16 x) := hcell
          generalize wr.drewN nq = wq at hbq HOq hcq ⊢
          have hbz2 := hbq.size
          cases hh : highB x with
          | true =>
            have HR := Lib.hid (HAf.out (by rw [hb16, hh]; rfl) (fun _ => HP.out))
            clear hb16
            go_wp2_with fail
            with_reducible refine (r_high_any _ _).mono ?_
            rintro e w' ⟨rfl, rfl⟩
            go_wp2
            go_ret3
            exact ⟨_, by rw [HR.out]; rfl, by rw [HR.out]; exact World.ownsRow_nil _ _ _ _, hbq⟩
          | false =>
            cases hw : lowB x with
            | true =>
              have HR := Lib.hid (HAf.out (by rw [hb16, hh, hw]; rfl) (fun _ => HP.out))
              clear hb16
              go_wp2_with fail
              with_reducible refine (r_high_any _ _).mono ?_
              rintro e w' ⟨rfl, rfl⟩
              go_wp2_with fail
              with_reducible refine (r_low_any _ _).mono ?_
              rintro e w' ⟨rfl, rfl⟩
              go_wp2
              go_ret3
              exact ⟨_, by rw [HR.out]; rfl, by rw [HR.out]; exact World.ownsRow_nil _ _ _ _, hbq⟩
            | false =>
              have HS := Lib.hid (HAo.out (by rw [hb16, hh, hw]; rfl))
              clear hb16
              go_wp2_with fail
              with_reducible refine (r_high_any _ _).mono ?_
              rintro e w' ⟨rfl, rfl⟩
              go_wp2_with fail
              with_reducible refine (r_low_any _ _).mono ?_
              rintro e w' ⟨rfl, rfl⟩
              go_wp2_with (first
                | (at_builtin; refine wpList_app rfl (.tmp 53) (.tmp 59) 22 rfl w.heap.size 21 .i32 4 Try.underlying22 info_i32 (by omega) _ l rfl (HOq.out.alloc _) _ _ 1 [x] rfl (fun h => by cases h) (Ints.lit wq 21 .i32 [x]) (by simp; omega) (by simp; omega) ?_; intro v3 w3 hO3 hg3))
              have hb4 : Below w.heap.size w w3 := (hbq.alloc hbz2 _).trans (own_grown_below (HOq.out.alloc _) hg3 (by simp; omega))
              go_roundw
              case rel => exact ⟨n + 1, l ++ [x], by go_num, HS.out, hO3, hb4⟩
              case measure => simp [intOf]; omega
      · have h1' : ¬ (n : Int) + 1 < xs.length := by omega
        clear HC
        generalize xs.getD (n + 1) 0 = y at *
        generalize xs.getD n 0 = x at *
        have hbz2 := hb.size
        cases hh : highB x with
        | true =>
          have HR := Lib.hid (HAf.out (by rw [hb16, hh]; rfl) (fun h => absurd h h1))
          clear hb16
          go_wp2_with fail
          with_reducible refine (r_high_any _ _).mono ?_
          rintro e w' ⟨rfl, rfl⟩
          go_wp2
          go_ret3
          exact ⟨_, by rw [HR.out]; rfl, by rw [HR.out]; exact World.ownsRow_nil _ _ _ _, hb⟩
        | false =>
          cases hw : lowB x with
          | true =>
            have HR := Lib.hid (HAf.out (by rw [hb16, hh, hw]; rfl) (fun h => absurd h h1))
            clear hb16
            go_wp2_with fail
            with_reducible refine (r_high_any _ _).mono ?_
            rintro e w' ⟨rfl, rfl⟩
            go_wp2_with fail
            with_reducible refine (r_low_any _ _).mono ?_
            rintro e w' ⟨rfl, rfl⟩
            go_wp2
            go_ret3
            exact ⟨_, by rw [HR.out]; rfl, by rw [HR.out]; exact World.ownsRow_nil _ _ _ _, hb⟩
          | false =>
            have HS := Lib.hid (HAo.out (by rw [hb16, hh, hw]; rfl))
            clear hb16
            go_wp2_with fail
            with_reducible refine (r_high_any _ _).mono ?_
            rintro e w' ⟨rfl, rfl⟩
            go_wp2_with fail
            with_reducible refine (r_low_any _ _).mono ?_
            rintro e w' ⟨rfl, rfl⟩
            go_wp2_with (first
              | (at_builtin; refine wpList_app rfl (.tmp 53) (.tmp 59) 22 rfl w.heap.size 21 .i32 4 Try.underlying22 info_i32 (by omega) _ l rfl (HO.out.alloc _) _ _ 1 [x] rfl (fun h => by cases h) (Ints.lit wr 21 .i32 [x]) (by simp; omega) (by simp; omega) ?_; intro v3 w3 hO3 hg3))
            have hb4 : Below w.heap.size w w3 := (hb.alloc hbz2 _).trans (own_grown_below (HO.out.alloc _) hg3 (by simp; omega))
            go_roundw
            case rel => exact ⟨n + 1, l ++ [x], by go_num, HS.out, hO3, hb4⟩
            case measure => simp [intOf]; omega
    · have hn : xs.length ≤ n := by omega
      have hlt' : ¬ (n : Int) < xs.length := by omega
      have HR := Lib.hid (hA.done hn)
      have hbb := hA.1
      have hnn : (xs.length : Int) = n := by omega
      have HO := Lib.hid hO
      clear hO hA
      go_wp2
      go_ret3
      exact ⟨_, by rw [HR.out]; rfl, by rw [HR.out]; exact HO.out, hb⟩
end Go.Proofs.Ytmidoopapfkilaa
