/- The walk of UcdEnds. -/
import Derived.Test.YtmphfdnpnhlpjaaU5Awk
import Derived.Test.YtmphfdnpnhlpjaaLaw00R
namespace Go.Proofs.Ytmphfdnpnhlpjaa
open Go.ChangeShapes Go.WideShapes Go.ChangeAt Go.RowKit
set_option linter.unusedVariables false
set_option linter.unusedSimpArgs false

/-- so many steps from place to place -/
def Chain (c : Nat) : Nat → Nat → Prop
  | 0, x => x = c
  | k + 1, x => ∃ y, Chain c k y ∧ (y, x) ∈ L5
theorem no_chain {c x : Nat} (h : Chain c 5 x) : False := by
  obtain ⟨c4, ⟨c3, ⟨c2, ⟨c1, ⟨c0, h0, h1⟩, h2⟩, h3⟩, h4⟩, h5⟩ := h
  exact no_five four5 h1 h2 h3 h4 h5
def EndsLoop (w : World) (g c0 : Nat) (c i : Value) (wr : World) : Prop :=
  ∃ k x : Nat, k ≤ 5 ∧ i = .int .i64 k ∧ c = .int .i32 x ∧ Chain c0 k x ∧ TblAt wr wr.heap.size g C5 P5 S5 ∧ Below w.heap.size w wr

set_option maxHeartbeats 1000000 in
theorem ucdEnds_walk (n : Int) (w : World) : Calls Try.prog 6 #[.int .i64 n] w fun e w' => e = .returned (.bool true) ∧ Below w.heap.size w w' := by
  obtain ⟨c, ⟨hc0, hc1⟩, hc⟩ := rune_fn n
  obtain ⟨c0, rfl⟩ := Int.eq_ofNat_of_zero_le hc0
  have HC := Lib.hid hc
  clear hc hc0 hc1
  go_enter Try.func6, Try.ntmps6
  go_wp2_with fail
  with_reducible refine (ubuild_any _).mono ?_
  rintro e w1 ⟨g, rfl, ht, hb⟩
  have HT := Lib.hid ht
  have HB := Lib.hid hb
  clear ht hb
  go_wp2_with fail
  with_reducible refine (HC.out _).mono ?_
  rintro e w2 ⟨rfl, rfl⟩
  go_wp2_with fail
  go_loopw [4, 5] (fun c i wr => EndsLoop w g c0 c i wr) (fun _ i _ => 5 - (intOf i).toNat)
  case atStart => exact ⟨0, c0, by omega, rfl, rfl, rfl, HT.out, HB.out⟩
  case round =>
    obtain ⟨k, x, hk, rfl, rfl, hch, ht, hb⟩ := hrel
    by_cases hlt : k < 5
    · have hlt' : (k : Int) < 5 := by omega
      have HCH := Lib.hid hch
      have HT1 := Lib.hid ht
      have HB1 := Lib.hid hb
      have HP := Lib.hid (pairQ ht fine5 x)
      clear hch ht hb
      cases hl : lastP P5 (x : Int) with
      | some p =>
        obtain ⟨hp1, hp2⟩ := lastP_some hl
        have e1 : pxF P5 x = p.x := by unfold pxF; rw [hl]; rfl
        have e2 : pyF P5 x = p.y := by unfold pyF; rw [hl]; rfl
        have e3 : pkF P5 x = true := by unfold pkF; rw [hl]; rfl
        rw [e1, e2, e3] at HP
        have HM : Hid ((x, p.x) ∈ L5) := Lib.hid (by
          unfold L5
          refine List.mem_append.2 (.inl (List.mem_map.2 ⟨p, hp1, ?_⟩))
          rw [show p.c = x by omega])
        clear e1 e2 e3 hl hp1 hp2
        go_wp2_with fail
        with_reducible refine HP.out.mono ?_
        rintro e w3 ⟨rfl, hb3⟩
        have HT3 := Lib.hid (HT1.out.go hb3)
        have HB3 := Lib.hid (HB1.out.trans (hb3.mono HB1.out.size))
        have HS := Lib.hid (singleQ HT3.out fine5 x)
        clear hb3
        generalize tab (castE S5) x = v at *
        go_wp2_with fail
        with_reducible refine HS.out.mono ?_
        rintro e w4 ⟨rfl, hb4⟩
        have HT4 := Lib.hid (HT3.out.go hb4.below)
        have HB4 := Lib.hid (HB3.out.trans (hb4.below.mono HB3.out.size))
        clear hb4
        go_wp2
        go_roundw
        case rel => exact ⟨k + 1, p.x, by omega, by go_num, rfl, ⟨x, HCH.out, HM.out⟩, HT4.out, HB4.out⟩
        case measure => simp [intOf]; omega
      | none =>
        have e1 : pxF P5 x = 0 := by unfold pxF; rw [hl]; rfl
        have e2 : pyF P5 x = 0 := by unfold pyF; rw [hl]; rfl
        have e3 : pkF P5 x = false := by unfold pkF; rw [hl]; rfl
        rw [e1, e2, e3] at HP
        clear e1 e2 e3 hl
        go_wp2_with fail
        with_reducible refine HP.out.mono ?_
        rintro e w3 ⟨rfl, hb3⟩
        have HT3 := Lib.hid (HT1.out.go hb3)
        have HB3 := Lib.hid (HB1.out.trans (hb3.mono HB1.out.size))
        have HS := Lib.hid (singleQ HT3.out fine5 x)
        clear hb3
        by_cases hv : tab (castE S5) x = 0
        · rw [hv] at HS
          clear hv
          go_wp2_with fail
          with_reducible refine HS.out.mono ?_
          rintro e w4 ⟨rfl, hb4⟩
          have HT4 := Lib.hid (HT3.out.go hb4.below)
          have HB4 := Lib.hid (HB3.out.trans (hb4.below.mono HB3.out.size))
          clear hb4
          go_wp2_with fail
          with_reducible refine (awake_any _ _ HT4.out).mono ?_
          rintro e w5 ⟨rfl, hb5⟩
          have HB5 := Lib.hid (HB4.out.trans (hb5.mono HB4.out.size))
          clear hb5
          go_wp2
          go_ret
          exact ⟨rfl, HB5.out⟩
        · obtain ⟨s, hs1, hs2, hs3⟩ := tab_nz (fun e he => (fine5.s e he).1) hv
          have hnz := snz5 hs1
          have hb1 : ((s.2 : Int) != 0) = true := by simp; omega
          rw [hs3] at HS
          have HM : Hid ((x, s.2) ∈ L5) := Lib.hid (by
            unfold L5
            refine List.mem_append.2 (.inr ?_)
            rw [show x = s.1 by omega]; exact hs1)
          clear hs1 hs2 hs3 hv
          generalize s.2 = v at *
          go_wp2_with fail
          with_reducible refine HS.out.mono ?_
          rintro e w4 ⟨rfl, hb4⟩
          have HT4 := Lib.hid (HT3.out.go hb4.below)
          have HB4 := Lib.hid (HB3.out.trans (hb4.below.mono HB3.out.size))
          clear hb4
          go_wp2
          go_roundw
          case rel => exact ⟨k + 1, v, by omega, by go_num, rfl, ⟨x, HCH.out, HM.out⟩, HT4.out, HB4.out⟩
          case measure => simp [intOf]; omega
    · have hkk : k = 5 := by omega
      subst hkk
      exact (no_chain hch).elim
end Go.Proofs.Ytmphfdnpnhlpjaa
