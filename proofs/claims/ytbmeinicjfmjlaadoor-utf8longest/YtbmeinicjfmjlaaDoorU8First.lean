/- Contract of utf8.First. -/
import Derived.Test.YtbmeinicjfmjlaaDoorU8Read
namespace Go.Proofs.YtbmeinicjfmjlaaDoor
open Go.ChangeShapes Go.WideShapes Go.ChangeAt Go.RowKit
set_option linter.unusedVariables false

def Bts (xs : List Int) : Prop := ∀ x ∈ xs, 0 ≤ x ∧ x ≤ 255
theorem Bts.at {xs : List Int} (h : Bts xs) {k : Nat} (hk : k < xs.length) : 0 ≤ xs.getD k 0 ∧ xs.getD k 0 ≤ 255 := by
  rw [List.getD_eq_getElem?_getD, List.getElem?_eq_getElem hk]; exact h _ (List.getElem_mem hk)
theorem Bts.drop {xs : List Int} (h : Bts xs) (n : Nat) : Bts (xs.drop n) := fun x hx => h x (List.mem_of_mem_drop hx)
theorem Bts.take {xs : List Int} (h : Bts xs) (n : Nat) : Bts (xs.take n) := fun x hx => h x (List.mem_of_mem_take hx)
theorem take_getD (xs : List Int) (k : Nat) (hk : k < xs.length) : xs.take k ++ [xs.getD k 0] = xs.take (k + 1) := by
  rw [List.take_succ_eq_append_getElem hk, List.getD_eq_getElem?_getD, List.getElem?_eq_getElem hk]; rfl

theorem push_zero {g : Nat} {bs : List Int} {x : Int} {w : World} (h : PushIs g bs x w) (hh : how (bs ++ [x]) = 0) :
    Calls Tryd.prog 21 #[.pointer (some ⟨g, 0, none⟩), .int .u8 x] w fun e w' => e = .returned (.tuple #[.int .i32 0, .int .i64 3]) ∧ RdAt w' g bs ∧ But g w w' := by
  have e1 : pC bs x = 0 := by simp [pC, hh]
  have e2 : pH bs x = 3 := by simp [pH, hh]
  have e3 : pS bs x = bs := by simp [pS, hh]
  unfold PushIs at h; rw [e1, e2, e3] at h; exact h
theorem push_one {g : Nat} {bs : List Int} {x : Int} {w : World} (h : PushIs g bs x w) (hh : how (bs ++ [x]) = 1) :
    Calls Tryd.prog 21 #[.pointer (some ⟨g, 0, none⟩), .int .u8 x] w fun e w' => e = .returned (.tuple #[.int .i32 0, .int .i64 1]) ∧ RdAt w' g (bs ++ [x]) ∧ But g w w' := by
  have e1 : pC bs x = 0 := by simp [pC, hh]
  have e2 : pH bs x = 1 := by simp [pH, hh]
  have e3 : pS bs x = bs ++ [x] := by simp [pS, hh]
  unfold PushIs at h; rw [e1, e2, e3] at h; exact h
theorem push_two {g : Nat} {bs : List Int} {x : Int} {w : World} (h : PushIs g bs x w) (hh : how (bs ++ [x]) = 2) :
    Calls Tryd.prog 21 #[.pointer (some ⟨g, 0, none⟩), .int .u8 x] w fun e w' => e = .returned (.tuple #[.int .i32 (bitsOf (bs ++ [x])), .int .i64 2]) ∧ RdAt w' g [] ∧ But g w w' := by
  have e1 : pC bs x = bitsOf (bs ++ [x]) := by simp [pC, hh]
  have e2 : pH bs x = 2 := by simp [pH, hh]
  have e3 : pS bs x = [] := by simp [pS, hh]
  unfold PushIs at h; rw [e1, e2, e3] at h; exact h
theorem RdAt.ne {w : World} {g : Nat} {bs : List Int} (h : RdAt w g bs) (hT : Tab w) : g ≠ 0 := hT.ne h

theorem left_rd {w : World} {g : Nat} {bs : List Int} (h : RdAt w g bs) :
    Calls Tryd.prog 23 #[.pointer (some ⟨g, 0, none⟩)] w fun e w' => e = .returned (.int .i64 (bs.length : Int)) ∧ w = w' := left_any g _ _ _ w h

def FirstAt (xs : List Int) (w w1 : World) (k : Nat) : Prop :=
  k ≤ xs.length ∧ (∀ j, 1 ≤ j → j ≤ k → how (xs.take j) = 1) ∧ RdAt w1 w.heap.size (xs.take k) ∧ Tab w1 ∧ Below w.heap.size w w1

set_option maxHeartbeats 1000000 in
theorem first_any (A : Option Addr) (cap : Nat) (xs : List Int) (w : World) (hT : Tab w) (hI : Ints w w.heap.size .u8 A xs) (hB : Bts xs) (hm : xs.length ≤ maxLen) :
    Calls Tryd.prog 9 #[.slice A xs.length cap] w fun e w' => e = .returned (.tuple #[.int .i32 (fC xs), .int .i64 (fN xs : Int), .bool (fOk xs)]) ∧ Below w.heap.size w w' := by
  unfold maxLen at hm
  go_enter Tryd.func9, Tryd.ntmps9
  go_wp2_with fail
  with_reducible refine (new_any _).mono ?_
  rintro e w1 ⟨rfl, rfl⟩
  have s0 : FirstAt xs w (w.alloc (.cells #[.int .i64 0, .int .i64 0, .int .i32 0] 53)) 0 :=
    ⟨Nat.zero_le _, fun j h1 h2 => by omega, Blk.new w _ _, hT.below' ((Below.refl _ _).alloc (Nat.le_refl _) _), (Below.refl _ _).alloc (Nat.le_refl _) _⟩
  generalize w.alloc (.cells #[.int .i64 0, .int .i64 0, .int .i32 0] 53) = W0 at s0 ⊢
  go_wp2_with fail
  go_loopw [13] (fun i w1 => ∃ k : Nat, i = .int .i64 k ∧ FirstAt xs w w1 k) (fun i _ => xs.length - (intOf i).toNat)
  case atStart => exact ⟨0, rfl, s0⟩
  case round =>
    obtain ⟨k, rfl, hk, hr, hR, hT1, hb⟩ := hrel
    clear s0
    by_cases hlt : k < xs.length
    · obtain ⟨b, o, rfl, hbl, hc⟩ := hI.at (by omega)
      have hcell : wr.cell? ⟨b, o + k, none⟩ = some (.int .u8 (xs.getD k 0)) := (hb.cell (p := ⟨b, o + k, none⟩) hbl).trans (hc k hlt)
      obtain ⟨x0, x1⟩ := hB.at hlt
      have hp := push_any w.heap.size (xs.take k) (xs.getD k 0) wr x0 x1 (by
        rcases Nat.eq_zero_or_pos k with h | h
        · left; subst h; rfl
        · right; exact hr k h (Nat.le_refl _)) hT1 hR
      have HT : Hid (xs.take k ++ [xs.getD k 0] = xs.take (k + 1)) := take_getD xs k hlt
      have hne := hR.ne hT1
      have hz := hR.lt
      generalize xs.getD k 0 = x at hp HT hcell x0 x1
      have hlt' : (k : Int) < xs.length := by omega
      have HC := Lib.hid hc
      have HI := Lib.hid hI
      have HR := Lib.hid hr
      clear hI hc hr
      rcases how_cases (xs.take k ++ [x]) with hh | hh | hh
      · have hq := push_zero hp hh
        have HH := Lib.hid hh
        clear hh hp
        go_wp2_with fail
        with_reducible refine hq.mono ?_
        rintro e w2 ⟨rfl, hR2, hbt⟩
        have HB := Lib.hid (hb.trans (hbt.below (Nat.le_refl _) (by omega)))
        clear hR2 hbt hq
        go_wp2
        go_ret3
        have hh := HH.out
        rw [HT.out] at hh
        obtain ⟨r1, r2, r3⟩ := first_no (Nat.le_of_lt hlt) HR.out (.inr hh)
        exact ⟨by rw [r1, r2, r3]; rfl, HB.out⟩
      · have hq := push_one hp hh
        have HH := Lib.hid hh
        clear hh hp
        go_wp2_with fail
        with_reducible refine hq.mono ?_
        rintro e w2 ⟨rfl, hR2, hbt⟩
        have hb2 := hb.trans (hbt.below (Nat.le_refl _) (by omega))
        have HF : Hid (FirstAt xs w w2 (k + 1)) := by
          have hh := HH.out
          rw [HT.out] at hh hR2
          refine ⟨by omega, fun j h1 h2 => ?_, hR2, hT1.but hbt hne, hb2⟩
          rcases Nat.lt_or_ge k j with h | h
          · have : j = k + 1 := by omega
            subst this; exact hh
          · exact HR.out j h1 h
        clear hR2 hbt hq hb2
        go_wp2
        go_roundw
        case rel => exact ⟨k + 1, by go_num, HF.out⟩
        case measure => simp [intOf]; omega
      · have hq := push_two hp hh
        have HH := Lib.hid hh
        clear hh hp
        go_wp2_with fail
        with_reducible refine hq.mono ?_
        rintro e w2 ⟨rfl, hR2, hbt⟩
        have HB := Lib.hid (hb.trans (hbt.below (Nat.le_refl _) (by omega)))
        clear hR2 hbt hq
        go_wp2
        go_ret3
        have hh := HH.out
        rw [HT.out] at hh
        obtain ⟨r1, r2, r3⟩ := first_yes hlt HR.out hh
        exact ⟨by rw [r1, r2, r3, ← HT.out]; rfl, HB.out⟩
    · have hkk : k = xs.length := by omega
      subst hkk
      have HR := Lib.hid hr
      rw [List.take_length] at hR
      have hlt' : ¬ (xs.length : Int) < xs.length := by omega
      clear hr
      go_wp2_with fail
      with_reducible refine (left_rd hR).mono ?_
      rintro e w2 ⟨rfl, rfl⟩
      go_wp2
      go_ret3
      obtain ⟨r1, r2, r3⟩ := first_no (Nat.le_refl _) HR.out (.inl rfl)
      exact ⟨by rw [r1, r2, r3]; rfl, hb⟩
end Go.Proofs.YtbmeinicjfmjlaaDoor
