/- Contracts of the document's of, First, All. -/
import Derived.Test.YtbmeinicjfmjlaaDoorU8How
import Derived.Test.YtbmeinicjfmjlaaDoorU8AllC
namespace Go.Proofs.YtbmeinicjfmjlaaDoor
open Go.ChangeShapes Go.WideShapes Go.ChangeAt Go.RowKit
set_option linter.unusedVariables false

def acc (xs : List Int) : Nat → Int
  | 0 => 0
  | 1 => xs.getD 0 0 - mkT (xs.getD 0 0)
  | k + 1 => acc xs k * 64 + (xs.getD k 0 - 128)
structure How2 (xs : List Int) : Prop where
  l1 : 1 ≤ xs.length
  l4 : xs.length ≤ 4
  tails : ∀ j, 1 ≤ j → j < xs.length → 128 ≤ xs.getD j 0 ∧ xs.getD j 0 ≤ 191
  head : 0 ≤ xs.getD 0 0 - mkT (xs.getD 0 0) ∧ xs.getD 0 0 - mkT (xs.getD 0 0) ≤ 127
  mark : mkT (xs.getD 0 0) = if xs.length = 1 then 0 else if xs.length = 2 then 192 else if xs.length = 3 then 224 else 240
  sum : acc xs xs.length = bitsOf xs
theorem mk_of (a : Int) : (lng a = 2 → mkT a = 192) ∧ (lng a = 3 → mkT a = 224) ∧ (lng a = 4 → mkT a = 240) := by
  unfold lng mkT
  refine ⟨?_, ?_, ?_⟩ <;> ((repeat' split) <;> omega)
theorem how2 (xs : List Int) (h0 : 0 ≤ xs.getD 0 0) (h : how xs = 2) : How2 xs := by
  match xs, h with
  | [], h => simp [how] at h
  | [a], h =>
    have h' : (if lng a = 1 then (2 : Int) else if 1 < lng a then 1 else 0) = 2 := h
    have h1 : lng a = 1 := by revert h'; (repeat' split) <;> omega
    have ha := lng_one h1
    have hm := (row_zero ha).2
    have h0 : 0 ≤ a := h0
    exact ⟨by simp, by simp, fun j h1 h2 => by simp at h2; omega, by show 0 ≤ a - mkT a ∧ a - mkT a ≤ 127; omega, hm, rfl⟩
  | [a, b], h =>
    have h' : (if 2 ≤ lng a ∧ secB a b = true then (if lng a = 2 then (2 : Int) else 1) else 0) = 2 := h
    by_cases c : 2 ≤ lng a ∧ secB a b = true
    · rw [if_pos c] at h'
      have h2 : lng a = 2 := by revert h'; split <;> omega
      have hm := (mk_of a).1 h2
      obtain ⟨_, _, _, _, f5, f6⟩ := row_facts (a := a) (by omega)
      have hb := sec_bd c.2
      exact ⟨by simp, by simp, fun j k1 k2 => by
        obtain rfl : j = 1 := by simp at k2; omega
        exact hb, by show 0 ≤ a - mkT a ∧ a - mkT a ≤ 127; omega, hm, rfl⟩
    · rw [if_neg c] at h'; cases h'
  | [a, b, c], h =>
    have h' : (if 3 ≤ lng a ∧ secB a b = true ∧ tlB c = true then (if lng a = 3 then (2 : Int) else 1) else 0) = 2 := h
    by_cases k : 3 ≤ lng a ∧ secB a b = true ∧ tlB c = true
    · rw [if_pos k] at h'
      have h2 : lng a = 3 := by revert h'; split <;> omega
      have hm := (mk_of a).2.1 h2
      obtain ⟨_, _, _, _, f5, f6⟩ := row_facts (a := a) (by omega)
      have hb := sec_bd k.2.1
      have hc := of_decide_eq_true k.2.2
      exact ⟨by simp, by simp, fun j k1 k2 => by
        have : j = 1 ∨ j = 2 := by simp at k2; omega
        rcases this with rfl | rfl
        · exact hb
        · exact hc, by show 0 ≤ a - mkT a ∧ a - mkT a ≤ 127; omega, hm, rfl⟩
    · rw [if_neg k] at h'; cases h'
  | [a, b, c, d], h =>
    have h' : (if 4 ≤ lng a ∧ secB a b = true ∧ tlB c = true ∧ tlB d = true then (2 : Int) else 0) = 2 := h
    by_cases k : 4 ≤ lng a ∧ secB a b = true ∧ tlB c = true ∧ tlB d = true
    · have h2 : lng a = 4 := by have := lng_le a; omega
      have hm := (mk_of a).2.2 h2
      obtain ⟨_, _, _, _, f5, f6⟩ := row_facts (a := a) (by omega)
      have hb := sec_bd k.2.1
      have hc := of_decide_eq_true k.2.2.1
      have hd := of_decide_eq_true k.2.2.2
      exact ⟨by simp, by simp, fun j k1 k2 => by
        have : j = 1 ∨ j = 2 ∨ j = 3 := by simp at k2; omega
        rcases this with rfl | rfl | rfl
        · exact hb
        · exact hc
        · exact hd, by show 0 ≤ a - mkT a ∧ a - mkT a ≤ 127; omega, hm, rfl⟩
    · rw [if_neg k] at h'; cases h'
  | _ :: _ :: _ :: _ :: _ :: _, h => simp [how] at h
theorem acc_step (xs : List Int) (k : Nat) (hk : 1 ≤ k) : acc xs (k + 1) = acc xs k * 64 + (xs.getD k 0 - 128) := by
  match k, hk with
  | k + 1, _ => rfl
theorem acc_bd {xs : List Int} (h : How2 xs) (k : Nat) (h1 : 1 ≤ k) (hk : k ≤ xs.length) : 0 ≤ acc xs k ∧ (k ≤ 3 → acc xs k ≤ 524287) := by
  have l4 := h.l4
  have e : k = 1 ∨ k = 2 ∨ k = 3 ∨ k = 4 := by omega
  have a1 : acc xs 1 = xs.getD 0 0 - mkT (xs.getD 0 0) := rfl
  have hh := h.head
  rcases e with rfl | rfl | rfl | rfl
  · omega
  · have t1 := h.tails 1 (by omega) (by omega)
    have : acc xs 2 = acc xs 1 * 64 + (xs.getD 1 0 - 128) := acc_step xs 1 (by omega)
    omega
  · have t1 := h.tails 1 (by omega) (by omega)
    have t2 := h.tails 2 (by omega) (by omega)
    have : acc xs 2 = acc xs 1 * 64 + (xs.getD 1 0 - 128) := acc_step xs 1 (by omega)
    have : acc xs 3 = acc xs 2 * 64 + (xs.getD 2 0 - 128) := acc_step xs 2 (by omega)
    omega
  · have t1 := h.tails 1 (by omega) (by omega)
    have t2 := h.tails 2 (by omega) (by omega)
    have t3 := h.tails 3 (by omega) (by omega)
    have : acc xs 2 = acc xs 1 * 64 + (xs.getD 1 0 - 128) := acc_step xs 1 (by omega)
    have : acc xs 3 = acc xs 2 * 64 + (xs.getD 2 0 - 128) := acc_step xs 2 (by omega)
    have : acc xs 4 = acc xs 3 * 64 + (xs.getD 3 0 - 128) := acc_step xs 3 (by omega)
    omega

set_option maxHeartbeats 2000000 in
theorem r_of_any (A : Option Addr) (n cap : Nat) (xs : List Int) (w : World) (hn : xs.length = n) (hI : Ints w w.heap.size .u8 A xs) (hB : Bts xs) (hh : how xs = 2) :
    Calls Tryd.prog 27 #[.slice A n cap] w fun e w' => e = .returned (.int .i32 (bitsOf xs)) ∧ w = w' := by
  subst hn
  have h1 : 0 < xs.length := (how_len (by rw [hh]; decide)).1
  have hw := how2 xs (hB.at h1).1 hh
  have h4 := hw.l4
  obtain ⟨b, o, rfl, hbl, hc⟩ := hI.at h1
  have c0 : w.cell? ⟨b, o, none⟩ = some (.int .u8 (xs.getD 0 0)) := hc 0 h1
  have x0 := hB.at h1
  have hhd := hw.head
  have HM := Lib.hid hw.mark
  have HS := Lib.hid hw.sum
  have HA1 : Hid (acc xs 1 = xs.getD 0 0 - mkT (xs.getD 0 0)) := rfl
  generalize xs.getD 0 0 = a at c0 x0 hhd HM HA1
  have HC := Lib.hid hc
  have HW := Lib.hid hw
  clear hI hc hB hw hh
  have hwalk : ∀ s : Int, mkT a = s → (xs.length = 1 ∧ s = 0 ∨ xs.length = 2 ∧ s = 192 ∨ xs.length = 3 ∧ s = 224 ∨ xs.length = 4 ∧ s = 240) →
      Calls Tryd.prog 27 #[.slice (some ⟨b, o, none⟩) xs.length cap] w fun e w' => e = .returned (.int .i32 (bitsOf xs)) ∧ w = w' := by
    intro s hs hcase
    have HS1 : Hid (acc xs 1 = a - s) := HA1.out.trans (by rw [hs])
    rw [hs] at hhd
    clear HM HA1 hs
    have b2 : ((xs.length : Int) == 2) = decide (s = 192) := by rw [Bool.eq_iff_iff]; simp; omega
    have b3 : ((xs.length : Int) == 3) = decide (s = 224) := by rw [Bool.eq_iff_iff]; simp; omega
    have b4 : ((xs.length : Int) == 4) = decide (s = 240) := by rw [Bool.eq_iff_iff]; simp; omega
    have hs4 : s = 0 ∨ s = 192 ∨ s = 224 ∨ s = 240 := by omega
    clear hcase
    rcases hs4 with rfl | rfl | rfl | rfl
    all_goals
      simp at b2 b3 b4
      go_enter Tryd.func27, Tryd.ntmps27
      go_wp2_with fail
      go_loop [3, 4] (fun c i => ∃ k : Nat, 1 ≤ k ∧ k ≤ xs.length ∧ i = .int .i64 k ∧ c = .int .i32 (acc xs k)) (fun _ i => xs.length - (intOf i).toNat)
      case atStart => exact ⟨1, by omega, by omega, rfl, by rw [HS1.out]; first | done | go_num⟩
      case round =>
        obtain ⟨k, hk1, hk, rfl, rfl⟩ := hrel
        have hbd := acc_bd HW.out k hk1 hk
        by_cases hlt : k < xs.length
        · have hck : w.cell? ⟨b, o + k, none⟩ = some (.int .u8 (xs.getD k 0)) := HC.out k hlt
          have ht := HW.out.tails k hk1 hlt
          have HST := Lib.hid (acc_step xs k hk1)
          have hb3 := hbd.2 (by omega)
          have hb0 := hbd.1
          clear hbd
          generalize xs.getD k 0 = x at hck ht HST
          generalize acc xs k = c at HST hb3 hb0 ⊢
          have hlt' : (k : Int) < xs.length := by omega
          go_wp2
          go_round
          case rel => exact ⟨k + 1, by omega, by omega, by go_num, by rw [HST.out]; go_num⟩
          case measure => simp [intOf]; omega
        · obtain rfl : k = xs.length := by omega
          have hlt' : ¬ (xs.length : Int) < xs.length := by omega
          go_wp2
          go_ret
          exact ⟨by rw [← HS.out]; rfl, rfl⟩
  have hm := HM.out
  have e : xs.length = 1 ∨ xs.length = 2 ∨ xs.length = 3 ∨ xs.length = 4 := by omega
  rcases e with e | e | e | e
  · exact hwalk 0 (by rw [hm, e]; rfl) (by omega)
  · exact hwalk 192 (by rw [hm, e]; rfl) (by omega)
  · exact hwalk 224 (by rw [hm, e]; rfl) (by omega)
  · exact hwalk 240 (by rw [hm, e]; rfl) (by omega)

set_option maxHeartbeats 2000000 in
/-- the document's First -/
theorem r_first_any (A : Option Addr) (n cap : Nat) (xs : List Int) (w : World) (hn : xs.length = n) (hI : Ints w w.heap.size .u8 A xs) (hB : Bts xs) (hm : n ≤ cap) (hcm : cap ≤ maxLen) :
    Calls Tryd.prog 10 #[.slice A n cap] w fun e w' => e = .returned (.tuple #[.int .i32 (fC xs), .int .i64 (fN xs : Int), .bool (fOk xs)]) ∧ Below w.heap.size w w' := by
  subst hn
  unfold maxLen at hcm
  have HI := Lib.hid hI
  have HB := Lib.hid hB
  clear hI hB
  go_enter Tryd.func10, Tryd.ntmps10
  go_wp2_with fail
  go_loopw [5] (fun i w1 => ∃ k : Nat, k ≤ xs.length ∧ i = .int .i64 k ∧ Hid (∀ j, 1 ≤ j → j ≤ k → how (xs.take j) = 1) ∧ Below w.heap.size w w1) (fun i _ => xs.length - (intOf i).toNat)
  case atStart => exact ⟨0, by omega, rfl, fun j h1 h2 => by omega, Below.refl _ _⟩
  case round =>
    obtain ⟨k, hk, rfl, HR, hb⟩ := hrel
    by_cases hlt : k < xs.length
    · obtain ⟨b, o, rfl, hbl, hc⟩ := HI.out.at (by omega)
      clear hc
      have hlt' : (k : Int) < xs.length := by omega
      have hI2 := (HI.out.below hb (Nat.le_refl _)).take (k + 1)
      have hlen : (xs.take (k + 1)).length = k + 1 := by rw [List.length_take]; omega
      have HI2 := Lib.hid (hI2.more hb.size)
      have HL := Lib.hid hlen
      clear hI2 hlen
      rcases how_cases (xs.take (k + 1)) with hh | hh | hh
      · have HQ : Hid (∀ W : World, Below w.heap.size w W → Calls Tryd.prog 26 #[.slice (some ⟨b, o, none⟩) (k + 1) cap] W fun e w' => e = .returned (.int .i64 0) ∧ Still W w') := fun W hbW => by
          have := r_how_any (some ⟨b, o, none⟩) (k + 1) cap (xs.take (k + 1)) W HL.out (((HI.out.below hbW (Nat.le_refl _)).take (k + 1)).more hbW.size) (HB.out.take (k + 1)) (by simp only [maxLen]; omega)
          rw [hh] at this; exact this
        have HN := Lib.hid (first_no (Nat.le_of_lt hlt) HR.out (.inr hh))
        clear hh
        go_wp2_with fail
        with_reducible refine (HQ.out wr hb).mono ?_
        rintro e w2 ⟨rfl, hs2⟩
        have hb2 := hb.trans (hs2.below.mono hb.size)
        clear hs2
        go_wp2_with fail
        with_reducible refine (HQ.out w2 hb2).mono ?_
        rintro e w3 ⟨rfl, hs3⟩
        have hb3 := hb2.trans (hs3.below.mono hb2.size)
        clear hs3
        go_wp2
        go_ret3
        exact ⟨by rw [HN.out.1, HN.out.2.1, HN.out.2.2]; rfl, hb3⟩
      · have HQ : Hid (∀ W : World, Below w.heap.size w W → Calls Tryd.prog 26 #[.slice (some ⟨b, o, none⟩) (k + 1) cap] W fun e w' => e = .returned (.int .i64 1) ∧ Still W w') := fun W hbW => by
          have := r_how_any (some ⟨b, o, none⟩) (k + 1) cap (xs.take (k + 1)) W HL.out (((HI.out.below hbW (Nat.le_refl _)).take (k + 1)).more hbW.size) (HB.out.take (k + 1)) (by simp only [maxLen]; omega)
          rw [hh] at this; exact this
        have HH := Lib.hid hh
        clear hh
        go_wp2_with fail
        with_reducible refine (HQ.out wr hb).mono ?_
        rintro e w2 ⟨rfl, hs2⟩
        have hb2 := hb.trans (hs2.below.mono hb.size)
        clear hs2
        go_wp2
        go_roundw
        case rel => exact ⟨k + 1, by omega, by go_num, fun j h1 h2 => by
          rcases Nat.lt_or_ge k j with h | h
          · obtain rfl : j = k + 1 := by omega
            exact HH.out
          · exact HR.out j h1 h, hb2⟩
        case measure => simp [intOf]; omega
      · have HQ : Hid (∀ W : World, Below w.heap.size w W → Calls Tryd.prog 26 #[.slice (some ⟨b, o, none⟩) (k + 1) cap] W fun e w' => e = .returned (.int .i64 2) ∧ Still W w') := fun W hbW => by
          have := r_how_any (some ⟨b, o, none⟩) (k + 1) cap (xs.take (k + 1)) W HL.out (((HI.out.below hbW (Nat.le_refl _)).take (k + 1)).more hbW.size) (HB.out.take (k + 1)) (by simp only [maxLen]; omega)
          rw [hh] at this; exact this
        have HF : Hid (∀ W : World, Below w.heap.size w W → Calls Tryd.prog 27 #[.slice (some ⟨b, o, none⟩) (k + 1) cap] W fun e w' => e = .returned (.int .i32 (bitsOf (xs.take (k + 1)))) ∧ W = w') := fun W hbW =>
          r_of_any (some ⟨b, o, none⟩) (k + 1) cap (xs.take (k + 1)) W HL.out (((HI.out.below hbW (Nat.le_refl _)).take (k + 1)).more hbW.size) (HB.out.take (k + 1)) hh
        have HN := Lib.hid (first_yes hlt HR.out hh)
        clear hh
        go_wp2_with fail
        with_reducible refine (HQ.out wr hb).mono ?_
        rintro e w2 ⟨rfl, hs2⟩
        have hb2 := hb.trans (hs2.below.mono hb.size)
        clear hs2
        go_wp2_with fail
        with_reducible refine (HQ.out w2 hb2).mono ?_
        rintro e w3 ⟨rfl, hs3⟩
        have hb3 := hb2.trans (hs3.below.mono hb2.size)
        clear hs3
        go_wp2_with fail
        with_reducible refine (HF.out w3 hb3).mono ?_
        rintro e w4 ⟨rfl, rfl⟩
        go_wp2
        go_ret3
        exact ⟨by rw [HN.out.1, HN.out.2.1, HN.out.2.2]; rfl, hb3⟩
    · obtain rfl : k = xs.length := by omega
      have hlt' : ¬ (xs.length : Int) < xs.length := by omega
      have HN := Lib.hid (first_no (Nat.le_refl _) HR.out (.inl rfl))
      go_wp2
      go_ret3
      exact ⟨by rw [HN.out.1, HN.out.2.1, HN.out.2.2]; rfl, hb⟩

set_option maxHeartbeats 1000000 in
/-- the document's All -/
theorem r_all_any (A : Option Addr) (n cap : Nat) (xs : List Int) (w : World) (hn : xs.length = n) (hI : Ints w w.heap.size .u8 A xs) (hB : Bts xs) (hm : n ≤ 65536) (hc : n ≤ cap) (hcm : cap ≤ maxLen) :
    Calls Tryd.prog 12 #[.slice A n cap] w (AllRes w xs) := by
  subst hn
  unfold maxLen at hcm
  have HI := Lib.hid hI
  have HB := Lib.hid hB
  clear hI hB
  go_enter Tryd.func12, Tryd.ntmps12
  go_wp2_with fail
  go_loopw [5, 6] (fun s5 s6 w1 => AllLoop w xs s5 s6 w1) (fun _ i _ => xs.length - (intOf i).toNat)
  case atStart => exact ⟨0, [], rfl, AllAt.start xs, World.ownsRow_nil _ _ _ _, Below.refl _ _⟩
  case round =>
    obtain ⟨n, l, rfl, hA, hO, hb⟩ := hrel
    by_cases hlt : n < xs.length
    · obtain ⟨b, o, rfl, hbl, hcell⟩ := HI.out.at (by omega)
      have hlt' : (n : Int) < xs.length := by omega
      have hne : cap ≠ n := by omega
      have HO := Lib.hid hO
      have HA := Lib.hid hA
      have hl := hA.2.1
      clear hO hcell hA
      go_wp2_with fail
      with_reducible refine (r_first_any _ _ _ (xs.drop n) _ (by simp) (((HI.out.below hb (Nat.le_refl _)).more hb.size).drop n) (HB.out.drop n) (by omega) (by simp only [maxLen]; omega)).mono ?_
      rintro e w2 ⟨rfl, hb2⟩
      have hO2 := own_below HO.out hb2 (Nat.le_refl _)
      have hb3 := hb.trans (hb2.mono hb.size)
      have hf := fN_le (xs.drop n)
      rw [List.length_drop] at hf
      have HO2 := Lib.hid hO2
      clear hO2 hb2 hb
      cases hok : fOk (xs.drop n) with
      | false =>
        have HR := Lib.hid (HA.out.fail hlt hok)
        clear hok
        go_wp2
        go_ret3
        exact ⟨_, by rw [HR.out]; go_num, by rw [HR.out]; exact World.ownsRow_nil _ _ _ _, hb3⟩
      | true =>
        have HS := Lib.hid (HA.out.step hlt hok)
        have hp := fN_pos hok
        clear hok
        generalize fC (xs.drop n) = c at HS ⊢
        generalize fN (xs.drop n) = m at HS hf hp ⊢
        go_wp2_with (first
          | (at_builtin; refine wpList_app rfl (.tmp 27) (.tmp 29) 23 rfl w.heap.size 21 .i32 4 Tryd.underlying23 info_i32 (by omega) _ l rfl (HO2.out.alloc _) _ _ 1 [c] rfl (fun h => by cases h) (Ints.lit w2 21 .i32 [c]) (by simp; omega) (by simp; have := hb3.size; omega) ?_; intro v3 w3 hO3 hg3))
        have hbz : w.heap.size ≤ w2.heap.size := hb3.size
        have hb4 : Below w.heap.size w w3 := (hb3.alloc hbz _).trans (own_grown_below (HO2.out.alloc _) hg3 (by simp; omega))
        go_roundw
        case rel => exact ⟨n + m, l ++ [c], by go_num, HS.out, hO3, hb4⟩
        case measure => simp [intOf]; omega
    · have hn : xs.length ≤ n := by omega
      have hlt' : ¬ (n : Int) < xs.length := by omega
      have HR := Lib.hid (hA.done hn)
      have hbb := hA.1
      have HO := Lib.hid hO
      clear hO hA
      go_wp2
      go_ret3
      exact ⟨_, by rw [HR.out]; rfl, by rw [HR.out]; exact HO.out, hb⟩
end Go.Proofs.YtbmeinicjfmjlaaDoor
