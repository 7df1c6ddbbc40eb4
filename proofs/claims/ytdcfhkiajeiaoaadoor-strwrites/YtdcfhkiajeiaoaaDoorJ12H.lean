/- Joined of: U8Ref, Still, U8How, U8Of, ScRefN, R12B, R12C. -/
import Derived.Test.YtdcfhkiajeiaoaaDoorJ12A
import Derived.Test.YtdcfhkiajeiaoaaDoorJ12C
import Derived.BigQuiet
import Derived.Test.YtdcfhkiajeiaoaaDoorJ12B
import Derived.Test.YtdcfhkiajeiaoaaDoorJ12G
import Derived.Test.YtdcfhkiajeiaoaaDoorJ12E
/- Contracts of the document's own layer 2 (orthoepyref02): Is, long, second, How, of. -/
namespace Go.Proofs.YtdcfhkiajeiaoaaDoor
set_option maxRecDepth 100000
open Go.ChangeShapes Go.WideShapes Go.ChangeAt Go.RowKit
set_option linter.unusedVariables false

theorem r_long_any (x : Int) (w : World) (h0 : 0 ≤ x) (h1 : x ≤ 255) : Calls Tryd.prog 73 #[.int .u8 x] w fun e w' => e = .returned (.int .i64 (lng x)) ∧ w = w' := by
  have hc : x < 128 ∨ (128 ≤ x ∧ x < 194) ∨ (194 ≤ x ∧ x ≤ 223) ∨ (224 ≤ x ∧ x ≤ 239) ∨ (240 ≤ x ∧ x ≤ 244) ∨ 244 < x := by omega
  rcases hc with c | ⟨c, d⟩ | ⟨c, d⟩ | ⟨c, d⟩ | ⟨c, d⟩ | c
  · have e : lng x = 1 := by unfold lng; rw [if_pos c]
    rw [e]; clear e
    go_enter Tryd.func73, Tryd.ntmps73
    go_wp2
    go_ret
    exact ⟨rfl, rfl⟩
  · have e : lng x = 0 := by unfold lng; rw [if_neg (by omega), if_pos d]
    rw [e]; clear e
    have d1 : decide (194 ≤ x) = false := decide_eq_false (by omega)
    have d2 : decide (224 ≤ x) = false := decide_eq_false (by omega)
    have d3 : decide (240 ≤ x) = false := decide_eq_false (by omega)
    go_enter Tryd.func73, Tryd.ntmps73
    go_wp2
    go_ret
    exact ⟨rfl, rfl⟩
  · have e : lng x = 2 := by unfold lng; rw [if_neg (by omega), if_neg (by omega), if_pos d]
    rw [e]; clear e
    go_enter Tryd.func73, Tryd.ntmps73
    go_wp2
    go_ret
    exact ⟨rfl, rfl⟩
  · have e : lng x = 3 := by unfold lng; rw [if_neg (by omega), if_neg (by omega), if_neg (by omega), if_pos d]
    rw [e]; clear e
    have d1 : decide (x ≤ 223) = false := decide_eq_false (by omega)
    go_enter Tryd.func73, Tryd.ntmps73
    go_wp2
    go_ret
    exact ⟨rfl, rfl⟩
  · have e : lng x = 4 := by unfold lng; rw [if_neg (by omega), if_neg (by omega), if_neg (by omega), if_neg (by omega), if_pos d]
    rw [e]; clear e
    have d1 : decide (x ≤ 223) = false := decide_eq_false (by omega)
    have d2 : decide (x ≤ 239) = false := decide_eq_false (by omega)
    go_enter Tryd.func73, Tryd.ntmps73
    go_wp2
    go_ret
    exact ⟨rfl, rfl⟩
  · have e : lng x = 0 := by unfold lng; rw [if_neg (by omega), if_neg (by omega), if_neg (by omega), if_neg (by omega), if_neg (by omega)]
    rw [e]; clear e
    have d1 : decide (x ≤ 223) = false := decide_eq_false (by omega)
    have d2 : decide (x ≤ 239) = false := decide_eq_false (by omega)
    have d3 : decide (x ≤ 244) = false := decide_eq_false (by omega)
    go_enter Tryd.func73, Tryd.ntmps73
    go_wp2
    go_ret
    exact ⟨rfl, rfl⟩

theorem r_second_any (a x : Int) (w : World) : Calls Tryd.prog 74 #[.int .u8 a, .int .u8 x] w fun e w' => e = .returned (.bool (secB a x)) ∧ w = w' := by
  have hc : a = 224 ∨ a = 237 ∨ a = 240 ∨ a = 244 ∨ (a ≠ 224 ∧ a ≠ 237 ∧ a ≠ 240 ∧ a ≠ 244) := by omega
  rcases hc with rfl | rfl | rfl | rfl | ⟨c1, c2, c3, c4⟩
  · have e : secB 224 x = decide (160 ≤ x ∧ x ≤ 191) := rfl
    by_cases h : 160 ≤ x
    · have e : secB 224 x = decide (x ≤ 191) := by rw [e]; simp [h]
      rw [e]; clear e
      go_enter Tryd.func74, Tryd.ntmps74
      go_wp2
      go_ret
      exact ⟨rfl, rfl⟩
    · have e : secB 224 x = false := by rw [e]; simp [h]
      rw [e]; clear e
      have d : decide (160 ≤ x) = false := decide_eq_false h
      go_enter Tryd.func74, Tryd.ntmps74
      go_wp2
      go_ret
      exact ⟨rfl, rfl⟩
  · have e : secB 237 x = decide (128 ≤ x ∧ x ≤ 159) := rfl
    by_cases h : 128 ≤ x
    · have e : secB 237 x = decide (x ≤ 159) := by rw [e]; simp [h]
      rw [e]; clear e
      go_enter Tryd.func74, Tryd.ntmps74
      go_wp2
      go_ret
      exact ⟨rfl, rfl⟩
    · have e : secB 237 x = false := by rw [e]; simp [h]
      rw [e]; clear e
      have d : decide (128 ≤ x) = false := decide_eq_false h
      go_enter Tryd.func74, Tryd.ntmps74
      go_wp2
      go_ret
      exact ⟨rfl, rfl⟩
  · have e : secB 240 x = decide (144 ≤ x ∧ x ≤ 191) := rfl
    by_cases h : 144 ≤ x
    · have e : secB 240 x = decide (x ≤ 191) := by rw [e]; simp [h]
      rw [e]; clear e
      go_enter Tryd.func74, Tryd.ntmps74
      go_wp2
      go_ret
      exact ⟨rfl, rfl⟩
    · have e : secB 240 x = false := by rw [e]; simp [h]
      rw [e]; clear e
      have d : decide (144 ≤ x) = false := decide_eq_false h
      go_enter Tryd.func74, Tryd.ntmps74
      go_wp2
      go_ret
      exact ⟨rfl, rfl⟩
  · have e : secB 244 x = decide (128 ≤ x ∧ x ≤ 143) := rfl
    by_cases h : 128 ≤ x
    · have e : secB 244 x = decide (x ≤ 143) := by rw [e]; simp [h]
      rw [e]; clear e
      go_enter Tryd.func74, Tryd.ntmps74
      go_wp2
      go_ret
      exact ⟨rfl, rfl⟩
    · have e : secB 244 x = false := by rw [e]; simp [h]
      rw [e]; clear e
      have d : decide (128 ≤ x) = false := decide_eq_false h
      go_enter Tryd.func74, Tryd.ntmps74
      go_wp2
      go_ret
      exact ⟨rfl, rfl⟩
  · have e : secB a x = decide (128 ≤ x ∧ x ≤ 191) := by unfold secB lo2 hi2; rw [if_neg c1, if_neg c3, if_neg c2, if_neg c4]
    have b1 : (a == 224) = false := beq_eq_false_iff_ne.2 c1
    have b2 : (a == 237) = false := beq_eq_false_iff_ne.2 c2
    have b3 : (a == 240) = false := beq_eq_false_iff_ne.2 c3
    have b4 : (a == 244) = false := beq_eq_false_iff_ne.2 c4
    clear c1 c2 c3 c4
    by_cases h : 128 ≤ x
    · have e : secB a x = decide (x ≤ 191) := by rw [e]; simp [h]
      rw [e]; clear e
      go_enter Tryd.func74, Tryd.ntmps74
      go_wp2
      go_ret
      exact ⟨rfl, rfl⟩
    · have e : secB a x = false := by rw [e]; simp [h]
      rw [e]; clear e
      have d : decide (128 ≤ x) = false := decide_eq_false h
      go_enter Tryd.func74, Tryd.ntmps74
      go_wp2
      go_ret
      exact ⟨rfl, rfl⟩
end Go.Proofs.YtdcfhkiajeiaoaaDoor

/- What only draws an order; a quiet call within a region. -/
namespace Go.Proofs.YtdcfhkiajeiaoaaDoor
open Go.RowKit

/-- only draws -/
def Still (w w' : World) : Prop := ∃ m, w' = w.drewN m
theorem Still.refl (w : World) : Still w w := ⟨0, rfl⟩
theorem Still.drewN {w w' : World} (h : Still w w') (n : Nat) : Still w (w'.drewN n) := by
  obtain ⟨m, rfl⟩ := h
  exact ⟨m + n, by rw [World.drewN_drewN]⟩
theorem Still.cell {w w' : World} (h : Still w w') (a : Addr) : w'.cell? a = w.cell? a := by obtain ⟨m, rfl⟩ := h; rfl
theorem Still.below {w w' : World} (h : Still w w') : Below w.heap.size w w' := by obtain ⟨m, rfl⟩ := h; exact below_drewN' (Below.refl _ _) m
theorem quiet_left' {P : Program} {f : FuncId} {args : Array Value} {w : World} {n : Nat} {v : Value}
    (h : Calls P f args (w.drewN n) fun e w' => e = .returned v ∧ w.drewN n = w') : Calls P f args (w.drewN n) fun e w'' => e = .returned v ∧ ∃ m, w'' = w.drewN m :=
  h.mono fun _ _ ⟨he, hm⟩ => ⟨he, n, hm.symm⟩
theorem Still.trans {a b c : World} (h : Still a b) (k : Still b c) : Still a c := by
  obtain ⟨m, rfl⟩ := h
  obtain ⟨n, rfl⟩ := k
  exact ⟨m + n, by rw [World.drewN_drewN]⟩
theorem Still.lower {w w' : World} (h : Still w w') (B : Nat) : Below B w w' := by obtain ⟨m, rfl⟩ := h; exact below_drewN' (Below.refl _ _) m
end Go.Proofs.YtdcfhkiajeiaoaaDoor

/- Contracts of the document's How and of. -/
namespace Go.Proofs.YtdcfhkiajeiaoaaDoor
set_option maxRecDepth 100000
open Go.ChangeShapes Go.WideShapes Go.ChangeAt Go.RowKit
set_option linter.unusedVariables false

theorem sec_tl {a x : Int} (h : secB a x = true) : tlB x = true := decide_eq_true (sec_bd h)
def okJ (xs : List Int) (j : Nat) : Bool := if j = 1 then secB (xs.getD 0 0) (xs.getD 1 0) else tlB (xs.getD j 0)
theorem how_yes (xs : List Int) (h1 : 1 ≤ xs.length) (h4 : xs.length ≤ 4) (hl : (xs.length : Int) ≤ lng (xs.getD 0 0)) (hok : ∀ j, 1 ≤ j → j < xs.length → okJ xs j = true) :
    how xs = if lng (xs.getD 0 0) = xs.length then 2 else 1 := by
  match xs, h1, h4, hl, hok with
  | [a], _, _, hl, hok =>
    have hl : (1 : Int) ≤ lng a := hl
    show (if lng a = 1 then (2 : Int) else if 1 < lng a then 1 else 0) = if lng a = 1 then 2 else 1
    by_cases c : lng a = 1
    · rw [if_pos c, if_pos c]
    · rw [if_neg c, if_neg c, if_pos (by omega)]
  | [a, b], _, _, hl, hok =>
    have hl : (2 : Int) ≤ lng a := hl
    have k1 : secB a b = true := hok 1 (by omega) (by simp)
    show (if 2 ≤ lng a ∧ secB a b = true then (if lng a = 2 then (2 : Int) else 1) else 0) = if lng a = 2 then 2 else 1
    rw [if_pos ⟨hl, k1⟩]
  | [a, b, c], _, _, hl, hok =>
    have hl : (3 : Int) ≤ lng a := hl
    have k1 : secB a b = true := hok 1 (by omega) (by simp)
    have k2 : tlB c = true := hok 2 (by omega) (by simp)
    show (if 3 ≤ lng a ∧ secB a b = true ∧ tlB c = true then (if lng a = 3 then (2 : Int) else 1) else 0) = if lng a = 3 then 2 else 1
    rw [if_pos ⟨hl, k1, k2⟩]
  | [a, b, c, d], _, _, hl, hok =>
    have hl : (4 : Int) ≤ lng a := hl
    have k1 : secB a b = true := hok 1 (by omega) (by simp)
    have k2 : tlB c = true := hok 2 (by omega) (by simp)
    have k3 : tlB d = true := hok 3 (by omega) (by simp)
    have := lng_le a
    show (if 4 ≤ lng a ∧ secB a b = true ∧ tlB c = true ∧ tlB d = true then (2 : Int) else 0) = if lng a = 4 then 2 else 1
    rw [if_pos ⟨hl, k1, k2, k3⟩, if_pos (by omega)]
theorem how_no (xs : List Int) (h1 : 1 ≤ xs.length) (j : Nat) (j1 : 1 ≤ j) (j2 : j < xs.length) (hok : okJ xs j = false) : how xs = 0 := by
  match xs, j, j1, j2, hok with
  | [a], j, j1, j2, _ => simp at j2; omega
  | [a, b], j, j1, j2, hok =>
    obtain rfl : j = 1 := by simp at j2; omega
    have k1 : secB a b = false := hok
    simp [how, k1]
  | [a, b, c], j, j1, j2, hok =>
    have : j = 1 ∨ j = 2 := by simp at j2; omega
    rcases this with rfl | rfl
    · have k1 : secB a b = false := hok
      simp [how, k1]
    · have k1 : tlB c = false := hok
      simp [how, k1]
  | [a, b, c, d], j, j1, j2, hok =>
    have : j = 1 ∨ j = 2 ∨ j = 3 := by simp at j2; omega
    rcases this with rfl | rfl | rfl
    · have k1 : secB a b = false := hok
      simp [how, k1]
    · have k1 : tlB c = false := hok
      simp [how, k1]
    · have k1 : tlB d = false := hok
      simp [how, k1]
  | _ :: _ :: _ :: _ :: _ :: _, _, _, _, _ => simp [how]
theorem how_long (xs : List Int) (h : xs.length = 0 ∨ 4 < xs.length) : how xs = 0 := by
  match xs, h with
  | [], _ => rfl
  | [_], h => simp at h
  | [_, _], h => simp at h
  | [_, _, _], h => simp at h
  | [_, _, _, _], h => simp at h
  | _ :: _ :: _ :: _ :: _ :: _, _ => simp [how]
theorem how_short (xs : List Int) (h : lng (xs.getD 0 0) < (xs.length : Int)) : how xs = 0 := by
  match xs, h with
  | [], _ => rfl
  | [a], h =>
    have h : lng a < 1 := h
    show (if lng a = 1 then (2 : Int) else if 1 < lng a then 1 else 0) = 0
    rw [if_neg (by omega), if_neg (by omega)]
  | [a, b], h =>
    have h : lng a < 2 := h
    show (if 2 ≤ lng a ∧ secB a b = true then (if lng a = 2 then (2 : Int) else 1) else 0) = 0
    rw [if_neg (fun k => by omega)]
  | [a, b, c], h =>
    have h : lng a < 3 := h
    show (if 3 ≤ lng a ∧ secB a b = true ∧ tlB c = true then (if lng a = 3 then (2 : Int) else 1) else 0) = 0
    rw [if_neg (fun k => by omega)]
  | [a, b, c, d], h =>
    have h : lng a < 4 := h
    show (if 4 ≤ lng a ∧ secB a b = true ∧ tlB c = true ∧ tlB d = true then (2 : Int) else 0) = 0
    rw [if_neg (fun k => by omega)]
  | _ :: _ :: _ :: _ :: _ :: _, _ => simp [how]

set_option maxHeartbeats 2000000 in
theorem r_how_any (A : Option Addr) (n cap : Nat) (xs : List Int) (w : World) (hn : xs.length = n) (hI : Ints w w.heap.size .u8 A xs) (hB : Bts xs) (hm : n ≤ maxLen) :
    Calls Tryd.prog 56 #[.slice A n cap] w fun e w' => e = .returned (.int .i64 (how xs)) ∧ Still w w' := by
  subst hn
  unfold maxLen at hm
  by_cases hz : xs.length = 0
  · have HE := Lib.hid (how_long xs (.inl hz))
    rw [hz]
    go_enter Tryd.func56, Tryd.ntmps56
    go_wp2
    go_ret
    exact ⟨by rw [HE.out]; rfl, Still.refl w⟩
  have hz' : ((xs.length : Int) == 0) = false := beq_eq_false_iff_ne.2 (by omega)
  by_cases h4 : 4 < xs.length
  · have HE := Lib.hid (how_long xs (.inr h4))
    go_enter Tryd.func56, Tryd.ntmps56
    go_wp2
    go_ret
    exact ⟨by rw [HE.out]; rfl, Still.refl w⟩
  obtain ⟨b, o, rfl, hbl, hc⟩ := hI.at (by omega)
  have c0 : w.cell? ⟨b, o, none⟩ = some (.int .u8 (xs.getD 0 0)) := hc 0 (by omega)
  obtain ⟨x0, x1⟩ := hB.at (k := 0) (by omega)
  have HC := Lib.hid hc
  have HB := Lib.hid hB
  clear hI hc hB
  have h4' : decide (4 < (xs.length : Int)) = false := decide_eq_false (by omega)
  have hpos : 0 < xs.length := by omega
  by_cases hs : lng (xs.getD 0 0) < (xs.length : Int)
  · have HE := Lib.hid (how_short xs hs)
    generalize xs.getD 0 0 = a at c0 x0 x1 hs
    go_enter Tryd.func56, Tryd.ntmps56
    go_wp2_with fail
    with_reducible refine (r_long_any _ _ x0 x1).mono ?_
    rintro e w' ⟨rfl, rfl⟩
    go_wp2
    go_ret
    exact ⟨by rw [HE.out]; rfl, Still.refl w⟩
  have HY : Hid ((∀ j, 1 ≤ j → j < xs.length → okJ xs j = true) → how xs = if lng (xs.getD 0 0) = xs.length then 2 else 1) := how_yes xs (by omega) (by omega) (by omega)
  have HN : Hid (∀ j, 1 ≤ j → j < xs.length → okJ xs j = false → how xs = 0) := fun j => how_no xs (by omega) j
  have HO : Hid (∀ j, okJ xs j = if j = 1 then secB (xs.getD 0 0) (xs.getD 1 0) else tlB (xs.getD j 0)) := fun j => rfl
  generalize xs.getD 0 0 = a at c0 x0 x1 hs HY HO
  have hs' : decide (lng a < (xs.length : Int)) = false := decide_eq_false hs
  go_enter Tryd.func56, Tryd.ntmps56
  go_wp2_with fail
  with_reducible refine (r_long_any _ _ x0 x1).mono ?_
  rintro e w' ⟨rfl, rfl⟩
  go_wp2_with fail
  go_loopw [4] (fun i w1 => ∃ k : Nat, 1 ≤ k ∧ k ≤ xs.length ∧ i = .int .i64 k ∧ Still w w1 ∧ Hid (∀ j, 1 ≤ j → j < k → okJ xs j = true)) (fun i _ => xs.length - (intOf i).toNat)
  case atStart => exact ⟨1, by omega, by omega, rfl, Still.refl w, fun j h1 h2 => by omega⟩
  case round =>
    obtain ⟨k, hk1, hk, rfl, hst, HJ⟩ := hrel
    have hr0 : wr.cell? ⟨b, o, none⟩ = some (.int .u8 a) := (hst.cell _).trans c0
    by_cases hlt : k < xs.length
    · have hck : wr.cell? ⟨b, o + k, none⟩ = some (.int .u8 (xs.getD k 0)) := (hst.cell _).trans (HC.out k hlt)
      have hlt' : (k : Int) < xs.length := by omega
      have hOk := Lib.hid (HO.out k)
      by_cases hk1' : k = 1
      · subst hk1'
        generalize xs.getD 1 0 = x at hck HO hOk
        have h1x : (1 : Nat) < xs.length := hlt
        cases hsec : secB a x with
        | true =>
          have hb1 := sec_bd hsec
          have d1 : decide (x < 128) = false := decide_eq_false (by omega)
          have d2 : decide (191 < x) = false := decide_eq_false (by omega)
          go_wp2_with fail
          go_quiet ((go_at_call 74; exact quiet_left' (r_second_any _ _ _)))
          have HK : Hid (okJ xs 1 = true) := by rw [hOk.out]; exact hsec
          go_wp2
          go_roundw
          case rel => exact ⟨1 + 1, by omega, by omega, by go_num, hst.drewN _, fun j h1 h2 => by
            obtain rfl : j = 1 := by omega
            exact HK.out⟩
          case measure => simp [intOf]; omega
        | false =>
          have HE := Lib.hid (HN.out 1 (by omega) hlt (by rw [hOk.out]; exact hsec))
          go_wp2_with fail
          go_quiet ((go_at_call 74; exact quiet_left' (r_second_any _ _ _)))
          go_wp2
          go_ret
          exact ⟨by rw [HE.out]; rfl, hst.drewN _⟩
      · have hk2 : ((k : Int) == 1) = false := beq_eq_false_iff_ne.2 (by omega)
        have e : okJ xs k = tlB (xs.getD k 0) := by rw [hOk.out, if_neg hk1']
        generalize xs.getD k 0 = x at hck e
        have HE1 := Lib.hid e
        clear e hOk
        cases htl : tlB x with
        | true =>
          have hb1 := of_decide_eq_true htl
          have d1 : decide (x < 128) = false := decide_eq_false (by omega)
          have d2 : decide (191 < x) = false := decide_eq_false (by omega)
          have HK : Hid (okJ xs k = true) := HE1.out.trans htl
          go_wp2_with fail
          go_quiet (fail)
          go_wp2
          go_roundw
          case rel => exact ⟨k + 1, by omega, by omega, by go_num, hst.drewN _, fun j h1 h2 => by
            rcases Nat.lt_or_ge j k with h | h
            · exact HJ.out j h1 h
            · obtain rfl : j = k := by omega
              exact HK.out⟩
          case measure => simp [intOf]; omega
        | false =>
          have hb1 := of_decide_eq_false htl
          have HE := Lib.hid (HN.out k hk1 hlt (HE1.out.trans htl))
          by_cases h128 : x < 128
          · have d1 : decide (x < 128) = true := decide_eq_true h128
            go_wp2_with fail
            go_quiet (fail)
            go_wp2
            go_ret
            exact ⟨by rw [HE.out]; rfl, hst.drewN _⟩
          · have d1 : decide (x < 128) = false := decide_eq_false h128
            have d2 : decide (191 < x) = true := decide_eq_true (by omega)
            go_wp2_with fail
            go_quiet (fail)
            go_wp2
            go_ret
            exact ⟨by rw [HE.out]; rfl, hst.drewN _⟩
    · have hkk : k = xs.length := by omega
      subst hkk
      have HE := Lib.hid (HY.out HJ.out)
      have hlt' : ¬ (xs.length : Int) < xs.length := by omega
      by_cases hq : lng a = (xs.length : Int)
      · have hq' : (lng a == (xs.length : Int)) = true := beq_iff_eq.2 hq
        rw [if_pos hq] at HE
        clear hq
        go_wp2
        go_ret
        exact ⟨by rw [HE.out]; rfl, hst⟩
      · have hq' : (lng a == (xs.length : Int)) = false := beq_eq_false_iff_ne.2 hq
        rw [if_neg hq] at HE
        clear hq
        go_wp2
        go_ret
        exact ⟨by rw [HE.out]; rfl, hst⟩
end Go.Proofs.YtdcfhkiajeiaoaaDoor

/- Contracts of the document's of, First, All. -/
namespace Go.Proofs.YtdcfhkiajeiaoaaDoor
set_option maxRecDepth 100000
open Go.ChangeShapes Go.WideShapes Go.ChangeAt Go.RowKit
set_option linter.unusedVariables false

def acc (xs : List Int) : Nat → Int
  | 0 => 0
  | 1 => xs.getD 0 0 - mkT (xs.getD 0 0)
  | k + 1 => acc xs k * 64 + (xs.getD k 0 - 128)
structure How2 (xs : List Int) : Prop where
  l1 : 1 ≤ xs.length
  l4 : xs.length ≤ 4
  tails : ∀ j, 1 ≤ j → j < xs.length → 128 ≤ xs.getD j 0 ∧ xs.getD j 0 ≤ 191
  head : 0 ≤ xs.getD 0 0 - mkT (xs.getD 0 0) ∧ xs.getD 0 0 - mkT (xs.getD 0 0) ≤ 127
  mark : mkT (xs.getD 0 0) = if xs.length = 1 then 0 else if xs.length = 2 then 192 else if xs.length = 3 then 224 else 240
  sum : acc xs xs.length = ubits xs
theorem mk_of (a : Int) : (lng a = 2 → mkT a = 192) ∧ (lng a = 3 → mkT a = 224) ∧ (lng a = 4 → mkT a = 240) := by
  unfold lng mkT
  refine ⟨?_, ?_, ?_⟩ <;> ((repeat' split) <;> omega)
theorem how2 (xs : List Int) (h0 : 0 ≤ xs.getD 0 0) (h : how xs = 2) : How2 xs := by
  match xs, h with
  | [], h => simp [how] at h
  | [a], h =>
    have h' : (if lng a = 1 then (2 : Int) else if 1 < lng a then 1 else 0) = 2 := h
    have h1 : lng a = 1 := by revert h'; (repeat' split) <;> omega
    have ha := lng_one h1
    have hm := (row_zero ha).2
    have h0 : 0 ≤ a := h0
    exact ⟨by simp, by simp, fun j h1 h2 => by simp at h2; omega, by show 0 ≤ a - mkT a ∧ a - mkT a ≤ 127; omega, hm, rfl⟩
  | [a, b], h =>
    have h' : (if 2 ≤ lng a ∧ secB a b = true then (if lng a = 2 then (2 : Int) else 1) else 0) = 2 := h
    by_cases c : 2 ≤ lng a ∧ secB a b = true
    · rw [if_pos c] at h'
      have h2 : lng a = 2 := by revert h'; split <;> omega
      have hm := (mk_of a).1 h2
      obtain ⟨_, _, _, _, f5, f6⟩ := row_facts (a := a) (by omega)
      have hb := sec_bd c.2
      exact ⟨by simp, by simp, fun j k1 k2 => by
        obtain rfl : j = 1 := by simp at k2; omega
        exact hb, by show 0 ≤ a - mkT a ∧ a - mkT a ≤ 127; omega, hm, rfl⟩
    · rw [if_neg c] at h'; cases h'
  | [a, b, c], h =>
    have h' : (if 3 ≤ lng a ∧ secB a b = true ∧ tlB c = true then (if lng a = 3 then (2 : Int) else 1) else 0) = 2 := h
    by_cases k : 3 ≤ lng a ∧ secB a b = true ∧ tlB c = true
    · rw [if_pos k] at h'
      have h2 : lng a = 3 := by revert h'; split <;> omega
      have hm := (mk_of a).2.1 h2
      obtain ⟨_, _, _, _, f5, f6⟩ := row_facts (a := a) (by omega)
      have hb := sec_bd k.2.1
      have hc := of_decide_eq_true k.2.2
      exact ⟨by simp, by simp, fun j k1 k2 => by
        have : j = 1 ∨ j = 2 := by simp at k2; omega
        rcases this with rfl | rfl
        · exact hb
        · exact hc, by show 0 ≤ a - mkT a ∧ a - mkT a ≤ 127; omega, hm, rfl⟩
    · rw [if_neg k] at h'; cases h'
  | [a, b, c, d], h =>
    have h' : (if 4 ≤ lng a ∧ secB a b = true ∧ tlB c = true ∧ tlB d = true then (2 : Int) else 0) = 2 := h
    by_cases k : 4 ≤ lng a ∧ secB a b = true ∧ tlB c = true ∧ tlB d = true
    · have h2 : lng a = 4 := by have := lng_le a; omega
      have hm := (mk_of a).2.2 h2
      obtain ⟨_, _, _, _, f5, f6⟩ := row_facts (a := a) (by omega)
      have hb := sec_bd k.2.1
      have hc := of_decide_eq_true k.2.2.1
      have hd := of_decide_eq_true k.2.2.2
      exact ⟨by simp, by simp, fun j k1 k2 => by
        have : j = 1 ∨ j = 2 ∨ j = 3 := by simp at k2; omega
        rcases this with rfl | rfl | rfl
        · exact hb
        · exact hc
        · exact hd, by show 0 ≤ a - mkT a ∧ a - mkT a ≤ 127; omega, hm, rfl⟩
    · rw [if_neg k] at h'; cases h'
  | _ :: _ :: _ :: _ :: _ :: _, h => simp [how] at h
theorem acc_step (xs : List Int) (k : Nat) (hk : 1 ≤ k) : acc xs (k + 1) = acc xs k * 64 + (xs.getD k 0 - 128) := by
  match k, hk with
  | k + 1, _ => rfl
theorem acc_bd {xs : List Int} (h : How2 xs) (k : Nat) (h1 : 1 ≤ k) (hk : k ≤ xs.length) : 0 ≤ acc xs k ∧ (k ≤ 3 → acc xs k ≤ 524287) := by
  have l4 := h.l4
  have e : k = 1 ∨ k = 2 ∨ k = 3 ∨ k = 4 := by omega
  have a1 : acc xs 1 = xs.getD 0 0 - mkT (xs.getD 0 0) := rfl
  have hh := h.head
  rcases e with rfl | rfl | rfl | rfl
  · omega
  · have t1 := h.tails 1 (by omega) (by omega)
    have : acc xs 2 = acc xs 1 * 64 + (xs.getD 1 0 - 128) := acc_step xs 1 (by omega)
    omega
  · have t1 := h.tails 1 (by omega) (by omega)
    have t2 := h.tails 2 (by omega) (by omega)
    have : acc xs 2 = acc xs 1 * 64 + (xs.getD 1 0 - 128) := acc_step xs 1 (by omega)
    have : acc xs 3 = acc xs 2 * 64 + (xs.getD 2 0 - 128) := acc_step xs 2 (by omega)
    omega
  · have t1 := h.tails 1 (by omega) (by omega)
    have t2 := h.tails 2 (by omega) (by omega)
    have t3 := h.tails 3 (by omega) (by omega)
    have : acc xs 2 = acc xs 1 * 64 + (xs.getD 1 0 - 128) := acc_step xs 1 (by omega)
    have : acc xs 3 = acc xs 2 * 64 + (xs.getD 2 0 - 128) := acc_step xs 2 (by omega)
    have : acc xs 4 = acc xs 3 * 64 + (xs.getD 3 0 - 128) := acc_step xs 3 (by omega)
    omega

set_option maxHeartbeats 2000000 in
theorem r_of_any (A : Option Addr) (n cap : Nat) (xs : List Int) (w : World) (hn : xs.length = n) (hI : Ints w w.heap.size .u8 A xs) (hB : Bts xs) (hh : how xs = 2) :
    Calls Tryd.prog 75 #[.slice A n cap] w fun e w' => e = .returned (.int .i32 (ubits xs)) ∧ w = w' := by
  subst hn
  have h1 : 0 < xs.length := (how_len (by rw [hh]; decide)).1
  have hw := how2 xs (hB.at h1).1 hh
  have h4 := hw.l4
  obtain ⟨b, o, rfl, hbl, hc⟩ := hI.at h1
  have c0 : w.cell? ⟨b, o, none⟩ = some (.int .u8 (xs.getD 0 0)) := hc 0 h1
  have x0 := hB.at h1
  have hhd := hw.head
  have HM := Lib.hid hw.mark
  have HS := Lib.hid hw.sum
  have HA1 : Hid (acc xs 1 = xs.getD 0 0 - mkT (xs.getD 0 0)) := rfl
  generalize xs.getD 0 0 = a at c0 x0 hhd HM HA1
  have HC := Lib.hid hc
  have HW := Lib.hid hw
  clear hI hc hB hw hh
  have hwalk : ∀ s : Int, mkT a = s → (xs.length = 1 ∧ s = 0 ∨ xs.length = 2 ∧ s = 192 ∨ xs.length = 3 ∧ s = 224 ∨ xs.length = 4 ∧ s = 240) →
      Calls Tryd.prog 75 #[.slice (some ⟨b, o, none⟩) xs.length cap] w fun e w' => e = .returned (.int .i32 (ubits xs)) ∧ w = w' := by
    intro s hs hcase
    have HS1 : Hid (acc xs 1 = a - s) := HA1.out.trans (by rw [hs])
    rw [hs] at hhd
    clear HM HA1 hs
    have b2 : ((xs.length : Int) == 2) = decide (s = 192) := by rw [Bool.eq_iff_iff]; simp; omega
    have b3 : ((xs.length : Int) == 3) = decide (s = 224) := by rw [Bool.eq_iff_iff]; simp; omega
    have b4 : ((xs.length : Int) == 4) = decide (s = 240) := by rw [Bool.eq_iff_iff]; simp; omega
    have hs4 : s = 0 ∨ s = 192 ∨ s = 224 ∨ s = 240 := by omega
    clear hcase
    rcases hs4 with rfl | rfl | rfl | rfl
    all_goals
      simp at b2 b3 b4
      go_enter Tryd.func75, Tryd.ntmps75
      go_wp2_with fail
      go_loop [3, 4] (fun c i => ∃ k : Nat, 1 ≤ k ∧ k ≤ xs.length ∧ i = .int .i64 k ∧ c = .int .i32 (acc xs k)) (fun _ i => xs.length - (intOf i).toNat)
      case atStart => exact ⟨1, by omega, by omega, rfl, by rw [HS1.out]; first | done | go_num⟩
      case round =>
        obtain ⟨k, hk1, hk, rfl, rfl⟩ := hrel
        have hbd := acc_bd HW.out k hk1 hk
        by_cases hlt : k < xs.length
        · have hck : w.cell? ⟨b, o + k, none⟩ = some (.int .u8 (xs.getD k 0)) := HC.out k hlt
          have ht := HW.out.tails k hk1 hlt
          have HST := Lib.hid (acc_step xs k hk1)
          have hb3 := hbd.2 (by omega)
          have hb0 := hbd.1
          clear hbd
          generalize xs.getD k 0 = x at hck ht HST
          generalize acc xs k = c at HST hb3 hb0 ⊢
          have hlt' : (k : Int) < xs.length := by omega
          go_wp2
          go_round
          case rel => exact ⟨k + 1, by omega, by omega, by go_num, by rw [HST.out]; go_num⟩
          case measure => simp [intOf]; omega
        · obtain rfl : k = xs.length := by omega
          have hlt' : ¬ (xs.length : Int) < xs.length := by omega
          go_wp2
          go_ret
          exact ⟨by rw [← HS.out]; rfl, rfl⟩
  have hm := HM.out
  have e : xs.length = 1 ∨ xs.length = 2 ∨ xs.length = 3 ∨ xs.length = 4 := by omega
  rcases e with e | e | e | e
  · exact hwalk 0 (by rw [hm, e]; rfl) (by omega)
  · exact hwalk 192 (by rw [hm, e]; rfl) (by omega)
  · exact hwalk 224 (by rw [hm, e]; rfl) (by omega)
  · exact hwalk 240 (by rw [hm, e]; rfl) (by omega)

set_option maxHeartbeats 2000000 in
/-- the document's First -/
theorem r_first_any (A : Option Addr) (n cap : Nat) (xs : List Int) (w : World) (hn : xs.length = n) (hI : Ints w w.heap.size .u8 A xs) (hB : Bts xs) (hm : n ≤ cap) (hcm : cap ≤ maxLen) :
    Calls Tryd.prog 57 #[.slice A n cap] w fun e w' => e = .returned (.tuple #[.int .i32 (fC xs), .int .i64 (fN xs : Int), .bool (fOk xs)]) ∧ Below w.heap.size w w' := by
  subst hn
  unfold maxLen at hcm
  have HI := Lib.hid hI
  have HB := Lib.hid hB
  clear hI hB
  go_enter Tryd.func57, Tryd.ntmps57
  go_wp2_with fail
  go_loopw [5] (fun i w1 => ∃ k : Nat, k ≤ xs.length ∧ i = .int .i64 k ∧ Hid (∀ j, 1 ≤ j → j ≤ k → how (xs.take j) = 1) ∧ Below w.heap.size w w1) (fun i _ => xs.length - (intOf i).toNat)
  case atStart => exact ⟨0, by omega, rfl, fun j h1 h2 => by omega, Below.refl _ _⟩
  case round =>
    obtain ⟨k, hk, rfl, HR, hb⟩ := hrel
    by_cases hlt : k < xs.length
    · obtain ⟨b, o, rfl, hbl, hc⟩ := HI.out.at (by omega)
      clear hc
      have hlt' : (k : Int) < xs.length := by omega
      have hI2 := (HI.out.below hb (Nat.le_refl _)).take (k + 1)
      have hlen : (xs.take (k + 1)).length = k + 1 := by rw [List.length_take]; omega
      have HI2 := Lib.hid (hI2.more hb.size)
      have HL := Lib.hid hlen
      clear hI2 hlen
      rcases how_cases (xs.take (k + 1)) with hh | hh | hh
      · have HQ : Hid (∀ W : World, Below w.heap.size w W → Calls Tryd.prog 56 #[.slice (some ⟨b, o, none⟩) (k + 1) cap] W fun e w' => e = .returned (.int .i64 0) ∧ Still W w') := fun W hbW => by
          have := r_how_any (some ⟨b, o, none⟩) (k + 1) cap (xs.take (k + 1)) W HL.out (((HI.out.below hbW (Nat.le_refl _)).take (k + 1)).more hbW.size) (HB.out.take (k + 1)) (by simp only [maxLen]; omega)
          rw [hh] at this; exact this
        have HN := Lib.hid (first_no (Nat.le_of_lt hlt) HR.out (.inr hh))
        clear hh
        go_wp2_with fail
        with_reducible refine (HQ.out wr hb).mono ?_
        rintro e w2 ⟨rfl, hs2⟩
        have hb2 := hb.trans (hs2.below.mono hb.size)
        clear hs2
        go_wp2_with fail
        with_reducible refine (HQ.out w2 hb2).mono ?_
        rintro e w3 ⟨rfl, hs3⟩
        have hb3 := hb2.trans (hs3.below.mono hb2.size)
        clear hs3
        go_wp2
        go_ret3
        exact ⟨by rw [HN.out.1, HN.out.2.1, HN.out.2.2]; rfl, hb3⟩
      · have HQ : Hid (∀ W : World, Below w.heap.size w W → Calls Tryd.prog 56 #[.slice (some ⟨b, o, none⟩) (k + 1) cap] W fun e w' => e = .returned (.int .i64 1) ∧ Still W w') := fun W hbW => by
          have := r_how_any (some ⟨b, o, none⟩) (k + 1) cap (xs.take (k + 1)) W HL.out (((HI.out.below hbW (Nat.le_refl _)).take (k + 1)).more hbW.size) (HB.out.take (k + 1)) (by simp only [maxLen]; omega)
          rw [hh] at this; exact this
        have HH := Lib.hid hh
        clear hh
        go_wp2_with fail
        with_reducible refine (HQ.out wr hb).mono ?_
        rintro e w2 ⟨rfl, hs2⟩
        have hb2 := hb.trans (hs2.below.mono hb.size)
        clear hs2
        go_wp2
        go_roundw
        case rel => exact ⟨k + 1, by omega, by go_num, fun j h1 h2 => by
          rcases Nat.lt_or_ge k j with h | h
          · obtain rfl : j = k + 1 := by omega
            exact HH.out
          · exact HR.out j h1 h, hb2⟩
        case measure => simp [intOf]; omega
      · have HQ : Hid (∀ W : World, Below w.heap.size w W → Calls Tryd.prog 56 #[.slice (some ⟨b, o, none⟩) (k + 1) cap] W fun e w' => e = .returned (.int .i64 2) ∧ Still W w') := fun W hbW => by
          have := r_how_any (some ⟨b, o, none⟩) (k + 1) cap (xs.take (k + 1)) W HL.out (((HI.out.below hbW (Nat.le_refl _)).take (k + 1)).more hbW.size) (HB.out.take (k + 1)) (by simp only [maxLen]; omega)
          rw [hh] at this; exact this
        have HF : Hid (∀ W : World, Below w.heap.size w W → Calls Tryd.prog 75 #[.slice (some ⟨b, o, none⟩) (k + 1) cap] W fun e w' => e = .returned (.int .i32 (ubits (xs.take (k + 1)))) ∧ W = w') := fun W hbW =>
          r_of_any (some ⟨b, o, none⟩) (k + 1) cap (xs.take (k + 1)) W HL.out (((HI.out.below hbW (Nat.le_refl _)).take (k + 1)).more hbW.size) (HB.out.take (k + 1)) hh
        have HN := Lib.hid (first_yes hlt HR.out hh)
        clear hh
        go_wp2_with fail
        with_reducible refine (HQ.out wr hb).mono ?_
        rintro e w2 ⟨rfl, hs2⟩
        have hb2 := hb.trans (hs2.below.mono hb.size)
        clear hs2
        go_wp2_with fail
        with_reducible refine (HQ.out w2 hb2).mono ?_
        rintro e w3 ⟨rfl, hs3⟩
        have hb3 := hb2.trans (hs3.below.mono hb2.size)
        clear hs3
        go_wp2_with fail
        with_reducible refine (HF.out w3 hb3).mono ?_
        rintro e w4 ⟨rfl, rfl⟩
        go_wp2
        go_ret3
        exact ⟨by rw [HN.out.1, HN.out.2.1, HN.out.2.2]; rfl, hb3⟩
    · obtain rfl : k = xs.length := by omega
      have hlt' : ¬ (xs.length : Int) < xs.length := by omega
      have HN := Lib.hid (first_no (Nat.le_refl _) HR.out (.inl rfl))
      go_wp2
      go_ret3
      exact ⟨by rw [HN.out.1, HN.out.2.1, HN.out.2.2]; rfl, hb⟩

set_option maxHeartbeats 1000000 in
/-- the document's All -/
theorem r_all_any (A : Option Addr) (n cap : Nat) (xs : List Int) (w : World) (hn : xs.length = n) (hI : Ints w w.heap.size .u8 A xs) (hB : Bts xs) (hm : n ≤ 65536) (hc : n ≤ cap) (hcm : cap ≤ maxLen) :
    Calls Tryd.prog 45 #[.slice A n cap] w (AllRes w xs) := by
  subst hn
  unfold maxLen at hcm
  have HI := Lib.hid hI
  have HB := Lib.hid hB
  clear hI hB
  go_enter Tryd.func45, Tryd.ntmps45
  go_wp2_with fail
  go_loopw [5, 6] (fun s5 s6 w1 => AllLoop w xs s5 s6 w1) (fun _ i _ => xs.length - (intOf i).toNat)
  case atStart => exact ⟨0, [], rfl, AllAt.start xs, World.ownsRow_nil _ _ _ _, Below.refl _ _⟩
  case round =>
    obtain ⟨n, l, rfl, hA, hO, hb⟩ := hrel
    by_cases hlt : n < xs.length
    · obtain ⟨b, o, rfl, hbl, hcell⟩ := HI.out.at (by omega)
      have hlt' : (n : Int) < xs.length := by omega
      have hne : cap ≠ n := by omega
      have HO := Lib.hid hO
      have HA := Lib.hid hA
      have hl := hA.2.1
      clear hO hcell hA
      go_wp2_with fail
      with_reducible refine (r_first_any _ _ _ (xs.drop n) _ (by simp) (((HI.out.below hb (Nat.le_refl _)).more hb.size).drop n) (HB.out.drop n) (by omega) (by simp only [maxLen]; omega)).mono ?_
      rintro e w2 ⟨rfl, hb2⟩
      have hO2 := own_below HO.out hb2 (Nat.le_refl _)
      have hb3 := hb.trans (hb2.mono hb.size)
      have hf := fN_le (xs.drop n)
      rw [List.length_drop] at hf
      have HO2 := Lib.hid hO2
      clear hO2 hb2 hb
      cases hok : fOk (xs.drop n) with
      | false =>
        have HR := Lib.hid (HA.out.fail hlt hok)
        clear hok
        go_wp2
        go_ret3
        exact ⟨_, by rw [HR.out]; go_num, by rw [HR.out]; exact World.ownsRow_nil _ _ _ _, hb3⟩
      | true =>
        have HS := Lib.hid (HA.out.step hlt hok)
        have hp := fN_pos hok
        clear hok
        generalize fC (xs.drop n) = c at HS ⊢
        generalize fN (xs.drop n) = m at HS hf hp ⊢
        go_wp2_with (first
          | (at_builtin; refine wpList_app rfl (.tmp 27) (.tmp 29) 26 rfl w.heap.size 21 .i32 4 Tryd.underlying26 info_i32 (by omega) _ l rfl (HO2.out.alloc _) _ _ 1 [c] rfl (fun h => by cases h) (Ints.lit w2 21 .i32 [c]) (by simp; omega) (by simp; have := hb3.size; omega) ?_; intro v3 w3 hO3 hg3))
        have hbz : w.heap.size ≤ w2.heap.size := hb3.size
        have hb4 : Below w.heap.size w w3 := (hb3.alloc hbz _).trans (own_grown_below (HO2.out.alloc _) hg3 (by simp; omega))
        go_roundw
        case rel => exact ⟨n + m, l ++ [c], by go_num, HS.out, hO3, hb4⟩
        case measure => simp [intOf]; omega
    · have hn : xs.length ≤ n := by omega
      have hlt' : ¬ (n : Int) < xs.length := by omega
      have HR := Lib.hid (hA.done hn)
      have hbb := hA.1
      have HO := Lib.hid hO
      clear hO hA
      go_wp2
      go_ret3
      exact ⟨_, by rw [HR.out]; rfl, by rw [HR.out]; exact HO.out, hb⟩
end Go.Proofs.YtdcfhkiajeiaoaaDoor

/- Contracts of ref01's High, Low, Nonchar, Split, Join. -/
namespace Go.Proofs.YtdcfhkiajeiaoaaDoor
open Go.ChangeShapes Go.WideShapes Go.ChangeAt Go.RowKit
set_option linter.unusedVariables false

theorem r_high_any (c : Int) (w : World) : Calls Tryd.prog 24 #[.int .u16 c] w fun e w' => e = .returned (.bool (highB c)) ∧ w = w' := by
  by_cases h : 55296 ≤ c
  · have e : highB c = decide (c ≤ 56319) := by unfold highB; simp [h]
    rw [e]; clear e
    go_enter Tryd.func24, Tryd.ntmps24
    go_wp2
    go_ret
    exact ⟨rfl, rfl⟩
  · have e : highB c = false := decide_eq_false (by omega)
    rw [e]; clear e
    go_enter Tryd.func24, Tryd.ntmps24
    go_wp2
    go_ret
    exact ⟨rfl, rfl⟩

theorem r_low_any (c : Int) (w : World) : Calls Tryd.prog 25 #[.int .u16 c] w fun e w' => e = .returned (.bool (lowB c)) ∧ w = w' := by
  by_cases h : 56320 ≤ c
  · have e : lowB c = decide (c ≤ 57343) := by unfold lowB; simp [h]
    rw [e]; clear e
    go_enter Tryd.func25, Tryd.ntmps25
    go_wp2
    go_ret
    exact ⟨rfl, rfl⟩
  · have e : lowB c = false := decide_eq_false (by omega)
    rw [e]; clear e
    go_enter Tryd.func25, Tryd.ntmps25
    go_wp2
    go_ret
    exact ⟨rfl, rfl⟩

theorem r_nonchar_any (c : Int) (w : World) : Calls Tryd.prog 26 #[.int .i32 c] w fun e w' => e = .returned (.bool (noncharB c)) ∧ w = w' := by
  by_cases hr : 64976 ≤ c ∧ c ≤ 65007
  · obtain ⟨h, g⟩ := hr
    have hn : noncharB c = true := decide_eq_true (by omega)
    rw [hn]; clear hn
    go_enter Tryd.func26, Tryd.ntmps26
    go_wp2
    go_ret
    exact ⟨rfl, rfl⟩
  by_cases hi : isB c = true
  · have hi' := of_decide_eq_true hi
    have hc0 : 0 ≤ c := by omega
    have hn : noncharB c = decide (65534 ≤ c % 65536) := by
      unfold noncharB
      by_cases h : 65534 ≤ c % 65536
      · rw [decide_eq_true h, decide_eq_true (by omega)]
      · rw [decide_eq_false h, decide_eq_false (by omega)]
    rw [hn]; clear hn hi'
    by_cases hlo : 64976 ≤ c
    case' pos => have d0 : decide (c ≤ 65007) = false := decide_eq_false (by omega)
    all_goals
      go_enter Tryd.func26, Tryd.ntmps26
      go_wp2_with fail
      with_reducible refine (r_is_any _ _).mono ?_
      rintro e w' ⟨rfl, rfl⟩
      go_wp2
      go_ret
      exact ⟨rfl, rfl⟩
  · have hi' := of_decide_eq_false (Bool.eq_false_iff.2 hi)
    have hf : isB c = false := Bool.eq_false_iff.2 hi
    have hn : noncharB c = false := decide_eq_false (by omega)
    rw [hn]; clear hn hi hi'
    by_cases hlo : 64976 ≤ c
    case' pos => have d0 : decide (c ≤ 65007) = false := decide_eq_false (by omega)
    all_goals
      go_enter Tryd.func26, Tryd.ntmps26
      go_wp2_with fail
      with_reducible refine (r_is_any _ _).mono ?_
      rintro e w' ⟨rfl, rfl⟩
      go_wp2
      go_ret
      exact ⟨rfl, rfl⟩

theorem r_split_no (c : Int) (w : World) (h : c < 65536 ∨ 1114111 < c) : Calls Tryd.prog 43 #[.int .i32 c] w fun e w' => e = .returned (.tuple #[.int .u16 0, .int .u16 0, .bool false]) ∧ w = w' := by
  rcases h with h | h
  · go_enter Tryd.func43, Tryd.ntmps43
    go_wp2
    go_ret3
    exact ⟨rfl, rfl⟩
  · have h' : ¬ c < 65536 := by omega
    go_enter Tryd.func43, Tryd.ntmps43
    go_wp2
    go_ret3
    exact ⟨rfl, rfl⟩

theorem r_split_yes (c : Int) (w : World) (h : 65536 ≤ c) (g : c ≤ 1114111) : Calls Tryd.prog 43 #[.int .i32 c] w fun e w' => e = .returned (.tuple #[.int .u16 (55296 + (c - 65536) / 1024), .int .u16 (56320 + (c - 65536) % 1024), .bool true]) ∧ w = w' := by
  go_enter Tryd.func43, Tryd.ntmps43
  go_wp2
  go_ret3
  exact ⟨rfl, rfl⟩

theorem r_join_no (h l : Int) (w : World) (hn : ¬ ((55296 ≤ h ∧ h ≤ 56319) ∧ 56320 ≤ l ∧ l ≤ 57343)) : Calls Tryd.prog 23 #[.int .u16 h, .int .u16 l] w fun e w' => e = .returned (.tuple #[.int .i32 0, .bool false]) ∧ w = w' := by
  by_cases hh : 55296 ≤ h ∧ h ≤ 56319
  · have a : highB h = true := decide_eq_true hh
    have b : lowB l = false := decide_eq_false (by omega)
    clear hn hh
    go_enter Tryd.func23, Tryd.ntmps23
    go_wp2_with fail
    with_reducible refine (r_high_any _ _).mono ?_
    rintro e w' ⟨rfl, rfl⟩
    go_wp2_with fail
    with_reducible refine (r_low_any _ _).mono ?_
    rintro e w' ⟨rfl, rfl⟩
    go_wp2
    go_ret2
    exact ⟨rfl, rfl⟩
  · have a : highB h = false := decide_eq_false hh
    clear hn hh
    go_enter Tryd.func23, Tryd.ntmps23
    go_wp2_with fail
    with_reducible refine (r_high_any _ _).mono ?_
    rintro e w' ⟨rfl, rfl⟩
    go_wp2
    go_ret2
    exact ⟨rfl, rfl⟩

theorem r_join_yes (h l : Int) (w : World) (h0 : 55296 ≤ h) (h1 : h ≤ 56319) (l0 : 56320 ≤ l) (l1 : l ≤ 57343) : Calls Tryd.prog 23 #[.int .u16 h, .int .u16 l] w fun e w' => e = .returned (.tuple #[.int .i32 (65536 + (h - 55296) * 1024 + (l - 56320)), .bool true]) ∧ w = w' := by
  have a : highB h = true := decide_eq_true ⟨h0, h1⟩
  have b : lowB l = true := decide_eq_true ⟨l0, l1⟩
  have s : 65536 + (h - 55296) * 1024 + (l - 56320) = 65536 + (h - 55296) * 1024 + l - 56320 := by omega
  rw [s]; clear s
  go_enter Tryd.func23, Tryd.ntmps23
  go_wp2_with fail
  with_reducible refine (r_high_any _ _).mono ?_
  rintro e w' ⟨rfl, rfl⟩
  go_wp2_with fail
  with_reducible refine (r_low_any _ _).mono ?_
  rintro e w' ⟨rfl, rfl⟩
  go_wp2
  go_ret2
  exact ⟨rfl, rfl⟩

end Go.Proofs.YtdcfhkiajeiaoaaDoor

/- The document's string: a byte of a scalar, an escape of one letter. -/
namespace Go.Proofs.YtdcfhkiajeiaoaaDoor
set_option maxRecDepth 100000
open Go.ChangeShapes Go.WideShapes Go.ChangeAt Go.RowKit
set_option linter.unusedVariables false
set_option linter.unusedSimpArgs false

/-- its cells and rows -/
structure DM (w : World) (base a : Nat) (ov bv hv : Value) (e k : Int) (v : Bool) (o b h : List Int) : Prop where
  blk : RefBlk w a ov bv e hv k v
  o : I32r w base ov o
  b : U8r w base bv b
  h : I64r w base hv h
  la : base ≤ a
theorem RStr.dm {w : World} {base a : Nat} {ov bv hv : Value} {s : Ss} (h : RStr w base a ov bv hv s) : DM w base a ov bv hv s.e s.k s.v s.o s.b s.h := ⟨h.blk, h.o, h.b, h.h, h.la⟩
theorem DM.str {w : World} {base a : Nat} {ov bv hv : Value} {s : Ss} (h : DM w base a ov bv hv s.e s.k s.v s.o s.b s.h) (hok : SOk s) (hl : s.o.length ≤ 100000) : RStr w base a ov bv hv s := ⟨hok, hl, h.blk, h.o, h.b, h.h, h.la⟩
theorem DM.go {w w' : World} {base a : Nat} {ov bv hv : Value} {e k : Int} {v : Bool} {o b h : List Int} (H : DM w base a ov bv hv e k v o b h) (hb : Below w.heap.size w w') : DM w' base a ov bv hv e k v o b h :=
  ⟨H.blk.below hb H.blk.lt, own_below H.o hb (Nat.le_refl _), own_below H.b hb (Nat.le_refl _), own_below H.h hb (Nat.le_refl _), H.la⟩
/-- its Out has grown: the block still holds the elder row -/
theorem DM.grew {w w' : World} {base a : Nat} {ov bv hv v2 : Value} {e k : Int} {v : Bool} {o b h o2 : List Int} (H : DM w base a ov bv hv e k v o b h) (hG : Grew w w' ov v2) (hO : I32r w' base v2 o2) :
    RefBlk w' a ov bv e hv k v ∧ I32r w' base v2 o2 ∧ U8r w' base bv b ∧ I64r w' base hv h := by
  have hna := rown_ne H.o H.blk (by decide)
  have hf : SFr a a ov w w' := ⟨hG.1.os, hG.1.tape, hG.1.output, hG.1.size, fun q hq _ _ hv => hG.1.block q hq (fun e => hv e.symm)⟩
  refine ⟨(hG.1.block a H.blk.lt (fun e => hna e.symm)).trans H.blk, hO, ?_, ?_⟩
  · exact rown_frame H.b hf (fun q hq => ⟨fun e => by rw [e] at hq; exact rown_ne H.b H.blk (by decide) hq, fun e => by rw [e] at hq; exact rown_ne H.b H.blk (by decide) hq, fun e => rown_apart H.b H.o (by decide) q hq e⟩)
  · exact rown_frame H.h hf (fun q hq => ⟨fun e => by rw [e] at hq; exact rown_ne H.h H.blk (by decide) hq, fun e => by rw [e] at hq; exact rown_ne H.h H.blk (by decide) hq, fun e => rown_apart H.h H.o (by decide) q hq e⟩)
theorem Grew.to {w w1 w2 : World} {v v2 : Value} (hb : Below w.heap.size w w1) (hG : Grew w1 w2 v v2) : RowTo w v v2 := by
  by_cases h : v2.ownBlock = v.ownBlock
  · exact .inl h
  · refine .inr fun k hk => ?_
    rcases hG.2 k hk with h1 | h1
    · exact absurd (hk.trans h1.symm) h
    · exact Nat.le_trans hb.size h1
theorem Grew.fr {w w1 w2 : World} {a : Nat} {v v2 : Value} (hb : Below w.heap.size w w1) (hG : Grew w1 w2 v v2) : SFr a a v w w2 := SFr.grown hb hG.1
theorem rown_mono {w : World} {base base2 : Nat} {v : Value} {xs : List Int} {e : TypeId} {k : IntKind} (h : Own w base e k v xs) (hb : base2 ≤ base) : Own w base2 e k v xs := by
  refine ⟨h.1, ?_⟩
  rcases h.2 with h2 | ⟨b, cap, cur, hv, hb', h3⟩
  · exact .inl h2
  · exact .inr ⟨b, cap, cur, hv, Nat.le_trans hb hb', h3⟩
theorem own_sl {w : World} {base : Nat} {v : Value} {xs : List Int} {e : TypeId} {k : IntKind} (h : Own w base e k v xs) : ∃ A n c, v = .slice A n c := by
  obtain ⟨A, c, hv, _⟩ := own_form h
  exact ⟨A, _, c, hv⟩
theorem rown_new {w : World} {v u : Value} {xs : List Int} {e : TypeId} {k : IntKind} {W : World} (h : Own w W.heap.size e k v xs) : RowTo W u v := .inr fun q hq => rown_low h q hq
theorem dres_of {base a : Nat} {ov bv : Value} {s' : Ss} {r : Int} {w w' : World} {e : Ending} {p : Int × Ss} (hp : p = (r, s')) (h : DRes base a ov bv s' (.int .i64 r) w e w') : DRes base a ov bv p.2 (.int .i64 p.1) w e w' := by
  rw [hp]; exact h
set_option maxHeartbeats 8000000 in
theorem r_escape_any (base a : Nat) (ov bv hv : Value) (s : Ss) (x : Int) (w : World) (h : RStr w base a ov bv hv s) (hv0 : s.v = false) (he : s.e = 1) (hx0 : 0 ≤ x) (hx1 : x ≤ 255) (hbase : base ≤ w.heap.size) (hlo : s.o.length + 1 ≤ 100000) :
    Calls Tryd.prog 35 #[.pointer (some ⟨a, 0, none⟩), .int .u8 x] w (DRes base a ov bv (escS s x).2 (.int .i64 (escS s x).1) w) := by
  have HSI := Lib.hid (fun W => r_simple_any x W hx0 hx1)
  have hok := h.ok
  have hok2 := esc_ok hok he hv0 x
  have hk := hok.k
  have hsb := simp_bd x
  have HH := Lib.hid h
  have HM := Lib.hid h.dm
  have hh0 : s.h = [] := hok.h2 (by omega)
  have c0 : w.cell? ⟨a, 0, none⟩ = some ov := h.blk.cell 0
  have f0 : w.frozen? ⟨a, 0, none⟩ = false := h.blk.frozen 0
  have c2 : w.cell? ⟨a, 2, none⟩ = some (.int .i64 s.e) := h.blk.cell 2
  have f2 : w.frozen? ⟨a, 2, none⟩ = false := h.blk.frozen 2
  have c4 : w.cell? ⟨a, 4, none⟩ = some (.int .u16 s.k) := h.blk.cell 4
  have hlt : a < w.heap.size := h.blk.lt
  by_cases h117 : x = 117
  · subst h117
    have HP : Hid (escS s 117 = (0, { s with e := 2, h := [] })) := Lib.hid (by unfold escS; rw [if_pos rfl])
    have HOK : Hid (SOk { s with e := 2, h := [] }) := Lib.hid (by rw [HP.out] at hok2; exact hok2)
    clear h hok2 hok
    go_enter Tryd.func35, Tryd.ntmps35
    go_wp2_with fail
    with_reducible refine (HSI.out _).mono ?_
    rintro e w1 ⟨rfl, rfl⟩
    go_wp2
    go_ret
    refine dres_of HP.out ⟨rfl, ov, bv, hv, DM.str (s := { s with e := 2, h := [] }) ⟨HM.out.blk.put 2 _ rfl, rown_set HM.out.o HM.out.blk (by decide), rown_set HM.out.b HM.out.blk (by decide), ?_, HM.out.la⟩ HOK.out HH.out.len, (SFr.refl a a ov w).set 2 _, RowTo.refl _ _, RowTo.refl _ _⟩
    have h1 := HM.out.h
    rw [hh0] at h1
    exact rown_set h1 HM.out.blk (by decide)
  have b117 : (x == 117) = false := by simpa using h117
  by_cases hneg : simpF x < 0
  · have HP : Hid (escS s x = (2, s)) := Lib.hid (by unfold escS; rw [if_neg h117, if_pos hneg])
    clear h hok2 hok h117
    generalize simpF x = c at *
    go_enter Tryd.func35, Tryd.ntmps35
    go_wp2_with fail
    with_reducible refine (HSI.out _).mono ?_
    rintro e w1 ⟨rfl, rfl⟩
    go_wp2
    go_ret
    exact dres_of HP.out (DRes.still HH.out rfl (Below.refl _ _))
  by_cases hkk : 0 < s.k
  · have HP : Hid (escS s x = (5, s)) := Lib.hid (by unfold escS; rw [if_neg h117, if_neg hneg, if_pos hkk])
    clear h hok2 hok h117
    generalize simpF x = c at *
    go_enter Tryd.func35, Tryd.ntmps35
    go_wp2_with fail
    with_reducible refine (HSI.out _).mono ?_
    rintro e w1 ⟨rfl, rfl⟩
    go_wp2
    go_ret
    exact dres_of HP.out (DRes.still HH.out rfl (Below.refl _ _))
  have HP : Hid (escS s x = (0, { s with o := s.o ++ [simpF x], e := 0 })) := Lib.hid (by unfold escS; rw [if_neg h117, if_neg hneg, if_neg hkk])
  have HOK : Hid (SOk { s with o := s.o ++ [simpF x], e := 0 }) := Lib.hid (by rw [HP.out] at hok2; exact hok2)
  clear hok2 hok h117
  generalize simpF x = c at *
  have hb1w : Below w.heap.size w (w.alloc (.cells #[.int .i32 c] 21)) := (Below.refl _ _).alloc (Nat.le_refl _) _
  have HM1 := Lib.hid (HM.out.go hb1w)
  have HO1 := Lib.hid HM1.out.o
  have HIL := Lib.hid (Ints.lit w 21 .i32 [c])
  go_enter Tryd.func35, Tryd.ntmps35
  go_wp2_with fail
  with_reducible refine (HSI.out _).mono ?_
  rintro e w1 ⟨rfl, rfl⟩
  go_wp2_with (at_builtin; refine wpList_appL rfl (.tmp 27) (.tmp 29) 26 rfl base 21 .i32 4 Tryd.underlying26 info_i32 (by omega) ov s.o rfl HO1.out _ _ 1 1 [c] rfl rfl (fun h => by cases h) HIL.out (by simp; omega) (by rw [World.size_alloc]; omega) ?_; intro v2 w2 hO2 hG2
               obtain ⟨A2, m2, cp2, rfl⟩ := own_sl hO2
               obtain ⟨k1, o1, p1, q1⟩ := HM1.out.grew hG2 hO2
               have HK1 := Lib.hid (And.intro k1 (And.intro o1 (And.intro p1 q1)))
               have HF := Lib.hid (Grew.fr (a := a) hb1w hG2)
               have HR := Lib.hid (Grew.to hb1w hG2)
               have d0 : w2.cell? ⟨a, 0, none⟩ = some ov := k1.cell 0
               have g0 : w2.frozen? ⟨a, 0, none⟩ = false := k1.frozen 0
               have d2 : w2.cell? ⟨a, 2, none⟩ = some (.int .i64 s.e) := k1.cell 2
               have g2 : w2.frozen? ⟨a, 2, none⟩ = false := k1.frozen 2
               have hl2 : a < w2.heap.size := k1.lt
               clear k1 o1 p1 q1 hG2 hO2)
  go_ret
  obtain ⟨k1, o1, p1, q1⟩ := HK1.out
  have k2 : RefBlk (w2.setCell ⟨a, 0, none⟩ (.slice A2 m2 cp2)) a (.slice A2 m2 cp2) bv s.e hv s.k s.v := k1.put 0 _ rfl
  have o2 := rown_set (i := 0) (u := .slice A2 m2 cp2) o1 k1 (by decide)
  have p2 := rown_set (i := 0) (u := .slice A2 m2 cp2) p1 k1 (by decide)
  have q2 := rown_set (i := 0) (u := .slice A2 m2 cp2) q1 k1 (by decide)
  exact dres_of HP.out ⟨rfl, .slice A2 m2 cp2, bv, hv, DM.str (s := { s with o := s.o ++ [c], e := 0 }) ⟨k2.put 2 _ rfl, rown_set o2 k2 (by decide), rown_set p2 k2 (by decide), rown_set q2 k2 (by decide), HM.out.la⟩ HOK.out (by show (s.o ++ [c]).length ≤ _; rw [List.length_append, List.length_singleton]; omega), (HF.out.set 0 _).set 2 _, HR.out, RowTo.refl _ _⟩
end Go.Proofs.YtdcfhkiajeiaoaaDoor

/- The document's string: a byte of a scalar. -/
namespace Go.Proofs.YtdcfhkiajeiaoaaDoor
set_option maxRecDepth 100000
open Go.ChangeShapes Go.WideShapes Go.ChangeAt Go.RowKit
set_option linter.unusedVariables false
set_option linter.unusedSimpArgs false

set_option maxHeartbeats 8000000 in
theorem r_byt_any (base a : Nat) (ov bv hv : Value) (s : Ss) (x : Int) (w : World) (h : RStr w base a ov bv hv s) (hv0 : s.v = false) (he : s.e = 0) (hx0 : 0 ≤ x) (hx1 : x ≤ 255) (hbase : base ≤ w.heap.size) (hlo : s.o.length + 1 ≤ 100000) :
    Calls Tryd.prog 36 #[.pointer (some ⟨a, 0, none⟩), .int .u8 x] w (DRes base a ov bv (bytS s x).2 (.int .i64 (bytS s x).1) w) := by
  have hok := h.ok
  have hok2 := byt_ok hok he hv0 hx0 hx1
  have hk := hok.k
  have HH := Lib.hid h
  have HM := Lib.hid h.dm
  obtain ⟨A0, cb, hbv, hcb1, hcb2⟩ := own_form h.b
  obtain ⟨f0, f1, f2⟩ := first_more (x := x) hok.b
  have hbx : Bts (s.b ++ [x]) := snoc_mem hok.bb ⟨hx0, hx1⟩
  have hbl : s.b.length ≤ 3 := by
    rcases hok.b with h | h
    · rw [h]; simp
    · exact (how_len1 h).2
  have hbd : how (s.b ++ [x]) = 0 → bytS s x = (4, s) := fun h0 => by unfold bytS; rw [if_pos h0]
  have hb5 : how (s.b ++ [x]) ≠ 0 → 0 < s.k → bytS s x = (5, s) := fun h0 h1 => by unfold bytS; rw [if_neg h0, if_pos h1]
  have hb1 : how (s.b ++ [x]) = 1 → ¬ 0 < s.k → bytS s x = (0, { s with b := s.b ++ [x] }) := fun h0 h1 => by unfold bytS; rw [if_neg (by omega), if_neg h1, if_pos h0]
  have hb6 : how (s.b ++ [x]) = 2 → ¬ 0 < s.k → noncharB (ubits (s.b ++ [x])) = true → bytS s x = (6, s) := fun h0 h1 h2 => by unfold bytS; rw [if_neg (by omega), if_neg h1, if_neg (by omega), if_pos h2]
  have hb2 : how (s.b ++ [x]) = 2 → ¬ 0 < s.k → noncharB (ubits (s.b ++ [x])) = false → bytS s x = (0, { s with o := s.o ++ [ubits (s.b ++ [x])], b := [] }) := fun h0 h1 h2 => by unfold bytS; rw [if_neg (by omega), if_neg h1, if_neg (by omega), if_neg (by rw [h2]; decide)]
  have c1 : w.cell? ⟨a, 1, none⟩ = some (.slice A0 s.b.length cb) := by rw [← hbv]; exact h.blk.cell 1
  have hlt : a < w.heap.size := h.blk.lt
  have hIB : Ints w w.heap.size .u8 A0 s.b := Ints.own (by have := h.b; rw [hbv] at this; exact this)
  have hnil : A0 = none → cb = 0 := own_nil (by have := h.b; rw [hbv] at this; exact this)
  have HIB := Lib.hid hIB
  have HNL := Lib.hid hnil
  have HF0 := Lib.hid f0
  have HF1 := Lib.hid f1
  have HF2 := Lib.hid f2
  have HBX := Lib.hid hbx
  have HB0 := Lib.hid hbd
  have HB5 := Lib.hid hb5
  have HB1 := Lib.hid hb1
  have HB6 := Lib.hid hb6
  have HB2 := Lib.hid hb2
  have HOK2 := Lib.hid hok2
  have HOK := Lib.hid hok
  clear h hbv f0 f1 f2 hbx hbd hb5 hb1 hb6 hb2 hok2 hok hIB hnil hcb1 hcb2
  have hb0 := (Below.refl w.heap.size w).alloc (Nat.le_refl _) (.cells #[] 5)
  have HO0 : Hid (Own (w.alloc (.cells #[] 5)) w.heap.size 5 .u8 (.slice (some ⟨w.heap.size, 0, none⟩) 0 0) []) := Lib.hid (own_empty w _ 5 .u8 (Nat.le_refl _))
  go_enter Tryd.func36, Tryd.ntmps36
  go_wp2_with (first
    | (at_builtin; refine wpList_app rfl (.tmp 10) (.tmp 14) 22 rfl w.heap.size 5 .u8 1 Tryd.underlying22 info_u8 (by omega) _ [] rfl HO0.out _ _ _ s.b rfl HNL.out (HIB.out.below hb0 (Nat.le_refl _)) (by simp; omega) (by simp) ?_; intro v1 w1 hO1 hg1
       have hb1 := hb0.trans (own_grown_below HO0.out hg1 (by simp))
       have HO1 := Lib.hid hO1
       have hz1 := hb1.size
       clear hO1 hg1)
    | (at_builtin; refine wpList_app rfl (.tmp 15) (.tmp 17) 22 rfl w.heap.size 5 .u8 1 Tryd.underlying22 info_u8 (by omega) v1 ([] ++ s.b) rfl (HO1.out.alloc _) _ _ 1 [x] rfl (fun h => by cases h) (Ints.lit w1 5 .u8 [x]) (by simp; omega) (by simp; omega) ?_; intro v2 w2 hO2 hg2
       have hb2 := (hb1.alloc hz1 _).trans (own_grown_below (HO1.out.alloc _) hg2 (by simp; omega))
       have HO2 := Lib.hid hO2
       clear hO2 hg2))
  have hO2 := HO2.out
  rw [List.nil_append] at hO2
  obtain ⟨A2, c2, rfl, hc2, hcm2⟩ := own_form hO2
  have hI2 := Ints.own hO2
  have HO3 := Lib.hid hO2
  have HM2 := Lib.hid (HM.out.go hb2)
  have HBW := Lib.hid hb2
  clear HO2 hO2 HO1 HO0 hb1 hb0 HNL HIB c1 hz1
  obtain ⟨n2, hN2⟩ : ∃ n2, (s.b ++ [x]).length = n2 := ⟨_, rfl⟩
  have hlen : (s.b ++ [x]).length = s.b.length + 1 := by simp
  have hm : n2 ≤ maxLen := by rw [← hN2, hlen]; simp only [maxLen]; omega
  rw [hN2] at hc2
  rw [hN2]
  have HN2 := Lib.hid hN2
  have hq := r_how_any A2 n2 c2 (s.b ++ [x]) w2 HN2.out hI2 HBX.out hm
  have HFQ := Lib.hid (fun W hW => r_first_any A2 n2 c2 (s.b ++ [x]) W HN2.out hW HBX.out hc2 hcm2)
  have HI2 := Lib.hid hI2
  clear hlen hN2 hm hI2 hb2
  have hcs := how_cases (s.b ++ [x])
  obtain ⟨hw, hhw⟩ : ∃ q, how (s.b ++ [x]) = q := ⟨_, rfl⟩
  rw [hhw] at hq hcs
  rcases hcs with rfl | rfl | rfl
  · have HRS := Lib.hid (HB0.out hhw)
    with_reducible refine hq.mono ?_
    rintro e w3 ⟨rfl, hs3⟩
    have HB3 : Hid (Below w.heap.size w w3) := Lib.hid (HBW.out.trans (hs3.below.mono HBW.out.size))
    clear hs3 hq
    go_wp2
    go_ret
    exact dres_of HRS.out (DRes.still HH.out rfl HB3.out)
  · by_cases hkk : 0 < s.k
    · have HRS := Lib.hid (HB5.out (by omega) hkk)
      with_reducible refine hq.mono ?_
      rintro e w3 ⟨rfl, hs3⟩
      have HB3 : Hid (Below w.heap.size w w3) := Lib.hid (HBW.out.trans (hs3.below.mono HBW.out.size))
      have c4 : w3.cell? ⟨a, 4, none⟩ = some (.int .u16 s.k) := (HM2.out.go hs3.below).blk.cell 4
      clear hs3 hq
      go_wp2
      go_ret
      exact dres_of HRS.out (DRes.still HH.out rfl HB3.out)
    · have HRS := Lib.hid (HB1.out hhw (by omega))
      have HOK3 : Hid (SOk { s with b := s.b ++ [x] }) := Lib.hid (by have := HOK2.out; rw [HRS.out] at this; exact this)
      with_reducible refine hq.mono ?_
      rintro e w3 ⟨rfl, hs3⟩
      have HB3 : Hid (Below w.heap.size w w3) := Lib.hid (HBW.out.trans (hs3.below.mono HBW.out.size))
      have HM3 := Lib.hid (HM2.out.go hs3.below)
      have HO4 := Lib.hid (own_below HO3.out hs3.below (Nat.le_refl _))
      have c4 : w3.cell? ⟨a, 4, none⟩ = some (.int .u16 s.k) := HM3.out.blk.cell 4
      have c1 : w3.cell? ⟨a, 1, none⟩ = some bv := HM3.out.blk.cell 1
      have g1 : w3.frozen? ⟨a, 1, none⟩ = false := HM3.out.blk.frozen 1
      have hl3 : a < w3.heap.size := HM3.out.blk.lt
      clear hs3 hq
      go_wp2_with fail
      go_ret
      refine dres_of HRS.out ⟨rfl, ov, .slice A2 n2 c2, hv, DM.str (s := { s with b := s.b ++ [x] }) ⟨HM3.out.blk.put 1 _ rfl, rown_set HM3.out.o HM3.out.blk (by decide), ?_, rown_set HM3.out.h HM3.out.blk (by decide), HM3.out.la⟩ HOK3.out HH.out.len, (SFr.of_below HB3.out).set 1 _, RowTo.refl _ _, ?_⟩
      · have h1 := HO4.out
        rw [HN2.out] at h1
        exact rown_mono (rown_set (by show Own w3 w.heap.size _ _ _ (s.b ++ [x]); exact (by have h2 := HO4.out; rw [← HN2.out]; exact h2)) HM3.out.blk (by decide)) hbase
      · have h1 := HO4.out
        rw [← HN2.out]
        exact rown_new h1
  · have hubd := of_decide_eq_true (bits_isB HBX.out hhw)
    obtain ⟨e1, e2, e3⟩ := HF2.out hhw
    rw [e1, e2, e3] at HFQ
    by_cases hkk : 0 < s.k
    · have HRS := Lib.hid (HB5.out (by omega) hkk)
      with_reducible refine hq.mono ?_
      rintro e w3 ⟨rfl, hs3⟩
      have HB3 : Hid (Below w.heap.size w w3) := Lib.hid (HBW.out.trans (hs3.below.mono HBW.out.size))
      have c4 : w3.cell? ⟨a, 4, none⟩ = some (.int .u16 s.k) := (HM2.out.go hs3.below).blk.cell 4
      clear hs3 hq
      go_wp2
      go_ret
      exact dres_of HRS.out (DRes.still HH.out rfl HB3.out)
    · have HBN := Lib.hid (fun hn => HB6.out hhw (by omega) hn)
      have HBY := Lib.hid (fun hn => HB2.out hhw (by omega) hn)
      clear HF0 HF1 HF2 HB0 HB1 HB5 HB6 HB2 hhw e1 e2 e3
      have HU0 : Hid (-2147483648 ≤ ubits (s.b ++ [x]) ∧ ubits (s.b ++ [x]) ≤ 2147483647) := Lib.hid (by omega)
      have HOK3 : Hid (noncharB (ubits (s.b ++ [x])) = false → SOk { s with o := s.o ++ [ubits (s.b ++ [x])], b := [] }) := Lib.hid (fun hn => by have := HOK2.out; rw [HBY.out hn] at this; exact this)
      generalize ubits (s.b ++ [x]) = c at *
      have HNC := Lib.hid (fun W => r_nonchar_any c W)
      with_reducible refine hq.mono ?_
      rintro e w3 ⟨rfl, hs3⟩
      have HB3 : Hid (Below w.heap.size w w3) := Lib.hid (HBW.out.trans (hs3.below.mono HBW.out.size))
      have HM3 := Lib.hid (HM2.out.go hs3.below)
      have HI3 : Hid (Ints w3 w3.heap.size .u8 A2 (s.b ++ [x])) := Lib.hid (HI2.out.go hs3.below)
      have c4 : w3.cell? ⟨a, 4, none⟩ = some (.int .u16 s.k) := HM3.out.blk.cell 4
      clear hs3 hq HM2
      go_wp2_with fail
      with_reducible refine (HFQ.out _ HI3.out).mono ?_
      rintro e w4 ⟨rfl, hb4⟩
      have HB4 : Hid (Below w.heap.size w w4) := Lib.hid (HB3.out.trans (hb4.mono HB3.out.size))
      have HM4 := Lib.hid (HM3.out.go hb4)
      clear hb4 HM3 HI3 c4
      cases hn : noncharB c with
      | true =>
        rw [hn] at HNC
        have HRS := Lib.hid (HBN.out hn)
        clear hn
        go_wp2_with fail
        with_reducible refine (HNC.out _).mono ?_
        rintro e w5 ⟨rfl, rfl⟩
        go_wp2
        go_ret
        exact dres_of HRS.out (DRes.still HH.out rfl HB4.out)
      | false =>
        rw [hn] at HNC
        have HRS := Lib.hid (HBY.out hn)
        have HOK4 := Lib.hid (HOK3.out hn)
        clear hn HOK3 HBN HBY
        have hb1w : Below w4.heap.size w4 (w4.alloc (.cells #[.int .i32 c] 21)) := (Below.refl _ _).alloc (Nat.le_refl _) _
        have hbw5 : Below w.heap.size w (w4.alloc (.cells #[.int .i32 c] 21)) := HB4.out.trans (hb1w.mono HB4.out.size)
        have HM5 := Lib.hid (HM4.out.go hb1w)
        have HO5 := Lib.hid HM5.out.o
        have HIL := Lib.hid (Ints.lit w4 21 .i32 [c])
        have d0 : w4.cell? ⟨a, 0, none⟩ = some ov := HM4.out.blk.cell 0
        have hl4 : a < w4.heap.size := HM4.out.blk.lt
        have hsz4 : base ≤ w4.heap.size := Nat.le_trans hbase HB4.out.size
        go_wp2_with fail
        with_reducible refine (HNC.out _).mono ?_
        rintro e w5 ⟨rfl, rfl⟩
        go_wp2_with (at_builtin; refine wpList_appL rfl (.tmp 47) (.tmp 49) 26 rfl base 21 .i32 4 Tryd.underlying26 info_i32 (by omega) ov s.o rfl HO5.out _ _ 1 1 [c] rfl rfl (fun h => by cases h) HIL.out (by simp; omega) (by rw [World.size_alloc]; omega) ?_; intro v2 w2 hO2 hG2
                     obtain ⟨A9, m9, cp9, rfl⟩ := own_sl hO2
                     obtain ⟨k1, o1, p1, q1⟩ := HM5.out.grew hG2 hO2
                     have HK1 := Lib.hid (And.intro k1 (And.intro o1 (And.intro p1 q1)))
                     have HF := Lib.hid (Grew.fr (a := a) hbw5 hG2)
                     have HR := Lib.hid (Grew.to hbw5 hG2)
                     have d0 : w2.cell? ⟨a, 0, none⟩ = some ov := k1.cell 0
                     have g0 : w2.frozen? ⟨a, 0, none⟩ = false := k1.frozen 0
                     have d2 : w2.cell? ⟨a, 1, none⟩ = some bv := k1.cell 1
                     have g2 : w2.frozen? ⟨a, 1, none⟩ = false := k1.frozen 1
                     have hl2 : a < w2.heap.size := k1.lt
                     clear k1 o1 p1 q1 hG2 hO2)
        go_ret
        obtain ⟨k1, o1, p1, q1⟩ := HK1.out
        have k2 : RefBlk (w2.setCell ⟨a, 0, none⟩ (.slice A9 m9 cp9)) a (.slice A9 m9 cp9) bv s.e hv s.k s.v := k1.put 0 _ rfl
        have o2 := rown_set (i := 0) (u := .slice A9 m9 cp9) o1 k1 (by decide)
        have q2 := rown_set (i := 0) (u := .slice A9 m9 cp9) q1 k1 (by decide)
        exact dres_of HRS.out ⟨rfl, .slice A9 m9 cp9, .slice none 0 0, hv, DM.str (s := { s with o := s.o ++ [c], b := [] }) ⟨k2.put 1 _ rfl, rown_set o2 k2 (by decide), World.ownsRow_nil _ _ _ _, rown_set q2 k2 (by decide), HM.out.la⟩ HOK4.out (by show (s.o ++ [c]).length ≤ _; rw [List.length_append, List.length_singleton]; omega), (HF.out.set 0 _).set 1 _, HR.out, RowTo.nil _ _ _ _⟩
end Go.Proofs.YtdcfhkiajeiaoaaDoor
