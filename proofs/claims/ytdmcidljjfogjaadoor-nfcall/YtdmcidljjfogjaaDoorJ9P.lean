/- Joined of: U8Ref, U8How, U8Of, U8RText. -/
import Derived.Test.YtdmcidljjfogjaaDoorJ9O
import Derived.Test.YtdmcidljjfogjaaDoorJ9H
import Derived.Test.YtdmcidljjfogjaaDoorJ9A
/- Contracts of the document's own layer 2 (orthoepyref02): Is, long, second, How, of. -/
namespace Go.Proofs.YtdmcidljjfogjaaDoor
set_option maxRecDepth 100000
open Go.ChangeShapes Go.WideShapes Go.ChangeAt Go.RowKit
set_option linter.unusedVariables false

theorem r_long_any (x : Int) (w : World) (h0 : 0 ≤ x) (h1 : x ≤ 255) : Calls Tryd.prog 91 #[.int .u8 x] w fun e w' => e = .returned (.int .i64 (lng x)) ∧ w = w' := by
  have hc : x < 128 ∨ (128 ≤ x ∧ x < 194) ∨ (194 ≤ x ∧ x ≤ 223) ∨ (224 ≤ x ∧ x ≤ 239) ∨ (240 ≤ x ∧ x ≤ 244) ∨ 244 < x := by omega
  rcases hc with c | ⟨c, d⟩ | ⟨c, d⟩ | ⟨c, d⟩ | ⟨c, d⟩ | c
  · have e : lng x = 1 := by unfold lng; rw [if_pos c]
    rw [e]; clear e
    go_enter Tryd.func91, Tryd.ntmps91
    go_wp2
    go_ret
    exact ⟨rfl, rfl⟩
  · have e : lng x = 0 := by unfold lng; rw [if_neg (by omega), if_pos d]
    rw [e]; clear e
    have d1 : decide (194 ≤ x) = false := decide_eq_false (by omega)
    have d2 : decide (224 ≤ x) = false := decide_eq_false (by omega)
    have d3 : decide (240 ≤ x) = false := decide_eq_false (by omega)
    go_enter Tryd.func91, Tryd.ntmps91
    go_wp2
    go_ret
    exact ⟨rfl, rfl⟩
  · have e : lng x = 2 := by unfold lng; rw [if_neg (by omega), if_neg (by omega), if_pos d]
    rw [e]; clear e
    go_enter Tryd.func91, Tryd.ntmps91
    go_wp2
    go_ret
    exact ⟨rfl, rfl⟩
  · have e : lng x = 3 := by unfold lng; rw [if_neg (by omega), if_neg (by omega), if_neg (by omega), if_pos d]
    rw [e]; clear e
    have d1 : decide (x ≤ 223) = false := decide_eq_false (by omega)
    go_enter Tryd.func91, Tryd.ntmps91
    go_wp2
    go_ret
    exact ⟨rfl, rfl⟩
  · have e : lng x = 4 := by unfold lng; rw [if_neg (by omega), if_neg (by omega), if_neg (by omega), if_neg (by omega), if_pos d]
    rw [e]; clear e
    have d1 : decide (x ≤ 223) = false := decide_eq_false (by omega)
    have d2 : decide (x ≤ 239) = false := decide_eq_false (by omega)
    go_enter Tryd.func91, Tryd.ntmps91
    go_wp2
    go_ret
    exact ⟨rfl, rfl⟩
  · have e : lng x = 0 := by unfold lng; rw [if_neg (by omega), if_neg (by omega), if_neg (by omega), if_neg (by omega), if_neg (by omega)]
    rw [e]; clear e
    have d1 : decide (x ≤ 223) = false := decide_eq_false (by omega)
    have d2 : decide (x ≤ 239) = false := decide_eq_false (by omega)
    have d3 : decide (x ≤ 244) = false := decide_eq_false (by omega)
    go_enter Tryd.func91, Tryd.ntmps91
    go_wp2
    go_ret
    exact ⟨rfl, rfl⟩

theorem r_second_any (a x : Int) (w : World) : Calls Tryd.prog 92 #[.int .u8 a, .int .u8 x] w fun e w' => e = .returned (.bool (secB a x)) ∧ w = w' := by
  have hc : a = 224 ∨ a = 237 ∨ a = 240 ∨ a = 244 ∨ (a ≠ 224 ∧ a ≠ 237 ∧ a ≠ 240 ∧ a ≠ 244) := by omega
  rcases hc with rfl | rfl | rfl | rfl | ⟨c1, c2, c3, c4⟩
  · have e : secB 224 x = decide (160 ≤ x ∧ x ≤ 191) := rfl
    by_cases h : 160 ≤ x
    · have e : secB 224 x = decide (x ≤ 191) := by rw [e]; simp [h]
      rw [e]; clear e
      go_enter Tryd.func92, Tryd.ntmps92
      go_wp2
      go_ret
      exact ⟨rfl, rfl⟩
    · have e : secB 224 x = false := by rw [e]; simp [h]
      rw [e]; clear e
      have d : decide (160 ≤ x) = false := decide_eq_false h
      go_enter Tryd.func92, Tryd.ntmps92
      go_wp2
      go_ret
      exact ⟨rfl, rfl⟩
  · have e : secB 237 x = decide (128 ≤ x ∧ x ≤ 159) := rfl
    by_cases h : 128 ≤ x
    · have e : secB 237 x = decide (x ≤ 159) := by rw [e]; simp [h]
      rw [e]; clear e
      go_enter Tryd.func92, Tryd.ntmps92
      go_wp2
      go_ret
      exact ⟨rfl, rfl⟩
    · have e : secB 237 x = false := by rw [e]; simp [h]
      rw [e]; clear e
      have d : decide (128 ≤ x) = false := decide_eq_false h
      go_enter Tryd.func92, Tryd.ntmps92
      go_wp2
      go_ret
      exact ⟨rfl, rfl⟩
  · have e : secB 240 x = decide (144 ≤ x ∧ x ≤ 191) := rfl
    by_cases h : 144 ≤ x
    · have e : secB 240 x = decide (x ≤ 191) := by rw [e]; simp [h]
      rw [e]; clear e
      go_enter Tryd.func92, Tryd.ntmps92
      go_wp2
      go_ret
      exact ⟨rfl, rfl⟩
    · have e : secB 240 x = false := by rw [e]; simp [h]
      rw [e]; clear e
      have d : decide (144 ≤ x) = false := decide_eq_false h
      go_enter Tryd.func92, Tryd.ntmps92
      go_wp2
      go_ret
      exact ⟨rfl, rfl⟩
  · have e : secB 244 x = decide (128 ≤ x ∧ x ≤ 143) := rfl
    by_cases h : 128 ≤ x
    · have e : secB 244 x = decide (x ≤ 143) := by rw [e]; simp [h]
      rw [e]; clear e
      go_enter Tryd.func92, Tryd.ntmps92
      go_wp2
      go_ret
      exact ⟨rfl, rfl⟩
    · have e : secB 244 x = false := by rw [e]; simp [h]
      rw [e]; clear e
      have d : decide (128 ≤ x) = false := decide_eq_false h
      go_enter Tryd.func92, Tryd.ntmps92
      go_wp2
      go_ret
      exact ⟨rfl, rfl⟩
  · have e : secB a x = decide (128 ≤ x ∧ x ≤ 191) := by unfold secB lo2 hi2; rw [if_neg c1, if_neg c3, if_neg c2, if_neg c4]
    have b1 : (a == 224) = false := beq_eq_false_iff_ne.2 c1
    have b2 : (a == 237) = false := beq_eq_false_iff_ne.2 c2
    have b3 : (a == 240) = false := beq_eq_false_iff_ne.2 c3
    have b4 : (a == 244) = false := beq_eq_false_iff_ne.2 c4
    clear c1 c2 c3 c4
    by_cases h : 128 ≤ x
    · have e : secB a x = decide (x ≤ 191) := by rw [e]; simp [h]
      rw [e]; clear e
      go_enter Tryd.func92, Tryd.ntmps92
      go_wp2
      go_ret
      exact ⟨rfl, rfl⟩
    · have e : secB a x = false := by rw [e]; simp [h]
      rw [e]; clear e
      have d : decide (128 ≤ x) = false := decide_eq_false h
      go_enter Tryd.func92, Tryd.ntmps92
      go_wp2
      go_ret
      exact ⟨rfl, rfl⟩
end Go.Proofs.YtdmcidljjfogjaaDoor

/- Contracts of the document's How and of. -/
namespace Go.Proofs.YtdmcidljjfogjaaDoor
set_option maxRecDepth 100000
open Go.ChangeShapes Go.WideShapes Go.ChangeAt Go.RowKit
set_option linter.unusedVariables false

theorem sec_tl {a x : Int} (h : secB a x = true) : tlB x = true := decide_eq_true (sec_bd h)
def okJ (xs : List Int) (j : Nat) : Bool := if j = 1 then secB (xs.getD 0 0) (xs.getD 1 0) else tlB (xs.getD j 0)
theorem how_yes (xs : List Int) (h1 : 1 ≤ xs.length) (h4 : xs.length ≤ 4) (hl : (xs.length : Int) ≤ lng (xs.getD 0 0)) (hok : ∀ j, 1 ≤ j → j < xs.length → okJ xs j = true) :
    how xs = if lng (xs.getD 0 0) = xs.length then 2 else 1 := by
  match xs, h1, h4, hl, hok with
  | [a], _, _, hl, hok =>
    have hl : (1 : Int) ≤ lng a := hl
    show (if lng a = 1 then (2 : Int) else if 1 < lng a then 1 else 0) = if lng a = 1 then 2 else 1
    by_cases c : lng a = 1
    · rw [if_pos c, if_pos c]
    · rw [if_neg c, if_neg c, if_pos (by omega)]
  | [a, b], _, _, hl, hok =>
    have hl : (2 : Int) ≤ lng a := hl
    have k1 : secB a b = true := hok 1 (by omega) (by simp)
    show (if 2 ≤ lng a ∧ secB a b = true then (if lng a = 2 then (2 : Int) else 1) else 0) = if lng a = 2 then 2 else 1
    rw [if_pos ⟨hl, k1⟩]
  | [a, b, c], _, _, hl, hok =>
    have hl : (3 : Int) ≤ lng a := hl
    have k1 : secB a b = true := hok 1 (by omega) (by simp)
    have k2 : tlB c = true := hok 2 (by omega) (by simp)
    show (if 3 ≤ lng a ∧ secB a b = true ∧ tlB c = true then (if lng a = 3 then (2 : Int) else 1) else 0) = if lng a = 3 then 2 else 1
    rw [if_pos ⟨hl, k1, k2⟩]
  | [a, b, c, d], _, _, hl, hok =>
    have hl : (4 : Int) ≤ lng a := hl
    have k1 : secB a b = true := hok 1 (by omega) (by simp)
    have k2 : tlB c = true := hok 2 (by omega) (by simp)
    have k3 : tlB d = true := hok 3 (by omega) (by simp)
    have := lng_le a
    show (if 4 ≤ lng a ∧ secB a b = true ∧ tlB c = true ∧ tlB d = true then (2 : Int) else 0) = if lng a = 4 then 2 else 1
    rw [if_pos ⟨hl, k1, k2, k3⟩, if_pos (by omega)]
theorem how_no (xs : List Int) (h1 : 1 ≤ xs.length) (j : Nat) (j1 : 1 ≤ j) (j2 : j < xs.length) (hok : okJ xs j = false) : how xs = 0 := by
  match xs, j, j1, j2, hok with
  | [a], j, j1, j2, _ => simp at j2; omega
  | [a, b], j, j1, j2, hok =>
    obtain rfl : j = 1 := by simp at j2; omega
    have k1 : secB a b = false := hok
    simp [how, k1]
  | [a, b, c], j, j1, j2, hok =>
    have : j = 1 ∨ j = 2 := by simp at j2; omega
    rcases this with rfl | rfl
    · have k1 : secB a b = false := hok
      simp [how, k1]
    · have k1 : tlB c = false := hok
      simp [how, k1]
  | [a, b, c, d], j, j1, j2, hok =>
    have : j = 1 ∨ j = 2 ∨ j = 3 := by simp at j2; omega
    rcases this with rfl | rfl | rfl
    · have k1 : secB a b = false := hok
      simp [how, k1]
    · have k1 : tlB c = false := hok
      simp [how, k1]
    · have k1 : tlB d = false := hok
      simp [how, k1]
  | _ :: _ :: _ :: _ :: _ :: _, _, _, _, _ => simp [how]
theorem how_long (xs : List Int) (h : xs.length = 0 ∨ 4 < xs.length) : how xs = 0 := by
  match xs, h with
  | [], _ => rfl
  | [_], h => simp at h
  | [_, _], h => simp at h
  | [_, _, _], h => simp at h
  | [_, _, _, _], h => simp at h
  | _ :: _ :: _ :: _ :: _ :: _, _ => simp [how]
theorem how_short (xs : List Int) (h : lng (xs.getD 0 0) < (xs.length : Int)) : how xs = 0 := by
  match xs, h with
  | [], _ => rfl
  | [a], h =>
    have h : lng a < 1 := h
    show (if lng a = 1 then (2 : Int) else if 1 < lng a then 1 else 0) = 0
    rw [if_neg (by omega), if_neg (by omega)]
  | [a, b], h =>
    have h : lng a < 2 := h
    show (if 2 ≤ lng a ∧ secB a b = true then (if lng a = 2 then (2 : Int) else 1) else 0) = 0
    rw [if_neg (fun k => by omega)]
  | [a, b, c], h =>
    have h : lng a < 3 := h
    show (if 3 ≤ lng a ∧ secB a b = true ∧ tlB c = true then (if lng a = 3 then (2 : Int) else 1) else 0) = 0
    rw [if_neg (fun k => by omega)]
  | [a, b, c, d], h =>
    have h : lng a < 4 := h
    show (if 4 ≤ lng a ∧ secB a b = true ∧ tlB c = true ∧ tlB d = true then (2 : Int) else 0) = 0
    rw [if_neg (fun k => by omega)]
  | _ :: _ :: _ :: _ :: _ :: _, _ => simp [how]

set_option maxHeartbeats 2000000 in
theorem r_how_any (A : Option Addr) (n cap : Nat) (xs : List Int) (w : World) (hn : xs.length = n) (hI : Ints w w.heap.size .u8 A xs) (hB : Bts xs) (hm : n ≤ maxLen) :
    Calls Tryd.prog 80 #[.slice A n cap] w fun e w' => e = .returned (.int .i64 (how xs)) ∧ Still w w' := by
  subst hn
  unfold maxLen at hm
  by_cases hz : xs.length = 0
  · have HE := Lib.hid (how_long xs (.inl hz))
    rw [hz]
    go_enter Tryd.func80, Tryd.ntmps80
    go_wp2
    go_ret
    exact ⟨by rw [HE.out]; rfl, Still.refl w⟩
  have hz' : ((xs.length : Int) == 0) = false := beq_eq_false_iff_ne.2 (by omega)
  by_cases h4 : 4 < xs.length
  · have HE := Lib.hid (how_long xs (.inr h4))
    go_enter Tryd.func80, Tryd.ntmps80
    go_wp2
    go_ret
    exact ⟨by rw [HE.out]; rfl, Still.refl w⟩
  obtain ⟨b, o, rfl, hbl, hc⟩ := hI.at (by omega)
  have c0 : w.cell? ⟨b, o, none⟩ = some (.int .u8 (xs.getD 0 0)) := hc 0 (by omega)
  obtain ⟨x0, x1⟩ := hB.at (k := 0) (by omega)
  have HC := Lib.hid hc
  have HB := Lib.hid hB
  clear hI hc hB
  have h4' : decide (4 < (xs.length : Int)) = false := decide_eq_false (by omega)
  have hpos : 0 < xs.length := by omega
  by_cases hs : lng (xs.getD 0 0) < (xs.length : Int)
  · have HE := Lib.hid (how_short xs hs)
    generalize xs.getD 0 0 = a at c0 x0 x1 hs
    go_enter Tryd.func80, Tryd.ntmps80
    go_wp2_with fail
    with_reducible refine (r_long_any _ _ x0 x1).mono ?_
    rintro e w' ⟨rfl, rfl⟩
    go_wp2
    go_ret
    exact ⟨by rw [HE.out]; rfl, Still.refl w⟩
  have HY : Hid ((∀ j, 1 ≤ j → j < xs.length → okJ xs j = true) → how xs = if lng (xs.getD 0 0) = xs.length then 2 else 1) := how_yes xs (by omega) (by omega) (by omega)
  have HN : Hid (∀ j, 1 ≤ j → j < xs.length → okJ xs j = false → how xs = 0) := fun j => how_no xs (by omega) j
  have HO : Hid (∀ j, okJ xs j = if j = 1 then secB (xs.getD 0 0) (xs.getD 1 0) else tlB (xs.getD j 0)) := fun j => rfl
  generalize xs.getD 0 0 = a at c0 x0 x1 hs HY HO
  have hs' : decide (lng a < (xs.length : Int)) = false := decide_eq_false hs
  go_enter Tryd.func80, Tryd.ntmps80
  go_wp2_with fail
  with_reducible refine (r_long_any _ _ x0 x1).mono ?_
  rintro e w' ⟨rfl, rfl⟩
  go_wp2_with fail
  go_loopw [4] (fun i w1 => ∃ k : Nat, 1 ≤ k ∧ k ≤ xs.length ∧ i = .int .i64 k ∧ Still w w1 ∧ Hid (∀ j, 1 ≤ j → j < k → okJ xs j = true)) (fun i _ => xs.length - (intOf i).toNat)
  case atStart => exact ⟨1, by omega, by omega, rfl, Still.refl w, fun j h1 h2 => by omega⟩
  case round =>
    obtain ⟨k, hk1, hk, rfl, hst, HJ⟩ := hrel
    have hr0 : wr.cell? ⟨b, o, none⟩ = some (.int .u8 a) := (hst.cell _).trans c0
    by_cases hlt : k < xs.length
    · have hck : wr.cell? ⟨b, o + k, none⟩ = some (.int .u8 (xs.getD k 0)) := (hst.cell _).trans (HC.out k hlt)
      have hlt' : (k : Int) < xs.length := by omega
      have hOk := Lib.hid (HO.out k)
      by_cases hk1' : k = 1
      · subst hk1'
        generalize xs.getD 1 0 = x at hck HO hOk
        have h1x : (1 : Nat) < xs.length := hlt
        cases hsec : secB a x with
        | true =>
          have hb1 := sec_bd hsec
          have d1 : decide (x < 128) = false := decide_eq_false (by omega)
          have d2 : decide (191 < x) = false := decide_eq_false (by omega)
          go_wp2_with fail
          go_quiet ((go_at_call 92; exact quiet_left' (r_second_any _ _ _)))
          have HK : Hid (okJ xs 1 = true) := by rw [hOk.out]; exact hsec
          go_wp2
          go_roundw
          case rel => exact ⟨1 + 1, by omega, by omega, by go_num, hst.drewN _, fun j h1 h2 => by
            obtain rfl : j = 1 := by omega
            exact HK.out⟩
          case measure => simp [intOf]; omega
        | false =>
          have HE := Lib.hid (HN.out 1 (by omega) hlt (by rw [hOk.out]; exact hsec))
          go_wp2_with fail
          go_quiet ((go_at_call 92; exact quiet_left' (r_second_any _ _ _)))
          go_wp2
          go_ret
          exact ⟨by rw [HE.out]; rfl, hst.drewN _⟩
      · have hk2 : ((k : Int) == 1) = false := beq_eq_false_iff_ne.2 (by omega)
        have e : okJ xs k = tlB (xs.getD k 0) := by rw [hOk.out, if_neg hk1']
        generalize xs.getD k 0 = x at hck e
        have HE1 := Lib.hid e
        clear e hOk
        cases htl : tlB x with
        | true =>
          have hb1 := of_decide_eq_true htl
          have d1 : decide (x < 128) = false := decide_eq_false (by omega)
          have d2 : decide (191 < x) = false := decide_eq_false (by omega)
          have HK : Hid (okJ xs k = true) := HE1.out.trans htl
          go_wp2_with fail
          go_quiet (fail)
          go_wp2
          go_roundw
          case rel => exact ⟨k + 1, by omega, by omega, by go_num, hst.drewN _, fun j h1 h2 => by
            rcases Nat.lt_or_ge j k with h | h
            · exact HJ.out j h1 h
            · obtain rfl : j = k := by omega
              exact HK.out⟩
          case measure => simp [intOf]; omega
        | false =>
          have hb1 := of_decide_eq_false htl
          have HE := Lib.hid (HN.out k hk1 hlt (HE1.out.trans htl))
          by_cases h128 : x < 128
          · have d1 : decide (x < 128) = true := decide_eq_true h128
            go_wp2_with fail
            go_quiet (fail)
            go_wp2
            go_ret
            exact ⟨by rw [HE.out]; rfl, hst.drewN _⟩
          · have d1 : decide (x < 128) = false := decide_eq_false h128
            have d2 : decide (191 < x) = true := decide_eq_true (by omega)
            go_wp2_with fail
            go_quiet (fail)
            go_wp2
            go_ret
            exact ⟨by rw [HE.out]; rfl, hst.drewN _⟩
    · have hkk : k = xs.length := by omega
      subst hkk
      have HE := Lib.hid (HY.out HJ.out)
      have hlt' : ¬ (xs.length : Int) < xs.length := by omega
      by_cases hq : lng a = (xs.length : Int)
      · have hq' : (lng a == (xs.length : Int)) = true := beq_iff_eq.2 hq
        rw [if_pos hq] at HE
        clear hq
        go_wp2
        go_ret
        exact ⟨by rw [HE.out]; rfl, hst⟩
      · have hq' : (lng a == (xs.length : Int)) = false := beq_eq_false_iff_ne.2 hq
        rw [if_neg hq] at HE
        clear hq
        go_wp2
        go_ret
        exact ⟨by rw [HE.out]; rfl, hst⟩
end Go.Proofs.YtdmcidljjfogjaaDoor

/- Contracts of the document's of, First, All. -/
namespace Go.Proofs.YtdmcidljjfogjaaDoor
set_option maxRecDepth 100000
open Go.ChangeShapes Go.WideShapes Go.ChangeAt Go.RowKit
set_option linter.unusedVariables false

def acc (xs : List Int) : Nat → Int
  | 0 => 0
  | 1 => xs.getD 0 0 - mkT (xs.getD 0 0)
  | k + 1 => acc xs k * 64 + (xs.getD k 0 - 128)
structure How2 (xs : List Int) : Prop where
  l1 : 1 ≤ xs.length
  l4 : xs.length ≤ 4
  tails : ∀ j, 1 ≤ j → j < xs.length → 128 ≤ xs.getD j 0 ∧ xs.getD j 0 ≤ 191
  head : 0 ≤ xs.getD 0 0 - mkT (xs.getD 0 0) ∧ xs.getD 0 0 - mkT (xs.getD 0 0) ≤ 127
  mark : mkT (xs.getD 0 0) = if xs.length = 1 then 0 else if xs.length = 2 then 192 else if xs.length = 3 then 224 else 240
  sum : acc xs xs.length = ubits xs
theorem mk_of (a : Int) : (lng a = 2 → mkT a = 192) ∧ (lng a = 3 → mkT a = 224) ∧ (lng a = 4 → mkT a = 240) := by
  unfold lng mkT
  refine ⟨?_, ?_, ?_⟩ <;> ((repeat' split) <;> omega)
theorem how2 (xs : List Int) (h0 : 0 ≤ xs.getD 0 0) (h : how xs = 2) : How2 xs := by
  match xs, h with
  | [], h => simp [how] at h
  | [a], h =>
    have h' : (if lng a = 1 then (2 : Int) else if 1 < lng a then 1 else 0) = 2 := h
    have h1 : lng a = 1 := by revert h'; (repeat' split) <;> omega
    have ha := lng_one h1
    have hm := (row_zero ha).2
    have h0 : 0 ≤ a := h0
    exact ⟨by simp, by simp, fun j h1 h2 => by simp at h2; omega, by show 0 ≤ a - mkT a ∧ a - mkT a ≤ 127; omega, hm, rfl⟩
  | [a, b], h =>
    have h' : (if 2 ≤ lng a ∧ secB a b = true then (if lng a = 2 then (2 : Int) else 1) else 0) = 2 := h
    by_cases c : 2 ≤ lng a ∧ secB a b = true
    · rw [if_pos c] at h'
      have h2 : lng a = 2 := by revert h'; split <;> omega
      have hm := (mk_of a).1 h2
      obtain ⟨_, _, _, _, f5, f6⟩ := row_facts (a := a) (by omega)
      have hb := sec_bd c.2
      exact ⟨by simp, by simp, fun j k1 k2 => by
        obtain rfl : j = 1 := by simp at k2; omega
        exact hb, by show 0 ≤ a - mkT a ∧ a - mkT a ≤ 127; omega, hm, rfl⟩
    · rw [if_neg c] at h'; cases h'
  | [a, b, c], h =>
    have h' : (if 3 ≤ lng a ∧ secB a b = true ∧ tlB c = true then (if lng a = 3 then (2 : Int) else 1) else 0) = 2 := h
    by_cases k : 3 ≤ lng a ∧ secB a b = true ∧ tlB c = true
    · rw [if_pos k] at h'
      have h2 : lng a = 3 := by revert h'; split <;> omega
      have hm := (mk_of a).2.1 h2
      obtain ⟨_, _, _, _, f5, f6⟩ := row_facts (a := a) (by omega)
      have hb := sec_bd k.2.1
      have hc := of_decide_eq_true k.2.2
      exact ⟨by simp, by simp, fun j k1 k2 => by
        have : j = 1 ∨ j = 2 := by simp at k2; omega
        rcases this with rfl | rfl
        · exact hb
        · exact hc, by show 0 ≤ a - mkT a ∧ a - mkT a ≤ 127; omega, hm, rfl⟩
    · rw [if_neg k] at h'; cases h'
  | [a, b, c, d], h =>
    have h' : (if 4 ≤ lng a ∧ secB a b = true ∧ tlB c = true ∧ tlB d = true then (2 : Int) else 0) = 2 := h
    by_cases k : 4 ≤ lng a ∧ secB a b = true ∧ tlB c = true ∧ tlB d = true
    · have h2 : lng a = 4 := by have := lng_le a; omega
      have hm := (mk_of a).2.2 h2
      obtain ⟨_, _, _, _, f5, f6⟩ := row_facts (a := a) (by omega)
      have hb := sec_bd k.2.1
      have hc := of_decide_eq_true k.2.2.1
      have hd := of_decide_eq_true k.2.2.2
      exact ⟨by simp, by simp, fun j k1 k2 => by
        have : j = 1 ∨ j = 2 ∨ j = 3 := by simp at k2; omega
        rcases this with rfl | rfl | rfl
        · exact hb
        · exact hc
        · exact hd, by show 0 ≤ a - mkT a ∧ a - mkT a ≤ 127; omega, hm, rfl⟩
    · rw [if_neg k] at h'; cases h'
  | _ :: _ :: _ :: _ :: _ :: _, h => simp [how] at h
theorem acc_step (xs : List Int) (k : Nat) (hk : 1 ≤ k) : acc xs (k + 1) = acc xs k * 64 + (xs.getD k 0 - 128) := by
  match k, hk with
  | k + 1, _ => rfl
theorem acc_bd {xs : List Int} (h : How2 xs) (k : Nat) (h1 : 1 ≤ k) (hk : k ≤ xs.length) : 0 ≤ acc xs k ∧ (k ≤ 3 → acc xs k ≤ 524287) := by
  have l4 := h.l4
  have e : k = 1 ∨ k = 2 ∨ k = 3 ∨ k = 4 := by omega
  have a1 : acc xs 1 = xs.getD 0 0 - mkT (xs.getD 0 0) := rfl
  have hh := h.head
  rcases e with rfl | rfl | rfl | rfl
  · omega
  · have t1 := h.tails 1 (by omega) (by omega)
    have : acc xs 2 = acc xs 1 * 64 + (xs.getD 1 0 - 128) := acc_step xs 1 (by omega)
    omega
  · have t1 := h.tails 1 (by omega) (by omega)
    have t2 := h.tails 2 (by omega) (by omega)
    have : acc xs 2 = acc xs 1 * 64 + (xs.getD 1 0 - 128) := acc_step xs 1 (by omega)
    have : acc xs 3 = acc xs 2 * 64 + (xs.getD 2 0 - 128) := acc_step xs 2 (by omega)
    omega
  · have t1 := h.tails 1 (by omega) (by omega)
    have t2 := h.tails 2 (by omega) (by omega)
    have t3 := h.tails 3 (by omega) (by omega)
    have : acc xs 2 = acc xs 1 * 64 + (xs.getD 1 0 - 128) := acc_step xs 1 (by omega)
    have : acc xs 3 = acc xs 2 * 64 + (xs.getD 2 0 - 128) := acc_step xs 2 (by omega)
    have : acc xs 4 = acc xs 3 * 64 + (xs.getD 3 0 - 128) := acc_step xs 3 (by omega)
    omega

set_option maxHeartbeats 2000000 in
theorem r_of_any (A : Option Addr) (n cap : Nat) (xs : List Int) (w : World) (hn : xs.length = n) (hI : Ints w w.heap.size .u8 A xs) (hB : Bts xs) (hh : how xs = 2) :
    Calls Tryd.prog 81 #[.slice A n cap] w fun e w' => e = .returned (.int .i32 (ubits xs)) ∧ w = w' := by
  subst hn
  have h1 : 0 < xs.length := (how_len (by rw [hh]; decide)).1
  have hw := how2 xs (hB.at h1).1 hh
  have h4 := hw.l4
  obtain ⟨b, o, rfl, hbl, hc⟩ := hI.at h1
  have c0 : w.cell? ⟨b, o, none⟩ = some (.int .u8 (xs.getD 0 0)) := hc 0 h1
  have x0 := hB.at h1
  have hhd := hw.head
  have HM := Lib.hid hw.mark
  have HS := Lib.hid hw.sum
  have HA1 : Hid (acc xs 1 = xs.getD 0 0 - mkT (xs.getD 0 0)) := rfl
  generalize xs.getD 0 0 = a at c0 x0 hhd HM HA1
  have HC := Lib.hid hc
  have HW := Lib.hid hw
  clear hI hc hB hw hh
  have hwalk : ∀ s : Int, mkT a = s → (xs.length = 1 ∧ s = 0 ∨ xs.length = 2 ∧ s = 192 ∨ xs.length = 3 ∧ s = 224 ∨ xs.length = 4 ∧ s = 240) →
      Calls Tryd.prog 81 #[.slice (some ⟨b, o, none⟩) xs.length cap] w fun e w' => e = .returned (.int .i32 (ubits xs)) ∧ w = w' := by
    intro s hs hcase
    have HS1 : Hid (acc xs 1 = a - s) := HA1.out.trans (by rw [hs])
    rw [hs] at hhd
    clear HM HA1 hs
    have b2 : ((xs.length : Int) == 2) = decide (s = 192) := by rw [Bool.eq_iff_iff]; simp; omega
    have b3 : ((xs.length : Int) == 3) = decide (s = 224) := by rw [Bool.eq_iff_iff]; simp; omega
    have b4 : ((xs.length : Int) == 4) = decide (s = 240) := by rw [Bool.eq_iff_iff]; simp; omega
    have hs4 : s = 0 ∨ s = 192 ∨ s = 224 ∨ s = 240 := by omega
    clear hcase
    rcases hs4 with rfl | rfl | rfl | rfl
    all_goals
      simp at b2 b3 b4
      go_enter Tryd.func81, Tryd.ntmps81
      go_wp2_with fail
      go_loop [3, 4] (fun c i => ∃ k : Nat, 1 ≤ k ∧ k ≤ xs.length ∧ i = .int .i64 k ∧ c = .int .i32 (acc xs k)) (fun _ i => xs.length - (intOf i).toNat)
      case atStart => exact ⟨1, by omega, by omega, rfl, by rw [HS1.out]; first | done | go_num⟩
      case round =>
        obtain ⟨k, hk1, hk, rfl, rfl⟩ := hrel
        have hbd := acc_bd HW.out k hk1 hk
        by_cases hlt : k < xs.length
        · have hck : w.cell? ⟨b, o + k, none⟩ = some (.int .u8 (xs.getD k 0)) := HC.out k hlt
          have ht := HW.out.tails k hk1 hlt
          have HST := Lib.hid (acc_step xs k hk1)
          have hb3 := hbd.2 (by omega)
          have hb0 := hbd.1
          clear hbd
          generalize xs.getD k 0 = x at hck ht HST
          generalize acc xs k = c at HST hb3 hb0 ⊢
          have hlt' : (k : Int) < xs.length := by omega
          go_wp2
          go_round
          case rel => exact ⟨k + 1, by omega, by omega, by go_num, by rw [HST.out]; go_num⟩
          case measure => simp [intOf]; omega
        · obtain rfl : k = xs.length := by omega
          have hlt' : ¬ (xs.length : Int) < xs.length := by omega
          go_wp2
          go_ret
          exact ⟨by rw [← HS.out]; rfl, rfl⟩
  have hm := HM.out
  have e : xs.length = 1 ∨ xs.length = 2 ∨ xs.length = 3 ∨ xs.length = 4 := by omega
  rcases e with e | e | e | e
  · exact hwalk 0 (by rw [hm, e]; rfl) (by omega)
  · exact hwalk 192 (by rw [hm, e]; rfl) (by omega)
  · exact hwalk 224 (by rw [hm, e]; rfl) (by omega)
  · exact hwalk 240 (by rw [hm, e]; rfl) (by omega)

set_option maxHeartbeats 2000000 in
/-- the document's First -/
theorem r_first_any (A : Option Addr) (n cap : Nat) (xs : List Int) (w : World) (hn : xs.length = n) (hI : Ints w w.heap.size .u8 A xs) (hB : Bts xs) (hm : n ≤ cap) (hcm : cap ≤ maxLen) :
    Calls Tryd.prog 61 #[.slice A n cap] w fun e w' => e = .returned (.tuple #[.int .i32 (fC xs), .int .i64 (fN xs : Int), .bool (fOk xs)]) ∧ Below w.heap.size w w' := by
  subst hn
  unfold maxLen at hcm
  have HI := Lib.hid hI
  have HB := Lib.hid hB
  clear hI hB
  go_enter Tryd.func61, Tryd.ntmps61
  go_wp2_with fail
  go_loopw [5] (fun i w1 => ∃ k : Nat, k ≤ xs.length ∧ i = .int .i64 k ∧ Hid (∀ j, 1 ≤ j → j ≤ k → how (xs.take j) = 1) ∧ Below w.heap.size w w1) (fun i _ => xs.length - (intOf i).toNat)
  case atStart => exact ⟨0, by omega, rfl, fun j h1 h2 => by omega, Below.refl _ _⟩
  case round =>
    obtain ⟨k, hk, rfl, HR, hb⟩ := hrel
    by_cases hlt : k < xs.length
    · obtain ⟨b, o, rfl, hbl, hc⟩ := HI.out.at (by omega)
      clear hc
      have hlt' : (k : Int) < xs.length := by omega
      have hI2 := (HI.out.below hb (Nat.le_refl _)).take (k + 1)
      have hlen : (xs.take (k + 1)).length = k + 1 := by rw [List.length_take]; omega
      have HI2 := Lib.hid (hI2.more hb.size)
      have HL := Lib.hid hlen
      clear hI2 hlen
      rcases how_cases (xs.take (k + 1)) with hh | hh | hh
      · have HQ : Hid (∀ W : World, Below w.heap.size w W → Calls Tryd.prog 80 #[.slice (some ⟨b, o, none⟩) (k + 1) cap] W fun e w' => e = .returned (.int .i64 0) ∧ Still W w') := fun W hbW => by
          have := r_how_any (some ⟨b, o, none⟩) (k + 1) cap (xs.take (k + 1)) W HL.out (((HI.out.below hbW (Nat.le_refl _)).take (k + 1)).more hbW.size) (HB.out.take (k + 1)) (by simp only [maxLen]; omega)
          rw [hh] at this; exact this
        have HN := Lib.hid (first_no (Nat.le_of_lt hlt) HR.out (.inr hh))
        clear hh
        go_wp2_with fail
        with_reducible refine (HQ.out wr hb).mono ?_
        rintro e w2 ⟨rfl, hs2⟩
        have hb2 := hb.trans (hs2.below.mono hb.size)
        clear hs2
        go_wp2_with fail
        with_reducible refine (HQ.out w2 hb2).mono ?_
        rintro e w3 ⟨rfl, hs3⟩
        have hb3 := hb2.trans (hs3.below.mono hb2.size)
        clear hs3
        go_wp2
        go_ret3
        exact ⟨by rw [HN.out.1, HN.out.2.1, HN.out.2.2]; rfl, hb3⟩
      · have HQ : Hid (∀ W : World, Below w.heap.size w W → Calls Tryd.prog 80 #[.slice (some ⟨b, o, none⟩) (k + 1) cap] W fun e w' => e = .returned (.int .i64 1) ∧ Still W w') := fun W hbW => by
          have := r_how_any (some ⟨b, o, none⟩) (k + 1) cap (xs.take (k + 1)) W HL.out (((HI.out.below hbW (Nat.le_refl _)).take (k + 1)).more hbW.size) (HB.out.take (k + 1)) (by simp only [maxLen]; omega)
          rw [hh] at this; exact this
        have HH := Lib.hid hh
        clear hh
        go_wp2_with fail
        with_reducible refine (HQ.out wr hb).mono ?_
        rintro e w2 ⟨rfl, hs2⟩
        have hb2 := hb.trans (hs2.below.mono hb.size)
        clear hs2
        go_wp2
        go_roundw
        case rel => exact ⟨k + 1, by omega, by go_num, fun j h1 h2 => by
          rcases Nat.lt_or_ge k j with h | h
          · obtain rfl : j = k + 1 := by omega
            exact HH.out
          · exact HR.out j h1 h, hb2⟩
        case measure => simp [intOf]; omega
      · have HQ : Hid (∀ W : World, Below w.heap.size w W → Calls Tryd.prog 80 #[.slice (some ⟨b, o, none⟩) (k + 1) cap] W fun e w' => e = .returned (.int .i64 2) ∧ Still W w') := fun W hbW => by
          have := r_how_any (some ⟨b, o, none⟩) (k + 1) cap (xs.take (k + 1)) W HL.out (((HI.out.below hbW (Nat.le_refl _)).take (k + 1)).more hbW.size) (HB.out.take (k + 1)) (by simp only [maxLen]; omega)
          rw [hh] at this; exact this
        have HF : Hid (∀ W : World, Below w.heap.size w W → Calls Tryd.prog 81 #[.slice (some ⟨b, o, none⟩) (k + 1) cap] W fun e w' => e = .returned (.int .i32 (ubits (xs.take (k + 1)))) ∧ W = w') := fun W hbW =>
          r_of_any (some ⟨b, o, none⟩) (k + 1) cap (xs.take (k + 1)) W HL.out (((HI.out.below hbW (Nat.le_refl _)).take (k + 1)).more hbW.size) (HB.out.take (k + 1)) hh
        have HN := Lib.hid (first_yes hlt HR.out hh)
        clear hh
        go_wp2_with fail
        with_reducible refine (HQ.out wr hb).mono ?_
        rintro e w2 ⟨rfl, hs2⟩
        have hb2 := hb.trans (hs2.below.mono hb.size)
        clear hs2
        go_wp2_with fail
        with_reducible refine (HQ.out w2 hb2).mono ?_
        rintro e w3 ⟨rfl, hs3⟩
        have hb3 := hb2.trans (hs3.below.mono hb2.size)
        clear hs3
        go_wp2_with fail
        with_reducible refine (HF.out w3 hb3).mono ?_
        rintro e w4 ⟨rfl, rfl⟩
        go_wp2
        go_ret3
        exact ⟨by rw [HN.out.1, HN.out.2.1, HN.out.2.2]; rfl, hb3⟩
    · obtain rfl : k = xs.length := by omega
      have hlt' : ¬ (xs.length : Int) < xs.length := by omega
      have HN := Lib.hid (first_no (Nat.le_refl _) HR.out (.inl rfl))
      go_wp2
      go_ret3
      exact ⟨by rw [HN.out.1, HN.out.2.1, HN.out.2.2]; rfl, hb⟩

set_option maxHeartbeats 1000000 in
/-- the document's All -/
theorem r_all_any (A : Option Addr) (n cap : Nat) (xs : List Int) (w : World) (hn : xs.length = n) (hI : Ints w w.heap.size .u8 A xs) (hB : Bts xs) (hm : n ≤ 65536) (hc : n ≤ cap) (hcm : cap ≤ maxLen) :
    Calls Tryd.prog 41 #[.slice A n cap] w (AllRes w xs) := by
  subst hn
  unfold maxLen at hcm
  have HI := Lib.hid hI
  have HB := Lib.hid hB
  clear hI hB
  go_enter Tryd.func41, Tryd.ntmps41
  go_wp2_with fail
  go_loopw [5, 6] (fun s5 s6 w1 => AllLoop w xs s5 s6 w1) (fun _ i _ => xs.length - (intOf i).toNat)
  case atStart => exact ⟨0, [], rfl, AllAt.start xs, World.ownsRow_nil _ _ _ _, Below.refl _ _⟩
  case round =>
    obtain ⟨n, l, rfl, hA, hO, hb⟩ := hrel
    by_cases hlt : n < xs.length
    · obtain ⟨b, o, rfl, hbl, hcell⟩ := HI.out.at (by omega)
      have hlt' : (n : Int) < xs.length := by omega
      have hne : cap ≠ n := by omega
      have HO := Lib.hid hO
      have HA := Lib.hid hA
      have hl := hA.2.1
      clear hO hcell hA
      go_wp2_with fail
      with_reducible refine (r_first_any _ _ _ (xs.drop n) _ (by simp) (((HI.out.below hb (Nat.le_refl _)).more hb.size).drop n) (HB.out.drop n) (by omega) (by simp only [maxLen]; omega)).mono ?_
      rintro e w2 ⟨rfl, hb2⟩
      have hO2 := own_below HO.out hb2 (Nat.le_refl _)
      have hb3 := hb.trans (hb2.mono hb.size)
      have hf := fN_le (xs.drop n)
      rw [List.length_drop] at hf
      have HO2 := Lib.hid hO2
      clear hO2 hb2 hb
      cases hok : fOk (xs.drop n) with
      | false =>
        have HR := Lib.hid (HA.out.fail hlt hok)
        clear hok
        go_wp2
        go_ret3
        exact ⟨_, by rw [HR.out]; go_num, by rw [HR.out]; exact World.ownsRow_nil _ _ _ _, hb3⟩
      | true =>
        have HS := Lib.hid (HA.out.step hlt hok)
        have hp := fN_pos hok
        clear hok
        generalize fC (xs.drop n) = c at HS ⊢
        generalize fN (xs.drop n) = m at HS hf hp ⊢
        go_wp2_with (first
          | (at_builtin; refine wpList_app rfl (.tmp 27) (.tmp 29) 22 rfl w.heap.size 21 .i32 4 Tryd.underlying22 info_i32 (by omega) _ l rfl (HO2.out.alloc _) _ _ 1 [c] rfl (fun h => by cases h) (Ints.lit w2 21 .i32 [c]) (by simp; omega) (by simp; have := hb3.size; omega) ?_; intro v3 w3 hO3 hg3))
        have hbz : w.heap.size ≤ w2.heap.size := hb3.size
        have hb4 : Below w.heap.size w w3 := (hb3.alloc hbz _).trans (own_grown_below (HO2.out.alloc _) hg3 (by simp; omega))
        go_roundw
        case rel => exact ⟨n + m, l ++ [c], by go_num, HS.out, hO3, hb4⟩
        case measure => simp [intOf]; omega
    · have hn : xs.length ≤ n := by omega
      have hlt' : ¬ (n : Int) < xs.length := by omega
      have HR := Lib.hid (hA.done hn)
      have hbb := hA.1
      have HO := Lib.hid hO
      clear hO hA
      go_wp2
      go_ret3
      exact ⟨_, by rw [HR.out]; rfl, by rw [HR.out]; exact HO.out, hb⟩
end Go.Proofs.YtdmcidljjfogjaaDoor

/- Contracts of the document's Bytes, Text; of Same. -/
namespace Go.Proofs.YtdmcidljjfogjaaDoor
set_option maxRecDepth 100000
open Go.ChangeShapes Go.WideShapes Go.ChangeAt Go.RowKit
set_option linter.unusedVariables false

set_option maxHeartbeats 1000000 in
theorem r_bytes_any (c : Int) (w : World) : Calls Tryd.prog 44 #[.int .i32 c] w (RowRes 5 .u8 w (byt c)) := by
  cases hi : isB c with
  | false =>
    have HE : Hid (byt c = []) := by simp [Hid, byt, hi]
    go_enter Tryd.func44, Tryd.ntmps44
    go_wp2_with fail
    with_reducible refine (r_is_any _ _).mono ?_
    rintro e w' ⟨rfl, rfl⟩
    go_wp2
    go_ret
    exact ⟨_, rfl, by rw [HE.out]; exact World.ownsRow_nil _ _ _ _, Below.refl _ _⟩
  | true =>
    have hc := of_decide_eq_true hi
    have hc0 : 0 ≤ c := by omega
    have hc1 : c ≤ 1114111 := by omega
    by_cases h1 : c < 128
    · have HE : Hid (byt c = [c]) := by simp [Hid, byt, hi, h1]
      clear hc
      go_enter Tryd.func44, Tryd.ntmps44
      go_wp2_with fail
      with_reducible refine (r_is_any _ _).mono ?_
      rintro e w' ⟨rfl, rfl⟩
      go_wp2
      go_ret
      exact ⟨_, rfl, by rw [HE.out]; exact own_lit w _ 5 .u8 [c] (Nat.le_refl _) (by simp [maxLen]), (Below.refl _ _).alloc (Nat.le_refl _) _⟩
    · by_cases h2 : c < 2048
      · have HE : Hid (byt c = [192 + c / 64, 128 + c % 64]) := by simp [Hid, byt, hi, h1, h2]
        clear hc
        go_enter Tryd.func44, Tryd.ntmps44
        go_wp2_with fail
        with_reducible refine (r_is_any _ _).mono ?_
        rintro e w' ⟨rfl, rfl⟩
        go_wp2
        go_ret
        exact ⟨_, rfl, by rw [HE.out]; exact own_lit w _ 5 .u8 [192 + c / 64, 128 + c % 64] (Nat.le_refl _) (by simp [maxLen]), (Below.refl _ _).alloc (Nat.le_refl _) _⟩
      · by_cases h3 : c < 65536
        · have HE : Hid (byt c = [224 + c / 4096, 128 + c / 64 % 64, 128 + c % 64]) := by simp [Hid, byt, hi, h1, h2, h3]
          clear hc
          go_enter Tryd.func44, Tryd.ntmps44
          go_wp2_with fail
          with_reducible refine (r_is_any _ _).mono ?_
          rintro e w' ⟨rfl, rfl⟩
          go_wp2
          go_ret
          exact ⟨_, rfl, by rw [HE.out]; exact own_lit w _ 5 .u8 [224 + c / 4096, 128 + c / 64 % 64, 128 + c % 64] (Nat.le_refl _) (by simp [maxLen]), (Below.refl _ _).alloc (Nat.le_refl _) _⟩
        · have HE : Hid (byt c = [240 + c / 262144, 128 + c / 4096 % 64, 128 + c / 64 % 64, 128 + c % 64]) := by simp [Hid, byt, hi, h1, h2, h3]
          clear hc
          go_enter Tryd.func44, Tryd.ntmps44
          go_wp2_with fail
          with_reducible refine (r_is_any _ _).mono ?_
          rintro e w' ⟨rfl, rfl⟩
          go_wp2
          go_ret
          exact ⟨_, rfl, by rw [HE.out]; exact own_lit w _ 5 .u8 [240 + c / 262144, 128 + c / 4096 % 64, 128 + c / 64 % 64, 128 + c % 64] (Nat.le_refl _) (by simp [maxLen]), (Below.refl _ _).alloc (Nat.le_refl _) _⟩

set_option maxHeartbeats 1000000 in
theorem r_text_any (A : Option Addr) (n cap : Nat) (xs : List Int) (w : World) (hn : xs.length = n) (hI : Ints w w.heap.size .i32 A xs) (hm : n ≤ 65536) :
    Calls Tryd.prog 23 #[.slice A n cap] w (RowRes 5 .u8 w (txt xs)) := by
  subst hn
  have HI := Lib.hid hI
  clear hI
  go_enter Tryd.func23, Tryd.ntmps23
  go_wp2_with fail
  go_loopw [3, 4] (fun s3 s4 w1 => TextLoop w xs s3 s4 w1) (fun _ i _ => xs.length - (intOf i).toNat)
  case atStart => exact ⟨0, Nat.zero_le _, rfl, World.ownsRow_nil _ _ _ _, Below.refl _ _⟩
  case round =>
    obtain ⟨k, hk, rfl, hO, hb⟩ := hrel
    by_cases hlt : k < xs.length
    · obtain ⟨b, o, rfl, hbl, hc⟩ := HI.out.at (by omega)
      have hcell : wr.cell? ⟨b, o + k, none⟩ = some (.int .i32 (xs.getD k 0)) := (hb.cell (p := ⟨b, o + k, none⟩) hbl).trans (hc k hlt)
      have hlt' : (k : Int) < xs.length := by omega
      have HX := Lib.hid (txt_snoc xs k hlt)
      have hl := txt_len (xs.take k)
      have hl2 : (xs.take k).length ≤ k := List.length_take_le _ _
      have HO := Lib.hid hO
      generalize xs.getD k 0 = x at hcell HX
      clear hc hO
      go_wp2_with fail
      with_reducible refine (r_bytes_any x wr).mono ?_
      rintro e w2 ⟨v', rfl, hO2, hb2⟩
      obtain ⟨A2, c2, rfl, hc2, hcm2⟩ := own_form hO2
      have hO1 := own_below HO.out hb2 (Nat.le_refl _)
      have hb3 := hb.trans (hb2.mono hb.size)
      have hl3 := byt_len x
      have HO1 := Lib.hid hO1
      have HO2 := Lib.hid hO2
      clear hO2 hb2 hO1
      go_wp2_with (first
        | (at_builtin; refine wpList_app rfl (.tmp 11) (.tmp 16) 23 rfl w.heap.size 5 .u8 1 Tryd.underlying23 info_u8 (by omega) _ _ rfl HO1.out _ _ _ (byt x) rfl (own_nil HO2.out) (Ints.own HO2.out) (by omega) hb3.size ?_; intro v3 w3 hO3 hg3))
      have HO3 : Hid (Own w3 w.heap.size 5 .u8 v3 (txt (xs.take (k + 1)))) := by rw [HX.out]; exact hO3
      have hb4 := hb3.trans (own_grown_below HO1.out hg3 hb3.size)
      go_roundw
      case rel => exact ⟨k + 1, by omega, by go_num, HO3.out, hb4⟩
      case measure => simp [intOf]; omega
    · have hkk : k = xs.length := by omega
      subst hkk
      have hlt' : ¬ (xs.length : Int) < xs.length := by omega
      rw [List.take_length] at hO
      have HO := Lib.hid hO
      clear hO
      go_wp2
      go_ret
      exact ⟨_, rfl, HO.out, hb⟩

set_option maxHeartbeats 1000000 in
/-- two rows that read alike are the same -/
theorem same_yes (A B : Option Addr) (n c d : Nat) (xs : List Int) (w : World) (hn : xs.length = n) (hA : Ints w w.heap.size .i32 A xs) (hB : Ints w w.heap.size .i32 B xs) (hm : n ≤ maxLen) :
    Calls Tryd.prog 11 #[.slice A n c, .slice B n d] w fun e w' => e = .returned (.bool true) ∧ Still w w' := by
  subst hn
  unfold maxLen at hm
  have HA := Lib.hid hA
  have HB := Lib.hid hB
  clear hA hB
  have hne : ((xs.length : Int) != xs.length) = false := by simp
  go_enter Tryd.func11, Tryd.ntmps11
  go_wp2_with fail
  go_loopw [5] (fun i w1 => ∃ k : Nat, k ≤ xs.length ∧ i = .int .i64 k ∧ Still w w1) (fun i _ => xs.length - (intOf i).toNat)
  case atStart => exact ⟨0, by omega, rfl, Still.refl w⟩
  case round =>
    obtain ⟨k, hk, rfl, hst⟩ := hrel
    by_cases hlt : k < xs.length
    · obtain ⟨b, o, rfl, hbl, hc⟩ := HA.out.at (by omega)
      obtain ⟨b', o', rfl, hbl', hc'⟩ := HB.out.at (by omega)
      have h1 : wr.cell? ⟨b, o + k, none⟩ = some (.int .i32 (xs.getD k 0)) := (hst.cell _).trans (hc k hlt)
      have h2 : wr.cell? ⟨b', o' + k, none⟩ = some (.int .i32 (xs.getD k 0)) := (hst.cell _).trans (hc' k hlt)
      have hlt' : (k : Int) < xs.length := by omega
      generalize xs.getD k 0 = x at h1 h2
      have hx : (x != x) = false := by simp
      clear hc hc'
      go_wp2_with fail
      go_quiet (fail)
      go_wp2
      go_roundw
      case rel => exact ⟨k + 1, by omega, by go_num, hst.drewN _⟩
      case measure => simp [intOf]; omega
    · obtain rfl : k = xs.length := by omega
      have hlt' : ¬ (xs.length : Int) < xs.length := by omega
      go_wp2
      go_ret
      exact ⟨rfl, hst⟩
end Go.Proofs.YtdmcidljjfogjaaDoor
