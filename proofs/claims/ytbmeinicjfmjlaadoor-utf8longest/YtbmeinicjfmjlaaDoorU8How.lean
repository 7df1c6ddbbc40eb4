/- Contracts of the document's How and of. -/
import Derived.Test.YtbmeinicjfmjlaaDoorU8Ref
namespace Go.Proofs.YtbmeinicjfmjlaaDoor
open Go.ChangeShapes Go.WideShapes Go.ChangeAt Go.RowKit
set_option linter.unusedVariables false

theorem sec_tl {a x : Int} (h : secB a x = true) : tlB x = true := decide_eq_true (sec_bd h)
def okJ (xs : List Int) (j : Nat) : Bool := if j = 1 then secB (xs.getD 0 0) (xs.getD 1 0) else tlB (xs.getD j 0)
theorem how_yes (xs : List Int) (h1 : 1 ≤ xs.length) (h4 : xs.length ≤ 4) (hl : (xs.length : Int) ≤ lng (xs.getD 0 0)) (hok : ∀ j, 1 ≤ j → j < xs.length → okJ xs j = true) :
    how xs = if lng (xs.getD 0 0) = xs.length then 2 else 1 := by
  match xs, h1, h4, hl, hok with
  | [a], _, _, hl, hok =>
    have hl : (1 : Int) ≤ lng a := hl
    show (if lng a = 1 then (2 : Int) else if 1 < lng a then 1 else 0) = if lng a = 1 then 2 else 1
    by_cases c : lng a = 1
    · rw [if_pos c, if_pos c]
    · rw [if_neg c, if_neg c, if_pos (by omega)]
  | [a, b], _, _, hl, hok =>
    have hl : (2 : Int) ≤ lng a := hl
    have k1 : secB a b = true := hok 1 (by omega) (by simp)
    show (if 2 ≤ lng a ∧ secB a b = true then (if lng a = 2 then (2 : Int) else 1) else 0) = if lng a = 2 then 2 else 1
    rw [if_pos ⟨hl, k1⟩]
  | [a, b, c], _, _, hl, hok =>
    have hl : (3 : Int) ≤ lng a := hl
    have k1 : secB a b = true := hok 1 (by omega) (by simp)
    have k2 : tlB c = true := hok 2 (by omega) (by simp)
    show (if 3 ≤ lng a ∧ secB a b = true ∧ tlB c = true then (if lng a = 3 then (2 : Int) else 1) else 0) = if lng a = 3 then 2 else 1
    rw [if_pos ⟨hl, k1, k2⟩]
  | [a, b, c, d], _, _, hl, hok =>
    have hl : (4 : Int) ≤ lng a := hl
    have k1 : secB a b = true := hok 1 (by omega) (by simp)
    have k2 : tlB c = true := hok 2 (by omega) (by simp)
    have k3 : tlB d = true := hok 3 (by omega) (by simp)
    have := lng_le a
    show (if 4 ≤ lng a ∧ secB a b = true ∧ tlB c = true ∧ tlB d = true then (2 : Int) else 0) = if lng a = 4 then 2 else 1
    rw [if_pos ⟨hl, k1, k2, k3⟩, if_pos (by omega)]
theorem how_no (xs : List Int) (h1 : 1 ≤ xs.length) (j : Nat) (j1 : 1 ≤ j) (j2 : j < xs.length) (hok : okJ xs j = false) : how xs = 0 := by
  match xs, j, j1, j2, hok with
  | [a], j, j1, j2, _ => simp at j2; omega
  | [a, b], j, j1, j2, hok =>
    obtain rfl : j = 1 := by simp at j2; omega
    have k1 : secB a b = false := hok
    simp [how, k1]
  | [a, b, c], j, j1, j2, hok =>
    have : j = 1 ∨ j = 2 := by simp at j2; omega
    rcases this with rfl | rfl
    · have k1 : secB a b = false := hok
      simp [how, k1]
    · have k1 : tlB c = false := hok
      simp [how, k1]
  | [a, b, c, d], j, j1, j2, hok =>
    have : j = 1 ∨ j = 2 ∨ j = 3 := by simp at j2; omega
    rcases this with rfl | rfl | rfl
    · have k1 : secB a b = false := hok
      simp [how, k1]
    · have k1 : tlB c = false := hok
      simp [how, k1]
    · have k1 : tlB d = false := hok
      simp [how, k1]
  | _ :: _ :: _ :: _ :: _ :: _, _, _, _, _ => simp [how]
theorem how_long (xs : List Int) (h : xs.length = 0 ∨ 4 < xs.length) : how xs = 0 := by
  match xs, h with
  | [], _ => rfl
  | [_], h => simp at h
  | [_, _], h => simp at h
  | [_, _, _], h => simp at h
  | [_, _, _, _], h => simp at h
  | _ :: _ :: _ :: _ :: _ :: _, _ => simp [how]
theorem how_short (xs : List Int) (h : lng (xs.getD 0 0) < (xs.length : Int)) : how xs = 0 := by
  match xs, h with
  | [], _ => rfl
  | [a], h =>
    have h : lng a < 1 := h
    show (if lng a = 1 then (2 : Int) else if 1 < lng a then 1 else 0) = 0
    rw [if_neg (by omega), if_neg (by omega)]
  | [a, b], h =>
    have h : lng a < 2 := h
    show (if 2 ≤ lng a ∧ secB a b = true then (if lng a = 2 then (2 : Int) else 1) else 0) = 0
    rw [if_neg (fun k => by omega)]
  | [a, b, c], h =>
    have h : lng a < 3 := h
    show (if 3 ≤ lng a ∧ secB a b = true ∧ tlB c = true then (if lng a = 3 then (2 : Int) else 1) else 0) = 0
    rw [if_neg (fun k => by omega)]
  | [a, b, c, d], h =>
    have h : lng a < 4 := h
    show (if 4 ≤ lng a ∧ secB a b = true ∧ tlB c = true ∧ tlB d = true then (2 : Int) else 0) = 0
    rw [if_neg (fun k => by omega)]
  | _ :: _ :: _ :: _ :: _ :: _, _ => simp [how]

/-- only draws -/
def Still (w w' : World) : Prop := ∃ m, w' = w.drewN m
theorem Still.refl (w : World) : Still w w := ⟨0, rfl⟩
theorem Still.drewN {w w' : World} (h : Still w w') (n : Nat) : Still w (w'.drewN n) := by
  obtain ⟨m, rfl⟩ := h
  exact ⟨m + n, by rw [World.drewN_drewN]⟩
theorem Still.cell {w w' : World} (h : Still w w') (a : Addr) : w'.cell? a = w.cell? a := by obtain ⟨m, rfl⟩ := h; rfl
theorem Still.below {w w' : World} (h : Still w w') : Below w.heap.size w w' := by obtain ⟨m, rfl⟩ := h; exact below_drewN' (Below.refl _ _) m
theorem quiet_left' {P : Program} {f : FuncId} {args : Array Value} {w : World} {n : Nat} {v : Value}
    (h : Calls P f args (w.drewN n) fun e w' => e = .returned v ∧ w.drewN n = w') : Calls P f args (w.drewN n) fun e w'' => e = .returned v ∧ ∃ m, w'' = w.drewN m :=
  h.mono fun _ _ ⟨he, hm⟩ => ⟨he, n, hm.symm⟩

set_option maxHeartbeats 2000000 in
theorem r_how_any (A : Option Addr) (n cap : Nat) (xs : List Int) (w : World) (hn : xs.length = n) (hI : Ints w w.heap.size .u8 A xs) (hB : Bts xs) (hm : n ≤ maxLen) :
    Calls Tryd.prog 26 #[.slice A n cap] w fun e w' => e = .returned (.int .i64 (how xs)) ∧ Still w w' := by
  subst hn
  unfold maxLen at hm
  by_cases hz : xs.length = 0
  · have HE := Lib.hid (how_long xs (.inl hz))
    rw [hz]
    go_enter Tryd.func26, Tryd.ntmps26
    go_wp2
    go_ret
    exact ⟨by rw [HE.out]; rfl, Still.refl w⟩
  have hz' : ((xs.length : Int) == 0) = false := beq_eq_false_iff_ne.2 (by omega)
  by_cases h4 : 4 < xs.length
  · have HE := Lib.hid (how_long xs (.inr h4))
    go_enter Tryd.func26, Tryd.ntmps26
    go_wp2
    go_ret
    exact ⟨by rw [HE.out]; rfl, Still.refl w⟩
  obtain ⟨b, o, rfl, hbl, hc⟩ := hI.at (by omega)
  have c0 : w.cell? ⟨b, o, none⟩ = some (.int .u8 (xs.getD 0 0)) := hc 0 (by omega)
  obtain ⟨x0, x1⟩ := hB.at (k := 0) (by omega)
  have HC := Lib.hid hc
  have HB := Lib.hid hB
  clear hI hc hB
  have h4' : decide (4 < (xs.length : Int)) = false := decide_eq_false (by omega)
  have hpos : 0 < xs.length := by omega
  by_cases hs : lng (xs.getD 0 0) < (xs.length : Int)
  · have HE := Lib.hid (how_short xs hs)
    generalize xs.getD 0 0 = a at c0 x0 x1 hs
    go_enter Tryd.func26, Tryd.ntmps26
    go_wp2_with fail
    with_reducible refine (r_long_any _ _ x0 x1).mono ?_
    rintro e w' ⟨rfl, rfl⟩
    go_wp2
    go_ret
    exact ⟨by rw [HE.out]; rfl, Still.refl w⟩
  have HY : Hid ((∀ j, 1 ≤ j → j < xs.length → okJ xs j = true) → how xs = if lng (xs.getD 0 0) = xs.length then 2 else 1) := how_yes xs (by omega) (by omega) (by omega)
  have HN : Hid (∀ j, 1 ≤ j → j < xs.length → okJ xs j = false → how xs = 0) := fun j => how_no xs (by omega) j
  have HO : Hid (∀ j, okJ xs j = if j = 1 then secB (xs.getD 0 0) (xs.getD 1 0) else tlB (xs.getD j 0)) := fun j => rfl
  generalize xs.getD 0 0 = a at c0 x0 x1 hs HY HO
  have hs' : decide (lng a < (xs.length : Int)) = false := decide_eq_false hs
  go_enter Tryd.func26, Tryd.ntmps26
  go_wp2_with fail
  with_reducible refine (r_long_any _ _ x0 x1).mono ?_
  rintro e w' ⟨rfl, rfl⟩
  go_wp2_with fail
  go_loopw [4] (fun i w1 => ∃ k : Nat, 1 ≤ k ∧ k ≤ xs.length ∧ i = .int .i64 k ∧ Still w w1 ∧ Hid (∀ j, 1 ≤ j → j < k → okJ xs j = true)) (fun i _ => xs.length - (intOf i).toNat)
  case atStart => exact ⟨1, by omega, by omega, rfl, Still.refl w, fun j h1 h2 => by omega⟩
  case round =>
    obtain ⟨k, hk1, hk, rfl, hst, HJ⟩ := hrel
    have hr0 : wr.cell? ⟨b, o, none⟩ = some (.int .u8 a) := (hst.cell _).trans c0
    by_cases hlt : k < xs.length
    · have hck : wr.cell? ⟨b, o + k, none⟩ = some (.int .u8 (xs.getD k 0)) := (hst.cell _).trans (HC.out k hlt)
      have hlt' : (k : Int) < xs.length := by omega
      have hOk := Lib.hid (HO.out k)
      by_cases hk1' : k = 1
      · subst hk1'
        generalize xs.getD 1 0 = x at hck HO hOk
        have h1x : (1 : Nat) < xs.length := hlt
        cases hsec : secB a x with
        | true =>
          have hb1 := sec_bd hsec
          have d1 : decide (x < 128) = false := decide_eq_false (by omega)
          have d2 : decide (191 < x) = false := decide_eq_false (by omega)
          go_wp2_with fail
          go_quiet ((go_at_call 32; exact quiet_left' (r_second_any _ _ _)))
          have HK : Hid (okJ xs 1 = true) := by rw [hOk.out]; exact hsec
          go_wp2
          go_roundw
          case rel => exact ⟨1 + 1, by omega, by omega, by go_num, hst.drewN _, fun j h1 h2 => by
            obtain rfl : j = 1 := by omega
            exact HK.out⟩
          case measure => simp [intOf]; omega
        | false =>
          have HE := Lib.hid (HN.out 1 (by omega) hlt (by rw [hOk.out]; exact hsec))
          go_wp2_with fail
          go_quiet ((go_at_call 32; exact quiet_left' (r_second_any _ _ _)))
          go_wp2
          go_ret
          exact ⟨by rw [HE.out]; rfl, hst.drewN _⟩
      · have hk2 : ((k : Int) == 1) = false := beq_eq_false_iff_ne.2 (by omega)
        have e : okJ xs k = tlB (xs.getD k 0) := by rw [hOk.out, if_neg hk1']
        generalize xs.getD k 0 = x at hck e
        have HE1 := Lib.hid e
        clear e hOk
        cases htl : tlB x with
        | true =>
          have hb1 := of_decide_eq_true htl
          have d1 : decide (x < 128) = false := decide_eq_false (by omega)
          have d2 : decide (191 < x) = false := decide_eq_false (by omega)
          have HK : Hid (okJ xs k = true) := HE1.out.trans htl
          go_wp2_with fail
          go_quiet (fail)
          go_wp2
          go_roundw
          case rel => exact ⟨k + 1, by omega, by omega, by go_num, hst.drewN _, fun j h1 h2 => by
            rcases Nat.lt_or_ge j k with h | h
            · exact HJ.out j h1 h
            · obtain rfl : j = k := by omega
              exact HK.out⟩
          case measure => simp [intOf]; omega
        | false =>
          have hb1 := of_decide_eq_false htl
          have HE := Lib.hid (HN.out k hk1 hlt (HE1.out.trans htl))
          by_cases h128 : x < 128
          · have d1 : decide (x < 128) = true := decide_eq_true h128
            go_wp2_with fail
            go_quiet (fail)
            go_wp2
            go_ret
            exact ⟨by rw [HE.out]; rfl, hst.drewN _⟩
          · have d1 : decide (x < 128) = false := decide_eq_false h128
            have d2 : decide (191 < x) = true := decide_eq_true (by omega)
            go_wp2_with fail
            go_quiet (fail)
            go_wp2
            go_ret
            exact ⟨by rw [HE.out]; rfl, hst.drewN _⟩
    · have hkk : k = xs.length := by omega
      subst hkk
      have HE := Lib.hid (HY.out HJ.out)
      have hlt' : ¬ (xs.length : Int) < xs.length := by omega
      by_cases hq : lng a = (xs.length : Int)
      · have hq' : (lng a == (xs.length : Int)) = true := beq_iff_eq.2 hq
        rw [if_pos hq] at HE
        clear hq
        go_wp2
        go_ret
        exact ⟨by rw [HE.out]; rfl, hst⟩
      · have hq' : (lng a == (xs.length : Int)) = false := beq_eq_false_iff_ne.2 hq
        rw [if_neg hq] at HE
        clear hq
        go_wp2
        go_ret
        exact ⟨by rw [HE.out]; rfl, hst⟩
end Go.Proofs.YtbmeinicjfmjlaaDoor
