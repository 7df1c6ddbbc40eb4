/- The reader of package utf8, told by the bytes that are begun. -/
import Derived.Test.YtbmeinicjfmjlaaDoorU8Push
namespace Go.Proofs.YtbmeinicjfmjlaaDoor
open Go.ChangeShapes Go.WideShapes Go.ChangeAt Go.RowKit
set_option linter.unusedVariables false

theorem lng_two {a : Int} (h : 2 ≤ lng a) : 194 ≤ a ∧ a ≤ 244 := by
  unfold lng at h
  apply Classical.byContradiction; intro hn
  have : a < 128 ∨ (128 ≤ a ∧ a < 194) ∨ 244 < a := by omega
  rcases this with c | c | c
  · rw [if_pos c] at h; omega
  · rw [if_neg (by omega), if_pos c.2] at h; omega
  · rw [if_neg (by omega), if_neg (by omega), if_neg (by omega), if_neg (by omega), if_neg (by omega)] at h; omega
theorem row_cases {a : Int} (h0 : 194 ≤ a) (h1 : a ≤ 244) : (a ≤ 223 ∧ rowOf a = 1) ∨ (a = 224 ∧ rowOf a = 2) ∨ ((225 ≤ a ∧ a ≤ 236) ∧ rowOf a = 3) ∨ (a = 237 ∧ rowOf a = 4) ∨ ((238 ≤ a ∧ a ≤ 239) ∧ rowOf a = 5) ∨ (a = 240 ∧ rowOf a = 6) ∨ ((241 ≤ a ∧ a ≤ 243) ∧ rowOf a = 7) ∨ (a = 244 ∧ rowOf a = 8) := by
  unfold rowOf
  (repeat' split) <;> omega
theorem row_facts {a : Int} (h : 2 ≤ lng a) : rowOf a < 9 ∧ ldS (rowOf a) = lng a ∧ ldLo (rowOf a) = lo2 a ∧ ldHi (rowOf a) = hi2 a ∧ 0 ≤ a - mkT a ∧ a - mkT a < 32 := by
  obtain ⟨h0, h1⟩ := lng_two h
  have hm : 0 ≤ a - mkT a ∧ a - mkT a < 32 := by unfold mkT; (repeat' split) <;> omega
  have fin : ∀ k : Nat, rowOf a = k → k < 9 → ldS k = lng a → ldLo k = lo2 a → ldHi k = hi2 a → rowOf a < 9 ∧ ldS (rowOf a) = lng a ∧ ldLo (rowOf a) = lo2 a ∧ ldHi (rowOf a) = hi2 a ∧ 0 ≤ a - mkT a ∧ a - mkT a < 32 := by
    intro k e1 e2 e3 e4 e5
    rw [e1]; exact ⟨e2, e3, e4, e5, hm⟩
  rcases row_cases h0 h1 with ⟨c, e⟩ | ⟨c, e⟩ | ⟨c, e⟩ | ⟨c, e⟩ | ⟨c, e⟩ | ⟨c, e⟩ | ⟨c, e⟩ | ⟨c, e⟩
  · exact fin 1 e (by omega) (by show (2 : Int) = _; unfold lng; (repeat' split) <;> omega) (by show (128 : Int) = _; unfold lo2; (repeat' split) <;> omega) (by show (191 : Int) = _; unfold hi2; (repeat' split) <;> omega)
  · exact fin 2 e (by omega) (by show (3 : Int) = _; unfold lng; (repeat' split) <;> omega) (by show (160 : Int) = _; unfold lo2; (repeat' split) <;> omega) (by show (191 : Int) = _; unfold hi2; (repeat' split) <;> omega)
  · exact fin 3 e (by omega) (by show (3 : Int) = _; unfold lng; (repeat' split) <;> omega) (by show (128 : Int) = _; unfold lo2; (repeat' split) <;> omega) (by show (191 : Int) = _; unfold hi2; (repeat' split) <;> omega)
  · exact fin 4 e (by omega) (by show (3 : Int) = _; unfold lng; (repeat' split) <;> omega) (by show (128 : Int) = _; unfold lo2; (repeat' split) <;> omega) (by show (159 : Int) = _; unfold hi2; (repeat' split) <;> omega)
  · exact fin 5 e (by omega) (by show (3 : Int) = _; unfold lng; (repeat' split) <;> omega) (by show (128 : Int) = _; unfold lo2; (repeat' split) <;> omega) (by show (191 : Int) = _; unfold hi2; (repeat' split) <;> omega)
  · exact fin 6 e (by omega) (by show (4 : Int) = _; unfold lng; (repeat' split) <;> omega) (by show (144 : Int) = _; unfold lo2; (repeat' split) <;> omega) (by show (191 : Int) = _; unfold hi2; (repeat' split) <;> omega)
  · exact fin 7 e (by omega) (by show (4 : Int) = _; unfold lng; (repeat' split) <;> omega) (by show (128 : Int) = _; unfold lo2; (repeat' split) <;> omega) (by show (191 : Int) = _; unfold hi2; (repeat' split) <;> omega)
  · exact fin 8 e (by omega) (by show (4 : Int) = _; unfold lng; (repeat' split) <;> omega) (by show (128 : Int) = _; unfold lo2; (repeat' split) <;> omega) (by show (143 : Int) = _; unfold hi2; (repeat' split) <;> omega)
theorem lng_one {a : Int} (h : lng a = 1) : a < 128 := by
  apply Classical.byContradiction; intro hn
  unfold lng at h; rw [if_neg hn] at h
  revert h; (repeat' split) <;> omega
theorem row_zero {a : Int} (h : a < 128) : rowOf a = 0 ∧ mkT a = 0 := by unfold rowOf mkT; rw [if_pos h, if_pos h]; exact ⟨rfl, rfl⟩
theorem sec_bd {a x : Int} (h : secB a x = true) : 128 ≤ x ∧ x ≤ 191 := by
  have h := of_decide_eq_true h
  unfold lo2 hi2 at h
  revert h; (repeat' split) <;> omega

def rr : List Int → Nat
  | [] => 0
  | a :: _ => rowOf a
/-- block g is a reader with bs begun -/
def RdAt (w : World) (g : Nat) (bs : List Int) : Prop := Blk w g 53 #[.int .i64 (bs.length : Int), .int .i64 (rr bs : Int), .int .i32 (bitsOf bs)]
def PushIs (g : Nat) (bs : List Int) (x : Int) (w : World) : Prop :=
  Calls Tryd.prog 21 #[.pointer (some ⟨g, 0, none⟩), .int .u8 x] w fun e w' => e = .returned (.tuple #[.int .i32 (pC bs x), .int .i64 (pH bs x)]) ∧ RdAt w' g (pS bs x) ∧ But g w w'

theorem push_of_no {g : Nat} {bs : List Int} {x l' r' b' : Int} {w : World} (hh : how (bs ++ [x]) = 0) (hk : RdAt w g bs) (hw : WithIs g x l' r' b' false w) : PushIs g bs x w := by
  have e1 : pC bs x = 0 := by simp [pC, hh]
  have e2 : pH bs x = 3 := by simp [pH, hh]
  have e3 : pS bs x = bs := by simp [pS, hh]
  unfold PushIs; rw [e1, e2, e3]
  exact push_refused g x _ _ _ l' r' b' w hk hw
theorem push_of_one {g : Nat} {bs : List Int} {x l' b' : Int} {r' : Nat} {w : World} (hh : how (bs ++ [x]) = 1) (hT : Tab w) (hk : RdAt w g bs) (hw : WithIs g x l' r' b' true w) (hr : r' < 9) (hl : l' < ldS r')
    (c1 : l' = ((bs ++ [x]).length : Int)) (c2 : r' = rr (bs ++ [x])) (c3 : b' = bitsOf (bs ++ [x])) : PushIs g bs x w := by
  have e1 : pC bs x = 0 := by simp [pC, hh]
  have e2 : pH bs x = 1 := by simp [pH, hh]
  have e3 : pS bs x = bs ++ [x] := by simp [pS, hh]
  unfold PushIs RdAt; rw [e1, e2, e3, ← c1, ← c2, ← c3]
  exact push_begun g x _ _ _ l' b' r' w hr hl hT hk hw
theorem push_of_two {g : Nat} {bs : List Int} {x l' b' : Int} {r' : Nat} {w : World} (hh : how (bs ++ [x]) = 2) (hT : Tab w) (hk : RdAt w g bs) (hw : WithIs g x l' r' b' true w) (hr : r' < 9) (hl : ¬ l' < ldS r')
    (c3 : b' = bitsOf (bs ++ [x])) : PushIs g bs x w := by
  have e1 : pC bs x = bitsOf (bs ++ [x]) := by simp [pC, hh]
  have e2 : pH bs x = 2 := by simp [pH, hh]
  have e3 : pS bs x = [] := by simp [pS, hh]
  unfold PushIs RdAt; rw [e1, e2, e3, ← c3]
  exact push_whole g x _ _ _ l' b' r' w hr hl hT hk hw

theorem push_any (g : Nat) (bs : List Int) (x : Int) (w : World) (h0 : 0 ≤ x) (h1 : x ≤ 255) (hbs : bs = [] ∨ how bs = 1) (hT : Tab w) (hk : RdAt w g bs) : PushIs g bs x w := by
  match bs, hbs with
  | [], _ =>
    have hw : WithIs g x (bgL x) (bgR x) (bgB x) (lead1 x) w := with_zero g x w h0 h1 hk hT
    have hl := lng_le x
    by_cases c0 : lng x = 0
    · have hh : how ([] ++ [x]) = 0 := by simp [how, c0]
      have e : lead1 x = false := by simp [lead1, c0]
      rw [e] at hw
      exact push_of_no hh hk hw
    · have e : lead1 x = true := by simp [lead1, c0]
      have e1 : bgL x = 1 := by simp [bgL, c0]
      have e2 : bgR x = (rowOf x : Nat) := by simp [bgR, c0]
      have e3 : bgB x = x - mkT x := by simp [bgB, c0]
      rw [e, e1, e2, e3] at hw
      by_cases c1 : lng x = 1
      · have hh : how ([] ++ [x]) = 2 := by simp [how, c1]
        have hr := (row_zero (lng_one c1)).1
        refine push_of_two hh hT hk hw (by omega) ?_ rfl
        rw [hr]; show ¬ (1 : Int) < 1; omega
      · have hh : how ([] ++ [x]) = 1 := by
          show (if lng x = 1 then (2 : Int) else if 1 < lng x then 1 else 0) = 1
          rw [if_neg c1, if_pos (by omega)]
        obtain ⟨f1, f2, f3⟩ := row_facts (a := x) (by omega)
        refine push_of_one hh hT hk hw f1 (by omega) rfl rfl rfl
  | [a], hbs =>
    have hh : how [a] = 1 := by rcases hbs with h | h; cases h; exact h
    have ha : 2 ≤ lng a := by
      have hh' : (if lng a = 1 then (2 : Int) else if 1 < lng a then 1 else 0) = 1 := hh
      revert hh'; (repeat' split) <;> omega
    obtain ⟨f1, f2, f3, f4, f5, f6⟩ := row_facts ha
    have hfol : folB 1 (rowOf a) x = secB a x := by simp [folB, secB, f3, f4]
    cases hs : secB a x with
    | false =>
      have hn : how ([a] ++ [x]) = 0 := by simp [how, hs]
      refine push_of_no hn hk (with_no g 1 (rowOf a) _ x w (by omega) (by omega) hk fun w' hk' hb => ?_)
      have := follows_one g (rowOf a) _ x w' f1 hk' (hT.below' hb)
      rw [hfol, hs] at this; exact this
    | true =>
      obtain ⟨x0, x1⟩ := sec_bd hs
      have hw : WithIs g x (1 + 1) (rowOf a) (bitsOf [a] * 64 + (x - 128)) true w := with_yes g 1 (rowOf a) (bitsOf [a]) x true w x0 x1 (by omega) (by omega) f5 (by show a - mkT a < 32768; omega) hk fun w' hk' hb => by
        have := follows_one g (rowOf a) _ x w' f1 hk' (hT.below' hb)
        rw [hfol, hs] at this; exact this
      by_cases c2 : lng a = 2
      · have hn : how ([a] ++ [x]) = 2 := by simp [how, hs, c2]
        exact push_of_two hn hT hk hw f1 (by omega) rfl
      · have hn : how ([a] ++ [x]) = 1 := by simp [how, hs, c2]; omega
        exact push_of_one hn hT hk hw f1 (by omega) rfl rfl rfl
  | [a, b], hbs =>
    have hh : how [a, b] = 1 := by rcases hbs with h | h; cases h; exact h
    have ha : 3 ≤ lng a ∧ secB a b = true := by
      have hh' : (if 2 ≤ lng a ∧ secB a b = true then (if lng a = 2 then (2 : Int) else 1) else 0) = 1 := hh
      by_cases c : 2 ≤ lng a ∧ secB a b = true
      · rw [if_pos c] at hh'; refine ⟨?_, c.2⟩; revert hh'; split <;> omega
      · rw [if_neg c] at hh'; cases hh'
    obtain ⟨f1, f2, f3, f4, f5, f6⟩ := row_facts (a := a) (by omega)
    obtain ⟨y0, y1⟩ := sec_bd ha.2
    cases hs : tlB x with
    | false =>
      have hn : how ([a, b] ++ [x]) = 0 := by simp [how, hs]
      refine push_of_no hn hk (with_no g 2 (rowOf a) _ x w (by omega) (by omega) hk fun w' hk' hb => ?_)
      have := follows_more g 2 (rowOf a) _ x w' (by omega) hk'
      rw [hs] at this; exact this
    | true =>
      have hx := of_decide_eq_true hs
      have hw : WithIs g x (2 + 1) (rowOf a) (bitsOf [a, b] * 64 + (x - 128)) true w := with_yes g 2 (rowOf a) (bitsOf [a, b]) x true w hx.1 hx.2 (by omega) (by omega) (by show 0 ≤ (a - mkT a) * 64 + (b - 128); omega) (by show (a - mkT a) * 64 + (b - 128) < 32768; omega) hk fun w' hk' hb => by
        have := follows_more g 2 (rowOf a) _ x w' (by omega) hk'
        rw [hs] at this; exact this
      by_cases c2 : lng a = 3
      · have hn : how ([a, b] ++ [x]) = 2 := by simp [how, hs, c2, ha.2]
        exact push_of_two hn hT hk hw f1 (by omega) rfl
      · have hn : how ([a, b] ++ [x]) = 1 := by simp [how, hs, c2, ha.1, ha.2]
        exact push_of_one hn hT hk hw f1 (by have := lng_le a; omega) rfl rfl rfl
  | [a, b, c], hbs =>
    have hh : how [a, b, c] = 1 := by rcases hbs with h | h; cases h; exact h
    have ha : 4 ≤ lng a ∧ secB a b = true ∧ tlB c = true := by
      have hh' : (if 3 ≤ lng a ∧ secB a b = true ∧ tlB c = true then (if lng a = 3 then (2 : Int) else 1) else 0) = 1 := hh
      by_cases c : 3 ≤ lng a ∧ secB a b = true ∧ tlB c = true
      · rw [if_pos c] at hh'; refine ⟨?_, c.2⟩; revert hh'; split <;> omega
      · rw [if_neg c] at hh'; cases hh'
    obtain ⟨f1, f2, f3, f4, f5, f6⟩ := row_facts (a := a) (by omega)
    obtain ⟨y0, y1⟩ := sec_bd ha.2.1
    have hc := of_decide_eq_true ha.2.2
    have h4 := lng_two (a := a) (by omega)
    have hm : a - mkT a ≤ 4 := by
      have h240 : 240 ≤ a := by
        apply Classical.byContradiction; intro hn
        have := ha.1; unfold lng at this; revert this; (repeat' split) <;> omega
      unfold mkT; rw [if_neg (by omega), if_neg (by omega), if_neg (by omega)]; omega
    cases hs : tlB x with
    | false =>
      have hn : how ([a, b, c] ++ [x]) = 0 := by simp [how, hs]
      refine push_of_no hn hk (with_no g 3 (rowOf a) _ x w (by omega) (by omega) hk fun w' hk' hb => ?_)
      have := follows_more g 3 (rowOf a) _ x w' (by omega) hk'
      rw [hs] at this; exact this
    | true =>
      have hx := of_decide_eq_true hs
      have hw : WithIs g x (3 + 1) (rowOf a) (bitsOf [a, b, c] * 64 + (x - 128)) true w := with_yes g 3 (rowOf a) (bitsOf [a, b, c]) x true w hx.1 hx.2 (by omega) (by omega) (by show 0 ≤ ((a - mkT a) * 64 + (b - 128)) * 64 + (c - 128); omega) (by show ((a - mkT a) * 64 + (b - 128)) * 64 + (c - 128) < 32768; omega) hk fun w' hk' hb => by
        have := follows_more g 3 (rowOf a) _ x w' (by omega) hk'
        rw [hs] at this; exact this
      have hn : how ([a, b, c] ++ [x]) = 2 := by simp [how, hs, ha.1, ha.2.1, ha.2.2]
      exact push_of_two hn hT hk hw f1 (by have := lng_le a; omega) rfl
  | _ :: _ :: _ :: _ :: _, hbs =>
    rcases hbs with h | h
    · cases h
    · have := (how_len1 h).2; simp at this
end Go.Proofs.YtbmeinicjfmjlaaDoor
