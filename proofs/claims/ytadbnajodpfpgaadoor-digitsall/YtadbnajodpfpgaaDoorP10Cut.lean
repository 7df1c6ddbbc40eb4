/- The program's cutDigits, isWholePart, cutFraction, cutSign, boundedPower, readPower by their contracts. -/
import Derived.Test.YtadbnajodpfpgaaDoorP10Str
namespace Go.Proofs.YtadbnajodpfpgaaDoor
set_option maxRecDepth 100000
open Go.ChangeShapes Go.WideShapes Go.ChangeAt Go.RowKit
set_option linter.unusedVariables false
set_option linter.unusedSimpArgs false

/-- the digits at the front, and what is behind them -/
def dgB (s : ByteArray) : ByteArray := bs ((L8 s).takeWhile isD)
def rsB (s : ByteArray) : ByteArray := bs ((L8 s).dropWhile isD)
theorem dgB_le (s : ByteArray) : (dgB s).size ≤ s.size := by
  unfold dgB
  rw [bs_size, ← L8_len]
  exact (List.takeWhile_sublist isD).length_le
theorem rsB_le (s : ByteArray) : (rsB s).size ≤ s.size := by
  unfold rsB
  rw [bs_size, ← L8_len]
  exact (List.dropWhile_sublist isD).length_le
theorem cutB_le (s : ByteArray) (c : UInt8) : (cutB s c).size ≤ s.size := by
  unfold cutB
  split
  · rw [← L8_len, L8_cut, List.length_take, List.length_drop, L8_len]; omega
  · exact Nat.le_refl _
theorem cut_is {s : ByteArray} {k : Nat} (hk : k ≤ s.size) (h : allB ((L8 s).take k) = true) (hs : k = s.size ∨ ∃ h : k < s.size, isD s[k] = false) : s.extract 0 k = dgB s ∧ s.extract k s.size = rsB s := by
  have h1 := tw_at (l := L8 s) (k := k) (by rw [L8_len]; exact hk) h (by
    rcases hs with hs | ⟨h2, hd⟩
    · exact .inl (by rw [L8_len]; exact hs)
    · exact .inr ⟨s[k], L8_at s k h2, hd⟩)
  unfold dgB rsB
  refine ⟨L8_inj ?_, L8_inj ?_⟩
  · rw [L8_cut, L8_bs, h1.1]; simp
  · rw [L8_cut, L8_bs, h1.2]; exact List.take_of_length_le (by rw [List.length_drop, L8_len]; exact Nat.le_refl _)
theorem ret_str2 {a b c d : ByteArray} (h1 : a = c) (h2 : b = d) : Ending.returned (.tuple #[.string a, .string b]) = .returned (.tuple #[.string c, .string d]) := by rw [h1, h2]

set_option maxHeartbeats 2000000 in
theorem cutDigits_any (s : ByteArray) (w : World) (hs : s.size ≤ 1000000) : Calls Tryd.prog 25 #[.string s] w fun e w' => e = .returned (.tuple #[.string (dgB s), .string (rsB s)]) ∧ Still w w' := by
  generalize hr1 : dgB s = r1
  generalize hr2 : rsB s = r2
  have HR1 := Lib.hid hr1
  have HR2 := Lib.hid hr2
  clear hr1 hr2
  go_enter Tryd.func25, Tryd.ntmps25
  go_wp2_with fail
  go_loop [4] (fun n => ∃ k : Nat, k ≤ s.size ∧ n = .int .i64 k ∧ allB ((L8 s).take k) = true) (fun n => s.size - (intOf n).toNat)
  case atStart => exact ⟨0, by omega, rfl, rfl⟩
  case round =>
    obtain ⟨k, hk, rfl, hal⟩ := hrel
    have HA := Lib.hid hal
    clear hal
    by_cases hlt : k < s.size
    · have hlt' : (k : Int) < s.size := by omega
      have HT := Lib.hid (L8_take s k hlt)
      rcases isD_ask s[k] with ⟨hd, h1, h2, h3, h4⟩ | ⟨hd, h1, h3⟩ | ⟨hd, h1, h2, h3, h4⟩
      · have HD := Lib.hid hd
        clear hd
        go_wp2
        go_round
        case rel => exact ⟨k + 1, by omega, by go_num, by rw [HT.out, allB_snoc, HA.out, HD.out]; rfl⟩
        case measure => simp [intOf]; omega
      · have HE := Lib.hid (cut_is hk HA.out (.inr ⟨hlt, hd⟩))
        clear hd
        go_wp2_with fail
        go_quiet (fail)
        go_wp2
        go_ret2
        exact ⟨ret_str2 (HE.out.1.trans HR1.out) (HE.out.2.trans HR2.out), _, rfl⟩
      · have HE := Lib.hid (cut_is hk HA.out (.inr ⟨hlt, hd⟩))
        clear hd
        go_wp2_with fail
        go_quiet (fail)
        go_wp2
        go_ret2
        exact ⟨ret_str2 (HE.out.1.trans HR1.out) (HE.out.2.trans HR2.out), _, rfl⟩
    · have hlt' : ¬ (k : Int) < s.size := by omega
      have HE := Lib.hid (cut_is hk HA.out (.inl (by omega)))
      go_wp2_with fail
      go_quiet (fail)
      go_wp2
      go_ret2
      exact ⟨ret_str2 (HE.out.1.trans HR1.out) (HE.out.2.trans HR2.out), _, rfl⟩

/-- may it stand ahead of a point? -/
def wpB (l : List UInt8) : Bool := l == [48] || (l != [] && l.head? != some 48)
set_option maxHeartbeats 1000000 in
theorem isWholePart_any (s : ByteArray) (w : World) (hs : s.size ≤ 1000000) : Calls Tryd.prog 29 #[.string s] w fun e w' => e = .returned (.bool (wpB (L8 s))) ∧ w = w' := by
  have HW : Hid (wpB (L8 s) = (s.toList == [48] || (s.toList != [] && (L8 s).head? != some 48))) := Lib.hid (by rw [L8_toList]; rfl)
  generalize wpB (L8 s) = r at *
  cases h1 : (s.toList == [48]) with
  | true =>
    have hr : r = true := by rw [HW.out, h1]; rfl
    subst hr
    clear HW
    go_enter Tryd.func29, Tryd.ntmps29
    go_wp2
    go_ret
    exact ⟨rfl, rfl⟩
  | false =>
    cases h2 : (s.toList == []) with
    | true =>
      have h2' : (s.toList != []) = false := by unfold bne; rw [h2]; rfl
      have hr : r = false := by rw [HW.out, h1, h2']; rfl
      subst hr
      clear HW
      go_enter Tryd.func29, Tryd.ntmps29
      go_wp2
      go_ret
      exact ⟨rfl, rfl⟩
    | false =>
      have h2' : (s.toList != []) = true := by unfold bne; rw [h2]; rfl
      have h0 : 0 < s.size := by
        rcases Nat.eq_zero_or_pos s.size with h0 | h0
        · have e : L8 s = [] := List.eq_nil_of_length_eq_zero (by rw [L8_len]; exact h0)
          rw [L8_toList, e] at h2; cases h2
        · exact h0
      have hh : (L8 s).head? = some s[0] := by
        have := L8_drop s 0 h0
        rw [List.drop_zero] at this
        rw [this]; rfl
      rcases byte_is s[0] 48 48 rfl with ⟨hc, hcb⟩ | ⟨hc, hcb⟩
      · have hcn : ((s[0].toNat : Int) != 48) = false := by unfold bne; rw [hcb]; rfl
        have hr : r = false := by rw [HW.out, h1, h2', hh, hc]; rfl
        subst hr
        clear HW hh hc
        go_enter Tryd.func29, Tryd.ntmps29
        go_wp2
        go_ret
        exact ⟨rfl, rfl⟩
      · have hcn : ((s[0].toNat : Int) != 48) = true := by unfold bne; rw [hcb]; rfl
        have hr : r = true := by rw [HW.out, h1, h2', hh]; simpa using hc
        subst hr
        clear HW hh hc
        go_enter Tryd.func29, Tryd.ntmps29
        go_wp2
        go_ret
        exact ⟨rfl, rfl⟩

/-- what cutFraction tells -/
def frF (s : ByteArray) : ByteArray := if hdB s 46 then dgB (cutB s 46) else bs []
def frR (s : ByteArray) : ByteArray := if hdB s 46 then rsB (cutB s 46) else s
def frO (s : ByteArray) : Bool := if hdB s 46 then !(dgB (cutB s 46)).toList.isEmpty else true
set_option maxHeartbeats 1000000 in
theorem cutFraction_any (s : ByteArray) (w : World) (hs : s.size ≤ 1000000) : Calls Tryd.prog 27 #[.string s] w fun e w' => e = .returned (.tuple #[.string (frF s), .string (frR s), .bool (frO s)]) ∧ Still w w' := by
  have HC := Lib.hid (fun W => cutPrefix_any s 46 W hs)
  have HD := Lib.hid (fun W => cutDigits_any (cutB s 46) W (by have := cutB_le s 46; omega))
  unfold frF frR frO
  generalize cutB s 46 = t at *
  generalize dgB t = d at *
  generalize rsB t = r at *
  cases hb : hdB s 46 with
  | true =>
    rw [hb] at HC
    rw [if_pos rfl, if_pos rfl, if_pos rfl]
    clear hb
    go_enter Tryd.func27, Tryd.ntmps27
    go_wp2_with fail
    with_reducible refine (HC.out _).mono ?_
    rintro e w1 ⟨rfl, rfl⟩
    go_wp2_with fail
    with_reducible refine (HD.out _).mono ?_
    rintro e w1 ⟨rfl, hw1⟩
    go_wp2
    go_ret3
    exact ⟨rfl, hw1⟩
  | false =>
    rw [hb] at HC
    rw [if_neg Bool.false_ne_true, if_neg Bool.false_ne_true, if_neg Bool.false_ne_true]
    clear hb HD
    go_enter Tryd.func27, Tryd.ntmps27
    go_wp2_with fail
    with_reducible refine (HC.out _).mono ?_
    rintro e w1 ⟨rfl, rfl⟩
    go_wp2
    go_ret3
    exact ⟨rfl, Still.refl _⟩

/-- what cutSign tells -/
def sgS (s : ByteArray) : Int := if hdB s 45 then -1 else 1
def sgR (s : ByteArray) : ByteArray := if hdB s 45 then cutB s 45 else cutB s 43
set_option maxHeartbeats 1000000 in
theorem cutSign_any (s : ByteArray) (w : World) (hs : s.size ≤ 1000000) : Calls Tryd.prog 39 #[.string s] w fun e w' => e = .returned (.tuple #[.int .i64 (sgS s), .string (sgR s)]) ∧ w = w' := by
  have HC := Lib.hid (fun W => cutPrefix_any s 45 W hs)
  have HT := Lib.hid (fun W => trimPrefix_any s 43 W hs)
  unfold sgS sgR
  generalize cutB s 45 = t at *
  generalize cutB s 43 = u at *
  cases hb : hdB s 45 with
  | true =>
    rw [hb] at HC
    rw [if_pos rfl, if_pos rfl]
    clear hb HT
    go_enter Tryd.func39, Tryd.ntmps39
    go_wp2_with fail
    with_reducible refine (HC.out _).mono ?_
    rintro e w1 ⟨rfl, rfl⟩
    go_wp2
    go_ret2
    exact ⟨rfl, rfl⟩
  | false =>
    rw [hb] at HC
    rw [if_neg Bool.false_ne_true, if_neg Bool.false_ne_true]
    clear hb
    go_enter Tryd.func39, Tryd.ntmps39
    go_wp2_with fail
    with_reducible refine (HC.out _).mono ?_
    rintro e w1 ⟨rfl, rfl⟩
    go_wp2_with fail
    with_reducible refine (HT.out _).mono ?_
    rintro e w1 ⟨rfl, rfl⟩
    go_wp2
    go_ret2
    exact ⟨rfl, rfl⟩

set_option maxHeartbeats 1000000 in
theorem boundedPower_any (s : ByteArray) (w : World) (hs : s.size ≤ 1000000) (hd : allD (L8 s)) : Calls Tryd.prog 40 #[.string s] w fun e w' => e = .returned (.int .i64 (exF (L8 s))) ∧ w = w' := by
  have HD := Lib.hid hd
  clear hd
  generalize hr : exF (L8 s) = r
  have HR := Lib.hid hr
  clear hr
  go_enter Tryd.func40, Tryd.ntmps40
  go_wp2_with fail
  go_loop [3, 7] (fun v i => ∃ k : Nat, k ≤ s.size ∧ i = .int .i64 k ∧ v = .int .i64 (exF ((L8 s).take k) : Int)) (fun _ i => s.size - (intOf i).toNat)
  case atStart => exact ⟨0, by omega, rfl, rfl⟩
  case round =>
    obtain ⟨k, hk, rfl, rfl⟩ := hrel
    have hcap : exF ((L8 s).take k) ≤ 1000000000 := by rw [exF_num]; omega
    by_cases hlt : k < s.size
    · have hlt' : (k : Int) < s.size := by omega
      have HT : Hid (exF ((L8 s).take (k + 1)) = min (10 * exF ((L8 s).take k) + dv s[k]) 1000000000) := Lib.hid (by rw [L8_take s k hlt, exF_snoc])
      have hdg := isD_lo.1 (HD.out s[k] (List.mem_of_getElem? (L8_at s k hlt)))
      obtain ⟨hd1, hd2⟩ := hdg
      generalize exF ((L8 s).take k) = N at *
      go_wp2
      go_round
      case rel => exact ⟨k + 1, by omega, by go_num, by rw [HT.out]; unfold dv; exact congrArg _ (by omega)⟩
      case measure => simp [intOf]; omega
    · have hlt' : ¬ (k : Int) < s.size := by omega
      have hkk : (L8 s).take k = L8 s := List.take_of_length_le (by rw [L8_len]; omega)
      have hrr : exF ((L8 s).take k) = r := by rw [hkk, HR.out]
      rw [hrr] at *
      clear hkk HR hrr
      go_wp2
      go_ret
      exact ⟨rfl, rfl⟩

/-- the power of ten that ends a number -/
def powF (l : List UInt8) : Option Int :=
  if l = [] then some 0
  else if l.head? = some 101 ∨ l.head? = some 69 then
    let t := if l.tail.head? = some 45 ∨ l.tail.head? = some 43 then l.tail.tail else l.tail
    if t.takeWhile isD = [] then none
    else if t.dropWhile isD = [] then some (if l.tail.head? = some 45 then -(exF (t.takeWhile isD) : Int) else exF (t.takeWhile isD))
    else none
  else none
theorem read_pow (n : Bool) (d : List UInt8) (e : Int) (s : List UInt8) : readE n d e s = (powF s).map fun k => normF ⟨n, d, e + k⟩ := by
  unfold readE powF
  dsimp only
  by_cases h1 : s = []
  · rw [if_pos h1, if_pos h1]; simp
  · rw [if_neg h1, if_neg h1]
    by_cases h2 : s.head? = some 101 ∨ s.head? = some 69
    · rw [if_pos h2, if_pos h2]
      generalize (if s.tail.head? = some 45 ∨ s.tail.head? = some 43 then s.tail.tail else s.tail) = t
      by_cases h3 : t.takeWhile isD = []
      · rw [if_pos h3, if_pos h3]; rfl
      · rw [if_neg h3, if_neg h3]
        by_cases h4 : t.dropWhile isD = []
        · rw [if_pos h4, if_pos h4]; rfl
        · rw [if_neg h4, if_neg h4]; rfl
    · rw [if_neg h2, if_neg h2]; rfl
def powV : Option Int → Value
  | some k => .tuple #[.int .i64 k, .bool true]
  | none => .tuple #[.int .i64 0, .bool false]
theorem L8_cutB (s : ByteArray) (c : UInt8) : L8 (cutB s c) = if (L8 s).head? = some c then (L8 s).tail else L8 s := by
  unfold cutB hdB
  by_cases h : (L8 s).head? = some c
  · rw [if_pos h, if_pos (by simpa using h), L8_cut, List.drop_one]
    exact List.take_of_length_le (by rw [List.length_tail, L8_len]; exact Nat.le_refl _)
  · rw [if_neg h, if_neg (by simpa using h)]
theorem sg_is (s : ByteArray) : L8 (sgR s) = (if (L8 s).head? = some 45 ∨ (L8 s).head? = some 43 then (L8 s).tail else L8 s) ∧ sgS s = if (L8 s).head? = some 45 then -1 else 1 := by
  have hb : hdB s 45 = decide ((L8 s).head? = some 45) := by
    unfold hdB
    by_cases h : (L8 s).head? = some 45 <;> simp [h]
  unfold sgR sgS
  rw [hb]
  by_cases h : (L8 s).head? = some 45
  · simp only [h, decide_true, if_true, true_or, L8_cutB, and_self]
  · simp only [h, decide_false, Bool.false_eq_true, if_false, false_or, L8_cutB, and_self]
theorem L8_tail (s : ByteArray) : L8 (s.extract 1 s.size) = (L8 s).tail := by
  rw [L8_cut, List.drop_one]
  exact List.take_of_length_le (by rw [List.length_tail, L8_len]; exact Nat.le_refl _)
theorem tw_allD (l : List UInt8) : allD (l.takeWhile isD) := fun c hc => by
  induction l with
  | nil => cases hc
  | cons x l ih =>
    rw [List.takeWhile_cons] at hc
    split at hc
    · rename_i hx
      rcases List.mem_cons.1 hc with rfl | hc
      · exact hx
      · exact ih hc
    · cases hc
theorem nil_ask (s : ByteArray) : (L8 s = [] ∧ (s.toList == []) = true ∧ s.toList.isEmpty = true) ∨ (L8 s ≠ [] ∧ (s.toList == []) = false ∧ s.toList.isEmpty = false ∧ 0 < s.size) := by
  rw [L8_toList]
  by_cases h : L8 s = []
  · rw [h]; exact .inl ⟨rfl, rfl, rfl⟩
  · refine .inr ⟨h, by simpa using h, by simpa using h, ?_⟩
    have := List.length_pos_iff.2 h
    rwa [L8_len] at this

set_option maxHeartbeats 2000000 in
theorem readPower_any (s : ByteArray) (w : World) (hs : s.size ≤ 1000000) : Calls Tryd.prog 28 #[.string s] w fun e w' => e = .returned (powV (powF (L8 s))) ∧ Still w w' := by
  generalize hr : powF (L8 s) = r
  unfold powF at hr
  dsimp only at hr
  rcases nil_ask s with ⟨hn, he, he2⟩ | ⟨hn, he, he2, h0⟩
  · rw [if_pos hn] at hr
    subst hr
    clear hn
    go_enter Tryd.func28, Tryd.ntmps28
    go_wp2
    go_ret2
    exact ⟨rfl, Still.refl _⟩
  · rw [if_neg hn] at hr
    have hh : (L8 s).head? = some s[0] := by
      have := L8_drop s 0 h0
      rw [List.drop_zero] at this
      rw [this]; rfl
    rw [hh] at hr
    have HTL := Lib.hid (L8_tail s)
    by_cases hex : s[0] = 101 ∨ s[0] = 69
    · have hb : ((s[0].toNat : Int) != 101) = false ∨ (((s[0].toNat : Int) != 101) = true ∧ ((s[0].toNat : Int) != 69) = false) := by
        rcases hex with h | h
        · exact .inl (by rw [h]; rfl)
        · exact .inr ⟨by rw [h]; rfl, by rw [h]; rfl⟩
      have hpre : (some s[0] = some (101 : UInt8) ∨ some s[0] = some (69 : UInt8)) := by simpa using hex
      rw [if_pos hpre] at hr
      clear hpre hex hh hn
      obtain ⟨t, ht⟩ : ∃ t, s.extract 1 s.size = t := ⟨_, rfl⟩
      rw [ht] at HTL
      have htl : t.size ≤ 1000000 := by rw [← L8_len, HTL.out, List.length_tail, L8_len]; omega
      rw [← HTL.out] at hr
      clear HTL
      obtain ⟨hsg, hss⟩ := sg_is t
      have hul : (sgR t).size ≤ 1000000 := by
        unfold sgR
        have h1 := cutB_le t 45
        have h2 := cutB_le t 43
        split <;> omega
      rw [← hsg] at hr
      have HC := Lib.hid (fun W => cutSign_any t W htl)
      have HD := Lib.hid (fun W => cutDigits_any (sgR t) W hul)
      have hdl := dgB_le (sgR t)
      have HB := Lib.hid (fun W => boundedPower_any (dgB (sgR t)) W (by omega) (tw_allD _))
      have e1 : L8 (dgB (sgR t)) = (L8 (sgR t)).takeWhile isD := rfl
      have e2 : L8 (rsB (sgR t)) = (L8 (sgR t)).dropWhile isD := rfl
      rw [← e1, ← e2] at hr
      have hcap : exF (L8 (dgB (sgR t))) ≤ 1000000000 := by rw [exF_num]; omega
      clear e1 e2 hsg
      generalize sgR t = u at *
      generalize dgB u = d at *
      generalize rsB u = v at *
      generalize sgS t = sg at *
      generalize exF (L8 d) = E at *
      have HR := Lib.hid hr
      have HS := Lib.hid hss
      clear hr hss
      rcases nil_ask d with ⟨hn, hd1, hd2⟩ | ⟨hn, hd1, hd2, hd3⟩
      · have hrr : r = none := by rw [← HR.out, if_pos hn]
        subst hrr
        clear hn HR HS
        rcases hb with hb1 | ⟨hb1, hb2⟩
        · skip
          go_enter Tryd.func28, Tryd.ntmps28
          go_wp2_with fail
          with_reducible refine (HC.out _).mono ?_
          rintro e w1 ⟨rfl, rfl⟩
          go_wp2_with fail
          with_reducible refine (HD.out _).mono ?_
          rintro e w1 ⟨rfl, hw1⟩
          go_wp2
          go_ret2
          exact ⟨rfl, hw1⟩
        · skip
          go_enter Tryd.func28, Tryd.ntmps28
          go_wp2_with fail
          with_reducible refine (HC.out _).mono ?_
          rintro e w1 ⟨rfl, rfl⟩
          go_wp2_with fail
          with_reducible refine (HD.out _).mono ?_
          rintro e w1 ⟨rfl, hw1⟩
          go_wp2
          go_ret2
          exact ⟨rfl, hw1⟩
      · rw [if_neg hn] at HR
        clear hn
        rcases nil_ask v with ⟨hn, hv1, hv2⟩ | ⟨hn, hv1, hv2, hv3⟩
        · rw [if_pos hn] at HR
          have hrr : r = some (sg * (E : Int)) := by
            rw [← HR.out, HS.out]
            by_cases h45 : (L8 t).head? = some 45
            · rw [if_pos h45, if_pos h45]; exact congrArg _ (by omega)
            · rw [if_neg h45, if_neg h45]; exact congrArg _ (by omega)
          have hsg : sg = 1 ∨ sg = -1 := by
            rw [HS.out]; split
            · exact .inr rfl
            · exact .inl rfl
          clear hn HR HS
          subst hrr
          rcases hsg with rfl | rfl
          · rcases hb with hb1 | ⟨hb1, hb2⟩
            · skip
              go_enter Tryd.func28, Tryd.ntmps28
              go_wp2_with fail
              with_reducible refine (HC.out _).mono ?_
              rintro e w1 ⟨rfl, rfl⟩
              go_wp2_with fail
              with_reducible refine (HD.out _).mono ?_
              rintro e w1 ⟨rfl, hw1⟩
              go_wp2_with fail
              with_reducible refine (HB.out _).mono ?_
              rintro e w2 ⟨rfl, rfl⟩
              go_wp2
              go_ret2
              exact ⟨by unfold powV; dsimp only [Array.getD]; first | rfl | (rw [show (1 : Int) * (E : Int) = E by omega]; rfl), hw1⟩
            · skip
              go_enter Tryd.func28, Tryd.ntmps28
              go_wp2_with fail
              with_reducible refine (HC.out _).mono ?_
              rintro e w1 ⟨rfl, rfl⟩
              go_wp2_with fail
              with_reducible refine (HD.out _).mono ?_
              rintro e w1 ⟨rfl, hw1⟩
              go_wp2_with fail
              with_reducible refine (HB.out _).mono ?_
              rintro e w2 ⟨rfl, rfl⟩
              go_wp2
              go_ret2
              exact ⟨by unfold powV; dsimp only [Array.getD]; first | rfl | (rw [show (1 : Int) * (E : Int) = E by omega]; rfl), hw1⟩
          · rcases hb with hb1 | ⟨hb1, hb2⟩
            · skip
              go_enter Tryd.func28, Tryd.ntmps28
              go_wp2_with fail
              with_reducible refine (HC.out _).mono ?_
              rintro e w1 ⟨rfl, rfl⟩
              go_wp2_with fail
              with_reducible refine (HD.out _).mono ?_
              rintro e w1 ⟨rfl, hw1⟩
              go_wp2_with fail
              with_reducible refine (HB.out _).mono ?_
              rintro e w2 ⟨rfl, rfl⟩
              go_wp2
              go_ret2
              exact ⟨by unfold powV; dsimp only [Array.getD]; first | rfl | (rw [show (-1 : Int) * (E : Int) = -E by omega]; rfl), hw1⟩
            · skip
              go_enter Tryd.func28, Tryd.ntmps28
              go_wp2_with fail
              with_reducible refine (HC.out _).mono ?_
              rintro e w1 ⟨rfl, rfl⟩
              go_wp2_with fail
              with_reducible refine (HD.out _).mono ?_
              rintro e w1 ⟨rfl, hw1⟩
              go_wp2_with fail
              with_reducible refine (HB.out _).mono ?_
              rintro e w2 ⟨rfl, rfl⟩
              go_wp2
              go_ret2
              exact ⟨by unfold powV; dsimp only [Array.getD]; first | rfl | (rw [show (-1 : Int) * (E : Int) = -E by omega]; rfl), hw1⟩
        · have hrr : r = none := by rw [← HR.out, if_neg hn]
          subst hrr
          clear hn HR HS
          rcases hb with hb1 | ⟨hb1, hb2⟩
          · skip
            go_enter Tryd.func28, Tryd.ntmps28
            go_wp2_with fail
            with_reducible refine (HC.out _).mono ?_
            rintro e w1 ⟨rfl, rfl⟩
            go_wp2_with fail
            with_reducible refine (HD.out _).mono ?_
            rintro e w1 ⟨rfl, hw1⟩
            go_wp2
            go_ret2
            exact ⟨rfl, hw1⟩
          · skip
            go_enter Tryd.func28, Tryd.ntmps28
            go_wp2_with fail
            with_reducible refine (HC.out _).mono ?_
            rintro e w1 ⟨rfl, rfl⟩
            go_wp2_with fail
            with_reducible refine (HD.out _).mono ?_
            rintro e w1 ⟨rfl, hw1⟩
            go_wp2
            go_ret2
            exact ⟨rfl, hw1⟩
    · have hb1 : ((s[0].toNat : Int) != 101) = true := by
        have h : s[0] ≠ 101 := fun h => hex (.inl h)
        rcases byte_is s[0] 101 101 rfl with ⟨hc, hcb⟩ | ⟨hc, hcb⟩
        · exact absurd hc h
        · unfold bne; rw [hcb]; rfl
      have hb2 : ((s[0].toNat : Int) != 69) = true := by
        have h : s[0] ≠ 69 := fun h => hex (.inr h)
        rcases byte_is s[0] 69 69 rfl with ⟨hc, hcb⟩ | ⟨hc, hcb⟩
        · exact absurd hc h
        · unfold bne; rw [hcb]; rfl
      have hrr : r = none := by rw [← hr, if_neg (by simpa using hex)]
      subst hrr
      clear hr hex hn hh HTL
      go_enter Tryd.func28, Tryd.ntmps28
      go_wp2
      go_ret2
      exact ⟨rfl, Still.refl _⟩
end Go.Proofs.YtadbnajodpfpgaaDoor
