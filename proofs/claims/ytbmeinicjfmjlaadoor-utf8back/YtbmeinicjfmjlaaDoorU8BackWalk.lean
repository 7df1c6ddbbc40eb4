/- The walk of Utf8Back. -/
import Derived.Test.YtbmeinicjfmjlaaDoorU8AllWalk
import Derived.Test.YtbmeinicjfmjlaaDoorLaw00
import Derived.Test.YtbmeinicjfmjlaaDoorU8Inj
namespace Go.Proofs.YtbmeinicjfmjlaaDoor
open Go.ChangeShapes Go.WideShapes Go.ChangeAt Go.RowKit
set_option linter.unusedVariables false

def Scals (l : List Int) : Prop := ∀ c ∈ l, isB c = true
theorem Scals.at {l : List Int} (h : Scals l) {k : Nat} (hk : k < l.length) : isB (l.getD k 0) = true := by
  rw [List.getD_eq_getElem?_getD, List.getElem?_eq_getElem hk]; exact h _ (List.getElem_mem hk)
theorem txt_bts {l : List Int} (h : Scals l) : Bts (txt l) := by
  intro x hx
  simp only [txt, List.mem_flatMap] at hx
  obtain ⟨c, hc, hx⟩ := hx
  exact (scal_byt (h c hc)).bts x hx
theorem txt_drop (l : List Int) (k : Nat) (hk : k < l.length) : (txt l).drop (txt (l.take k)).length = byt (l.getD k 0) ++ txt (l.drop (k + 1)) := by
  have e : l = l.take k ++ (l.getD k 0 :: l.drop (k + 1)) := by
    rw [List.getD_eq_getElem?_getD, List.getElem?_eq_getElem hk]
    simp
  have e2 : txt l = txt (l.take k) ++ (byt (l.getD k 0) ++ txt (l.drop (k + 1))) := by
    conv => lhs; rw [e]
    simp [txt]
  rw [e2, List.drop_left]
theorem txt_at {l : List Int} (h : Scals l) : ∀ k, k ≤ l.length → AllAt (txt l) (txt (l.take k)).length (l.take k)
  | 0, _ => by simpa [txt] using AllAt.start (txt l)
  | k + 1, hk => by
    have hlt : k < l.length := by omega
    have ih := txt_at h k (by omega)
    have hd := txt_drop l k hlt
    obtain ⟨f1, f2, f3⟩ := first_byt (h.at hlt) (txt (l.drop (k + 1)))
    have hpos := (scal_byt (h.at hlt)).pos
    have hn : (txt (l.take k)).length < (txt l).length := by
      have := congrArg List.length hd
      rw [List.length_drop, List.length_append] at this
      omega
    have := ih.step hn (by rw [hd]; exact f1)
    rw [hd, f2, f3] at this
    rw [txt_snoc l k hlt, List.length_append, ← take_getD l k hlt]
    exact this
theorem allS_txt {l : List Int} (h : Scals l) : allS (txt l) = (l, (txt l).length, true) := by
  have := (txt_at h l.length (Nat.le_refl _)).done (by rw [List.take_length]; exact Nat.le_refl _)
  rw [List.take_length] at this
  exact this
theorem byt_size {c : Int} (h : isB c = true) : ((byt c).length : Int) = if c < 128 then 1 else if c < 2048 then 2 else if c < 65536 then 3 else 4 := by
  unfold byt; rw [h]
  simp only [if_true]
  (repeat' split) <;> simp
theorem snoc_size {l : List Int} (h : Scals l) {k : Nat} (hk : k < l.length) : ((txt (l.take (k + 1))).length : Int) = (txt (l.take k)).length + (if l.getD k 0 < 128 then 1 else if l.getD k 0 < 2048 then 2 else if l.getD k 0 < 65536 then 3 else 4 : Int) := by
  rw [txt_snoc l k hk, List.length_append, ← byt_size (h.at hk)]
  simp

set_option maxHeartbeats 2000000 in
theorem back_walk (a : Option Addr) (len cap : Nat) (z : List Int) (w : World) (hT : Tab w) (r : ArgRow .i64 w a len cap z) :
    Calls Tryd.prog 4 #[.slice a len cap] w fun e w' => e = .returned (.bool true) ∧ Below w.heap.size w w' := by
  go_enter Tryd.func4, Tryd.ntmps4
  go_wp2_with fail
  with_reducible refine (runes_any a len cap z w r).mono ?_
  rintro e w1 ⟨v1, l, rfl, hO1, hS, hl, hb1⟩
  obtain ⟨A1, c1, rfl, hc1, hcm1⟩ := own_form hO1
  have hI1 := Ints.own hO1
  have hT1 := hT.below' hb1
  have HI1 := Lib.hid hI1
  have hSc : Scals l := hS
  have HS := Lib.hid hSc
  have hlt := txt_len l
  clear hI1 hO1 hS hSc hc1 hcm1 r
  go_wp2_with fail
  with_reducible refine (text_any _ _ _ l _ rfl HI1.out (by omega)).mono ?_
  rintro e w2 ⟨v2, rfl, hO2, hb2⟩
  obtain ⟨A2, c2, rfl, hc2, hcm2⟩ := own_form hO2
  have HI2 := Lib.hid (Ints.own hO2)
  have hT2 := hT1.below' hb2
  have hb12 := hb1.trans (hb2.mono hb1.size)
  have HI12 := Lib.hid ((HI1.out.below hb2 (Nat.le_refl _)).more hb2.size)
  clear hO2
  go_wp2_with fail
  with_reducible refine (Calls.mono (all_any _ _ (txt l) _ hT2 HI2.out (txt_bts HS.out) (by omega) hc2 hcm2) (fun _ _ h => AllRes.sl h)).mono ?_
  rintro e w3 ⟨A3, c3, rfl, hI3, hb3⟩
  rw [allS_txt HS.out] at hI3 ⊢
  have HI3 := Lib.hid hI3
  have HI13 := Lib.hid ((HI12.out.below hb3 (Nat.le_refl _)).more hb3.size)
  have hT3 := hT2.below' hb3
  have hb13 := hb12.trans (hb3.mono hb12.size)
  clear hI3 hc2 hcm2
  go_wp2_with fail
  have hl60 : l.length ≤ 60 := hl
  go_loop [8, 9] (fun s i => ∃ k : Nat, k ≤ l.length ∧ i = .int .i64 k ∧ s = .int .i64 ((txt (l.take k)).length : Int)) (fun _ i => l.length - (intOf i).toNat)
  case atStart => exact ⟨0, Nat.zero_le _, rfl, rfl⟩
  case round =>
    obtain ⟨k, hk, rfl, rfl⟩ := hrel
    by_cases hlt2 : k < l.length
    · obtain ⟨b, o, rfl, hbl, hc⟩ := HI13.out.at (by omega)
      have hcell : w3.cell? ⟨b, o + k, none⟩ = some (.int .i32 (l.getD k 0)) := hc k hlt2
      have hlt' : (k : Int) < l.length := by omega
      have hsz := snoc_size HS.out hlt2
      have hb1' : (txt (l.take k)).length ≤ 240 := by
        have h1 := txt_len (l.take k)
        have h2 : (l.take k).length ≤ k := List.length_take_le _ _
        omega
      have HZ := Lib.hid hsz
      clear hc hsz
      generalize l.getD k 0 = x at hcell HZ
      generalize (txt (l.take k)).length = m at HZ hb1' ⊢
      generalize hm2 : (txt (l.take (k + 1))).length = m2 at HZ
      have HM2 := Lib.hid hm2
      clear hm2
      by_cases h1 : x < 128
      · go_wp2
        go_round
        case rel => exact ⟨k + 1, by omega, by go_num, by rw [HM2.out, HZ.out, if_pos h1]⟩
        case measure => simp [intOf]; omega
      have h1' : decide (x < 128) = false := decide_eq_false h1
      by_cases h2 : x < 2048
      · go_wp2
        go_round
        case rel => exact ⟨k + 1, by omega, by go_num, by rw [HM2.out, HZ.out, if_neg h1, if_pos h2]⟩
        case measure => simp [intOf]; omega
      have h2' : decide (x < 2048) = false := decide_eq_false h2
      by_cases h3 : x < 65536
      · go_wp2
        go_round
        case rel => exact ⟨k + 1, by omega, by go_num, by rw [HM2.out, HZ.out, if_neg h1, if_neg h2, if_pos h3]⟩
        case measure => simp [intOf]; omega
      · have h3' : decide (x < 65536) = false := decide_eq_false h3
        go_wp2
        go_round
        case rel => exact ⟨k + 1, by omega, by go_num, by rw [HM2.out, HZ.out, if_neg h1, if_neg h2, if_neg h3]⟩
        case measure => simp [intOf]; omega
    · obtain rfl : k = l.length := by omega
      have hlt' : ¬ (l.length : Int) < l.length := by omega
      rw [List.take_length]
      generalize (txt l).length = m at *
      have hmm : ((m : Int) == m) = true := by simp
      go_wp2_with fail
      with_reducible refine (same_yes A3 A1 l.length c3 c1 l w3 rfl HI3.out HI13.out (by simp only [maxLen]; omega)).mono ?_
      rintro e w4 ⟨rfl, hs4⟩
      have hb4 := hb13.trans (hs4.below.mono hb13.size)
      have hT4 := hT3.below' hs4.below
      clear hs4
      go_wp2_with fail
      with_reducible refine (awake_any _ hT4).mono ?_
      rintro e w5 ⟨rfl, hb5'⟩
      have hb5 := hb4.trans (hb5'.mono hb4.size)
      clear hb5'
      go_wp2
      go_ret
      exact ⟨rfl, hb5⟩
end Go.Proofs.YtbmeinicjfmjlaaDoor
