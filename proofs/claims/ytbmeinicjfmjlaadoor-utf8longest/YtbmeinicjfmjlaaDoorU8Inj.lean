/- Plain mathematics: the bytes of a scalar tell the scalar, whatever follows. -/
import Derived.Test.YtbmeinicjfmjlaaDoorU8First
import Derived.Test.YtbmeinicjfmjlaaDoorU8Text
import Derived.Laws.BytesArg
import Derived.Lib.Strings
namespace Go.Proofs.YtbmeinicjfmjlaaDoor
set_option linter.unusedVariables false

theorem lng_is1 {a : Int} (h : a < 128) : lng a = 1 := by unfold lng; rw [if_pos h]
theorem lng_is2 {a : Int} (h : 194 ≤ a) (g : a ≤ 223) : lng a = 2 := by unfold lng; (repeat' split) <;> omega
theorem lng_is3 {a : Int} (h : 224 ≤ a) (g : a ≤ 239) : lng a = 3 := by unfold lng; (repeat' split) <;> omega
theorem lng_is4 {a : Int} (h : 240 ≤ a) (g : a ≤ 244) : lng a = 4 := by unfold lng; (repeat' split) <;> omega
theorem mk_is2 {a : Int} (h : 194 ≤ a) (g : a ≤ 223) : mkT a = 192 := by unfold mkT; (repeat' split) <;> omega
theorem mk_is3 {a : Int} (h : 224 ≤ a) (g : a ≤ 239) : mkT a = 224 := by unfold mkT; (repeat' split) <;> omega
theorem mk_is4 {a : Int} (h : 240 ≤ a) (g : a ≤ 244) : mkT a = 240 := by unfold mkT; (repeat' split) <;> omega
theorem sec_is {a x : Int} (h : lo2 a ≤ x) (g : x ≤ hi2 a) : secB a x = true := decide_eq_true ⟨h, g⟩
theorem tl_is {x : Int} (h : 128 ≤ x) (g : x ≤ 191) : tlB x = true := decide_eq_true ⟨h, g⟩
/-- a scalar's bytes: whole at the last one, begun ahead of it, and they tell it -/
structure Scal (b : List Int) (c : Int) : Prop where
  pos : 1 ≤ b.length
  whole : how b = 2
  begun : ∀ j, 1 ≤ j → j < b.length → how (b.take j) = 1
  tells : bitsOf b = c
  bts : Bts b
theorem scal_byt {c : Int} (h : isB c = true) : Scal (byt c) c := by
  have hc := of_decide_eq_true h
  by_cases h1 : c < 128
  · have e : byt c = [c] := by simp [byt, h, h1]
    rw [e]
    have hl := lng_is1 h1
    have hm := (row_zero h1).2
    exact ⟨by simp, by simp [how, hl], fun j a b => by simp at b; omega, by show c - mkT c = c; omega, fun x hx => by simp at hx; subst hx; omega⟩
  by_cases h2 : c < 2048
  · have e : byt c = [192 + c / 64, 128 + c % 64] := by simp [byt, h, h1, h2]
    rw [e]
    have hl := lng_is2 (a := 192 + c / 64) (by omega) (by omega)
    have hm := mk_is2 (a := 192 + c / 64) (by omega) (by omega)
    have hs : secB (192 + c / 64) (128 + c % 64) = true := sec_is (by unfold lo2; (repeat' split) <;> omega) (by unfold hi2; (repeat' split) <;> omega)
    refine ⟨by simp, by simp [how, hl, hs], fun j a b => ?_, ?_, fun x hx => ?_⟩
    · obtain rfl : j = 1 := by simp at b; omega
      simp [how, hl]
    · show (192 + c / 64 - mkT (192 + c / 64)) * 64 + (128 + c % 64 - 128) = c
      rw [hm]; omega
    · simp at hx; omega
  by_cases h3 : c < 65536
  · have e : byt c = [224 + c / 4096, 128 + c / 64 % 64, 128 + c % 64] := by simp [byt, h, h1, h2, h3]
    rw [e]
    have hl := lng_is3 (a := 224 + c / 4096) (by omega) (by omega)
    have hm := mk_is3 (a := 224 + c / 4096) (by omega) (by omega)
    have hs : secB (224 + c / 4096) (128 + c / 64 % 64) = true := sec_is (by unfold lo2; (repeat' split) <;> omega) (by unfold hi2; (repeat' split) <;> omega)
    have ht : tlB (128 + c % 64) = true := tl_is (by omega) (by omega)
    refine ⟨by simp, by simp [how, hl, hs, ht], fun j a b => ?_, ?_, fun x hx => ?_⟩
    · have : j = 1 ∨ j = 2 := by simp at b; omega
      rcases this with rfl | rfl
      · simp [how, hl]
      · simp [how, hl, hs]
    · show ((224 + c / 4096 - mkT (224 + c / 4096)) * 64 + (128 + c / 64 % 64 - 128)) * 64 + (128 + c % 64 - 128) = c
      rw [hm]; omega
    · simp at hx; omega
  · have e : byt c = [240 + c / 262144, 128 + c / 4096 % 64, 128 + c / 64 % 64, 128 + c % 64] := by simp [byt, h, h1, h2, h3]
    rw [e]
    have hl := lng_is4 (a := 240 + c / 262144) (by omega) (by omega)
    have hm := mk_is4 (a := 240 + c / 262144) (by omega) (by omega)
    have hs : secB (240 + c / 262144) (128 + c / 4096 % 64) = true := sec_is (by unfold lo2; (repeat' split) <;> omega) (by unfold hi2; (repeat' split) <;> omega)
    have ht : tlB (128 + c / 64 % 64) = true := tl_is (by omega) (by omega)
    have ht2 : tlB (128 + c % 64) = true := tl_is (by omega) (by omega)
    refine ⟨by simp, by simp [how, hl, hs, ht, ht2], fun j a b => ?_, ?_, fun x hx => ?_⟩
    · have : j = 1 ∨ j = 2 ∨ j = 3 := by simp at b; omega
      rcases this with rfl | rfl | rfl
      · simp [how, hl]
      · simp [how, hl, hs]
      · simp [how, hl, hs, ht]
    · show (((240 + c / 262144 - mkT (240 + c / 262144)) * 64 + (128 + c / 4096 % 64 - 128)) * 64 + (128 + c / 64 % 64 - 128)) * 64 + (128 + c % 64 - 128) = c
      rw [hm]; omega
    · simp at hx; omega
theorem first_byt {c : Int} (h : isB c = true) (r : List Int) : fOk (byt c ++ r) = true ∧ fN (byt c ++ r) = (byt c).length ∧ fC (byt c ++ r) = c := by
  have hs := scal_byt h
  obtain ⟨n, hn⟩ : ∃ n, (byt c).length = n + 1 := ⟨(byt c).length - 1, by have := hs.pos; omega⟩
  have ht : (byt c ++ r).take (n + 1) = byt c := by rw [← hn]; simp
  have := first_yes (b := byt c ++ r) (k := n) (by simp; omega) (fun j a b => by
    rw [List.take_append_of_le_length (by omega)]; exact hs.begun j a (by omega)) (by rw [ht]; exact hs.whole)
  rw [ht, hs.tells, ← hn] at this
  exact this
theorem byt_pre {c d : Int} (hc : isB c = true) (hd : isB d = true) (h : (byt d).take (byt c).length = byt c) : c = d := by
  have h1 := (first_byt hc ((byt d).drop (byt c).length)).2.2
  have e : byt c ++ (byt d).drop (byt c).length = byt d := by
    have := List.take_append_drop (byt c).length (byt d)
    rw [h] at this; exact this
  rw [e] at h1
  have h2 := (first_byt hd []).2.2
  rw [List.append_nil] at h2
  rw [← h1, h2]
theorem u8_inj {m n : Int} (h0 : 0 ≤ m) (h1 : m ≤ 255) (g0 : 0 ≤ n) (g1 : n ≤ 255) (h : UInt8.ofNat m.toNat = UInt8.ofNat n.toNat) : m = n := by
  have := congrArg UInt8.toNat h
  simp at this
  omega
theorem map_inj {xs ys : List Int} (hx : Bts xs) (hy : Bts ys) (h : xs.map (fun n => UInt8.ofNat n.toNat) = ys.map (fun n => UInt8.ofNat n.toNat)) : xs = ys := by
  induction xs generalizing ys with
  | nil => cases ys with
    | nil => rfl
    | cons b ys => simp at h
  | cons a xs ih => cases ys with
    | nil => simp at h
    | cons b ys =>
      simp only [List.map_cons, List.cons.injEq] at h
      have ha := hx a (by simp)
      have hb := hy b (by simp)
      rw [u8_inj ha.1 ha.2 hb.1 hb.2 h.1, ih (fun x h => hx x (by simp [h])) (fun x h => hy x (by simp [h])) h.2]
/-- the strings of two scalars' bytes, the second cut to the first's length -/
theorem str_pre {c d : Int} (hc : isB c = true) (hd : isB d = true) (hle : (strOfNums (byt c)).size ≤ (strOfNums (byt d)).size) :
    ((strOfNums (byt c)).toList == ((strOfNums (byt d)).extract 0 (strOfNums (byt c)).size).toList) = (c == d) := by
  rw [Bool.eq_iff_iff, beq_iff_eq, beq_iff_eq, Lib.toList_data, Lib.extract_toList, strOfNums_data, strOfNums_data, strOfNums_size]
  simp only [List.drop_zero, Nat.sub_zero]
  rw [← List.map_take]
  constructor
  · intro h
    have := map_inj (scal_byt hc).bts ((scal_byt hd).bts.take _) h
    exact byt_pre hc hd this.symm
  · rintro rfl
    rw [List.take_length]
end Go.Proofs.YtbmeinicjfmjlaaDoor
