/- Contracts of utf8.tail, appendTo, Bytes, Text. -/
import Derived.Test.YtbmeinicjfmjlaaDoorU8AllC
import Derived.Test.YtbmeinicjfmjlaaDoorScalarIs
namespace Go.Proofs.YtbmeinicjfmjlaaDoor
open Go.ChangeShapes Go.WideShapes Go.ChangeAt Go.RowKit
set_option linter.unusedVariables false

theorem mask63 (x : Int) (h₀ : 0 ≤ x) (h₁ : x < 2147483648) : bits .and .i32 x 63 = x % 64 :=
  bits_mask .i32 31 (by decide) wraps_i32 6 (by decide) x h₀ (by omega)
theorem tail_any (c : Int) (w : World) (h0 : 0 ≤ c) (h1 : c < 2147483648) : Calls Tryd.prog 34 #[.int .i32 c] w fun e w' => e = .returned (.int .u8 (128 + c % 64)) ∧ w = w' := by
  have hm := mask63 c h0 h1
  have hb : 0 ≤ c % 64 ∧ c % 64 < 64 := by omega
  have ho := u8_or128 (c % 64) hb.1 hb.2
  go_enter Tryd.func34, Tryd.ntmps34
  go_wp2
  go_ret
  exact ⟨rfl, rfl⟩

def AppRes (base : Nat) (xs : List Int) (c : Int) (w : World) (e : Ending) (w' : World) : Prop :=
  ∃ v', e = .returned v' ∧ Own w' base 5 .u8 v' (xs ++ byt c) ∧ Below base w w'

set_option maxHeartbeats 1000000 in
theorem appendTo_any (base : Nat) (v : Value) (xs : List Int) (c : Int) (w : World) (hO : Own w base 5 .u8 v xs) (hm : xs.length ≤ 1048576) (hbase : base ≤ w.heap.size) :
    Calls Tryd.prog 28 #[v, .int .i32 c] w (AppRes base xs c w) := by
  have HO := Lib.hid hO
  clear hO
  cases hi : isB c with
  | false =>
    have HE : Hid (byt c = []) := by simp [Hid, byt, hi]
    go_enter Tryd.func28, Tryd.ntmps28
    go_wp2_with fail
    with_reducible refine (is_any _ _).mono ?_
    rintro e w' ⟨rfl, rfl⟩
    go_wp2
    go_ret
    exact ⟨v, rfl, by rw [HE.out, List.append_nil]; exact HO.out, Below.refl _ _⟩
  | true =>
    have hc := of_decide_eq_true hi
    have hc0 : 0 ≤ c := by omega
    have hc1 : c ≤ 1114111 := by omega
    by_cases h1 : c < 128
    · have HE : Hid (byt c = [c]) := by simp [Hid, byt, hi, h1]
      clear hc
      go_enter Tryd.func28, Tryd.ntmps28
      go_wp2_with fail
      with_reducible refine (is_any _ _).mono ?_
      rintro e w' ⟨rfl, rfl⟩
      go_wp2_with (first
          | (at_builtin; refine wpList_app rfl (.tmp 13) (.tmp 16) 22 rfl base 5 .u8 1 Tryd.underlying22 info_u8 (by omega) v xs rfl (HO.out.alloc _) _ _ 1 [c] rfl (fun h => by cases h) (Ints.lit w 5 .u8 [c]) (by simp; omega) (by simp; omega) ?_; intro v3 w3 hO3 hg3))
      go_ret
      exact ⟨v3, rfl, by rw [HE.out]; exact hO3, ((Below.refl _ _).alloc hbase _).trans (own_grown_below (HO.out.alloc _) hg3 (by simp; omega))⟩
    · by_cases h2 : c < 2048
      · have HE : Hid (byt c = [192 + c / 64, 128 + c % 64]) := by simp [Hid, byt, hi, h1, h2]
        clear hc
        have ho := u8_or192 (c / 64) (by omega) (by omega)
        go_enter Tryd.func28, Tryd.ntmps28
        go_wp2_with fail
        with_reducible refine (is_any _ _).mono ?_
        rintro e w' ⟨rfl, rfl⟩
        go_wp2_with (first
          | (go_at_call 34; ((with_reducible refine (tail_any _ _ (by omega) (by omega)).mono ?_); rintro e w' ⟨rfl, rfl⟩))
          | (at_builtin; refine wpList_app rfl (.tmp 21) (.tmp 28) 22 rfl base 5 .u8 1 Tryd.underlying22 info_u8 (by omega) v xs rfl (HO.out.alloc _) _ _ 2 [192 + c / 64, 128 + c % 64] rfl (fun h => by cases h) (Ints.lit w 5 .u8 [192 + c / 64, 128 + c % 64]) (by simp; omega) (by simp; omega) ?_; intro v3 w3 hO3 hg3))
        go_ret
        exact ⟨v3, rfl, by rw [HE.out]; exact hO3, ((Below.refl _ _).alloc hbase _).trans (own_grown_below (HO.out.alloc _) hg3 (by simp; omega))⟩
      · by_cases h3 : c < 65536
        · have HE : Hid (byt c = [224 + c / 4096, 128 + c / 64 % 64, 128 + c % 64]) := by simp [Hid, byt, hi, h1, h2, h3]
          clear hc
          have ho := u8_or224 (c / 4096) (by omega) (by omega)
          go_enter Tryd.func28, Tryd.ntmps28
          go_wp2_with fail
          with_reducible refine (is_any _ _).mono ?_
          rintro e w' ⟨rfl, rfl⟩
          go_wp2_with (first
            | (go_at_call 34; ((with_reducible refine (tail_any _ _ (by omega) (by omega)).mono ?_); rintro e w' ⟨rfl, rfl⟩))
            | (at_builtin; refine wpList_app rfl (.tmp 33) (.tmp 43) 22 rfl base 5 .u8 1 Tryd.underlying22 info_u8 (by omega) v xs rfl (HO.out.alloc _) _ _ 3 [224 + c / 4096, 128 + c / 64 % 64, 128 + c % 64] rfl (fun h => by cases h) (Ints.lit w 5 .u8 [224 + c / 4096, 128 + c / 64 % 64, 128 + c % 64]) (by simp; omega) (by simp; omega) ?_; intro v3 w3 hO3 hg3))
          go_ret
          exact ⟨v3, rfl, by rw [HE.out]; exact hO3, ((Below.refl _ _).alloc hbase _).trans (own_grown_below (HO.out.alloc _) hg3 (by simp; omega))⟩
        · have HE : Hid (byt c = [240 + c / 262144, 128 + c / 4096 % 64, 128 + c / 64 % 64, 128 + c % 64]) := by simp [Hid, byt, hi, h1, h2, h3]
          clear hc
          have ho := u8_or240 (c / 262144) (by omega) (by omega)
          go_enter Tryd.func28, Tryd.ntmps28
          go_wp2_with fail
          with_reducible refine (is_any _ _).mono ?_
          rintro e w' ⟨rfl, rfl⟩
          go_wp2_with (first
            | (go_at_call 34; ((with_reducible refine (tail_any _ _ (by omega) (by omega)).mono ?_); rintro e w' ⟨rfl, rfl⟩))
            | (at_builtin; refine wpList_app rfl (.tmp 45) (.tmp 58) 22 rfl base 5 .u8 1 Tryd.underlying22 info_u8 (by omega) v xs rfl (HO.out.alloc _) _ _ 4 [240 + c / 262144, 128 + c / 4096 % 64, 128 + c / 64 % 64, 128 + c % 64] rfl (fun h => by cases h) (Ints.lit w 5 .u8 [240 + c / 262144, 128 + c / 4096 % 64, 128 + c / 64 % 64, 128 + c % 64]) (by simp; omega) (by simp; omega) ?_; intro v3 w3 hO3 hg3))
          go_ret
          exact ⟨v3, rfl, by rw [HE.out]; exact hO3, ((Below.refl _ _).alloc hbase _).trans (own_grown_below (HO.out.alloc _) hg3 (by simp; omega))⟩

/-- a row of the call's own that reads as zs -/
def RowRes (t : TypeId) (k : IntKind) (w : World) (zs : List Int) (e : Ending) (w' : World) : Prop :=
  ∃ v', e = .returned v' ∧ Own w' w.heap.size t k v' zs ∧ Below w.heap.size w w'

theorem bytes_any (c : Int) (w : World) : Calls Tryd.prog 16 #[.int .i32 c] w (RowRes 5 .u8 w (byt c)) := by
  go_enter Tryd.func16, Tryd.ntmps16
  go_wp2_with fail
  with_reducible refine (appendTo_any w.heap.size _ [] c w (World.ownsRow_nil _ _ _ _) (by simp) (Nat.le_refl _)).mono ?_
  rintro e w' ⟨v', rfl, hO, hb⟩
  go_wp2
  go_ret
  exact ⟨v', rfl, hO, hb⟩

theorem byt_len (c : Int) : (byt c).length ≤ 4 := by
  unfold byt; (repeat' split) <;> simp
theorem txt_snoc (xs : List Int) (k : Nat) (hk : k < xs.length) : txt (xs.take (k + 1)) = txt (xs.take k) ++ byt (xs.getD k 0) := by
  rw [← take_getD xs k hk]; simp [txt]
theorem txt_len (xs : List Int) : (txt xs).length ≤ 4 * xs.length := by
  induction xs with
  | nil => simp [txt]
  | cons a r ih => have := byt_len a; simp only [txt, List.flatMap_cons, List.length_append, List.length_cons] at *; omega

def TextLoop (w : World) (xs : List Int) (s3 s8 : Value) (w1 : World) : Prop :=
  ∃ k : Nat, k ≤ xs.length ∧ s8 = .int .i64 k ∧ Own w1 w.heap.size 5 .u8 s3 (txt (xs.take k)) ∧ Below w.heap.size w w1
set_option maxHeartbeats 1000000 in
theorem text_any (A : Option Addr) (n cap : Nat) (xs : List Int) (w : World) (hn : xs.length = n) (hI : Ints w w.heap.size .i32 A xs) (hm : n ≤ 65536) :
    Calls Tryd.prog 14 #[.slice A n cap] w (RowRes 5 .u8 w (txt xs)) := by
  subst hn
  have HI := Lib.hid hI
  clear hI
  go_enter Tryd.func14, Tryd.ntmps14
  go_wp2_with fail
  go_loopw [3, 8] (fun s3 s8 w1 => TextLoop w xs s3 s8 w1) (fun _ i _ => xs.length - (intOf i).toNat)
  case atStart => exact ⟨0, Nat.zero_le _, rfl, World.ownsRow_nil _ _ _ _, Below.refl _ _⟩
  case round =>
    obtain ⟨k, hk, rfl, hO, hb⟩ := hrel
    by_cases hlt : k < xs.length
    · obtain ⟨b, o, rfl, hbl, hc⟩ := HI.out.at (by omega)
      have hcell : wr.cell? ⟨b, o + k, none⟩ = some (.int .i32 (xs.getD k 0)) := (hb.cell (p := ⟨b, o + k, none⟩) hbl).trans (hc k hlt)
      have hlt' : (k : Int) < xs.length := by omega
      have HX := Lib.hid (txt_snoc xs k hlt)
      have hl := txt_len (xs.take k)
      have hl2 : (xs.take k).length ≤ k := List.length_take_le _ _
      have HO := Lib.hid hO
      generalize xs.getD k 0 = x at hcell HX
      clear hc hO
      go_wp2_with fail
      with_reducible refine (appendTo_any w.heap.size _ _ x wr HO.out (by omega) hb.size).mono ?_
      rintro e w2 ⟨v', rfl, hO2, hb2⟩
      have HO2 : Hid (Own w2 w.heap.size 5 .u8 v' (txt (xs.take (k + 1)))) := by rw [HX.out]; exact hO2
      have hb3 := hb.trans hb2
      clear hO2 hb2
      go_wp2
      go_roundw
      case rel => exact ⟨k + 1, by omega, by go_num, HO2.out, hb3⟩
      case measure => simp [intOf]; omega
    · have hkk : k = xs.length := by omega
      subst hkk
      have hlt' : ¬ (xs.length : Int) < xs.length := by omega
      rw [List.take_length] at hO
      have HO := Lib.hid hO
      clear hO
      go_wp2
      go_ret
      exact ⟨_, rfl, HO.out, hb⟩
end Go.Proofs.YtbmeinicjfmjlaaDoor
