/- Contracts of the document's Bytes, Text; of Same. -/
import Derived.Test.YtbmeinicjfmjlaaDoorU8Of
import Derived.Test.YtbmeinicjfmjlaaDoorU8Text
namespace Go.Proofs.YtbmeinicjfmjlaaDoor
open Go.ChangeShapes Go.WideShapes Go.ChangeAt Go.RowKit
set_option linter.unusedVariables false

theorem own_lit (w : World) (base : Nat) (t : TypeId) (k : IntKind) (ys : List Int) (hb : base ≤ w.heap.size) (hm : ys.length ≤ maxLen) :
    Own (w.alloc (.cells (ys.map (Value.int k)).toArray t)) base t k (.slice (some ⟨w.heap.size, 0, none⟩) ys.length ys.length) ys := by
  have := World.ownsRow_lit (size := 1) (e := t) w (ys.map (Value.int k)).toArray ys.length hb hm (by simp)
  simpa using this

set_option maxHeartbeats 1000000 in
theorem r_bytes_any (c : Int) (w : World) : Calls Tryd.prog 17 #[.int .i32 c] w (RowRes 5 .u8 w (byt c)) := by
  cases hi : isB c with
  | false =>
    have HE : Hid (byt c = []) := by simp [Hid, byt, hi]
    go_enter Tryd.func17, Tryd.ntmps17
    go_wp2_with fail
    with_reducible refine (r_is_any _ _).mono ?_
    rintro e w' ⟨rfl, rfl⟩
    go_wp2
    go_ret
    exact ⟨_, rfl, by rw [HE.out]; exact World.ownsRow_nil _ _ _ _, Below.refl _ _⟩
  | true =>
    have hc := of_decide_eq_true hi
    have hc0 : 0 ≤ c := by omega
    have hc1 : c ≤ 1114111 := by omega
    by_cases h1 : c < 128
    · have HE : Hid (byt c = [c]) := by simp [Hid, byt, hi, h1]
      clear hc
      go_enter Tryd.func17, Tryd.ntmps17
      go_wp2_with fail
      with_reducible refine (r_is_any _ _).mono ?_
      rintro e w' ⟨rfl, rfl⟩
      go_wp2
      go_ret
      exact ⟨_, rfl, by rw [HE.out]; exact own_lit w _ 5 .u8 [c] (Nat.le_refl _) (by simp [maxLen]), (Below.refl _ _).alloc (Nat.le_refl _) _⟩
    · by_cases h2 : c < 2048
      · have HE : Hid (byt c = [192 + c / 64, 128 + c % 64]) := by simp [Hid, byt, hi, h1, h2]
        clear hc
        go_enter Tryd.func17, Tryd.ntmps17
        go_wp2_with fail
        with_reducible refine (r_is_any _ _).mono ?_
        rintro e w' ⟨rfl, rfl⟩
        go_wp2
        go_ret
        exact ⟨_, rfl, by rw [HE.out]; exact own_lit w _ 5 .u8 [192 + c / 64, 128 + c % 64] (Nat.le_refl _) (by simp [maxLen]), (Below.refl _ _).alloc (Nat.le_refl _) _⟩
      · by_cases h3 : c < 65536
        · have HE : Hid (byt c = [224 + c / 4096, 128 + c / 64 % 64, 128 + c % 64]) := by simp [Hid, byt, hi, h1, h2, h3]
          clear hc
          go_enter Tryd.func17, Tryd.ntmps17
          go_wp2_with fail
          with_reducible refine (r_is_any _ _).mono ?_
          rintro e w' ⟨rfl, rfl⟩
          go_wp2
          go_ret
          exact ⟨_, rfl, by rw [HE.out]; exact own_lit w _ 5 .u8 [224 + c / 4096, 128 + c / 64 % 64, 128 + c % 64] (Nat.le_refl _) (by simp [maxLen]), (Below.refl _ _).alloc (Nat.le_refl _) _⟩
        · have HE : Hid (byt c = [240 + c / 262144, 128 + c / 4096 % 64, 128 + c / 64 % 64, 128 + c % 64]) := by simp [Hid, byt, hi, h1, h2, h3]
          clear hc
          go_enter Tryd.func17, Tryd.ntmps17
          go_wp2_with fail
          with_reducible refine (r_is_any _ _).mono ?_
          rintro e w' ⟨rfl, rfl⟩
          go_wp2
          go_ret
          exact ⟨_, rfl, by rw [HE.out]; exact own_lit w _ 5 .u8 [240 + c / 262144, 128 + c / 4096 % 64, 128 + c / 64 % 64, 128 + c % 64] (Nat.le_refl _) (by simp [maxLen]), (Below.refl _ _).alloc (Nat.le_refl _) _⟩

theorem own_nil {w : World} {base : Nat} {t : TypeId} {k : IntKind} {A : Option Addr} {n c : Nat} {xs : List Int} (h : w.ownsRow base t 1 (.slice A n c) n (xs.map (Value.int k))) : A = none → c = 0 := by
  rcases h.2 with ⟨e1, e2⟩ | ⟨g, cap, cur, hv, _⟩
  · injection e1 with e1 e2 e3; intro _; exact e3
  · injection hv with e1 e2 e3; intro h; rw [h] at e1; cases e1

set_option maxHeartbeats 1000000 in
theorem r_text_any (A : Option Addr) (n cap : Nat) (xs : List Int) (w : World) (hn : xs.length = n) (hI : Ints w w.heap.size .i32 A xs) (hm : n ≤ 65536) :
    Calls Tryd.prog 15 #[.slice A n cap] w (RowRes 5 .u8 w (txt xs)) := by
  subst hn
  have HI := Lib.hid hI
  clear hI
  go_enter Tryd.func15, Tryd.ntmps15
  go_wp2_with fail
  go_loopw [3, 4] (fun s3 s4 w1 => TextLoop w xs s3 s4 w1) (fun _ i _ => xs.length - (intOf i).toNat)
  case atStart => exact ⟨0, Nat.zero_le _, rfl, World.ownsRow_nil _ _ _ _, Below.refl _ _⟩
  case round =>
    obtain ⟨k, hk, rfl, hO, hb⟩ := hrel
    by_cases hlt : k < xs.length
    · obtain ⟨b, o, rfl, hbl, hc⟩ := HI.out.at (by omega)
      have hcell : wr.cell? ⟨b, o + k, none⟩ = some (.int .i32 (xs.getD k 0)) := (hb.cell (p := ⟨b, o + k, none⟩) hbl).trans (hc k hlt)
      have hlt' : (k : Int) < xs.length := by omega
      have HX := Lib.hid (txt_snoc xs k hlt)
      have hl := txt_len (xs.take k)
      have hl2 : (xs.take k).length ≤ k := List.length_take_le _ _
      have HO := Lib.hid hO
      generalize xs.getD k 0 = x at hcell HX
      clear hc hO
      go_wp2_with fail
      with_reducible refine (r_bytes_any x wr).mono ?_
      rintro e w2 ⟨v', rfl, hO2, hb2⟩
      obtain ⟨A2, c2, rfl, hc2, hcm2⟩ := own_form hO2
      have hO1 := own_below HO.out hb2 (Nat.le_refl _)
      have hb3 := hb.trans (hb2.mono hb.size)
      have hl3 := byt_len x
      have HO1 := Lib.hid hO1
      have HO2 := Lib.hid hO2
      clear hO2 hb2 hO1
      go_wp2_with (first
        | (at_builtin; refine wpList_app rfl (.tmp 11) (.tmp 16) 22 rfl w.heap.size 5 .u8 1 Tryd.underlying22 info_u8 (by omega) _ _ rfl HO1.out _ _ _ (byt x) rfl (own_nil HO2.out) (Ints.own HO2.out) (by omega) hb3.size ?_; intro v3 w3 hO3 hg3))
      have HO3 : Hid (Own w3 w.heap.size 5 .u8 v3 (txt (xs.take (k + 1)))) := by rw [HX.out]; exact hO3
      have hb4 := hb3.trans (own_grown_below HO1.out hg3 hb3.size)
      go_roundw
      case rel => exact ⟨k + 1, by omega, by go_num, HO3.out, hb4⟩
      case measure => simp [intOf]; omega
    · have hkk : k = xs.length := by omega
      subst hkk
      have hlt' : ¬ (xs.length : Int) < xs.length := by omega
      rw [List.take_length] at hO
      have HO := Lib.hid hO
      clear hO
      go_wp2
      go_ret
      exact ⟨_, rfl, HO.out, hb⟩

set_option maxHeartbeats 1000000 in
/-- two rows that read alike are the same -/
theorem same_yes (A B : Option Addr) (n c d : Nat) (xs : List Int) (w : World) (hn : xs.length = n) (hA : Ints w w.heap.size .i32 A xs) (hB : Ints w w.heap.size .i32 B xs) (hm : n ≤ maxLen) :
    Calls Tryd.prog 13 #[.slice A n c, .slice B n d] w fun e w' => e = .returned (.bool true) ∧ Still w w' := by
  subst hn
  unfold maxLen at hm
  have HA := Lib.hid hA
  have HB := Lib.hid hB
  clear hA hB
  have hne : ((xs.length : Int) != xs.length) = false := by simp
  go_enter Tryd.func13, Tryd.ntmps13
  go_wp2_with fail
  go_loopw [5] (fun i w1 => ∃ k : Nat, k ≤ xs.length ∧ i = .int .i64 k ∧ Still w w1) (fun i _ => xs.length - (intOf i).toNat)
  case atStart => exact ⟨0, by omega, rfl, Still.refl w⟩
  case round =>
    obtain ⟨k, hk, rfl, hst⟩ := hrel
    by_cases hlt : k < xs.length
    · obtain ⟨b, o, rfl, hbl, hc⟩ := HA.out.at (by omega)
      obtain ⟨b', o', rfl, hbl', hc'⟩ := HB.out.at (by omega)
      have h1 : wr.cell? ⟨b, o + k, none⟩ = some (.int .i32 (xs.getD k 0)) := (hst.cell _).trans (hc k hlt)
      have h2 : wr.cell? ⟨b', o' + k, none⟩ = some (.int .i32 (xs.getD k 0)) := (hst.cell _).trans (hc' k hlt)
      have hlt' : (k : Int) < xs.length := by omega
      generalize xs.getD k 0 = x at h1 h2
      have hx : (x != x) = false := by simp
      clear hc hc'
      go_wp2_with fail
      go_quiet (fail)
      go_wp2
      go_roundw
      case rel => exact ⟨k + 1, by omega, by go_num, hst.drewN _⟩
      case measure => simp [intOf]; omega
    · obtain rfl : k = xs.length := by omega
      have hlt' : ¬ (xs.length : Int) < xs.length := by omega
      go_wp2
      go_ret
      exact ⟨rfl, hst⟩
end Go.Proofs.YtbmeinicjfmjlaaDoor
