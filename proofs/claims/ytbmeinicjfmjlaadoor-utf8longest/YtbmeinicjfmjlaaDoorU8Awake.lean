/- The chapter's examples ('awake') hold of package utf8. -/
import Derived.Test.YtbmeinicjfmjlaaDoorU8Text
import Derived.Laws.BytesArg
import Derived.Lib.SlBytesConst
namespace Go.Proofs.YtbmeinicjfmjlaaDoor
open Go.ChangeShapes Go.WideShapes Go.ChangeAt Go.RowKit
set_option linter.unusedVariables false

theorem conv_str (w : World) (B : Nat) (A : Option Addr) (n c : Nat) (xs : List Int) (hn : xs.length = n) (hI : Ints w B .u8 A xs) : (convert 22 9 (.slice A n c)).run Tryd.prog w = .ok (.string (strOfNums xs)) w := by
  subst hn
  cases A with
  | none =>
    have hx : xs = [] := by
      rcases hI with h | ⟨b, o, e, _⟩
      · exact h
      · cases e
    subst hx
    exact run_convert_bytes_nil w 22 5 Tryd.underlying22 Tryd.underlying5 _ _ _ Tryd.underlying9
  | some ad =>
    rcases hI with h | ⟨b, o, e, _, hc⟩
    · subst h
      rw [run_convert_bytes_string w _ _ 5 _ _ _ Tryd.underlying22 Tryd.underlying5 Tryd.underlying9]
      exact run_bytesToString w ad 0 c [] (by simpa using run_loadCells_list (P := Tryd.prog) w ad [] (fun j v hj => by simp at hj))
    · injection e with e
      subst e
      exact run_convert_bytes_arg w 22 5 Tryd.underlying22 Tryd.underlying5 b o _ c xs rfl hc _ Tryd.underlying9

def Bytes2 (w : World) (a b : Int) (e : Ending) (w' : World) : Prop :=
  ∃ g o c, e = .returned (.slice (some ⟨g, o, none⟩) 2 c) ∧ w'.cell? ⟨g, o, none⟩ = some (.int .u8 a) ∧ w'.cell? ⟨g, o + 1, none⟩ = some (.int .u8 b) ∧ g < w'.heap.size ∧ Below w.heap.size w w'
theorem bytes_233 (w : World) : Calls Tryd.prog 16 #[.int .i32 233] w (Bytes2 w 195 169) := by
  refine (bytes_any 233 w).mono ?_
  rintro e w1 ⟨v1, rfl, hO1, hb1⟩
  have e1 : byt 233 = [195, 169] := by decide
  rw [e1] at hO1
  obtain ⟨A1, c1, rfl, hc1, hcm1⟩ := own_form hO1
  obtain ⟨g, o, rfl, hl, hc⟩ := (Ints.own hO1).at (by simp)
  exact ⟨g, o, c1, rfl, hc 0 (by simp), hc 1 (by simp), hl, hb1⟩
theorem first_lit (w : World) (hT : Tab w) (ys : List Int) (hB : Bts ys) (hm : ys.length ≤ maxLen) :
    Calls Tryd.prog 9 #[.slice (some ⟨w.heap.size, 0, none⟩) ys.length ys.length] (w.alloc (.cells (ys.map (Value.int .u8)).toArray 5)) fun e w' => e = .returned (.tuple #[.int .i32 (fC ys), .int .i64 (fN ys : Int), .bool (fOk ys)]) ∧ Below w.heap.size w w' := by
  have hb := (Below.refl w.heap.size w).alloc (Nat.le_refl _) (.cells (ys.map (Value.int .u8)).toArray 5)
  refine (first_any _ _ ys _ (hT.below' hb) ((Ints.lit w 5 .u8 ys).more (by simp)) hB hm).mono ?_
  rintro e w1 ⟨rfl, h⟩
  exact ⟨rfl, hb.trans (h.mono (by simp))⟩
theorem first_a (w : World) (hT : Tab w) : Calls Tryd.prog 9 #[.slice (some ⟨w.heap.size, 0, none⟩) 2 2] (w.alloc (.cells #[.int .u8 195, .int .u8 40] 5)) fun e w' => e = .returned (.tuple #[.int .i32 0, .int .i64 1, .bool false]) ∧ Below w.heap.size w w' := by
  have h := first_lit w hT [195, 40] (by unfold Bts; decide) (by simp [maxLen])
  have e1 : fC [195, 40] = 0 := by decide
  have e2 : fN [195, 40] = 1 := by decide
  have e3 : fOk [195, 40] = false := by decide
  rw [e1, e2, e3] at h
  exact h
theorem first_b (w : World) (hT : Tab w) : Calls Tryd.prog 9 #[.slice (some ⟨w.heap.size, 0, none⟩) 2 2] (w.alloc (.cells #[.int .u8 237, .int .u8 160] 5)) fun e w' => e = .returned (.tuple #[.int .i32 0, .int .i64 1, .bool false]) ∧ Below w.heap.size w w' := by
  have h := first_lit w hT [237, 160] (by unfold Bts; decide) (by simp [maxLen])
  have e1 : fC [237, 160] = 0 := by decide
  have e2 : fN [237, 160] = 1 := by decide
  have e3 : fOk [237, 160] = false := by decide
  rw [e1, e2, e3] at h
  exact h
/-- a literal row that bears the run-time's mark behind its last cell -/
theorem Ints.mark (w : World) (t : TypeId) (k : IntKind) (ys : List Int) (fr : Nat × Nat) : Ints (w.alloc (.cells (ys.map (Value.int k)).toArray t fr)) (w.heap.size + 1) k (some ⟨w.heap.size, 0, none⟩) ys := by
  refine .inr ⟨_, _, rfl, by omega, fun j hj => ?_⟩
  rw [Nat.zero_add, cell_of_row _ w.heap.size j (ys.map (Value.int k)).toArray t fr (heap_alloc_new w _)]
  simp [List.getD_eq_getElem?_getD, List.getElem?_eq_getElem hj]
def All2 (w : World) (e : Ending) (w' : World) : Prop :=
  ∃ A c, e = .returned (.tuple #[.slice A 2 c, .int .i64 3, .bool true]) ∧ Ints w' w'.heap.size .i32 A [97, 233] ∧ Below w.heap.size w w'
theorem all_c (w : World) (hT : Tab w) : Calls Tryd.prog 11 #[.slice (some ⟨w.heap.size, 0, none⟩) 3 3] (w.alloc (.cells #[.int .u8 97, .int .u8 195, .int .u8 169] 5 (3, 4))) (All2 w) := by
  have hb := (Below.refl w.heap.size w).alloc (Nat.le_refl _) (.cells #[.int .u8 97, .int .u8 195, .int .u8 169] 5 (3, 4))
  have hI : Ints (w.alloc (.cells #[.int .u8 97, .int .u8 195, .int .u8 169] 5 (3, 4))) (w.heap.size + 1) .u8 (some ⟨w.heap.size, 0, none⟩) [97, 195, 169] := Ints.mark w 5 .u8 [97, 195, 169] (3, 4)
  refine (all_any _ 3 [97, 195, 169] _ (hT.below' hb) (hI.more (by simp)) (by unfold Bts; decide) (by simp) (by simp) (by simp [maxLen])).mono ?_
  rintro e w1 ⟨v, rfl, hO, h⟩
  have e1 : allS [97, 195, 169] = ([97, 233], 3, true) := by decide
  rw [e1] at hO
  obtain ⟨A1, c1, rfl, hc1, hcm1⟩ := own_form hO
  exact ⟨A1, c1, by rw [e1]; rfl, Ints.own hO, hb.trans (h.mono (by simp))⟩
theorem rd_new (w : World) : RdAt (w.alloc (.cells #[.int .i64 0, .int .i64 0, .int .i32 0] 53)) w.heap.size [] := Blk.new w _ _

set_option maxHeartbeats 4000000 in
theorem awake_any (w : World) (hT : Tab w) : Calls Tryd.prog 8 #[] w fun e w' => e = .returned (.bool true) ∧ Below w.heap.size w w' := by
  go_enter Tryd.func8, Tryd.ntmps8
  go_wp2_with fail
  with_reducible refine (bytes_233 _).mono ?_
  rintro e w1 ⟨b1, o1, c1, rfl, g0, g1, hl1, hb1⟩
  have hT1 := hT.below' hb1
  have G0 := Lib.hid g0
  have G1 := Lib.hid g1
  clear g0 g1
  go_wp2_with fail
  with_reducible refine (first_a _ hT1).mono ?_
  rintro e w2 ⟨rfl, hb2⟩
  have hT2 := hT1.below' hb2
  go_wp2_with fail
  with_reducible refine (first_b _ hT2).mono ?_
  rintro e w3 ⟨rfl, hb3⟩
  have hT3 := hT2.below' hb3
  have hcv := Lib.run_convert_bytes_const (P := Tryd.prog) w3 22 5 #[.int .u8 97, .int .u8 195, .int .u8 169] 3 3 Tryd.underlying22 Tryd.underlying5
  go_wp2_with fail
  clear hcv
  with_reducible refine (all_c _ hT3).mono ?_
  rintro e w4 ⟨A4, c4, rfl, hI4, hb4⟩
  have hT4 := hT3.below' hb4
  have HI4 := Lib.hid hI4
  clear hI4
  go_wp2_with fail
  with_reducible refine (new_any _).mono ?_
  rintro e w5 ⟨rfl, rfl⟩
  have hR5 := rd_new w4
  have hb5 := (Below.refl w4.heap.size w4).alloc (Nat.le_refl _) (.cells #[.int .i64 0, .int .i64 0, .int .i32 0] 53)
  generalize w4.alloc (.cells #[.int .i64 0, .int .i64 0, .int .i32 0] 53) = w5 at hR5 hb5 ⊢
  have hT5 := hT4.below' hb5
  have hz5 := hR5.lt
  go_wp2_with fail
  with_reducible refine (push_one (push_any w4.heap.size [] 195 w5 (by omega) (by omega) (.inl rfl) hT5 hR5) (by decide)).mono ?_
  rintro e w6 ⟨rfl, hR6, hbt6⟩
  have hT6 := hT5.but hbt6 (hR5.ne hT5)
  have hb6 := hb5.trans (hbt6.below (Nat.le_refl _) (by omega))
  have hz6 := hR6.lt
  clear hbt6
  go_wp2_with fail
  with_reducible refine (left_rd hR6).mono ?_
  rintro e w7 ⟨rfl, rfl⟩
  go_wp2_with fail
  with_reducible refine (push_two (push_any w4.heap.size ([] ++ [195]) 169 w6 (by omega) (by omega) (.inr (by decide)) hT6 hR6) (by decide)).mono ?_
  rintro e w8 ⟨rfl, hR8, hbt8⟩
  have hb8 := hb6.trans (hbt8.below (Nat.le_refl _) (by omega))
  have hbit : bitsOf ([] ++ [195] ++ [169]) = 233 := by decide
  rw [hbit]
  have h14 := (hb2.trans (hb3.mono hb2.size)).trans (hb4.mono (Nat.le_trans hb2.size hb3.size))
  have h18 := h14.trans (hb8.mono h14.size)
  have q0 : w8.cell? ⟨b1, o1, none⟩ = some (.int .u8 195) := (h18.cell (p := ⟨b1, o1, none⟩) hl1).trans G0.out
  have q1 : w8.cell? ⟨b1, o1 + 1, none⟩ = some (.int .u8 169) := (h18.cell (p := ⟨b1, o1 + 1, none⟩) hl1).trans G1.out
  have HI8 := Lib.hid ((HI4.out.below hb8 (Nat.le_refl _)).more hb8.size)
  have HB := Lib.hid (hb1.trans (h18.mono hb1.size))
  clear hbit hbt8 hR8 hR6 hb6 hb5 hR5 h14 h18 hb8 hb4 hb3 hb2 hb1 hT1 hT2 hT3 hT4 hT5 hT6
  go_wp2_with fail
  with_reducible refine (text_any _ 2 _ [97, 233] _ rfl HI8.out (by decide)).mono ?_
  rintro e w9 ⟨v9, rfl, hO9, hb9⟩
  have e9 : txt [97, 233] = [97, 195, 169] := by decide
  rw [e9] at hO9
  obtain ⟨A9, c9, rfl, hc9, hcm9⟩ := own_form hO9
  have hcv : (convert 22 9 (.slice A9 3 c9)).run Tryd.prog w9 = .ok (.string ⟨#[97, 195, 169]⟩) w9 := conv_str w9 _ A9 3 c9 [97, 195, 169] rfl (Ints.own hO9)
  have hb10 := HB.out.trans (hb9.mono HB.out.size)
  clear hO9 hb9 e9 hc9 hcm9
  go_wp2
  go_ret
  exact ⟨rfl, hb10⟩
end Go.Proofs.YtbmeinicjfmjlaaDoor
