/- Joined of: L00Str, N12Wri. -/
import Derived.Test.YtdcfhkiajeiaoaaDoorJ12N
import Derived.Test.YtdcfhkiajeiaoaaDoorJ12B
import Derived.Test.YtdcfhkiajeiaoaaDoorJ12C
import Derived.Test.YtdcfhkiajeiaoaaDoorJ12H
import Derived.Test.YtdcfhkiajeiaoaaDoorJ12J
import Derived.Test.YtdcfhkiajeiaoaaDoorJ12F
import Derived.Test.YtdcfhkiajeiaoaaDoorJ12K
import Derived.Test.YtdcfhkiajeiaoaaDoorJ12R
/- orthoepylaw00's Str by its contract. -/
namespace Go.Proofs.YtdcfhkiajeiaoaaDoor
set_option maxRecDepth 100000
open Go.ChangeShapes Go.WideShapes Go.ChangeAt Go.RowKit
set_option linter.unusedVariables false
set_option linter.unusedSimpArgs false

theorem str_row {w : World} {base : Nat} {e : TypeId} {k : IntKind} {v : Value} {xs : List Int} (h : Own w base e k v xs) : ∃ A c, v = .slice A xs.length c := by
  obtain ⟨A, c, hv, _⟩ := own_form h
  exact ⟨A, c, hv⟩
/-- a text of at most 20 scalars, none of them a noncharacter -/
def SomeText (w : World) (e : Ending) (w' : World) : Prop :=
  ∃ (l : List Int), e = .returned (.string (strOfNums (txt l))) ∧ (∀ c ∈ l, isB c = true ∧ noncharB c = false) ∧ l.length ≤ 20 ∧ Below w.heap.size w w'
def StrLoop (w : World) (n : Nat) (s3 s4 : Value) (w1 : World) : Prop :=
  ∃ (k : Nat) (l : List Int), k ≤ n ∧ k ≤ 20 ∧ l.length ≤ k ∧ s4 = .int .i64 k ∧ Own w1 w.heap.size 21 .i32 s3 l ∧ (∀ c ∈ l, isB c = true ∧ noncharB c = false) ∧ Below w.heap.size w w1
set_option maxHeartbeats 2000000 in
theorem lstr_any (a : Option Addr) (len cap : Nat) (z : List Int) (w : World) (r : ArgRow .i64 w a len cap z) : Calls Tryd.prog 19 #[.slice a len cap] w (SomeText w) := by
  obtain ⟨hz, hle, hmx, _, hI, _⟩ := r
  subst hz
  unfold maxLen at hmx
  have HI := Lib.hid hI
  clear hI
  go_enter Tryd.func19, Tryd.ntmps19
  go_wp2_with fail
  go_loopw [3, 4] (fun s3 s4 w1 => StrLoop w z.length s3 s4 w1) (fun _ i _ => z.length - (intOf i).toNat)
  case atStart => exact ⟨0, [], by omega, by omega, by simp, rfl, World.ownsRow_nil _ _ _ _, (fun _ h => (by cases h)), Below.refl _ _⟩
  case round =>
    obtain ⟨k, l, hk, hk60, hl, rfl, hO, hS, hb⟩ := hrel
    have HS := Lib.hid hS
    have HO := Lib.hid hO
    clear hS hO
    by_cases hlt : k < z.length ∧ k < 20
    · obtain ⟨hlt, hlt60⟩ := hlt
      obtain ⟨b, o, rfl, hbl, hc⟩ := HI.out.at (by omega)
      have hcell : wr.cell? ⟨b, o + k, none⟩ = some (.int .i64 (z.getD k 0)) := (hb.cell (p := ⟨b, o + k, none⟩) hbl).trans (hc k hlt)
      have hlt' : (k : Int) < z.length := by omega
      have hlt6' : (k : Int) < 20 := by omega
      generalize z.getD k 0 = x at hcell
      clear hc
      go_wp2_with fail
      with_reducible refine (rune_any x wr).mono ?_
      rintro e w2 ⟨c, hcb, rfl, rfl⟩
      have HIS := Lib.hid (fun W => r_is_any c W)
      have HNC := Lib.hid (fun W => r_nonchar_any c W)
      cases hi : isB c with
      | false =>
        rw [hi] at HIS
        go_wp2_with fail
        with_reducible refine (HIS.out _).mono ?_
        rintro e w3 ⟨rfl, rfl⟩
        go_wp2
        go_roundw
        case rel => exact ⟨k + 1, l, by omega, by omega, by omega, by go_num, HO.out, HS.out, hb⟩
        case measure => simp [intOf]; omega
      | true =>
        rw [hi] at HIS
        cases hn : noncharB c with
        | true =>
          rw [hn] at HNC
          go_wp2_with fail
          with_reducible refine (HIS.out _).mono ?_
          rintro e w3 ⟨rfl, rfl⟩
          go_wp2_with fail
          with_reducible refine (HNC.out _).mono ?_
          rintro e w3 ⟨rfl, rfl⟩
          go_wp2
          go_roundw
          case rel => exact ⟨k + 1, l, by omega, by omega, by omega, by go_num, HO.out, HS.out, hb⟩
          case measure => simp [intOf]; omega
        | false =>
          rw [hn] at HNC
          have HC := Lib.hid (And.intro hi hn)
          go_wp2_with fail
          with_reducible refine (HIS.out _).mono ?_
          rintro e w3 ⟨rfl, rfl⟩
          go_wp2_with fail
          with_reducible refine (HNC.out _).mono ?_
          rintro e w3 ⟨rfl, rfl⟩
          go_wp2_with (at_builtin; refine wpList_app rfl (.tmp 28) (.tmp 30) 26 rfl w.heap.size 21 .i32 4 Tryd.underlying26 info_i32 (by omega) _ l rfl (HO.out.alloc _) _ _ 1 [c] rfl (fun h => by cases h) (Ints.lit wr 21 .i32 [c]) (by simp; omega) (by simp; have := hb.size; omega) ?_; intro v3 w3 hO3 hg3)
          have hbz : w.heap.size ≤ wr.heap.size := hb.size
          have hb4 : Below w.heap.size w w3 := (hb.alloc hbz _).trans (own_grown_below (HO.out.alloc _) hg3 (by simp; omega))
          go_roundw
          case rel => exact ⟨k + 1, l ++ [c], by omega, by omega, by simp; omega, by go_num, hO3, (fun x hx => (by
            rcases List.mem_append.1 hx with h | h
            · exact HS.out x h
            · simp at h; subst h; exact HC.out)), hb4⟩
          case measure => simp [intOf]; omega
    · have hl20 : l.length ≤ 20 := by omega
      obtain ⟨A0, c0, rfl⟩ := str_row HO.out
      have HTX := Lib.hid (r_text_any A0 l.length c0 l wr rfl (Ints.own HO.out) (by omega))
      have HBW := Lib.hid hb
      clear hb HO
      have hq : (¬ (k : Int) < z.length) ∨ ((k : Int) < z.length ∧ ¬ (k : Int) < 20) := by omega
      rcases hq with hq1 | ⟨hq1, hq2⟩
      · go_wp2_with fail
        with_reducible refine HTX.out.mono ?_
        rintro e w4 ⟨v4, rfl, ho4, hb4⟩
        obtain ⟨A4, c4, rfl⟩ := str_row ho4
        have hcv := conv_str w4 w4.heap.size A4 (txt l).length c4 (txt l) rfl (Ints.own ho4)
        generalize (txt l).length = tl at hcv ⊢
        have HB4 := Lib.hid (HBW.out.trans (hb4.mono HBW.out.size))
        clear ho4 hb4
        go_wp2
        go_ret
        exact ⟨l, rfl, HS.out, hl20, HB4.out⟩
      · go_wp2_with fail
        with_reducible refine HTX.out.mono ?_
        rintro e w4 ⟨v4, rfl, ho4, hb4⟩
        obtain ⟨A4, c4, rfl⟩ := str_row ho4
        have hcv := conv_str w4 w4.heap.size A4 (txt l).length c4 (txt l) rfl (Ints.own ho4)
        generalize (txt l).length = tl at hcv ⊢
        have HB4 := Lib.hid (HBW.out.trans (hb4.mono HBW.out.size))
        clear ho4 hb4
        go_wp2
        go_ret
        exact ⟨l, rfl, HS.out, hl20, HB4.out⟩
end Go.Proofs.YtdcfhkiajeiaoaaDoor

/- StrWrites: a text, written in quotes with escapes, says the text. -/
namespace Go.Proofs.YtdcfhkiajeiaoaaDoor
set_option maxRecDepth 100000
open Go.ChangeShapes Go.WideShapes Go.ChangeAt Go.RowKit
set_option linter.unusedVariables false
set_option linter.unusedSimpArgs false

theorem cut_tail {q : ByteArray} {b : List Int} (h : N8 q = 34 :: (b ++ [34])) : N8 (q.extract 1 q.size) = b ++ [34] ∧ q.size = b.length + 2 := by
  have hs : q.size = b.length + 2 := by rw [← N8_len, h]; simp
  refine ⟨?_, hs⟩
  have e : N8 (q.extract 1 q.size) = (N8 q).drop 1 := by
    unfold N8
    rw [L8_cut, ← List.map_drop]
    congr 1
    exact List.take_of_length_le (by rw [List.length_drop, L8_len]; exact Nat.le_refl _)
  rw [e, h]
  rfl
set_option maxHeartbeats 16000000 in
theorem writes_walk (a : Option Addr) (len cap : Nat) (z : List Int) (n : Int) (w : World) (hT : Tab w) (r : ArgRow .i64 w a len cap z) :
    Calls Tryd.prog 5 #[.slice a len cap, .int .i64 n] w fun e w' => e = .returned (.bool true) ∧ Below w.heap.size w w' := by
  have HT := Lib.hid hT
  have HAW : Hid (∀ W, Below w.heap.size w W → Calls Tryd.prog 9 #[] W fun e w' => e = .returned (.bool true) ∧ Below W.heap.size W w') := Lib.hid (fun W hW => awake_any W (hT.below' hW))
  have HLEAD := Lib.hid hT.lt
  have HSTR := Lib.hid (lstr_any a len cap z w r)
  clear hT r
  go_enter Tryd.func5, Tryd.ntmps5
  go_wp2_with fail
  with_reducible refine HSTR.out.mono ?_
  rintro e w1 ⟨l, rfl, hS, hl, hb1⟩
  have HB1 := Lib.hid hb1
  have HQU := Lib.hid (fun W => quoted_any l n W hS hl)
  have HOF := Lib.hid (fun W => r_ofs_any l W (fun c hc => (hS c hc).1) (by omega))
  obtain ⟨t, ht⟩ : ∃ t, strOfNums (txt l) = t := ⟨_, rfl⟩
  rw [ht] at HQU HOF ⊢
  have HTT := Lib.hid ht
  clear hb1 HSTR hS ht
  go_wp2_with fail
  with_reducible refine (HQU.out _).mono ?_
  rintro e w2 ⟨q, b, rfl, hq, hf, hbl, hb2⟩
  have HB2 := Lib.hid (HB1.out.trans (hb2.mono HB1.out.size))
  obtain ⟨hR, hQs⟩ := cut_tail hq
  obtain ⟨m, hm⟩ : ∃ m, b.length = m := ⟨_, rfl⟩
  have hF : feedS ss0 (b ++ [34]) 0 = (m, 0, true, { stO l with v := true }) := by rw [← hm, ← end_over]; exact hf [34]
  have hsl : ∀ w, (Instr.slice 9 (.string q) (some (.int .i64 1)) none none).run Tryd.prog w = .ok (.string (q.extract 1 q.size)) w := fun w => by
    rw [run_slice_string_l w 9 _ Tryd.underlying9 .i64 1 (by omega) (by omega)]
    rfl
  have hRs : (q.extract 1 q.size).size = m + 1 := by rw [← N8_len, hR, List.length_append, hm]; rfl
  rw [hm] at hQs hbl
  obtain ⟨R, hRe⟩ : ∃ R, q.extract 1 q.size = R := ⟨_, rfl⟩
  rw [hRe] at hsl hRs hR
  have hQi : (q.size : Int) = (m : Int) + 2 := by omega
  have HR := Lib.hid hR
  have HF := Lib.hid hF
  clear hb2 HB1 HQU hq hf hR hF hm hRe
  go_wp2_with fail
  with_reducible refine (strnew_any w.heap.size w2 HB2.out.size).mono ?_
  rintro e1 w3 ⟨g, bb, rfl, lg, lb, hn1, hb1⟩
  have HB3 := Lib.hid (HB2.out.trans (hb1.mono HB2.out.size))
  have HLOW := Lib.hid hn1.low
  have HPL := Lib.hid (strpush_law w.heap.size g bb (.slice none 0 0) ss0 R w3 hn1 (HT.out.below' HB3.out) HLEAD.out HB3.out.size (by have e : ss0.o.length = 0 := rfl; omega))
  rw [HR.out, HF.out] at HPL
  clear hn1 hb1 HB2 HR HF hRs lg lb
  have hwm : IntKind.i64.wrap (m : Int) = (m : Int) := IntWalk.i64_in _ (by omega)
  have hwm2 : IntKind.i64.wrap ((m : Int) + 2 - 2) = (m : Int) := by rw [show (m : Int) + 2 - 2 = m by omega]; exact hwm
  go_wp2_with fail
  with_reducible refine HPL.out.mono ?_
  rintro e w4 ⟨rfl, sv4, p1, p2, p3⟩
  dsimp only at p1 ⊢
  have HB4 := Lib.hid (HB3.out.trans (p2.low HB3.out.size HLOW.out.1 HLOW.out.2.1 HLOW.out.2.2))
  have HS4 := Lib.hid p1
  have HLN : Hid (∀ W, StrIs W w.heap.size g bb sv4 ({ stO l with v := true }) → Calls Tryd.prog 12 #[.pointer (some ⟨g, 0, none⟩)] W fun e w' => e = .returned (.int .i64 (l.length : Int)) ∧ W = w') := Lib.hid fun W h => strlen_any w.heap.size g bb sv4 _ W h
  have HIN : Hid (∀ W, StrIs W w.heap.size g bb sv4 ({ stO l with v := true }) → Calls Tryd.prog 13 #[.pointer (some ⟨g, 0, none⟩)] W fun e w' => e = .returned (.bool false) ∧ W = w') := Lib.hid fun W h => by
    have h1 := inside_any w.heap.size g bb sv4 _ W h
    rw [(rfl : insS { stO l with v := true } = false)] at h1
    exact h1
  have HTX : Hid (∀ W, StrIs W w.heap.size g bb sv4 ({ stO l with v := true }) → Calls Tryd.prog 15 #[.pointer (some ⟨g, 0, none⟩)] W fun e w' => e = .returned (.string t) ∧ W = w') := Lib.hid fun W h => by
    have h1 := strtext_any w.heap.size g bb sv4 _ W h
    rw [show strOfNums (txt ({ stO l with v := true } : Ss).o) = t from HTT.out] at h1
    exact h1
  have heq : (t.toList == t.toList) = true := by simp
  have hll : ((l.length : Int) == (l.length : Int)) = true := by simp
  obtain ⟨ln, hln⟩ : ∃ ln, l.length = ln := ⟨_, rfl⟩
  have HLL := Lib.hid hln
  rw [hln] at HLN hll
  clear p1 p2 p3 HPL HB3 HLOW hln
  go_wp2_with fail
  with_reducible refine (HTX.out _ HS4.out).mono ?_
  rintro e _ ⟨rfl, rfl⟩
  go_wp2_with fail
  with_reducible refine (HLN.out _ HS4.out).mono ?_
  rintro e _ ⟨rfl, rfl⟩
  go_wp2_with fail
  with_reducible refine (HOF.out _).mono ?_
  rintro e w5 ⟨v5, rfl, ho5, hb5⟩
  obtain ⟨A5, c5, rfl⟩ := quo_row ho5
  rw [HLL.out]
  have HB5 := Lib.hid (HB4.out.trans (hb5.mono HB4.out.size))
  have HS5 := Lib.hid (HS4.out.go hb5)
  clear ho5 hb5 HB4 HS4
  go_wp2_with fail
  with_reducible refine (HIN.out _ HS5.out).mono ?_
  rintro e _ ⟨rfl, rfl⟩
  go_wp2_with fail
  with_reducible refine (HAW.out _ HB5.out).mono ?_
  rintro e1 w6 ⟨rfl, hb6⟩
  have HB6 := Lib.hid (HB5.out.trans (hb6.mono HB5.out.size))
  clear hb6
  go_wp2
  go_ret
  exact ⟨rfl, HB6.out⟩
end Go.Proofs.YtdcfhkiajeiaoaaDoor
