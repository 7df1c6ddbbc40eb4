/- Joined of: U8RTx, R12P. -/
import Derived.Test.YtdcfhkiajeiaoaaDoorJ12H
import Derived.Test.YtdcfhkiajeiaoaaDoorJ12B
import Derived.Test.YtdcfhkiajeiaoaaDoorJ12I
import Derived.Test.YtdcfhkiajeiaoaaDoorJ12F
/- Contracts of the document's Bytes, Text. -/
namespace Go.Proofs.YtdcfhkiajeiaoaaDoor
set_option maxRecDepth 100000
open Go.ChangeShapes Go.WideShapes Go.ChangeAt Go.RowKit
set_option linter.unusedVariables false

set_option maxHeartbeats 1000000 in
theorem r_bytes_any (c : Int) (w : World) : Calls Tryd.prog 29 #[.int .i32 c] w (RowRes 5 .u8 w (byt c)) := by
  cases hi : isB c with
  | false =>
    have HE : Hid (byt c = []) := by simp [Hid, byt, hi]
    go_enter Tryd.func29, Tryd.ntmps29
    go_wp2_with fail
    with_reducible refine (r_is_any _ _).mono ?_
    rintro e w' ⟨rfl, rfl⟩
    go_wp2
    go_ret
    exact ⟨_, rfl, by rw [HE.out]; exact World.ownsRow_nil _ _ _ _, Below.refl _ _⟩
  | true =>
    have hc := of_decide_eq_true hi
    have hc0 : 0 ≤ c := by omega
    have hc1 : c ≤ 1114111 := by omega
    by_cases h1 : c < 128
    · have HE : Hid (byt c = [c]) := by simp [Hid, byt, hi, h1]
      clear hc
      go_enter Tryd.func29, Tryd.ntmps29
      go_wp2_with fail
      with_reducible refine (r_is_any _ _).mono ?_
      rintro e w' ⟨rfl, rfl⟩
      go_wp2
      go_ret
      exact ⟨_, rfl, by rw [HE.out]; exact own_lit w _ 5 .u8 [c] (Nat.le_refl _) (by simp [maxLen]), (Below.refl _ _).alloc (Nat.le_refl _) _⟩
    · by_cases h2 : c < 2048
      · have HE : Hid (byt c = [192 + c / 64, 128 + c % 64]) := by simp [Hid, byt, hi, h1, h2]
        clear hc
        go_enter Tryd.func29, Tryd.ntmps29
        go_wp2_with fail
        with_reducible refine (r_is_any _ _).mono ?_
        rintro e w' ⟨rfl, rfl⟩
        go_wp2
        go_ret
        exact ⟨_, rfl, by rw [HE.out]; exact own_lit w _ 5 .u8 [192 + c / 64, 128 + c % 64] (Nat.le_refl _) (by simp [maxLen]), (Below.refl _ _).alloc (Nat.le_refl _) _⟩
      · by_cases h3 : c < 65536
        · have HE : Hid (byt c = [224 + c / 4096, 128 + c / 64 % 64, 128 + c % 64]) := by simp [Hid, byt, hi, h1, h2, h3]
          clear hc
          go_enter Tryd.func29, Tryd.ntmps29
          go_wp2_with fail
          with_reducible refine (r_is_any _ _).mono ?_
          rintro e w' ⟨rfl, rfl⟩
          go_wp2
          go_ret
          exact ⟨_, rfl, by rw [HE.out]; exact own_lit w _ 5 .u8 [224 + c / 4096, 128 + c / 64 % 64, 128 + c % 64] (Nat.le_refl _) (by simp [maxLen]), (Below.refl _ _).alloc (Nat.le_refl _) _⟩
        · have HE : Hid (byt c = [240 + c / 262144, 128 + c / 4096 % 64, 128 + c / 64 % 64, 128 + c % 64]) := by simp [Hid, byt, hi, h1, h2, h3]
          clear hc
          go_enter Tryd.func29, Tryd.ntmps29
          go_wp2_with fail
          with_reducible refine (r_is_any _ _).mono ?_
          rintro e w' ⟨rfl, rfl⟩
          go_wp2
          go_ret
          exact ⟨_, rfl, by rw [HE.out]; exact own_lit w _ 5 .u8 [240 + c / 262144, 128 + c / 4096 % 64, 128 + c / 64 % 64, 128 + c % 64] (Nat.le_refl _) (by simp [maxLen]), (Below.refl _ _).alloc (Nat.le_refl _) _⟩

set_option maxHeartbeats 1000000 in
theorem r_text_any (A : Option Addr) (n cap : Nat) (xs : List Int) (w : World) (hn : xs.length = n) (hI : Ints w w.heap.size .i32 A xs) (hm : n ≤ 65536) :
    Calls Tryd.prog 38 #[.slice A n cap] w (RowRes 5 .u8 w (txt xs)) := by
  subst hn
  have HI := Lib.hid hI
  clear hI
  go_enter Tryd.func38, Tryd.ntmps38
  go_wp2_with fail
  go_loopw [3, 4] (fun s3 s4 w1 => TextLoop w xs s3 s4 w1) (fun _ i _ => xs.length - (intOf i).toNat)
  case atStart => exact ⟨0, Nat.zero_le _, rfl, World.ownsRow_nil _ _ _ _, Below.refl _ _⟩
  case round =>
    obtain ⟨k, hk, rfl, hO, hb⟩ := hrel
    by_cases hlt : k < xs.length
    · obtain ⟨b, o, rfl, hbl, hc⟩ := HI.out.at (by omega)
      have hcell : wr.cell? ⟨b, o + k, none⟩ = some (.int .i32 (xs.getD k 0)) := (hb.cell (p := ⟨b, o + k, none⟩) hbl).trans (hc k hlt)
      have hlt' : (k : Int) < xs.length := by omega
      have HX := Lib.hid (txt_snoc xs k hlt)
      have hl := txt_len (xs.take k)
      have hl2 : (xs.take k).length ≤ k := List.length_take_le _ _
      have HO := Lib.hid hO
      generalize xs.getD k 0 = x at hcell HX
      clear hc hO
      go_wp2_with fail
      with_reducible refine (r_bytes_any x wr).mono ?_
      rintro e w2 ⟨v', rfl, hO2, hb2⟩
      obtain ⟨A2, c2, rfl, hc2, hcm2⟩ := own_form hO2
      have hO1 := own_below HO.out hb2 (Nat.le_refl _)
      have hb3 := hb.trans (hb2.mono hb.size)
      have hl3 := byt_len x
      have HO1 := Lib.hid hO1
      have HO2 := Lib.hid hO2
      clear hO2 hb2 hO1
      go_wp2_with (first
        | (at_builtin; refine wpList_app rfl (.tmp 11) (.tmp 16) 22 rfl w.heap.size 5 .u8 1 Tryd.underlying22 info_u8 (by omega) _ _ rfl HO1.out _ _ _ (byt x) rfl (own_nil HO2.out) (Ints.own HO2.out) (by omega) hb3.size ?_; intro v3 w3 hO3 hg3))
      have HO3 : Hid (Own w3 w.heap.size 5 .u8 v3 (txt (xs.take (k + 1)))) := by rw [HX.out]; exact hO3
      have hb4 := hb3.trans (own_grown_below HO1.out hg3 hb3.size)
      go_roundw
      case rel => exact ⟨k + 1, by omega, by go_num, HO3.out, hb4⟩
      case measure => simp [intOf]; omega
    · have hkk : k = xs.length := by omega
      subst hkk
      have hlt' : ¬ (xs.length : Int) < xs.length := by omega
      rw [List.take_length] at hO
      have HO := Lib.hid hO
      clear hO
      go_wp2
      go_ret
      exact ⟨_, rfl, HO.out, hb⟩

end Go.Proofs.YtdcfhkiajeiaoaaDoor

/- The document's string: Push, Inside, Text. -/
namespace Go.Proofs.YtdcfhkiajeiaoaaDoor
set_option maxRecDepth 100000
open Go.ChangeShapes Go.WideShapes Go.ChangeAt Go.RowKit
set_option linter.unusedVariables false
set_option linter.unusedSimpArgs false

theorem dres_push {base a : Nat} {ov bv : Value} {s s' : Ss} {x : Int} {o : Bool} {r : Int} {w w' : World} {e : Ending} (hp : pushS s x = (o, r, s')) (h : DRes base a ov bv s' (two o r) w e w') : DRes base a ov bv (pushS s x).2.2 (two (pushS s x).1 (pushS s x).2.1) w e w' := by
  rw [hp]; exact h
set_option maxHeartbeats 8000000 in
theorem r_strpush_any (base a : Nat) (ov bv hv_ : Value) (s : Ss) (x : Int) (w : World) (h : RStr w base a ov bv hv_ s) (hx0 : 0 ≤ x) (hx1 : x ≤ 255) (hbase : base ≤ w.heap.size) (hlo : s.o.length + 1 ≤ 100000) :
    Calls Tryd.prog 11 #[.pointer (some ⟨a, 0, none⟩), .int .u8 x] w (DRes base a ov bv (pushS s x).2.2 (two (pushS s x).1 (pushS s x).2.1) w) := by
  have HH := Lib.hid h
  have HM := Lib.hid h.dm
  have hok := h.ok
  have hok2 := push_ok hok hx0 hx1
  have he2 := hok.e
  have hk := hok.k
  obtain ⟨A1, cb, hbv, _⟩ := own_form h.b
  have c5 : w.cell? ⟨a, 5, none⟩ = some (.bool s.v) := h.blk.cell 5
  have c2 : w.cell? ⟨a, 2, none⟩ = some (.int .i64 s.e) := h.blk.cell 2
  have hlt : a < w.heap.size := h.blk.lt
  by_cases hvx : s.v = true ∨ x < 32
  · have HP : Hid (pushS s x = (false, 2, s)) := Lib.hid (by
      unfold pushS
      have : (s.v || decide (x < 32)) = true := by rcases hvx with h | h; rw [h]; rfl; rw [decide_eq_true h]; simp
      rw [if_pos this])
    have HFIN : Hid (DRes base a ov bv s (two false 2) w (.returned (two false 2)) w) := Lib.hid (DRes.still h rfl (Below.refl _ _))
    cases hv : s.v with
    | true =>
      rw [hv] at c5
      clear h hok hok2 hbv
      go_enter Tryd.func11, Tryd.ntmps11
      go_wp2
      go_ret2
      exact dres_push HP.out HFIN.out
    | false =>
      rw [hv] at c5
      have hx32 : x < 32 := by rcases hvx with h | h; rw [hv] at h; cases h; exact h
      clear h hok hok2 hbv
      go_enter Tryd.func11, Tryd.ntmps11
      go_wp2
      go_ret2
      exact dres_push HP.out HFIN.out
  have hv : s.v = false := by cases hh : s.v; rfl; exact absurd (.inl hh) hvx
  have hx32 : ¬ x < 32 := fun h => hvx (.inr h)
  have hps : pushS s x = _ := pushS.eq_1 s x
  rw [if_neg (by rw [hv, decide_eq_false hx32]; decide)] at hps
  rw [hv] at c5
  have hes : s.e = 2 ∨ s.e = 1 ∨ s.e = 0 := by omega
  rcases hes with he | he | he
  · have HC := Lib.hid (r_dig_any base a ov bv hv_ s x w h hv he hx0 hx1 hbase hlo)
    rw [if_pos he] at hps
    obtain ⟨r, s', hp⟩ : ∃ r s', digS s x = (r, s') := ⟨_, _, rfl⟩
    rw [hp] at HC hps
    dsimp only at HC hps
    have HP := Lib.hid hps
    rw [he] at c2
    clear h hok hok2 hbv hps hp hvx
    go_enter Tryd.func11, Tryd.ntmps11
    go_wp2_with fail
    with_reducible refine HC.out.mono ?_
    rintro e w1 ⟨rfl, hq⟩
    have HQ := Lib.hid hq
    clear hq
    go_wp2
    go_ret2
    exact dres_push HP.out ⟨rfl, HQ.out⟩
  · have HC := Lib.hid (r_escape_any base a ov bv hv_ s x w h hv he hx0 hx1 hbase hlo)
    rw [if_neg (by omega), if_pos he] at hps
    obtain ⟨r, s', hp⟩ : ∃ r s', escS s x = (r, s') := ⟨_, _, rfl⟩
    rw [hp] at HC hps
    dsimp only at HC hps
    have HP := Lib.hid hps
    rw [he] at c2
    clear h hok hok2 hbv hps hp hvx
    go_enter Tryd.func11, Tryd.ntmps11
    go_wp2_with fail
    with_reducible refine HC.out.mono ?_
    rintro e w1 ⟨rfl, hq⟩
    have HQ := Lib.hid hq
    clear hq
    go_wp2
    go_ret2
    exact dres_push HP.out ⟨rfl, HQ.out⟩
  · rw [if_neg (by omega), if_neg (by omega)] at hps
    have c1 : w.cell? ⟨a, 1, none⟩ = some (.slice A1 s.b.length cb) := by rw [← hbv]; exact h.blk.cell 1
    by_cases hb : s.b ≠ [] ∨ 128 ≤ x
    · have HC := Lib.hid (r_byt_any base a ov bv hv_ s x w h hv he hx0 hx1 hbase hlo)
      rw [if_pos hb] at hps
      obtain ⟨r, s', hp⟩ : ∃ r s', bytS s x = (r, s') := ⟨_, _, rfl⟩
      rw [hp] at HC hps
      dsimp only at HC hps
      have HP := Lib.hid hps
      rw [he] at c2
      obtain ⟨m, hm⟩ : ∃ m, s.b.length = m := ⟨_, rfl⟩
      have hcs : 0 < m ∨ (m = 0 ∧ 128 ≤ x) := by
        by_cases h0 : s.b = []
        · right
          refine ⟨by rw [← hm, h0]; rfl, ?_⟩
          rcases hb with h | h
          · exact absurd h0 h
          · exact h
        · left
          rw [← hm]
          exact List.length_pos_iff.2 h0
      rw [hm] at c1
      clear h hok hok2 hbv hps hp hvx hm hb
      rcases hcs with hm0 | ⟨rfl, hx128⟩
      · have hm0' : (0 : Int) < m := by omega
        go_enter Tryd.func11, Tryd.ntmps11
        go_wp2_with fail
        with_reducible refine HC.out.mono ?_
        rintro e w1 ⟨rfl, hq⟩
        have HQ := Lib.hid hq
        clear hq
        go_wp2
        go_ret2
        exact dres_push HP.out ⟨rfl, HQ.out⟩
      · go_enter Tryd.func11, Tryd.ntmps11
        go_wp2_with fail
        with_reducible refine HC.out.mono ?_
        rintro e w1 ⟨rfl, hq⟩
        have HQ := Lib.hid hq
        clear hq
        go_wp2
        go_ret2
        exact dres_push HP.out ⟨rfl, HQ.out⟩
    · rw [if_neg hb] at hps
      have hb0 : s.b = [] := Classical.byContradiction fun hn => hb (.inl hn)
      have hx128 : ¬ 128 ≤ x := fun h => hb (.inr h)
      rw [hb0] at c1
      rw [he] at c2
      have c4 : w.cell? ⟨a, 4, none⟩ = some (.int .u16 s.k) := h.blk.cell 4
      have f2 : w.frozen? ⟨a, 2, none⟩ = false := h.blk.frozen 2
      have f5 : w.frozen? ⟨a, 5, none⟩ = false := h.blk.frozen 5
      have c0 : w.cell? ⟨a, 0, none⟩ = some ov := h.blk.cell 0
      clear hbv hb
      by_cases h92 : x = 92
      · subst h92
        rw [if_pos rfl] at hps
        have HP := Lib.hid hps
        have HOK3 : Hid (SOk { s with e := 1 }) := Lib.hid (by rw [HP.out] at hok2; exact hok2)
        clear h hok hok2 hps hvx
        go_enter Tryd.func11, Tryd.ntmps11
        go_wp2_with fail
        go_ret2
        exact dres_push HP.out ⟨rfl, ov, bv, hv_, DM.str (s := { s with e := 1 }) ⟨HM.out.blk.put 2 _ rfl, rown_set HM.out.o HM.out.blk (by decide), rown_set HM.out.b HM.out.blk (by decide), rown_set HM.out.h HM.out.blk (by decide), HM.out.la⟩ HOK3.out HH.out.len, (SFr.refl a a ov w).set 2 _, RowTo.refl _ _, RowTo.refl _ _⟩
      rw [if_neg h92] at hps
      have b92 : (x == 92) = false := by simpa using h92
      by_cases hkk : 0 < s.k
      · rw [if_pos hkk] at hps
        have HP := Lib.hid hps
        clear h hok hok2 hps hvx
        go_enter Tryd.func11, Tryd.ntmps11
        go_wp2_with fail
        go_ret2
        exact dres_push HP.out (DRes.still HH.out rfl (Below.refl _ _))
      rw [if_neg hkk] at hps
      by_cases h34 : x = 34
      · subst h34
        rw [if_pos rfl] at hps
        have HP := Lib.hid hps
        have HOK3 : Hid (SOk { s with v := true }) := Lib.hid (by rw [HP.out] at hok2; exact hok2)
        clear h hok hok2 hps hvx h92
        go_enter Tryd.func11, Tryd.ntmps11
        go_wp2_with fail
        go_ret2
        exact dres_push HP.out ⟨rfl, ov, bv, hv_, DM.str (s := { s with v := true }) ⟨HM.out.blk.put 5 _ rfl, rown_set HM.out.o HM.out.blk (by decide), rown_set HM.out.b HM.out.blk (by decide), rown_set HM.out.h HM.out.blk (by decide), HM.out.la⟩ HOK3.out HH.out.len, (SFr.refl a a ov w).set 5 _, RowTo.refl _ _, RowTo.refl _ _⟩
      rw [if_neg h34] at hps
      have b34 : (x == 34) = false := by simpa using h34
      have HP := Lib.hid hps
      have HOK3 : Hid (SOk { s with o := s.o ++ [x] }) := Lib.hid (by rw [HP.out] at hok2; exact hok2)
      have hw32 : wrap32 x = x := IntWalk.wrap32_in _ (by omega)
      have hb1w : Below w.heap.size w (w.alloc (.cells #[.int .i32 x] 21)) := (Below.refl _ _).alloc (Nat.le_refl _) _
      have HM1 := Lib.hid (HM.out.go hb1w)
      have HO1 := Lib.hid HM1.out.o
      have HIL := Lib.hid (Ints.lit w 21 .i32 [x])
      clear h hok hok2 hps hvx h34 h92
      go_enter Tryd.func11, Tryd.ntmps11
      go_wp2_with (at_builtin; refine wpList_appL rfl (.tmp 69) (.tmp 72) 26 rfl base 21 .i32 4 Tryd.underlying26 info_i32 (by omega) ov s.o rfl HO1.out _ _ 1 1 [x] rfl rfl (fun h => by cases h) HIL.out (by simp; omega) (by rw [World.size_alloc]; omega) ?_; intro v2 w2 hO2 hG2
                   obtain ⟨A9, m9, cp9, rfl⟩ := own_sl hO2
                   obtain ⟨k1, o1, p1, q1⟩ := HM1.out.grew hG2 hO2
                   have HK1 := Lib.hid (And.intro k1 (And.intro o1 (And.intro p1 q1)))
                   have HF := Lib.hid (Grew.fr (a := a) hb1w hG2)
                   have HR := Lib.hid (Grew.to hb1w hG2)
                   have x0 : w2.cell? ⟨a, 0, none⟩ = some ov := k1.cell 0
                   have g0 : w2.frozen? ⟨a, 0, none⟩ = false := k1.frozen 0
                   have hl2 : a < w2.heap.size := k1.lt
                   clear k1 o1 p1 q1 hG2 hO2)
      go_ret2
      obtain ⟨k1, o1, p1, q1⟩ := HK1.out
      exact dres_push HP.out ⟨rfl, .slice A9 m9 cp9, bv, hv_, DM.str (s := { s with o := s.o ++ [x] }) ⟨k1.put 0 _ rfl, rown_set o1 k1 (by decide), rown_set p1 k1 (by decide), rown_set q1 k1 (by decide), HM.out.la⟩ HOK3.out (by show (s.o ++ [x]).length ≤ _; rw [List.length_append, List.length_singleton]; omega), HF.out.set 0 _, HR.out, RowTo.refl _ _⟩
theorem r_inside_any (base a : Nat) (ov bv hv_ : Value) (s : Ss) (w : World) (h : RStr w base a ov bv hv_ s) :
    Calls Tryd.prog 14 #[.pointer (some ⟨a, 0, none⟩)] w fun e w' => e = .returned (.bool (insS s)) ∧ w = w' := by
  obtain ⟨A1, cb, hbv, _⟩ := own_form h.b
  have c1 : w.cell? ⟨a, 1, none⟩ = some (.slice A1 s.b.length cb) := by rw [← hbv]; exact h.blk.cell 1
  have c2 : w.cell? ⟨a, 2, none⟩ = some (.int .i64 s.e) := h.blk.cell 2
  have c4 : w.cell? ⟨a, 4, none⟩ = some (.int .u16 s.k) := h.blk.cell 4
  have hlt : a < w.heap.size := h.blk.lt
  obtain ⟨a1, ha1⟩ : ∃ q : Bool, decide (0 < s.e) = q := ⟨_, rfl⟩
  obtain ⟨a3, ha3⟩ : ∃ q : Bool, decide (0 < s.b.length) = q := ⟨_, rfl⟩
  obtain ⟨a4, ha4⟩ : ∃ q : Bool, decide (0 < s.k) = q := ⟨_, rfl⟩
  have hr : insS s = (a3 || (a1 || a4)) := by
    have h3 : decide (s.b ≠ []) = a3 := by
      rw [← ha3]
      apply decide_eq_decide.2
      rw [← List.length_pos_iff]
    unfold insS
    rw [h3, ha1, ha4]
    cases a1 <;> cases a3 <;> rfl
  rw [hr]
  clear hr h hbv
  generalize s.b.length = m at *
  generalize s.e = ee at *
  generalize s.k = kk at *
  cases a3 with
  | true =>
    have hm : 0 < m := of_decide_eq_true ha3
    clear ha3
    go_enter Tryd.func14, Tryd.ntmps14
    go_wp2
    go_ret
    exact ⟨rfl, rfl⟩
  | false =>
    have hm : ¬ 0 < m := of_decide_eq_false ha3
    clear ha3
    cases a1 with
    | true =>
      have he : 0 < ee := of_decide_eq_true ha1
      clear ha1
      go_enter Tryd.func14, Tryd.ntmps14
      go_wp2
      go_ret
      exact ⟨rfl, rfl⟩
    | false =>
      have he : ¬ 0 < ee := of_decide_eq_false ha1
      clear ha1
      go_enter Tryd.func14, Tryd.ntmps14
      go_wp2
      go_ret
      exact ⟨rfl, rfl⟩
theorem r_strtext_any (base a : Nat) (ov bv hv_ : Value) (s : Ss) (w : World) (h : RStr w base a ov bv hv_ s) (hl : s.o.length ≤ 65536) :
    Calls Tryd.prog 16 #[.pointer (some ⟨a, 0, none⟩)] w fun e w' => e = .returned (.string (strOfNums (txt s.o))) ∧ Below w.heap.size w w' := by
  obtain ⟨A0, c0, hov, hc1, hc2⟩ := own_form h.o
  have c0' : w.cell? ⟨a, 0, none⟩ = some (.slice A0 s.o.length c0) := by rw [← hov]; exact h.blk.cell 0
  have hlt : a < w.heap.size := h.blk.lt
  have hI := Ints.own (by have := h.o; rw [hov] at this; exact this)
  have HT := Lib.hid (r_text_any A0 s.o.length c0 s.o w rfl hI hl)
  clear h hov hI
  generalize s.o.length = n at *
  generalize txt s.o = t at *
  obtain ⟨tt, htt⟩ : ∃ tt, strOfNums t = tt := ⟨_, rfl⟩
  rw [htt]
  have HTT := Lib.hid htt
  clear htt
  go_enter Tryd.func16, Tryd.ntmps16
  go_wp2_with fail
  with_reducible refine HT.out.mono ?_
  rintro e w1 ⟨v1, rfl, ho1, hb1⟩
  obtain ⟨A1, c1, rfl, _⟩ := own_form ho1
  have hcv := conv_str w1 w1.heap.size A1 t.length c1 t rfl (Ints.own ho1)
  have HB1 := Lib.hid hb1
  rw [HTT.out] at hcv
  clear ho1 hb1
  generalize t.length = m at *
  go_wp2
  go_ret
  exact ⟨rfl, HB1.out⟩
end Go.Proofs.YtdcfhkiajeiaoaaDoor
