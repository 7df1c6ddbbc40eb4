/- The program's Gram: Take. -/
import Derived.Test.YtdkfffncohipbaaP13A
namespace Go.Proofs.Ytdkfffncohipbaa
set_option maxRecDepth 100000
open Go.ChangeShapes Go.WideShapes Go.ChangeAt Go.RowKit
set_option linter.unusedVariables false
set_option linter.unusedSimpArgs false

theorem info_u8g : (Try.prog.info? 5).map (fun i => (i.zero, i.size, i.bytes)) = some (some (.int .u8 0), 1, 1) := by kernel_rfl
theorem behind_any (base g : Nat) (v : Value) (q : Gm) (k : Int) (w : World) (h : GIs w base g v q) (h11 : k = 11 → q.s ≠ []) : Calls Try.prog 28 #[.pointer (some ⟨g, 0, none⟩), .int .i64 k] w fun e w' => e = .returned (.int .i64 (nextP q k)) ∧ Still w w' := by
  by_cases e6 : k = 6
  · subst e6
    clear h h11
    rw [show nextP q 6 = 1 from rfl]
    go_enter Try.func28, Try.ntmps28
    go_wp2
    go_ret
    exact ⟨rfl, Still.refl _⟩
  by_cases e8 : k = 8
  · subst e8
    clear h h11
    rw [show nextP q 8 = 2 from rfl]
    go_enter Try.func28, Try.ntmps28
    go_wp2
    go_ret
    exact ⟨rfl, Still.refl _⟩
  by_cases e11 : k = 11
  · subst e11
    have HIN := Lib.hid (inner_any base g v q w h (h11 rfl))
    rw [show nextP q 11 = if lastV q.s = 9 then 3 else 0 from rfl]
    clear h h11
    generalize lastV q.s = x at *
    by_cases h9 : x = 9
    · subst h9
      rw [if_pos rfl]
      go_enter Try.func28, Try.ntmps28
      go_wp2_with fail
      with_reducible refine HIN.out.mono ?_
      rintro e w1 ⟨rfl, hst⟩
      have HST := Lib.hid hst
      clear hst HIN
      go_wp2
      go_ret
      exact ⟨rfl, HST.out⟩
    · rw [if_neg h9]
      have b9 : (x == 9) = false := by simpa using h9
      clear h9
      go_enter Try.func28, Try.ntmps28
      go_wp2_with fail
      with_reducible refine HIN.out.mono ?_
      rintro e w1 ⟨rfl, hst⟩
      have HST := Lib.hid hst
      clear hst HIN
      go_wp2
      go_ret
      exact ⟨rfl, HST.out⟩
  by_cases e10 : k = 10
  · subst e10
    clear h h11
    rw [show nextP q 10 = 0 from rfl]
    go_enter Try.func28, Try.ntmps28
    go_wp2
    go_ret
    exact ⟨rfl, Still.refl _⟩
  by_cases e5 : k = 5
  · subst e5
    have HNM := Lib.hid (name_any base g v q w h)
    have hv : nextP q 5 = if nameB q = true then 4 else 5 := by
      unfold nextP nameB
      by_cases hp : q.p = 2 ∨ q.p = 3
      · rw [if_neg (by decide), if_neg (by decide), if_neg (by decide), if_neg (by decide), if_pos ⟨rfl, hp⟩, if_pos (by simpa using hp)]
      · rw [if_neg (by decide), if_neg (by decide), if_neg (by decide), if_neg (by decide), if_neg (fun h => hp h.2), if_neg (by simpa using hp)]
    rw [hv]
    clear h h11 hv
    cases hb : nameB q with
    | true =>
      rw [hb] at HNM
      rw [if_pos rfl]
      clear hb
      go_enter Try.func28, Try.ntmps28
      go_wp2_with fail
      with_reducible refine HNM.out.mono ?_
      rintro e w1 ⟨rfl, rfl⟩
      go_wp2
      go_ret
      exact ⟨rfl, Still.refl _⟩
    | false =>
      rw [hb] at HNM
      rw [if_neg (by decide)]
      clear hb
      go_enter Try.func28, Try.ntmps28
      go_wp2_with fail
      with_reducible refine HNM.out.mono ?_
      rintro e w1 ⟨rfl, rfl⟩
      go_wp2
      go_ret
      exact ⟨rfl, Still.refl _⟩
  have hv : nextP q k = 5 := by unfold nextP; rw [if_neg e6, if_neg e8, if_neg e11, if_neg e10, if_neg (fun h => e5 h.1)]
  rw [hv]
  have b6 : (k == 6) = false := by simpa using e6
  have b8 : (k == 8) = false := by simpa using e8
  have b11 : (k == 11) = false := by simpa using e11
  have b10 : (k == 10) = false := by simpa using e10
  have b5 : (k == 5) = false := by simpa using e5
  clear h h11 hv e6 e8 e11 e10 e5
  go_enter Try.func28, Try.ntmps28
  go_wp2
  go_ret
  exact ⟨rfl, Still.refl _⟩

/-- what Take makes of it -/
def TRes (base g : Nat) (v : Value) (q' : Gm) (b : Bool) (w : World) (e : Ending) (w' : World) : Prop :=
  e = .returned (.bool b) ∧ ∃ v', GIs w' base g v' q' ∧ SFr g g v w w' ∧ RowTo w v v'
theorem rowTo_grew {w w1 w2 : World} {v v' : Value} (h : Grew w1 w2 v v') (hs : w.heap.size ≤ w1.heap.size) : RowTo w v v' := by
  cases hv : v'.ownBlock with
  | none => exact .inr fun k hk => by rw [hv] at hk; cases hk
  | some b =>
    rcases h.2 b hv with e | e
    · exact .inl (by rw [hv, e])
    · exact .inr fun k hk => by rw [hv] at hk; injection hk with hk; omega
theorem rown_init {w : World} {base m c : Nat} {A : Option Addr} {e : TypeId} {k : IntKind} {xs : List Int} (h : Own w base e k (.slice A (m + 1) c) xs) (hm : xs.length = m + 1) : Own w base e k (.slice A m c) xs.dropLast := by
  have hl : xs.dropLast.length = m := by rw [List.length_dropLast]; omega
  unfold Own
  rw [hl]
  rcases h.2 with ⟨e, _⟩ | ⟨q, cap, cur, hv, hb, hh, h1, h2, h3, h4⟩
  · cases e
  · refine ⟨by rw [List.length_map, hl]; omega, .inr ⟨q, cap, cur, ?_, hb, hh, ?_, h2, h3, ?_⟩⟩
    · injection hv with e1 e2 e3
      rw [← e1, ← e3]
    · injection hv with e1 e2 e3; omega
    · rw [List.dropLast_eq_take, List.map_take, ← h4, List.take_take]
      congr 1
      omega
theorem take_no (base g : Nat) (v : Value) (q : Gm) (k : Int) (w : World) (h : GIs w base g v q) (hm : mayB q k = false) : Calls Try.prog 13 #[.pointer (some ⟨g, 0, none⟩), .int .i64 k] w (TRes base g v (tkG q k) (mayB q k) w) := by
  have HMY := Lib.hid (may_any base g v q k w h)
  rw [hm] at HMY
  rw [hm, tk_no hm]
  have HG := Lib.hid h
  clear h hm
  go_enter Try.func13, Try.ntmps13
  go_wp2_with fail
  with_reducible refine HMY.out.mono ?_
  rintro e w1 ⟨rfl, hst⟩
  have HST := Lib.hid hst
  clear hst HMY
  go_wp2
  go_ret
  exact ⟨rfl, v, HG.out.still HST.out, SFr.of_below HST.out.below, RowTo.refl _ _⟩
/-- kinds that open and end nothing -/
theorem take_plain (base g : Nat) (v : Value) (q : Gm) (k : Int) (w : World) (h : GIs w base g v q) (hm : mayB q k = true) (e6 : k ≠ 6) (e8 : k ≠ 8) (e7 : k ≠ 7) (e9 : k ≠ 9) : Calls Try.prog 13 #[.pointer (some ⟨g, 0, none⟩), .int .i64 k] w (TRes base g v (tkG q k) (mayB q k) w) := by
  have HMY := Lib.hid (may_any base g v q k w h)
  rw [hm] at HMY
  have hok := tk_ok h.ok k
  rw [tk_yes hm] at hok
  have h11 : k = 11 → q.s ≠ [] := fun e => by
    rcases may_cases h.ok hm with ⟨_, hk⟩ | ⟨_, _, hk⟩ | ⟨_, hk⟩ | ⟨_, hk⟩ | ⟨_, hn, _⟩
    iterate 4 omega
    exact hn
  rw [hm, tk_yes hm]
  have e2 : nextS q.s k = q.s := by unfold nextS; rw [if_neg e6, if_neg e8, if_neg (by omega)]
  rw [e2] at hok ⊢
  have HBE := Lib.hid (fun W hW => behind_any base g v q k W hW h11)
  have HG := Lib.hid h
  have HOK := Lib.hid hok
  have b6 : (k == 6) = false := by simpa using e6
  have b8 : (k == 8) = false := by simpa using e8
  have b7 : (k == 7) = false := by simpa using e7
  have b9 : (k == 9) = false := by simpa using e9
  clear h hm hok h11 e2 e6 e8 e7 e9
  generalize nextP q k = np at *
  go_enter Try.func13, Try.ntmps13
  go_wp2_with fail
  with_reducible refine HMY.out.mono ?_
  rintro e w1 ⟨rfl, hst⟩
  have HST := Lib.hid hst
  have HG1 := Lib.hid (HG.out.still hst)
  clear hst HMY
  go_wp2_with fail
  with_reducible refine (HBE.out _ HG1.out).mono ?_
  rintro e w2 ⟨rfl, hst⟩
  have HST2 := Lib.hid (HST.out.trans hst)
  have HG2 := Lib.hid (HG1.out.still hst)
  have f0 : w2.frozen? ⟨g, 0, none⟩ = false := HG2.out.blk.frozen 0
  have c0 : w2.cell? ⟨g, 0, none⟩ = some (.int .i64 q.p) := HG2.out.blk.cell 0
  have hlt := HG2.out.blk.lt
  clear hst HBE HST HG1
  go_wp2
  go_ret
  exact ⟨rfl, v, ⟨HOK.out, HG2.out.len, HG2.out.blk.put 0 _ rfl, rown_set HG2.out.own HG2.out.blk (by decide), HG2.out.lg⟩, (SFr.of_below HST2.out.below).set 0 _, RowTo.refl _ _⟩
set_option maxHeartbeats 2000000 in
theorem take_list (base g : Nat) (v : Value) (q : Gm) (w : World) (h : GIs w base g v q) (hm : mayB q 6 = true) (hlen : q.s.length < 100000) (hbase : base ≤ w.heap.size) : Calls Try.prog 13 #[.pointer (some ⟨g, 0, none⟩), .int .i64 6] w (TRes base g v (tkG q 6) (mayB q 6) w) := by
  have HMY := Lib.hid (may_any base g v q 6 w h)
  rw [hm] at HMY
  have hok := tk_ok h.ok 6
  rw [tk_yes hm] at hok
  rw [hm, tk_yes hm]
  have e2 : nextS q.s 6 = q.s ++ [7] := rfl
  rw [e2] at hok ⊢
  have HBE := Lib.hid (fun W hW => behind_any base g v q 6 W hW (fun h => absurd h (by decide)))
  obtain ⟨A, c, hv, hc, hcm⟩ := own_form h.own
  obtain ⟨n, hnl⟩ : ∃ n, q.s.length = n := ⟨_, rfl⟩
  rw [hnl] at hv hc
  subst hv
  have HNL := Lib.hid hnl
  rw [hnl] at hlen
  clear hnl
  have HG := Lib.hid h
  have HOK := Lib.hid hok
  clear h hm hok e2
  generalize nextP q 6 = np at *
  go_enter Try.func13, Try.ntmps13
  go_wp2_with fail
  with_reducible refine HMY.out.mono ?_
  rintro e w1 ⟨rfl, hst⟩
  have HST := Lib.hid hst
  have HG1 := Lib.hid (HG.out.still hst)
  clear hst HMY
  go_wp2_with fail
  with_reducible refine (HBE.out _ HG1.out).mono ?_
  rintro e w2 ⟨rfl, hst⟩
  have HST2 := Lib.hid (HST.out.trans hst)
  have HG2 := Lib.hid (HG1.out.still hst)
  have f0 : w2.frozen? ⟨g, 0, none⟩ = false := HG2.out.blk.frozen 0
  have c0 : w2.cell? ⟨g, 0, none⟩ = some (.int .i64 q.p) := HG2.out.blk.cell 0
  have hlt := HG2.out.blk.lt
  have hb3 : GBlk (w2.setCell ⟨g, 0, none⟩ (.int .i64 np)) g np (.slice A n c) := HG2.out.blk.put 0 _ rfl
  have ho3 : G8r (w2.setCell ⟨g, 0, none⟩ (.int .i64 np)) base (.slice A n c) q.s := rown_set HG2.out.own HG2.out.blk (by decide)
  have hf3 : SFr g g (.slice A n c) w (w2.setCell ⟨g, 0, none⟩ (.int .i64 np)) := (SFr.of_below HST2.out.below).set 0 _
  have c1 : (w2.setCell ⟨g, 0, none⟩ (.int .i64 np)).cell? ⟨g, 1, none⟩ = some (.slice A n c) := hb3.cell 1
  have hs3 : base ≤ (w2.setCell ⟨g, 0, none⟩ (.int .i64 np)).heap.size := Nat.le_trans hbase hf3.size
  have HB3 := Lib.hid hb3
  have HO3 := Lib.hid ho3
  have HF3 := Lib.hid hf3
  have HS3 := Lib.hid hs3
  clear hst HBE HST HG1 hb3 ho3 hf3 hs3
  go_wp2_with (at_builtin; refine wpList_appL rfl (.tmp 22) (.tmp 23) 38 rfl base 5 .u8 1 Try.underlying38 info_u8g (by omega) (.slice A n c) q.s rfl (HO3.out.alloc _) _ _ _ 1 [7] rfl rfl (fun h => by cases h) (Ints.litAt _ 5 .u8 [7] (g := w2.heap.size) (by simp [World.setCell])) (by rw [HNL.out]; simp; omega) (by rw [World.size_alloc]; have := HS3.out; omega) ?_; intro v4 w4 hO4 hG4; obtain ⟨A4, c4, hv4, _⟩ := own_form hO4; have hl4 : (q.s ++ [7]).length = n + 1 := (by rw [List.length_append, HNL.out]; rfl); rw [hl4] at hv4; subst hv4; clear hl4; have HX4 := Lib.hid (HB3.out.alloc (.cells #[.int .u8 7] 5)); have hne : (Value.slice A n c).ownBlock ≠ some g := rown_ne HO3.out HB3.out (by decide); have hb4 : GBlk w4 g np (.slice A n c) := (hG4.1.block g HX4.out.lt (fun e => hne e.symm)).trans HX4.out; have HB4 := Lib.hid hb4; have HO4 := Lib.hid hO4; have HF4 : Hid (SFr g g (.slice A n c) w w4) := Lib.hid (HF3.out.trans (RowTo.refl _ _) (SFr.grown ((Below.refl _ _).alloc (Nat.le_refl _) _) hG4.1)); have HR4 : Hid (RowTo w (.slice A n c) _) := Lib.hid (rowTo_grew hG4 (by rw [World.size_alloc]; have := HF3.out.size; omega)); have f1 : w4.frozen? ⟨g, 1, none⟩ = false := hb4.frozen 1; have d1 : w4.cell? ⟨g, 1, none⟩ = some (.slice A n c) := hb4.cell 1; have hl4 := hb4.lt; clear hb4 hO4 hG4 HX4)
  go_wp2
  go_ret
  exact ⟨rfl, _, ⟨HOK.out, by show (q.s ++ [7]).length ≤ 100000; rw [List.length_append]; rw [HNL.out]; simp; omega, HB4.out.put 1 _ rfl, rown_set HO4.out HB4.out (by decide), HG2.out.lg⟩, HF4.out.set 1 _, HR4.out⟩
set_option maxHeartbeats 2000000 in
theorem take_obj (base g : Nat) (v : Value) (q : Gm) (w : World) (h : GIs w base g v q) (hm : mayB q 8 = true) (hlen : q.s.length < 100000) (hbase : base ≤ w.heap.size) : Calls Try.prog 13 #[.pointer (some ⟨g, 0, none⟩), .int .i64 8] w (TRes base g v (tkG q 8) (mayB q 8) w) := by
  have HMY := Lib.hid (may_any base g v q 8 w h)
  rw [hm] at HMY
  have hok := tk_ok h.ok 8
  rw [tk_yes hm] at hok
  rw [hm, tk_yes hm]
  have e2 : nextS q.s 8 = q.s ++ [9] := rfl
  rw [e2] at hok ⊢
  have HBE := Lib.hid (fun W hW => behind_any base g v q 8 W hW (fun h => absurd h (by decide)))
  obtain ⟨A, c, hv, hc, hcm⟩ := own_form h.own
  obtain ⟨n, hnl⟩ : ∃ n, q.s.length = n := ⟨_, rfl⟩
  rw [hnl] at hv hc
  subst hv
  have HNL := Lib.hid hnl
  rw [hnl] at hlen
  clear hnl
  have HG := Lib.hid h
  have HOK := Lib.hid hok
  clear h hm hok e2
  generalize nextP q 8 = np at *
  go_enter Try.func13, Try.ntmps13
  go_wp2_with fail
  with_reducible refine HMY.out.mono ?_
  rintro e w1 ⟨rfl, hst⟩
  have HST := Lib.hid hst
  have HG1 := Lib.hid (HG.out.still hst)
  clear hst HMY
  go_wp2_with fail
  with_reducible refine (HBE.out _ HG1.out).mono ?_
  rintro e w2 ⟨rfl, hst⟩
  have HST2 := Lib.hid (HST.out.trans hst)
  have HG2 := Lib.hid (HG1.out.still hst)
  have f0 : w2.frozen? ⟨g, 0, none⟩ = false := HG2.out.blk.frozen 0
  have c0 : w2.cell? ⟨g, 0, none⟩ = some (.int .i64 q.p) := HG2.out.blk.cell 0
  have hlt := HG2.out.blk.lt
  have hb3 : GBlk (w2.setCell ⟨g, 0, none⟩ (.int .i64 np)) g np (.slice A n c) := HG2.out.blk.put 0 _ rfl
  have ho3 : G8r (w2.setCell ⟨g, 0, none⟩ (.int .i64 np)) base (.slice A n c) q.s := rown_set HG2.out.own HG2.out.blk (by decide)
  have hf3 : SFr g g (.slice A n c) w (w2.setCell ⟨g, 0, none⟩ (.int .i64 np)) := (SFr.of_below HST2.out.below).set 0 _
  have c1 : (w2.setCell ⟨g, 0, none⟩ (.int .i64 np)).cell? ⟨g, 1, none⟩ = some (.slice A n c) := hb3.cell 1
  have hs3 : base ≤ (w2.setCell ⟨g, 0, none⟩ (.int .i64 np)).heap.size := Nat.le_trans hbase hf3.size
  have HB3 := Lib.hid hb3
  have HO3 := Lib.hid ho3
  have HF3 := Lib.hid hf3
  have HS3 := Lib.hid hs3
  clear hst HBE HST HG1 hb3 ho3 hf3 hs3
  go_wp2_with (at_builtin; refine wpList_appL rfl (.tmp 33) (.tmp 34) 38 rfl base 5 .u8 1 Try.underlying38 info_u8g (by omega) (.slice A n c) q.s rfl (HO3.out.alloc _) _ _ _ 1 [9] rfl rfl (fun h => by cases h) (Ints.litAt _ 5 .u8 [9] (g := w2.heap.size) (by simp [World.setCell])) (by rw [HNL.out]; simp; omega) (by rw [World.size_alloc]; have := HS3.out; omega) ?_; intro v4 w4 hO4 hG4; obtain ⟨A4, c4, hv4, _⟩ := own_form hO4; have hl4 : (q.s ++ [9]).length = n + 1 := (by rw [List.length_append, HNL.out]; rfl); rw [hl4] at hv4; subst hv4; clear hl4; have HX4 := Lib.hid (HB3.out.alloc (.cells #[.int .u8 9] 5)); have hne : (Value.slice A n c).ownBlock ≠ some g := rown_ne HO3.out HB3.out (by decide); have hb4 : GBlk w4 g np (.slice A n c) := (hG4.1.block g HX4.out.lt (fun e => hne e.symm)).trans HX4.out; have HB4 := Lib.hid hb4; have HO4 := Lib.hid hO4; have HF4 : Hid (SFr g g (.slice A n c) w w4) := Lib.hid (HF3.out.trans (RowTo.refl _ _) (SFr.grown ((Below.refl _ _).alloc (Nat.le_refl _) _) hG4.1)); have HR4 : Hid (RowTo w (.slice A n c) _) := Lib.hid (rowTo_grew hG4 (by rw [World.size_alloc]; have := HF3.out.size; omega)); have f1 : w4.frozen? ⟨g, 1, none⟩ = false := hb4.frozen 1; have d1 : w4.cell? ⟨g, 1, none⟩ = some (.slice A n c) := hb4.cell 1; have hl4 := hb4.lt; clear hb4 hO4 hG4 HX4)
  go_wp2
  go_ret
  exact ⟨rfl, _, ⟨HOK.out, by show (q.s ++ [9]).length ≤ 100000; rw [List.length_append]; rw [HNL.out]; simp; omega, HB4.out.put 1 _ rfl, rown_set HO4.out HB4.out (by decide), HG2.out.lg⟩, HF4.out.set 1 _, HR4.out⟩
set_option maxHeartbeats 2000000 in
theorem take_close7 (base g : Nat) (v : Value) (q : Gm) (w : World) (h : GIs w base g v q) (hm : mayB q 7 = true) (hn : q.s ≠ []) : Calls Try.prog 13 #[.pointer (some ⟨g, 0, none⟩), .int .i64 7] w (TRes base g v (tkG q 7) (mayB q 7) w) := by
  have HMY := Lib.hid (may_any base g v q 7 w h)
  rw [hm] at HMY
  have hok := tk_ok h.ok 7
  rw [tk_yes hm] at hok
  rw [hm, tk_yes hm]
  have e2 : nextS q.s 7 = q.s.dropLast := rfl
  rw [e2] at hok ⊢
  have HBE := Lib.hid (fun W hW => behind_any base g v q 7 W hW (fun h => absurd h (by decide)))
  obtain ⟨m, hm⟩ : ∃ m, q.s.length = m + 1 := ⟨q.s.length - 1, by have := List.length_pos_iff.2 hn; omega⟩
  obtain ⟨A, c, hv, hc, hcm⟩ := own_form h.own
  obtain ⟨ab, ao, rfl, _⟩ := (Ints.own (by have := h.own; rw [hv] at this; exact this) : Ints w w.heap.size .u8 A q.s).at (by omega)
  rw [hm] at hv hc
  subst hv
  have hlen := h.len
  rw [hm] at hlen
  have HM := Lib.hid hm
  have HG := Lib.hid h
  have HOK := Lib.hid hok
  clear h hm hok e2 hn
  have hmc : (m : Int) ≤ (c : Int) := by omega
  have hwm : IntKind.i64.wrap (m : Int) = (m : Int) := IntWalk.i64_in _ (by omega)
  have hw1 : IntKind.i64.wrap (((m + 1 : Nat) : Int) - 1) = (m : Int) := by rw [IntWalk.i64_in _ (by omega)]; omega
  generalize nextP q 7 = np at *
  go_enter Try.func13, Try.ntmps13
  go_wp2_with fail
  with_reducible refine HMY.out.mono ?_
  rintro e w1 ⟨rfl, hst⟩
  have HST := Lib.hid hst
  have HG1 := Lib.hid (HG.out.still hst)
  clear hst HMY
  go_wp2_with fail
  with_reducible refine (HBE.out _ HG1.out).mono ?_
  rintro e w2 ⟨rfl, hst⟩
  have HST2 := Lib.hid (HST.out.trans hst)
  have HG2 := Lib.hid (HG1.out.still hst)
  have f0 : w2.frozen? ⟨g, 0, none⟩ = false := HG2.out.blk.frozen 0
  have c0 : w2.cell? ⟨g, 0, none⟩ = some (.int .i64 q.p) := HG2.out.blk.cell 0
  have hlt := HG2.out.blk.lt
  have HB3 : Hid (GBlk (w2.setCell ⟨g, 0, none⟩ (.int .i64 np)) g np (.slice (some ⟨ab, ao, none⟩) (m + 1) c)) := Lib.hid (HG2.out.blk.put 0 _ rfl)
  have HO3 : Hid (G8r (w2.setCell ⟨g, 0, none⟩ (.int .i64 np)) base (.slice (some ⟨ab, ao, none⟩) (m + 1) c) q.s) := Lib.hid (rown_set HG2.out.own HG2.out.blk (by decide))
  have HF3 : Hid (SFr g g (.slice (some ⟨ab, ao, none⟩) (m + 1) c) w (w2.setCell ⟨g, 0, none⟩ (.int .i64 np))) := Lib.hid ((SFr.of_below HST2.out.below).set 0 _)
  have HLG := Lib.hid HG2.out.lg
  clear hst HBE HST HG1 HST2 HG HG2
  go_wp2_with fail
  generalize w2.setCell ⟨g, 0, none⟩ (.int .i64 np) = w3 at *
  refine wp_region_still_tail 14 (by kernel_rfl) (by kernel_rfl) ?_
  simp only [List.take_succ_cons, List.take_zero, List.drop_succ_cons, List.drop_zero]
  generalize hW4 : ({ w3 with drawn := w3.drawn + 1 } : World) = w4
  have HB4 : Hid (GBlk w4 g np (.slice (some ⟨ab, ao, none⟩) (m + 1) c)) := Lib.hid (by rw [← hW4]; exact HB3.out.drew)
  have HO4 : Hid (G8r w4 base (.slice (some ⟨ab, ao, none⟩) (m + 1) c) q.s) := Lib.hid (by rw [← hW4]; exact rown_drew HO3.out)
  have HF4 : Hid (SFr g g (.slice (some ⟨ab, ao, none⟩) (m + 1) c) w w4) := Lib.hid (by rw [← hW4]; exact HF3.out.drew)
  clear hW4 HB3 HO3 HF3 f0 c0 hlt
  have c1 : w4.cell? ⟨g, 1, none⟩ = some (.slice (some ⟨ab, ao, none⟩) (m + 1) c) := HB4.out.cell 1
  have f1 : w4.frozen? ⟨g, 1, none⟩ = false := HB4.out.frozen 1
  have hlt := HB4.out.lt
  repeat still_step
  refine wpStill_nil ?_
  go_wp2
  go_ret
  exact ⟨rfl, .slice (some ⟨ab, ao, none⟩) m c, ⟨HOK.out, by show q.s.dropLast.length ≤ 100000; rw [List.length_dropLast, HM.out]; omega, HB4.out.put 1 _ rfl, rown_set (rown_init HO4.out HM.out) HB4.out (by decide), HLG.out⟩, HF4.out.set 1 _, .inl rfl⟩
set_option maxHeartbeats 2000000 in
theorem take_close9 (base g : Nat) (v : Value) (q : Gm) (w : World) (h : GIs w base g v q) (hm : mayB q 9 = true) (hn : q.s ≠ []) : Calls Try.prog 13 #[.pointer (some ⟨g, 0, none⟩), .int .i64 9] w (TRes base g v (tkG q 9) (mayB q 9) w) := by
  have HMY := Lib.hid (may_any base g v q 9 w h)
  rw [hm] at HMY
  have hok := tk_ok h.ok 9
  rw [tk_yes hm] at hok
  rw [hm, tk_yes hm]
  have e2 : nextS q.s 9 = q.s.dropLast := rfl
  rw [e2] at hok ⊢
  have HBE := Lib.hid (fun W hW => behind_any base g v q 9 W hW (fun h => absurd h (by decide)))
  obtain ⟨m, hm⟩ : ∃ m, q.s.length = m + 1 := ⟨q.s.length - 1, by have := List.length_pos_iff.2 hn; omega⟩
  obtain ⟨A, c, hv, hc, hcm⟩ := own_form h.own
  obtain ⟨ab, ao, rfl, _⟩ := (Ints.own (by have := h.own; rw [hv] at this; exact this) : Ints w w.heap.size .u8 A q.s).at (by omega)
  rw [hm] at hv hc
  subst hv
  have hlen := h.len
  rw [hm] at hlen
  have HM := Lib.hid hm
  have HG := Lib.hid h
  have HOK := Lib.hid hok
  clear h hm hok e2 hn
  have hmc : (m : Int) ≤ (c : Int) := by omega
  have hwm : IntKind.i64.wrap (m : Int) = (m : Int) := IntWalk.i64_in _ (by omega)
  have hw1 : IntKind.i64.wrap (((m + 1 : Nat) : Int) - 1) = (m : Int) := by rw [IntWalk.i64_in _ (by omega)]; omega
  generalize nextP q 9 = np at *
  go_enter Try.func13, Try.ntmps13
  go_wp2_with fail
  with_reducible refine HMY.out.mono ?_
  rintro e w1 ⟨rfl, hst⟩
  have HST := Lib.hid hst
  have HG1 := Lib.hid (HG.out.still hst)
  clear hst HMY
  go_wp2_with fail
  with_reducible refine (HBE.out _ HG1.out).mono ?_
  rintro e w2 ⟨rfl, hst⟩
  have HST2 := Lib.hid (HST.out.trans hst)
  have HG2 := Lib.hid (HG1.out.still hst)
  have f0 : w2.frozen? ⟨g, 0, none⟩ = false := HG2.out.blk.frozen 0
  have c0 : w2.cell? ⟨g, 0, none⟩ = some (.int .i64 q.p) := HG2.out.blk.cell 0
  have hlt := HG2.out.blk.lt
  have HB3 : Hid (GBlk (w2.setCell ⟨g, 0, none⟩ (.int .i64 np)) g np (.slice (some ⟨ab, ao, none⟩) (m + 1) c)) := Lib.hid (HG2.out.blk.put 0 _ rfl)
  have HO3 : Hid (G8r (w2.setCell ⟨g, 0, none⟩ (.int .i64 np)) base (.slice (some ⟨ab, ao, none⟩) (m + 1) c) q.s) := Lib.hid (rown_set HG2.out.own HG2.out.blk (by decide))
  have HF3 : Hid (SFr g g (.slice (some ⟨ab, ao, none⟩) (m + 1) c) w (w2.setCell ⟨g, 0, none⟩ (.int .i64 np))) := Lib.hid ((SFr.of_below HST2.out.below).set 0 _)
  have HLG := Lib.hid HG2.out.lg
  clear hst HBE HST HG1 HST2 HG HG2
  go_wp2_with fail
  generalize w2.setCell ⟨g, 0, none⟩ (.int .i64 np) = w3 at *
  refine wp_region_still_tail 14 (by kernel_rfl) (by kernel_rfl) ?_
  simp only [List.take_succ_cons, List.take_zero, List.drop_succ_cons, List.drop_zero]
  generalize hW4 : ({ w3 with drawn := w3.drawn + 1 } : World) = w4
  have HB4 : Hid (GBlk w4 g np (.slice (some ⟨ab, ao, none⟩) (m + 1) c)) := Lib.hid (by rw [← hW4]; exact HB3.out.drew)
  have HO4 : Hid (G8r w4 base (.slice (some ⟨ab, ao, none⟩) (m + 1) c) q.s) := Lib.hid (by rw [← hW4]; exact rown_drew HO3.out)
  have HF4 : Hid (SFr g g (.slice (some ⟨ab, ao, none⟩) (m + 1) c) w w4) := Lib.hid (by rw [← hW4]; exact HF3.out.drew)
  clear hW4 HB3 HO3 HF3 f0 c0 hlt
  have c1 : w4.cell? ⟨g, 1, none⟩ = some (.slice (some ⟨ab, ao, none⟩) (m + 1) c) := HB4.out.cell 1
  have f1 : w4.frozen? ⟨g, 1, none⟩ = false := HB4.out.frozen 1
  have hlt := HB4.out.lt
  repeat still_step
  refine wpStill_nil ?_
  go_wp2
  go_ret
  exact ⟨rfl, .slice (some ⟨ab, ao, none⟩) m c, ⟨HOK.out, by show q.s.dropLast.length ≤ 100000; rw [List.length_dropLast, HM.out]; omega, HB4.out.put 1 _ rfl, rown_set (rown_init HO4.out HM.out) HB4.out (by decide), HLG.out⟩, HF4.out.set 1 _, .inl rfl⟩
theorem take_any (base g : Nat) (v : Value) (q : Gm) (k : Int) (w : World) (h : GIs w base g v q) (hlen : q.s.length < 100000) (hbase : base ≤ w.heap.size) : Calls Try.prog 13 #[.pointer (some ⟨g, 0, none⟩), .int .i64 k] w (TRes base g v (tkG q k) (mayB q k) w) := by
  cases hm : mayB q k with
  | false => rw [← hm]; exact take_no base g v q k w h hm
  | true =>
    rw [← hm]
    by_cases e6 : k = 6
    · subst e6; exact take_list base g v q w h hm hlen hbase
    by_cases e8 : k = 8
    · subst e8; exact take_obj base g v q w h hm hlen hbase
    have hn : k = 7 ∨ k = 9 → q.s ≠ [] := fun e => by
      rcases may_cases h.ok hm with ⟨_, hk⟩ | ⟨_, hn, hk⟩ | ⟨_, hk⟩ | ⟨_, hk⟩ | ⟨_, hn, _⟩
      · omega
      · exact hn
      · omega
      · omega
      · exact hn
    by_cases e7 : k = 7
    · subst e7; exact take_close7 base g v q w h hm (hn (.inl rfl))
    by_cases e9 : k = 9
    · subst e9; exact take_close9 base g v q w h hm (hn (.inr rfl))
    exact take_plain base g v q k w h hm e6 e8 e7 e9
end Go.Proofs.Ytdkfffncohipbaa
