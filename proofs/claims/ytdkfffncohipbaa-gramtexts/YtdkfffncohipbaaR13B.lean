/- The document's Gram: Take. -/
import Derived.Test.YtdkfffncohipbaaR13A
import Derived.Test.YtdkfffncohipbaaAppG
import Derived.Test.YtdkfffncohipbaaAnyV
namespace Go.Proofs.Ytdkfffncohipbaa
set_option maxRecDepth 100000
open Go.ChangeShapes Go.WideShapes Go.ChangeAt Go.RowKit
set_option linter.unusedVariables false
set_option linter.unusedSimpArgs false

theorem info_intg : (Try.prog.info? 3).map (fun i => (i.zero, i.size, i.bytes)) = some (some (.int .i64 0), 1, 8) := by kernel_rfl
def RTRes (base a : Nat) (v : Value) (q' : Gm) (b : Bool) (w : World) (e : Ending) (w' : World) : Prop :=
  e = .returned (.bool b) ∧ ∃ v', RIs w' base a v' q' ∧ SFr a a v w w' ∧ RowTo w v v'
theorem rown_weak {w : World} {base base0 : Nat} {v : Value} {xs : List Int} {e : TypeId} {k : IntKind} (h : Own w base0 e k v xs) (hb : base ≤ base0) : Own w base e k v xs := by
  refine ⟨h.1, ?_⟩
  rcases h.2 with h2 | ⟨b, cap, cur, hv, hb2, hh, h3⟩
  · exact .inl h2
  · exact .inr ⟨b, cap, cur, hv, Nat.le_trans hb hb2, hh, h3⟩
theorem rtake_no (base a : Nat) (v : Value) (q : Gm) (k : Int) (w : World) (h : RIs w base a v q) (hm : mayB q k = false) : Calls Try.prog 14 #[.pointer (some ⟨a, 0, none⟩), .int .i64 k] w (RTRes base a v (tkG q k) (mayB q k) w) := by
  have HMY := Lib.hid (rmay_any base a v q k w h)
  rw [hm] at HMY
  rw [hm, tk_no hm]
  have HG := Lib.hid h
  clear h hm
  go_enter Try.func14, Try.ntmps14
  go_wp2_with fail
  with_reducible refine HMY.out.mono ?_
  rintro e w1 ⟨rfl, hst⟩
  have HST := Lib.hid hst
  clear hst HMY
  go_wp2
  go_ret
  exact ⟨rfl, v, HG.out.still HST.out, SFr.of_below HST.out.below, RowTo.refl _ _⟩
theorem rtake_plain (base a : Nat) (v : Value) (q : Gm) (k : Int) (w : World) (h : RIs w base a v q) (hm : mayB q k = true) (e6 : k ≠ 6) (e8 : k ≠ 8) (e7 : k ≠ 7) (e9 : k ≠ 9) (e10 : k ≠ 10) (e11 : k ≠ 11) : Calls Try.prog 14 #[.pointer (some ⟨a, 0, none⟩), .int .i64 k] w (RTRes base a v (tkG q k) (mayB q k) w) := by
  have HMY := Lib.hid (rmay_any base a v q k w h)
  rw [hm] at HMY
  have hok := tk_ok h.ok k
  rw [tk_yes hm] at hok
  rw [hm, tk_yes hm]
  have e2 : nextS q.s k = q.s := by unfold nextS; rw [if_neg e6, if_neg e8, if_neg (by omega)]
  have ep : nextP q k = if nameB q = true then 4 else 5 := by
    unfold nextP
    rw [if_neg e6, if_neg e8, if_neg e11, if_neg e10]
    have hn : (nameB q = true) ↔ (q.p = 2 ∨ q.p = 3) := by unfold nameB; simp
    by_cases hp : q.p = 2 ∨ q.p = 3
    · have hk : k = 5 := by
        rcases may_cases h.ok hm with ⟨hp2, _⟩ | ⟨_, _, hk⟩ | ⟨_, hk⟩ | ⟨_, hk⟩ | ⟨_, _, hk⟩ <;> omega
      rw [if_pos ⟨hk, hp⟩, if_pos (hn.2 hp)]
    · rw [if_neg (fun h => hp h.2), if_neg (fun h => hp (hn.1 h))]
  rw [e2] at hok ⊢
  rw [ep] at hok ⊢
  have HG := Lib.hid h
  have HOK := Lib.hid hok
  have b6 : (k == 6) = false := by simpa using e6
  have b8 : (k == 8) = false := by simpa using e8
  have b7 : (k == 7) = false := by simpa using e7
  have b9 : (k == 9) = false := by simpa using e9
  have b10 : (k == 10) = false := by simpa using e10
  have b11 : (k == 11) = false := by simpa using e11
  clear h hm hok e2 ep e6 e8 e7 e9 e10 e11
  have HNM := Lib.hid (fun W hW => rname_any base a v q W hW)
  cases hb : nameB q with
  | true =>
    rw [hb] at HNM
    rw [hb, if_pos rfl] at HOK
    rw [if_pos rfl]
    clear hb
    go_enter Try.func14, Try.ntmps14
    go_wp2_with fail
    with_reducible refine HMY.out.mono ?_
    rintro e w1 ⟨rfl, hst⟩
    have HST := Lib.hid hst
    have HG1 := Lib.hid (HG.out.still hst)
    clear hst HMY
    go_wp2_with fail
    with_reducible refine (HNM.out _ HG1.out).mono ?_
    rintro e w2 ⟨rfl, rfl⟩
    have f1 : w1.frozen? ⟨a, 1, none⟩ = false := HG1.out.blk.frozen 1
    have c1 : w1.cell? ⟨a, 1, none⟩ = some (.int .i64 (rP q.p)) := HG1.out.blk.cell 1
    have hlt := HG1.out.blk.lt
    have HB2 : Hid (RBlk (w1.setCell ⟨a, 1, none⟩ (.int .i64 1)) a v 1) := Lib.hid (HG1.out.blk.put 1 _ rfl)
    have HO2 : Hid (R64 (w1.setCell ⟨a, 1, none⟩ (.int .i64 1)) base v (rS q.s)) := Lib.hid (rown_set HG1.out.own HG1.out.blk (by decide))
    have f2 : (w1.setCell ⟨a, 1, none⟩ (.int .i64 1)).frozen? ⟨a, 1, none⟩ = false := HB2.out.frozen 1
    have c2 : (w1.setCell ⟨a, 1, none⟩ (.int .i64 1)).cell? ⟨a, 1, none⟩ = some (.int .i64 1) := HB2.out.cell 1
    go_wp2
    go_ret
    exact ⟨rfl, v, ⟨HOK.out, HG1.out.len, HB2.out.put 1 _ rfl, rown_set HO2.out HB2.out (by decide), HG1.out.la⟩, ((SFr.of_below HST.out.below).set 1 _).set 1 _, RowTo.refl _ _⟩
  | false =>
    rw [hb] at HNM
    rw [hb, if_neg (by decide)] at HOK
    rw [if_neg (by decide)]
    clear hb
    go_enter Try.func14, Try.ntmps14
    go_wp2_with fail
    with_reducible refine HMY.out.mono ?_
    rintro e w1 ⟨rfl, hst⟩
    have HST := Lib.hid hst
    have HG1 := Lib.hid (HG.out.still hst)
    clear hst HMY
    go_wp2_with fail
    with_reducible refine (HNM.out _ HG1.out).mono ?_
    rintro e w2 ⟨rfl, rfl⟩
    have f1 : w1.frozen? ⟨a, 1, none⟩ = false := HG1.out.blk.frozen 1
    have c1 : w1.cell? ⟨a, 1, none⟩ = some (.int .i64 (rP q.p)) := HG1.out.blk.cell 1
    have hlt := HG1.out.blk.lt
    go_wp2
    go_ret
    exact ⟨rfl, v, ⟨HOK.out, HG1.out.len, HG1.out.blk.put 1 _ rfl, rown_set HG1.out.own HG1.out.blk (by decide), HG1.out.la⟩, (SFr.of_below HST.out.below).set 1 _, RowTo.refl _ _⟩
theorem rtake_colon (base a : Nat) (v : Value) (q : Gm) (w : World) (h : RIs w base a v q) (hm : mayB q 10 = true) : Calls Try.prog 14 #[.pointer (some ⟨a, 0, none⟩), .int .i64 10] w (RTRes base a v (tkG q 10) (mayB q 10) w) := by
  have HMY := Lib.hid (rmay_any base a v q 10 w h)
  rw [hm] at HMY
  have hok := tk_ok h.ok 10
  rw [tk_yes hm] at hok
  rw [hm, tk_yes hm]
  rw [show nextP q 10 = 0 from rfl, show nextS q.s 10 = q.s from rfl] at hok ⊢
  have HG := Lib.hid h
  have HOK := Lib.hid hok
  clear h hm hok
  go_enter Try.func14, Try.ntmps14
  go_wp2_with fail
  with_reducible refine HMY.out.mono ?_
  rintro e w1 ⟨rfl, hst⟩
  have HST := Lib.hid hst
  have HG1 := Lib.hid (HG.out.still hst)
  clear hst HMY
  go_wp2_with fail
  with_reducible refine (rname_any base a v q w1 HG1.out).mono ?_
  rintro e w2 ⟨rfl, rfl⟩
  have f1 : w1.frozen? ⟨a, 1, none⟩ = false := HG1.out.blk.frozen 1
  have c1 : w1.cell? ⟨a, 1, none⟩ = some (.int .i64 (rP q.p)) := HG1.out.blk.cell 1
  have hlt := HG1.out.blk.lt
  go_wp2
  go_ret
  exact ⟨rfl, v, ⟨HOK.out, HG1.out.len, HG1.out.blk.put 1 _ rfl, rown_set HG1.out.own HG1.out.blk (by decide), HG1.out.la⟩, (SFr.of_below HST.out.below).set 1 _, RowTo.refl _ _⟩
theorem rtake_comma (base a : Nat) (v : Value) (q : Gm) (w : World) (h : RIs w base a v q) (hm : mayB q 11 = true) : Calls Try.prog 14 #[.pointer (some ⟨a, 0, none⟩), .int .i64 11] w (RTRes base a v (tkG q 11) (mayB q 11) w) := by
  have HMY := Lib.hid (rmay_any base a v q 11 w h)
  rw [hm] at HMY
  have hok := tk_ok h.ok 11
  rw [tk_yes hm] at hok
  rw [hm, tk_yes hm]
  rw [show nextP q 11 = if lastV q.s = 9 then 3 else 0 from rfl, show nextS q.s 11 = q.s from rfl] at hok ⊢
  have hn : q.s ≠ [] := by
    rcases may_cases h.ok hm with ⟨_, hk⟩ | ⟨_, _, hk⟩ | ⟨_, hk⟩ | ⟨_, hk⟩ | ⟨_, hn, _⟩
    · omega
    · omega
    · omega
    · omega
    · exact hn
  have hx : (rL q.s = 8 ∧ lastV q.s = 9) ∨ (rL q.s = 6 ∧ lastV q.s = 7) := by
    unfold rL
    rw [if_neg hn]
    rcases last_kind h.ok hn with e | e
    · rw [e]; exact .inr ⟨rfl, rfl⟩
    · rw [e]; exact .inl ⟨rfl, rfl⟩
  have HLA := Lib.hid (fun W hW => rlast_any base a v ⟨0, q.s⟩ W hW)
  have HOK0 := Lib.hid (gok_p 0 (.inl rfl) q.s h.ok.el)
  have HG := Lib.hid h
  have HOK := Lib.hid hok
  clear h hm hok hn
  dsimp only at HLA
  generalize hl : lastV q.s = y at *
  generalize hr : rL q.s = x at *
  clear hl hr
  rcases hx with ⟨rfl, rfl⟩ | ⟨rfl, rfl⟩
  · rw [if_pos rfl] at HOK
    rw [if_pos rfl]
    go_enter Try.func14, Try.ntmps14
    go_wp2_with fail
    with_reducible refine HMY.out.mono ?_
    rintro e w1 ⟨rfl, hst⟩
    have HST := Lib.hid hst
    have HG1 := Lib.hid (HG.out.still hst)
    clear hst HMY
    go_wp2_with fail
    with_reducible refine (rname_any base a v q w1 HG1.out).mono ?_
    rintro e w2 ⟨rfl, rfl⟩
    have f1 : w1.frozen? ⟨a, 1, none⟩ = false := HG1.out.blk.frozen 1
    have c1 : w1.cell? ⟨a, 1, none⟩ = some (.int .i64 (rP q.p)) := HG1.out.blk.cell 1
    have hlt := HG1.out.blk.lt
    have HR2 : Hid (RIs (w1.setCell ⟨a, 1, none⟩ (.int .i64 0)) base a v ⟨0, q.s⟩) := Lib.hid ⟨HOK0.out, HG1.out.len, HG1.out.blk.put 1 _ rfl, rown_set HG1.out.own HG1.out.blk (by decide), HG1.out.la⟩
    have HF2 : Hid (SFr a a v w (w1.setCell ⟨a, 1, none⟩ (.int .i64 0))) := Lib.hid ((SFr.of_below HST.out.below).set 1 _)
    go_wp2_with fail
    with_reducible refine (HLA.out _ HR2.out).mono ?_
    rintro e w3 ⟨rfl, hst⟩
    have HR3 := Lib.hid (HR2.out.still hst)
    have HF3 : Hid (SFr a a v w w3) := Lib.hid (HF2.out.trans (RowTo.refl _ _) (SFr.of_below hst.below))
    have f3 : w3.frozen? ⟨a, 1, none⟩ = false := HR3.out.blk.frozen 1
    have c3 : w3.cell? ⟨a, 1, none⟩ = some (.int .i64 0) := HR3.out.blk.cell 1
    have hl3 := HR3.out.blk.lt
    clear hst HLA HR2 HF2
    go_wp2
    go_ret
    exact ⟨rfl, v, ⟨HOK.out, HR3.out.len, HR3.out.blk.put 1 _ rfl, rown_set HR3.out.own HR3.out.blk (by decide), HR3.out.la⟩, HF3.out.set 1 _, RowTo.refl _ _⟩
  · rw [if_neg (by decide)] at HOK
    rw [if_neg (by decide)]
    go_enter Try.func14, Try.ntmps14
    go_wp2_with fail
    with_reducible refine HMY.out.mono ?_
    rintro e w1 ⟨rfl, hst⟩
    have HST := Lib.hid hst
    have HG1 := Lib.hid (HG.out.still hst)
    clear hst HMY
    go_wp2_with fail
    with_reducible refine (rname_any base a v q w1 HG1.out).mono ?_
    rintro e w2 ⟨rfl, rfl⟩
    have f1 : w1.frozen? ⟨a, 1, none⟩ = false := HG1.out.blk.frozen 1
    have c1 : w1.cell? ⟨a, 1, none⟩ = some (.int .i64 (rP q.p)) := HG1.out.blk.cell 1
    have hlt := HG1.out.blk.lt
    have HR2 : Hid (RIs (w1.setCell ⟨a, 1, none⟩ (.int .i64 0)) base a v ⟨0, q.s⟩) := Lib.hid ⟨HOK0.out, HG1.out.len, HG1.out.blk.put 1 _ rfl, rown_set HG1.out.own HG1.out.blk (by decide), HG1.out.la⟩
    have HF2 : Hid (SFr a a v w (w1.setCell ⟨a, 1, none⟩ (.int .i64 0))) := Lib.hid ((SFr.of_below HST.out.below).set 1 _)
    go_wp2_with fail
    with_reducible refine (HLA.out _ HR2.out).mono ?_
    rintro e w3 ⟨rfl, hst⟩
    have HR3 := Lib.hid (HR2.out.still hst)
    have HF3 : Hid (SFr a a v w w3) := Lib.hid (HF2.out.trans (RowTo.refl _ _) (SFr.of_below hst.below))
    clear hst HLA HR2 HF2
    go_wp2
    go_ret
    exact ⟨rfl, v, HR3.out, HF3.out, RowTo.refl _ _⟩
set_option maxHeartbeats 4000000 in
theorem rtake_list (base a : Nat) (v : Value) (q : Gm) (w : World) (h : RIs w base a v q) (hm : mayB q 6 = true) (hlen : q.s.length < 100000) (hbase : base ≤ w.heap.size) : Calls Try.prog 14 #[.pointer (some ⟨a, 0, none⟩), .int .i64 6] w (RTRes base a v (tkG q 6) (mayB q 6) w) := by
  have HMY := Lib.hid (rmay_any base a v q 6 w h)
  rw [hm] at HMY
  have hok := tk_ok h.ok 6
  rw [tk_yes hm] at hok
  rw [hm, tk_yes hm]
  rw [show nextP q 6 = 1 from rfl, show nextS q.s 6 = q.s ++ [7] from rfl] at hok ⊢
  obtain ⟨A, c, hv, hc, hcm⟩ := own_form h.own
  have HNIL := Lib.hid (own_nil (by have := h.own; rw [hv] at this; exact this))
  obtain ⟨n, hnl⟩ : ∃ n, (rS q.s).length = n := ⟨_, rfl⟩
  rw [hnl] at hv hc
  subst hv
  rw [← rS_len q.s, hnl] at hlen
  have HNL := Lib.hid hnl
  clear hnl
  have HG := Lib.hid h
  have HOK := Lib.hid hok
  clear h hm hok
  go_enter Try.func14, Try.ntmps14
  go_wp2_with fail
  with_reducible refine HMY.out.mono ?_
  rintro e w1 ⟨rfl, hst⟩
  have HST := Lib.hid hst
  have HG1 := Lib.hid (HG.out.still hst)
  clear hst HMY
  go_wp2_with fail
  with_reducible refine (rname_any base a (.slice A n c) q w1 HG1.out).mono ?_
  rintro e w2 ⟨rfl, rfl⟩
  obtain ⟨S0, hS0⟩ : ∃ S0, w1.heap.size = S0 := ⟨_, rfl⟩
  have HS0 := Lib.hid hS0
  have HBS : Hid (base ≤ S0) := Lib.hid (by have := HST.out.below.size; rw [← hS0]; omega)
  have c0 : w1.cell? ⟨a, 0, none⟩ = some (.slice A n c) := HG1.out.blk.cell 0
  have hlt := HG1.out.blk.lt
  have HI : Hid (Ints w1 w1.heap.size .i64 A (rS q.s)) := Lib.hid (Ints.own (by have := HG1.out.own; unfold R64 Own at this; rw [HNL.out] at this; exact this))
  clear hS0
  go_wp2_with (at_builtin; first
    | (refine wpList_appL rfl (.tmp 23) (.tmp 27) 22 rfl w1.heap.size 3 .i64 8 Try.underlying22 info_intg (by omega) _ [] rfl (own_empty w1 w1.heap.size 3 .i64 (Nat.le_refl _)) _ A n c (rS q.s) HNL.out rfl HNIL.out (HI.out.below ((Below.refl _ _).alloc (Nat.le_refl _) _) (Nat.le_refl _)) (by rw [HNL.out]; simp; omega) (by rw [World.size_alloc]; omega) ?_; intro v3 w3 hO3 hG3; obtain ⟨A3, c3, hv3, _⟩ := own_form hO3; have hl3 : ([] ++ rS q.s).length = n := (by rw [List.nil_append, HNL.out]); rw [hl3] at hv3; subst hv3; clear hl3; have HB3 : Hid (Below w1.heap.size w1 w3) := Lib.hid (((Below.refl _ _).alloc (Nat.le_refl _) _).trans (hG3.below (own_empty w1 w1.heap.size 3 .i64 (Nat.le_refl _)) (by rw [World.size_alloc]; omega))); have HO3 := Lib.hid hO3; have hz3 := HB3.out.size; clear hO3 hG3)
    | (refine wpList_appL rfl (.tmp 28) (.tmp 30) 22 rfl w1.heap.size 3 .i64 8 Try.underlying22 info_intg (by omega) _ _ rfl (HO3.out.alloc _) _ _ _ 1 [6] rfl rfl (fun h => by cases h) (Ints.lit _ 3 .i64 [6]) (by rw [List.nil_append, HNL.out]; simp; omega) (by rw [World.size_alloc]; omega) ?_; intro v4 w4 hO4 hG4; obtain ⟨A4, c4, hv4, _⟩ := own_form hO4; have hl4 : (([] ++ rS q.s) ++ [6]).length = n + 1 := (by rw [List.length_append, List.nil_append, HNL.out]; rfl); rw [hl4] at hv4; subst hv4; clear hl4; have HB4 : Hid (Below w1.heap.size w1 w4) := Lib.hid ((HB3.out.alloc hz3 _).trans (hG4.below (HO3.out.alloc _) (by rw [World.size_alloc]; omega))); have HO4 := Lib.hid hO4; have HK4 := Lib.hid (HG1.out.blk.below HB4.out hlt); have d0 : w4.cell? ⟨a, 0, none⟩ = some (.slice A n c) := HK4.out.cell 0; have g0 : w4.frozen? ⟨a, 0, none⟩ = false := HK4.out.frozen 0; have hl4 := HK4.out.lt; have HK5 : Hid (RBlk (w4.setCell ⟨a, 0, none⟩ (.slice A4 (n + 1) c4)) a (.slice A4 (n + 1) c4) (rP q.p)) := Lib.hid (HK4.out.put 0 _ rfl); have d1 : (w4.setCell ⟨a, 0, none⟩ (.slice A4 (n + 1) c4)).cell? ⟨a, 1, none⟩ = some (.int .i64 (rP q.p)) := HK5.out.cell 1; have g1 : (w4.setCell ⟨a, 0, none⟩ (.slice A4 (n + 1) c4)).frozen? ⟨a, 1, none⟩ = false := HK5.out.frozen 1; clear hO4 hG4))
  go_ret
  have e1 : rS (q.s ++ [7]) = ([] ++ rS q.s) ++ [6] := by unfold rS; simp
  refine ⟨rfl, _, ⟨HOK.out, by show (q.s ++ [7]).length ≤ 100000; rw [List.length_append, ← rS_len q.s, HNL.out]; simp; omega, HK5.out.put 1 _ rfl, ?_, HG1.out.la⟩, ((SFr.of_below (HST.out.below.trans (HB4.out.mono HST.out.below.size))).set 0 _).set 1 _, .inr fun k hk => ?_⟩
  · show R64 _ base _ (rS (q.s ++ [7]))
    rw [e1]
    exact rown_weak (rown_set (rown_set HO4.out HK4.out (by decide)) HK5.out (by decide)) (Nat.le_trans hbase HST.out.below.size)
  · exact Nat.le_trans HST.out.below.size (rown_low HO4.out k hk)
set_option maxHeartbeats 4000000 in
theorem rtake_obj (base a : Nat) (v : Value) (q : Gm) (w : World) (h : RIs w base a v q) (hm : mayB q 8 = true) (hlen : q.s.length < 100000) (hbase : base ≤ w.heap.size) : Calls Try.prog 14 #[.pointer (some ⟨a, 0, none⟩), .int .i64 8] w (RTRes base a v (tkG q 8) (mayB q 8) w) := by
  have HMY := Lib.hid (rmay_any base a v q 8 w h)
  rw [hm] at HMY
  have hok := tk_ok h.ok 8
  rw [tk_yes hm] at hok
  rw [hm, tk_yes hm]
  rw [show nextP q 8 = 2 from rfl, show nextS q.s 8 = q.s ++ [9] from rfl] at hok ⊢
  obtain ⟨A, c, hv, hc, hcm⟩ := own_form h.own
  have HNIL := Lib.hid (own_nil (by have := h.own; rw [hv] at this; exact this))
  obtain ⟨n, hnl⟩ : ∃ n, (rS q.s).length = n := ⟨_, rfl⟩
  rw [hnl] at hv hc
  subst hv
  rw [← rS_len q.s, hnl] at hlen
  have HNL := Lib.hid hnl
  clear hnl
  have HG := Lib.hid h
  have HOK := Lib.hid hok
  clear h hm hok
  go_enter Try.func14, Try.ntmps14
  go_wp2_with fail
  with_reducible refine HMY.out.mono ?_
  rintro e w1 ⟨rfl, hst⟩
  have HST := Lib.hid hst
  have HG1 := Lib.hid (HG.out.still hst)
  clear hst HMY
  go_wp2_with fail
  with_reducible refine (rname_any base a (.slice A n c) q w1 HG1.out).mono ?_
  rintro e w2 ⟨rfl, rfl⟩
  obtain ⟨S0, hS0⟩ : ∃ S0, w1.heap.size = S0 := ⟨_, rfl⟩
  have HS0 := Lib.hid hS0
  have HBS : Hid (base ≤ S0) := Lib.hid (by have := HST.out.below.size; rw [← hS0]; omega)
  have c0 : w1.cell? ⟨a, 0, none⟩ = some (.slice A n c) := HG1.out.blk.cell 0
  have hlt := HG1.out.blk.lt
  have HI : Hid (Ints w1 w1.heap.size .i64 A (rS q.s)) := Lib.hid (Ints.own (by have := HG1.out.own; unfold R64 Own at this; rw [HNL.out] at this; exact this))
  clear hS0
  go_wp2_with (at_builtin; first
    | (refine wpList_appL rfl (.tmp 40) (.tmp 44) 22 rfl w1.heap.size 3 .i64 8 Try.underlying22 info_intg (by omega) _ [] rfl (own_empty w1 w1.heap.size 3 .i64 (Nat.le_refl _)) _ A n c (rS q.s) HNL.out rfl HNIL.out (HI.out.below ((Below.refl _ _).alloc (Nat.le_refl _) _) (Nat.le_refl _)) (by rw [HNL.out]; simp; omega) (by rw [World.size_alloc]; omega) ?_; intro v3 w3 hO3 hG3; obtain ⟨A3, c3, hv3, _⟩ := own_form hO3; have hl3 : ([] ++ rS q.s).length = n := (by rw [List.nil_append, HNL.out]); rw [hl3] at hv3; subst hv3; clear hl3; have HB3 : Hid (Below w1.heap.size w1 w3) := Lib.hid (((Below.refl _ _).alloc (Nat.le_refl _) _).trans (hG3.below (own_empty w1 w1.heap.size 3 .i64 (Nat.le_refl _)) (by rw [World.size_alloc]; omega))); have HO3 := Lib.hid hO3; have hz3 := HB3.out.size; clear hO3 hG3)
    | (refine wpList_appL rfl (.tmp 45) (.tmp 47) 22 rfl w1.heap.size 3 .i64 8 Try.underlying22 info_intg (by omega) _ _ rfl (HO3.out.alloc _) _ _ _ 1 [8] rfl rfl (fun h => by cases h) (Ints.lit _ 3 .i64 [8]) (by rw [List.nil_append, HNL.out]; simp; omega) (by rw [World.size_alloc]; omega) ?_; intro v4 w4 hO4 hG4; obtain ⟨A4, c4, hv4, _⟩ := own_form hO4; have hl4 : (([] ++ rS q.s) ++ [8]).length = n + 1 := (by rw [List.length_append, List.nil_append, HNL.out]; rfl); rw [hl4] at hv4; subst hv4; clear hl4; have HB4 : Hid (Below w1.heap.size w1 w4) := Lib.hid ((HB3.out.alloc hz3 _).trans (hG4.below (HO3.out.alloc _) (by rw [World.size_alloc]; omega))); have HO4 := Lib.hid hO4; have HK4 := Lib.hid (HG1.out.blk.below HB4.out hlt); have d0 : w4.cell? ⟨a, 0, none⟩ = some (.slice A n c) := HK4.out.cell 0; have g0 : w4.frozen? ⟨a, 0, none⟩ = false := HK4.out.frozen 0; have hl4 := HK4.out.lt; have HK5 : Hid (RBlk (w4.setCell ⟨a, 0, none⟩ (.slice A4 (n + 1) c4)) a (.slice A4 (n + 1) c4) (rP q.p)) := Lib.hid (HK4.out.put 0 _ rfl); have d1 : (w4.setCell ⟨a, 0, none⟩ (.slice A4 (n + 1) c4)).cell? ⟨a, 1, none⟩ = some (.int .i64 (rP q.p)) := HK5.out.cell 1; have g1 : (w4.setCell ⟨a, 0, none⟩ (.slice A4 (n + 1) c4)).frozen? ⟨a, 1, none⟩ = false := HK5.out.frozen 1; clear hO4 hG4))
  go_ret
  have e1 : rS (q.s ++ [9]) = ([] ++ rS q.s) ++ [8] := by unfold rS; simp
  refine ⟨rfl, _, ⟨HOK.out, by show (q.s ++ [9]).length ≤ 100000; rw [List.length_append, ← rS_len q.s, HNL.out]; simp; omega, HK5.out.put 1 _ rfl, ?_, HG1.out.la⟩, ((SFr.of_below (HST.out.below.trans (HB4.out.mono HST.out.below.size))).set 0 _).set 1 _, .inr fun k hk => ?_⟩
  · show R64 _ base _ (rS (q.s ++ [9]))
    rw [e1]
    exact rown_weak (rown_set (rown_set HO4.out HK4.out (by decide)) HK5.out (by decide)) (Nat.le_trans hbase HST.out.below.size)
  · exact Nat.le_trans HST.out.below.size (rown_low HO4.out k hk)
set_option maxHeartbeats 4000000 in
theorem rtake_close7 (base a : Nat) (v : Value) (q : Gm) (w : World) (h : RIs w base a v q) (hm : mayB q 7 = true) (hn : q.s ≠ []) (hbase : base ≤ w.heap.size) : Calls Try.prog 14 #[.pointer (some ⟨a, 0, none⟩), .int .i64 7] w (RTRes base a v (tkG q 7) (mayB q 7) w) := by
  have HMY := Lib.hid (rmay_any base a v q 7 w h)
  rw [hm] at HMY
  have hok := tk_ok h.ok 7
  rw [tk_yes hm] at hok
  rw [hm, tk_yes hm]
  have hp5 : nextP q 7 = 5 := by unfold nextP; simp
  rw [hp5, show nextS q.s 7 = q.s.dropLast from rfl] at hok ⊢
  obtain ⟨m, hml⟩ : ∃ m, q.s.length = m + 1 := ⟨q.s.length - 1, by have := List.length_pos_iff.2 hn; omega⟩
  obtain ⟨A, c, hv, hc, hcm⟩ := own_form h.own
  obtain ⟨ab, ao, rfl, _⟩ := (Ints.own (by have := h.own; rw [hv] at this; exact this) : Ints w w.heap.size .i64 A (rS q.s)).at (by rw [rS_len]; omega)
  rw [rS_len, hml] at hv hc
  subst hv
  have hlen := h.len
  rw [hml] at hlen
  have HM := Lib.hid hml
  have HG := Lib.hid h
  have HOK := Lib.hid hok
  have hmc : (m : Int) ≤ (c : Int) := by omega
  have hwm : IntKind.i64.wrap (m : Int) = (m : Int) := IntWalk.i64_in _ (by omega)
  have hw1 : IntKind.i64.wrap (((m + 1 : Nat) : Int) - 1) = (m : Int) := by rw [IntWalk.i64_in _ (by omega)]; omega
  clear h hm hok hn hp5 hml
  go_enter Try.func14, Try.ntmps14
  go_wp2_with fail
  with_reducible refine HMY.out.mono ?_
  rintro e w1 ⟨rfl, hst⟩
  have HST := Lib.hid hst
  have HG1 := Lib.hid (HG.out.still hst)
  clear hst HMY
  go_wp2_with fail
  with_reducible refine (rname_any base a (.slice (some ⟨ab, ao, none⟩) (m + 1) c) q w1 HG1.out).mono ?_
  rintro e w2 ⟨rfl, rfl⟩
  have c0 : w1.cell? ⟨a, 0, none⟩ = some (.slice (some ⟨ab, ao, none⟩) (m + 1) c) := HG1.out.blk.cell 0
  have hlt := HG1.out.blk.lt
  go_wp2_with fail
  refine wp_region_V (fun W => RBlk W a (.slice (some ⟨ab, ao, none⟩) (m + 1) c) (rP q.p)) [16] (by kernel_rfl) ?_
  generalize hW0 : w1.drew = w0
  have HX0 : Hid (RIs w0 base a (.slice (some ⟨ab, ao, none⟩) (m + 1) c) q) := Lib.hid (by rw [← hW0]; exact HG1.out.still ⟨1, rfl⟩)
  have HB0 : Hid (Below w.heap.size w w0) := Lib.hid (by rw [← hW0]; exact HST.out.below.drew)
  have hsz : w.heap.size ≤ w0.heap.size := HB0.out.size
  clear hW0 c0 hlt HG1 HST HG
  refine wpV_take 0 57 [16] (v := ?v0) rfl rfl (by kernel_rfl) (by kernel_rfl) (by kernel_rfl) (by kernel_rfl) (fun _ _ _ h => h) HX0.out.blk (Or.inl ⟨by rfl, ?y0⟩) ?r0
  case y0 => (intro W hS; have hlW := Blk.lt hS; have hcW : W.cell? ⟨a, 0, none⟩ = some (.slice (some ⟨ab, ao, none⟩) (m + 1) c) := (by exact Blk.cell hS 0); go_simp; try with_reducible rfl)
  case r0 =>
  simp only [Act.put, List.setIfInBounds_toArray, List.set_cons_zero, List.set_cons_succ]
  refine wpV_take 2 59 [16] (v := ?v2) rfl rfl (by kernel_rfl) (by kernel_rfl) (by kernel_rfl) (by kernel_rfl) (fun _ _ _ h => h) HX0.out.blk (Or.inl ⟨by rfl, ?y2⟩) ?r2
  case y2 => (intro W hS; have hlW := Blk.lt hS; have hcW : W.cell? ⟨a, 0, none⟩ = some (.slice (some ⟨ab, ao, none⟩) (m + 1) c) := (by exact Blk.cell hS 0); go_simp; try with_reducible rfl)
  case r2 =>
  simp only [Act.put, List.setIfInBounds_toArray, List.set_cons_zero, List.set_cons_succ]
  refine wpV_take 3 60 [16] (v := ?v3) rfl rfl (by kernel_rfl) (by kernel_rfl) (by kernel_rfl) (by kernel_rfl) (fun _ _ _ h => h) HX0.out.blk (Or.inl ⟨by rfl, ?y3⟩) ?r3
  case y3 => (intro W hS; have hlW := Blk.lt hS; have hcW : W.cell? ⟨a, 0, none⟩ = some (.slice (some ⟨ab, ao, none⟩) (m + 1) c) := (by exact Blk.cell hS 0); go_simp; try with_reducible rfl)
  case r3 =>
  simp only [Act.put, List.setIfInBounds_toArray, List.set_cons_zero, List.set_cons_succ]
  refine wpV_take 4 61 [16] (v := ?v4) rfl rfl (by kernel_rfl) (by kernel_rfl) (by kernel_rfl) (by kernel_rfl) (fun _ _ _ h => h) HX0.out.blk (Or.inl ⟨by rfl, ?y4⟩) ?r4
  case y4 => (intro W hS; have hlW := Blk.lt hS; have hcW : W.cell? ⟨a, 0, none⟩ = some (.slice (some ⟨ab, ao, none⟩) (m + 1) c) := (by exact Blk.cell hS 0); go_simp; try with_reducible rfl)
  case r4 =>
  simp only [Act.put, List.setIfInBounds_toArray, List.set_cons_zero, List.set_cons_succ]
  refine wpV_take 5 62 [16] (v := ?v5) rfl rfl (by kernel_rfl) (by kernel_rfl) (by kernel_rfl) (by kernel_rfl) (fun _ _ _ h => h) HX0.out.blk (Or.inl ⟨by rfl, ?y5⟩) ?r5
  case y5 => (intro W hS; have hlW := Blk.lt hS; have hcW : W.cell? ⟨a, 0, none⟩ = some (.slice (some ⟨ab, ao, none⟩) (m + 1) c) := (by exact Blk.cell hS 0); go_simp; try with_reducible rfl)
  case r5 =>
  simp only [Act.put, List.setIfInBounds_toArray, List.set_cons_zero, List.set_cons_succ]
  refine wpV_take 6 63 [16] (v := ?v6) rfl rfl (by kernel_rfl) (by kernel_rfl) (by kernel_rfl) (by kernel_rfl) (fun _ _ _ h => h) HX0.out.blk (Or.inl ⟨by rfl, ?y6⟩) ?r6
  case y6 => (intro W hS; have hlW := Blk.lt hS; have hcW : W.cell? ⟨a, 0, none⟩ = some (.slice (some ⟨ab, ao, none⟩) (m + 1) c) := (by exact Blk.cell hS 0); go_simp; try with_reducible rfl)
  case r6 =>
  simp only [Act.put, List.setIfInBounds_toArray, List.set_cons_zero, List.set_cons_succ]
  refine wpV_take 7 64 [16] (v := ?v7) rfl rfl (by kernel_rfl) (by kernel_rfl) (by kernel_rfl) (by kernel_rfl) (fun _ _ _ h => h) HX0.out.blk (Or.inl ⟨by rfl, ?y7⟩) ?r7
  case y7 => (intro W hS; have hlW := Blk.lt hS; have hcW : W.cell? ⟨a, 0, none⟩ = some (.slice (some ⟨ab, ao, none⟩) (m + 1) c) := (by exact Blk.cell hS 0); go_simp; try with_reducible rfl)
  case r7 =>
  simp only [Act.put, List.setIfInBounds_toArray, List.set_cons_zero, List.set_cons_succ]
  refine wpV_take 8 65 [16] (v := ?v8) rfl rfl (by kernel_rfl) (by kernel_rfl) (by kernel_rfl) (by kernel_rfl) (fun _ _ _ h => h) HX0.out.blk (Or.inl ⟨by rfl, ?y8⟩) ?r8
  case y8 => (intro W hS; have hlW := Blk.lt hS; have hcW : W.cell? ⟨a, 0, none⟩ = some (.slice (some ⟨ab, ao, none⟩) (m + 1) c) := (by exact Blk.cell hS 0); go_simp; try with_reducible rfl)
  case r8 =>
  simp only [Act.put, List.setIfInBounds_toArray, List.set_cons_zero, List.set_cons_succ]
  refine wpV_take 9 66 [16] (v := ?v9) rfl rfl (by kernel_rfl) (by kernel_rfl) (by kernel_rfl) (by kernel_rfl) (fun _ _ _ h => h) HX0.out.blk (Or.inl ⟨by rfl, ?y9⟩) ?r9
  case y9 => (intro W hS; have hlW := Blk.lt hS; have hcW : W.cell? ⟨a, 0, none⟩ = some (.slice (some ⟨ab, ao, none⟩) (m + 1) c) := (by exact Blk.cell hS 0); go_simp; try with_reducible rfl)
  case r9 =>
  simp only [Act.put, List.setIfInBounds_toArray, List.set_cons_zero, List.set_cons_succ]
  refine wpV_take 10 67 [16] (v := ?v10) rfl rfl (by kernel_rfl) (by kernel_rfl) (by kernel_rfl) (by kernel_rfl) (fun _ _ _ h => h) HX0.out.blk (Or.inl ⟨by rfl, ?y10⟩) ?r10
  case y10 => (intro W hS; have hlW := Blk.lt hS; have hcW : W.cell? ⟨a, 0, none⟩ = some (.slice (some ⟨ab, ao, none⟩) (m + 1) c) := (by exact Blk.cell hS 0); go_simp; try with_reducible rfl)
  case r10 =>
  simp only [Act.put, List.setIfInBounds_toArray, List.set_cons_zero, List.set_cons_succ]
  refine wpV_take 11 68 [16] (v := ?v11) rfl rfl (by kernel_rfl) (by kernel_rfl) (by kernel_rfl) (by kernel_rfl) (fun _ _ _ h => h) HX0.out.blk (Or.inl ⟨by rfl, ?y11⟩) ?r11
  case y11 => (intro W hS; have hlW := Blk.lt hS; have hcW : W.cell? ⟨a, 0, none⟩ = some (.slice (some ⟨ab, ao, none⟩) (m + 1) c) := (by exact Blk.cell hS 0); go_simp; try with_reducible rfl)
  case r11 =>
  simp only [Act.put, List.setIfInBounds_toArray, List.set_cons_zero, List.set_cons_succ]
  refine wpV_take 12 69 [16] (v := ?v12) rfl rfl (by kernel_rfl) (by kernel_rfl) (by kernel_rfl) (by kernel_rfl) (fun _ _ _ h => h) HX0.out.blk (Or.inl ⟨by rfl, ?y12⟩) ?r12
  case y12 => (intro W hS; have hlW := Blk.lt hS; have hcW : W.cell? ⟨a, 0, none⟩ = some (.slice (some ⟨ab, ao, none⟩) (m + 1) c) := (by exact Blk.cell hS 0); go_simp; try with_reducible rfl)
  case r12 =>
  simp only [Act.put, List.setIfInBounds_toArray, List.set_cons_zero, List.set_cons_succ]
  refine wpV_one 1 (by kernel_rfl) rfl (fun K hK => ?_)
  go_simp
  refine hK.out _ _ (.inr (HX0.out.blk.alloc _)) ?_
  clear hK K
  try simp only [Act.put, List.getElem_toArray, List.getElem_cons_succ, List.getElem_cons_zero, List.setIfInBounds_toArray, List.set_cons_zero, List.set_cons_succ]
  refine wpV_one 13 (by kernel_rfl) rfl (fun K hK => ?_)
  refine wpA_if (by rfl) ?_
  have HIX : Hid (Ints w0 w0.heap.size .i64 (some ⟨ab, ao, none⟩) (rS q.s).dropLast) := Lib.hid (by rw [List.dropLast_eq_take]; exact (Ints.own (by have := HX0.out.own; unfold R64 Own at this; rw [rS_len, HM.out] at this; exact this)).take _)
  have HDL : Hid ((rS q.s).dropLast.length = m) := Lib.hid (by rw [List.length_dropLast, rS_len, HM.out]; rfl)
  refine wp_appL (.tmp 58) (.tmp 69) 22 rfl w0.heap.size 3 .i64 8 Try.underlying22 info_intg (by decide) _ [] rfl (own_empty w0 w0.heap.size 3 .i64 (Nat.le_refl _)) _ (some ⟨ab, ao, none⟩) m c (rS q.s).dropLast HDL.out rfl (fun h => by cases h) (HIX.out.below ((Below.refl _ _).alloc (Nat.le_refl _) _) (Nat.le_refl _)) (by rw [HDL.out]; simp; omega) (by rw [World.size_alloc]; omega) ?_
  intro v3 w3 hO3 hG3
  obtain ⟨A3, c3, hv3, _⟩ := own_form hO3
  have hl3 : ([] ++ (rS q.s).dropLast).length = m := by rw [List.nil_append, HDL.out]
  rw [hl3] at hv3
  subst hv3
  clear hl3
  have HB3 : Hid (Below w0.heap.size w0 w3) := Lib.hid (((Below.refl _ _).alloc (Nat.le_refl _) _).trans (hG3.below (own_empty w0 w0.heap.size 3 .i64 (Nat.le_refl _)) (by rw [World.size_alloc]; omega)))
  have HO3 := Lib.hid hO3
  have HK3 : Hid (RBlk w3 a (.slice (some ⟨ab, ao, none⟩) (m + 1) c) (rP q.p)) := Lib.hid (HX0.out.blk.below HB3.out HX0.out.blk.lt)
  clear hO3 hG3
  refine hK.out _ _ (.inr HK3.out) ?_
  clear hK K
  try simp only [Act.put, List.getElem_toArray, List.getElem_cons_succ, List.getElem_cons_zero, List.setIfInBounds_toArray, List.set_cons_zero, List.set_cons_succ]
  refine wpV_take 14 71 [16] (v := ?v14) rfl rfl (by kernel_rfl) (by kernel_rfl) (by kernel_rfl) (by kernel_rfl) (fun _ _ _ h => h) HK3.out (Or.inl ⟨by rfl, ?y14⟩) ?r14
  case y14 => (intro W hS; have hlW := Blk.lt hS; have hcW : W.cell? ⟨a, 0, none⟩ = some (.slice (some ⟨ab, ao, none⟩) (m + 1) c) := (by exact Blk.cell hS 0); go_simp; try with_reducible rfl)
  case r14 =>
  simp only [Act.put, List.setIfInBounds_toArray, List.set_cons_zero, List.set_cons_succ]
  refine wpV_take 15 72 [16] (v := ?v15) rfl rfl (by kernel_rfl) (by kernel_rfl) (by kernel_rfl) (by kernel_rfl) (fun _ _ _ h => h) HK3.out (Or.inl ⟨by rfl, ?y15⟩) ?r15
  case y15 => (intro W hS; have hlW := Blk.lt hS; have hcW : W.cell? ⟨a, 0, none⟩ = some (.slice (some ⟨ab, ao, none⟩) (m + 1) c) := (by exact Blk.cell hS 0); go_simp; try with_reducible rfl)
  case r15 =>
  simp only [Act.put, List.setIfInBounds_toArray, List.set_cons_zero, List.set_cons_succ]
  refine wpV_one 16 (by kernel_rfl) rfl (fun K hK => ?_)
  have d0 : w3.cell? ⟨a, 0, none⟩ = some (.slice (some ⟨ab, ao, none⟩) (m + 1) c) := HK3.out.cell 0
  have g0 : w3.frozen? ⟨a, 0, none⟩ = false := HK3.out.frozen 0
  have hl3 := HK3.out.lt
  go_simp
  refine hK.out _ _ (.inl rfl) ?_
  clear hK K
  try simp only [Act.put, List.getElem_toArray, List.getElem_cons_succ, List.getElem_cons_zero, List.setIfInBounds_toArray, List.set_cons_zero, List.set_cons_succ]
  refine wpV_done (by kernel_rfl) ?_ _
  have HK4 : Hid (RBlk (w3.setCell ⟨a, 0, none⟩ (.slice A3 m c3)) a (.slice A3 m c3) (rP q.p)) := Lib.hid (HK3.out.put 0 _ rfl)
  have d1 : (w3.setCell ⟨a, 0, none⟩ (.slice A3 m c3)).cell? ⟨a, 1, none⟩ = some (.int .i64 (rP q.p)) := HK4.out.cell 1
  have g1 : (w3.setCell ⟨a, 0, none⟩ (.slice A3 m c3)).frozen? ⟨a, 1, none⟩ = false := HK4.out.frozen 1
  clear d0 g0
  go_wp2
  go_ret
  have e1 : rS q.s.dropLast = [] ++ (rS q.s).dropLast := by rw [List.nil_append]; unfold rS; rw [List.map_dropLast]
  refine ⟨rfl, _, ⟨HOK.out, by show q.s.dropLast.length ≤ 100000; rw [List.length_dropLast, HM.out]; omega, HK4.out.put 1 _ rfl, ?_, HX0.out.la⟩, ((SFr.of_below (HB0.out.trans (HB3.out.mono hsz))).set 0 _).set 1 _, .inr fun k hk => ?_⟩
  · show R64 _ base _ (rS q.s.dropLast)
    rw [e1]
    exact rown_weak (rown_set (rown_set HO3.out HK3.out (by decide)) HK4.out (by decide)) (Nat.le_trans hbase hsz)
  · exact Nat.le_trans hsz (rown_low HO3.out k hk)
set_option maxHeartbeats 4000000 in
theorem rtake_close9 (base a : Nat) (v : Value) (q : Gm) (w : World) (h : RIs w base a v q) (hm : mayB q 9 = true) (hn : q.s ≠ []) (hbase : base ≤ w.heap.size) : Calls Try.prog 14 #[.pointer (some ⟨a, 0, none⟩), .int .i64 9] w (RTRes base a v (tkG q 9) (mayB q 9) w) := by
  have HMY := Lib.hid (rmay_any base a v q 9 w h)
  rw [hm] at HMY
  have hok := tk_ok h.ok 9
  rw [tk_yes hm] at hok
  rw [hm, tk_yes hm]
  have hp5 : nextP q 9 = 5 := by unfold nextP; simp
  rw [hp5, show nextS q.s 9 = q.s.dropLast from rfl] at hok ⊢
  obtain ⟨m, hml⟩ : ∃ m, q.s.length = m + 1 := ⟨q.s.length - 1, by have := List.length_pos_iff.2 hn; omega⟩
  obtain ⟨A, c, hv, hc, hcm⟩ := own_form h.own
  obtain ⟨ab, ao, rfl, _⟩ := (Ints.own (by have := h.own; rw [hv] at this; exact this) : Ints w w.heap.size .i64 A (rS q.s)).at (by rw [rS_len]; omega)
  rw [rS_len, hml] at hv hc
  subst hv
  have hlen := h.len
  rw [hml] at hlen
  have HM := Lib.hid hml
  have HG := Lib.hid h
  have HOK := Lib.hid hok
  have hmc : (m : Int) ≤ (c : Int) := by omega
  have hwm : IntKind.i64.wrap (m : Int) = (m : Int) := IntWalk.i64_in _ (by omega)
  have hw1 : IntKind.i64.wrap (((m + 1 : Nat) : Int) - 1) = (m : Int) := by rw [IntWalk.i64_in _ (by omega)]; omega
  clear h hm hok hn hp5 hml
  go_enter Try.func14, Try.ntmps14
  go_wp2_with fail
  with_reducible refine HMY.out.mono ?_
  rintro e w1 ⟨rfl, hst⟩
  have HST := Lib.hid hst
  have HG1 := Lib.hid (HG.out.still hst)
  clear hst HMY
  go_wp2_with fail
  with_reducible refine (rname_any base a (.slice (some ⟨ab, ao, none⟩) (m + 1) c) q w1 HG1.out).mono ?_
  rintro e w2 ⟨rfl, rfl⟩
  have c0 : w1.cell? ⟨a, 0, none⟩ = some (.slice (some ⟨ab, ao, none⟩) (m + 1) c) := HG1.out.blk.cell 0
  have hlt := HG1.out.blk.lt
  go_wp2_with fail
  refine wp_region_V (fun W => RBlk W a (.slice (some ⟨ab, ao, none⟩) (m + 1) c) (rP q.p)) [16] (by kernel_rfl) ?_
  generalize hW0 : w1.drew = w0
  have HX0 : Hid (RIs w0 base a (.slice (some ⟨ab, ao, none⟩) (m + 1) c) q) := Lib.hid (by rw [← hW0]; exact HG1.out.still ⟨1, rfl⟩)
  have HB0 : Hid (Below w.heap.size w w0) := Lib.hid (by rw [← hW0]; exact HST.out.below.drew)
  have hsz : w.heap.size ≤ w0.heap.size := HB0.out.size
  clear hW0 c0 hlt HG1 HST HG
  refine wpV_take 0 57 [16] (v := ?v0) rfl rfl (by kernel_rfl) (by kernel_rfl) (by kernel_rfl) (by kernel_rfl) (fun _ _ _ h => h) HX0.out.blk (Or.inl ⟨by rfl, ?y0⟩) ?r0
  case y0 => (intro W hS; have hlW := Blk.lt hS; have hcW : W.cell? ⟨a, 0, none⟩ = some (.slice (some ⟨ab, ao, none⟩) (m + 1) c) := (by exact Blk.cell hS 0); go_simp; try with_reducible rfl)
  case r0 =>
  simp only [Act.put, List.setIfInBounds_toArray, List.set_cons_zero, List.set_cons_succ]
  refine wpV_take 2 59 [16] (v := ?v2) rfl rfl (by kernel_rfl) (by kernel_rfl) (by kernel_rfl) (by kernel_rfl) (fun _ _ _ h => h) HX0.out.blk (Or.inl ⟨by rfl, ?y2⟩) ?r2
  case y2 => (intro W hS; have hlW := Blk.lt hS; have hcW : W.cell? ⟨a, 0, none⟩ = some (.slice (some ⟨ab, ao, none⟩) (m + 1) c) := (by exact Blk.cell hS 0); go_simp; try with_reducible rfl)
  case r2 =>
  simp only [Act.put, List.setIfInBounds_toArray, List.set_cons_zero, List.set_cons_succ]
  refine wpV_take 3 60 [16] (v := ?v3) rfl rfl (by kernel_rfl) (by kernel_rfl) (by kernel_rfl) (by kernel_rfl) (fun _ _ _ h => h) HX0.out.blk (Or.inl ⟨by rfl, ?y3⟩) ?r3
  case y3 => (intro W hS; have hlW := Blk.lt hS; have hcW : W.cell? ⟨a, 0, none⟩ = some (.slice (some ⟨ab, ao, none⟩) (m + 1) c) := (by exact Blk.cell hS 0); go_simp; try with_reducible rfl)
  case r3 =>
  simp only [Act.put, List.setIfInBounds_toArray, List.set_cons_zero, List.set_cons_succ]
  refine wpV_take 4 61 [16] (v := ?v4) rfl rfl (by kernel_rfl) (by kernel_rfl) (by kernel_rfl) (by kernel_rfl) (fun _ _ _ h => h) HX0.out.blk (Or.inl ⟨by rfl, ?y4⟩) ?r4
  case y4 => (intro W hS; have hlW := Blk.lt hS; have hcW : W.cell? ⟨a, 0, none⟩ = some (.slice (some ⟨ab, ao, none⟩) (m + 1) c) := (by exact Blk.cell hS 0); go_simp; try with_reducible rfl)
  case r4 =>
  simp only [Act.put, List.setIfInBounds_toArray, List.set_cons_zero, List.set_cons_succ]
  refine wpV_take 5 62 [16] (v := ?v5) rfl rfl (by kernel_rfl) (by kernel_rfl) (by kernel_rfl) (by kernel_rfl) (fun _ _ _ h => h) HX0.out.blk (Or.inl ⟨by rfl, ?y5⟩) ?r5
  case y5 => (intro W hS; have hlW := Blk.lt hS; have hcW : W.cell? ⟨a, 0, none⟩ = some (.slice (some ⟨ab, ao, none⟩) (m + 1) c) := (by exact Blk.cell hS 0); go_simp; try with_reducible rfl)
  case r5 =>
  simp only [Act.put, List.setIfInBounds_toArray, List.set_cons_zero, List.set_cons_succ]
  refine wpV_take 6 63 [16] (v := ?v6) rfl rfl (by kernel_rfl) (by kernel_rfl) (by kernel_rfl) (by kernel_rfl) (fun _ _ _ h => h) HX0.out.blk (Or.inl ⟨by rfl, ?y6⟩) ?r6
  case y6 => (intro W hS; have hlW := Blk.lt hS; have hcW : W.cell? ⟨a, 0, none⟩ = some (.slice (some ⟨ab, ao, none⟩) (m + 1) c) := (by exact Blk.cell hS 0); go_simp; try with_reducible rfl)
  case r6 =>
  simp only [Act.put, List.setIfInBounds_toArray, List.set_cons_zero, List.set_cons_succ]
  refine wpV_take 7 64 [16] (v := ?v7) rfl rfl (by kernel_rfl) (by kernel_rfl) (by kernel_rfl) (by kernel_rfl) (fun _ _ _ h => h) HX0.out.blk (Or.inl ⟨by rfl, ?y7⟩) ?r7
  case y7 => (intro W hS; have hlW := Blk.lt hS; have hcW : W.cell? ⟨a, 0, none⟩ = some (.slice (some ⟨ab, ao, none⟩) (m + 1) c) := (by exact Blk.cell hS 0); go_simp; try with_reducible rfl)
  case r7 =>
  simp only [Act.put, List.setIfInBounds_toArray, List.set_cons_zero, List.set_cons_succ]
  refine wpV_take 8 65 [16] (v := ?v8) rfl rfl (by kernel_rfl) (by kernel_rfl) (by kernel_rfl) (by kernel_rfl) (fun _ _ _ h => h) HX0.out.blk (Or.inl ⟨by rfl, ?y8⟩) ?r8
  case y8 => (intro W hS; have hlW := Blk.lt hS; have hcW : W.cell? ⟨a, 0, none⟩ = some (.slice (some ⟨ab, ao, none⟩) (m + 1) c) := (by exact Blk.cell hS 0); go_simp; try with_reducible rfl)
  case r8 =>
  simp only [Act.put, List.setIfInBounds_toArray, List.set_cons_zero, List.set_cons_succ]
  refine wpV_take 9 66 [16] (v := ?v9) rfl rfl (by kernel_rfl) (by kernel_rfl) (by kernel_rfl) (by kernel_rfl) (fun _ _ _ h => h) HX0.out.blk (Or.inl ⟨by rfl, ?y9⟩) ?r9
  case y9 => (intro W hS; have hlW := Blk.lt hS; have hcW : W.cell? ⟨a, 0, none⟩ = some (.slice (some ⟨ab, ao, none⟩) (m + 1) c) := (by exact Blk.cell hS 0); go_simp; try with_reducible rfl)
  case r9 =>
  simp only [Act.put, List.setIfInBounds_toArray, List.set_cons_zero, List.set_cons_succ]
  refine wpV_take 10 67 [16] (v := ?v10) rfl rfl (by kernel_rfl) (by kernel_rfl) (by kernel_rfl) (by kernel_rfl) (fun _ _ _ h => h) HX0.out.blk (Or.inl ⟨by rfl, ?y10⟩) ?r10
  case y10 => (intro W hS; have hlW := Blk.lt hS; have hcW : W.cell? ⟨a, 0, none⟩ = some (.slice (some ⟨ab, ao, none⟩) (m + 1) c) := (by exact Blk.cell hS 0); go_simp; try with_reducible rfl)
  case r10 =>
  simp only [Act.put, List.setIfInBounds_toArray, List.set_cons_zero, List.set_cons_succ]
  refine wpV_take 11 68 [16] (v := ?v11) rfl rfl (by kernel_rfl) (by kernel_rfl) (by kernel_rfl) (by kernel_rfl) (fun _ _ _ h => h) HX0.out.blk (Or.inl ⟨by rfl, ?y11⟩) ?r11
  case y11 => (intro W hS; have hlW := Blk.lt hS; have hcW : W.cell? ⟨a, 0, none⟩ = some (.slice (some ⟨ab, ao, none⟩) (m + 1) c) := (by exact Blk.cell hS 0); go_simp; try with_reducible rfl)
  case r11 =>
  simp only [Act.put, List.setIfInBounds_toArray, List.set_cons_zero, List.set_cons_succ]
  refine wpV_take 12 69 [16] (v := ?v12) rfl rfl (by kernel_rfl) (by kernel_rfl) (by kernel_rfl) (by kernel_rfl) (fun _ _ _ h => h) HX0.out.blk (Or.inl ⟨by rfl, ?y12⟩) ?r12
  case y12 => (intro W hS; have hlW := Blk.lt hS; have hcW : W.cell? ⟨a, 0, none⟩ = some (.slice (some ⟨ab, ao, none⟩) (m + 1) c) := (by exact Blk.cell hS 0); go_simp; try with_reducible rfl)
  case r12 =>
  simp only [Act.put, List.setIfInBounds_toArray, List.set_cons_zero, List.set_cons_succ]
  refine wpV_one 1 (by kernel_rfl) rfl (fun K hK => ?_)
  go_simp
  refine hK.out _ _ (.inr (HX0.out.blk.alloc _)) ?_
  clear hK K
  try simp only [Act.put, List.getElem_toArray, List.getElem_cons_succ, List.getElem_cons_zero, List.setIfInBounds_toArray, List.set_cons_zero, List.set_cons_succ]
  refine wpV_one 13 (by kernel_rfl) rfl (fun K hK => ?_)
  refine wpA_if (by rfl) ?_
  have HIX : Hid (Ints w0 w0.heap.size .i64 (some ⟨ab, ao, none⟩) (rS q.s).dropLast) := Lib.hid (by rw [List.dropLast_eq_take]; exact (Ints.own (by have := HX0.out.own; unfold R64 Own at this; rw [rS_len, HM.out] at this; exact this)).take _)
  have HDL : Hid ((rS q.s).dropLast.length = m) := Lib.hid (by rw [List.length_dropLast, rS_len, HM.out]; rfl)
  refine wp_appL (.tmp 58) (.tmp 69) 22 rfl w0.heap.size 3 .i64 8 Try.underlying22 info_intg (by decide) _ [] rfl (own_empty w0 w0.heap.size 3 .i64 (Nat.le_refl _)) _ (some ⟨ab, ao, none⟩) m c (rS q.s).dropLast HDL.out rfl (fun h => by cases h) (HIX.out.below ((Below.refl _ _).alloc (Nat.le_refl _) _) (Nat.le_refl _)) (by rw [HDL.out]; simp; omega) (by rw [World.size_alloc]; omega) ?_
  intro v3 w3 hO3 hG3
  obtain ⟨A3, c3, hv3, _⟩ := own_form hO3
  have hl3 : ([] ++ (rS q.s).dropLast).length = m := by rw [List.nil_append, HDL.out]
  rw [hl3] at hv3
  subst hv3
  clear hl3
  have HB3 : Hid (Below w0.heap.size w0 w3) := Lib.hid (((Below.refl _ _).alloc (Nat.le_refl _) _).trans (hG3.below (own_empty w0 w0.heap.size 3 .i64 (Nat.le_refl _)) (by rw [World.size_alloc]; omega)))
  have HO3 := Lib.hid hO3
  have HK3 : Hid (RBlk w3 a (.slice (some ⟨ab, ao, none⟩) (m + 1) c) (rP q.p)) := Lib.hid (HX0.out.blk.below HB3.out HX0.out.blk.lt)
  clear hO3 hG3
  refine hK.out _ _ (.inr HK3.out) ?_
  clear hK K
  try simp only [Act.put, List.getElem_toArray, List.getElem_cons_succ, List.getElem_cons_zero, List.setIfInBounds_toArray, List.set_cons_zero, List.set_cons_succ]
  refine wpV_take 14 71 [16] (v := ?v14) rfl rfl (by kernel_rfl) (by kernel_rfl) (by kernel_rfl) (by kernel_rfl) (fun _ _ _ h => h) HK3.out (Or.inl ⟨by rfl, ?y14⟩) ?r14
  case y14 => (intro W hS; have hlW := Blk.lt hS; have hcW : W.cell? ⟨a, 0, none⟩ = some (.slice (some ⟨ab, ao, none⟩) (m + 1) c) := (by exact Blk.cell hS 0); go_simp; try with_reducible rfl)
  case r14 =>
  simp only [Act.put, List.setIfInBounds_toArray, List.set_cons_zero, List.set_cons_succ]
  refine wpV_take 15 72 [16] (v := ?v15) rfl rfl (by kernel_rfl) (by kernel_rfl) (by kernel_rfl) (by kernel_rfl) (fun _ _ _ h => h) HK3.out (Or.inl ⟨by rfl, ?y15⟩) ?r15
  case y15 => (intro W hS; have hlW := Blk.lt hS; have hcW : W.cell? ⟨a, 0, none⟩ = some (.slice (some ⟨ab, ao, none⟩) (m + 1) c) := (by exact Blk.cell hS 0); go_simp; try with_reducible rfl)
  case r15 =>
  simp only [Act.put, List.setIfInBounds_toArray, List.set_cons_zero, List.set_cons_succ]
  refine wpV_one 16 (by kernel_rfl) rfl (fun K hK => ?_)
  have d0 : w3.cell? ⟨a, 0, none⟩ = some (.slice (some ⟨ab, ao, none⟩) (m + 1) c) := HK3.out.cell 0
  have g0 : w3.frozen? ⟨a, 0, none⟩ = false := HK3.out.frozen 0
  have hl3 := HK3.out.lt
  go_simp
  refine hK.out _ _ (.inl rfl) ?_
  clear hK K
  try simp only [Act.put, List.getElem_toArray, List.getElem_cons_succ, List.getElem_cons_zero, List.setIfInBounds_toArray, List.set_cons_zero, List.set_cons_succ]
  refine wpV_done (by kernel_rfl) ?_ _
  have HK4 : Hid (RBlk (w3.setCell ⟨a, 0, none⟩ (.slice A3 m c3)) a (.slice A3 m c3) (rP q.p)) := Lib.hid (HK3.out.put 0 _ rfl)
  have d1 : (w3.setCell ⟨a, 0, none⟩ (.slice A3 m c3)).cell? ⟨a, 1, none⟩ = some (.int .i64 (rP q.p)) := HK4.out.cell 1
  have g1 : (w3.setCell ⟨a, 0, none⟩ (.slice A3 m c3)).frozen? ⟨a, 1, none⟩ = false := HK4.out.frozen 1
  clear d0 g0
  go_wp2
  go_ret
  have e1 : rS q.s.dropLast = [] ++ (rS q.s).dropLast := by rw [List.nil_append]; unfold rS; rw [List.map_dropLast]
  refine ⟨rfl, _, ⟨HOK.out, by show q.s.dropLast.length ≤ 100000; rw [List.length_dropLast, HM.out]; omega, HK4.out.put 1 _ rfl, ?_, HX0.out.la⟩, ((SFr.of_below (HB0.out.trans (HB3.out.mono hsz))).set 0 _).set 1 _, .inr fun k hk => ?_⟩
  · show R64 _ base _ (rS q.s.dropLast)
    rw [e1]
    exact rown_weak (rown_set (rown_set HO3.out HK3.out (by decide)) HK4.out (by decide)) (Nat.le_trans hbase hsz)
  · exact Nat.le_trans hsz (rown_low HO3.out k hk)
theorem rtake_any (base a : Nat) (v : Value) (q : Gm) (k : Int) (w : World) (h : RIs w base a v q) (hlen : q.s.length < 100000) (hbase : base ≤ w.heap.size) : Calls Try.prog 14 #[.pointer (some ⟨a, 0, none⟩), .int .i64 k] w (RTRes base a v (tkG q k) (mayB q k) w) := by
  cases hm : mayB q k with
  | false => rw [← hm]; exact rtake_no base a v q k w h hm
  | true =>
    rw [← hm]
    by_cases e6 : k = 6
    · subst e6; exact rtake_list base a v q w h hm hlen hbase
    by_cases e8 : k = 8
    · subst e8; exact rtake_obj base a v q w h hm hlen hbase
    have hn : k = 7 ∨ k = 9 → q.s ≠ [] := fun e => by
      rcases may_cases h.ok hm with ⟨_, hk⟩ | ⟨_, hn, hk⟩ | ⟨_, hk⟩ | ⟨_, hk⟩ | ⟨_, hn, _⟩
      · omega
      · exact hn
      · omega
      · omega
      · exact hn
    by_cases e7 : k = 7
    · subst e7; exact rtake_close7 base a v q w h hm (hn (.inl rfl)) hbase
    by_cases e9 : k = 9
    · subst e9; exact rtake_close9 base a v q w h hm (hn (.inr rfl)) hbase
    by_cases e10 : k = 10
    · subst e10; exact rtake_colon base a v q w h hm
    by_cases e11 : k = 11
    · subst e11; exact rtake_comma base a v q w h hm
    exact rtake_plain base a v q k w h hm e6 e8 e7 e9 e10 e11
end Go.Proofs.Ytdkfffncohipbaa
