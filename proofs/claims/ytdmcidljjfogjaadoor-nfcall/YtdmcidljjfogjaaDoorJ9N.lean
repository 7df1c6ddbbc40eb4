/- Joined of: P8Comp. -/
import Derived.Test.YtdmcidljjfogjaaDoorJ9M
import Derived.Test.YtdmcidljjfogjaaDoorJ9F
import Derived.Test.YtdmcidljjfogjaaDoorJ9J
import Derived.Test.YtdmcidljjfogjaaDoorJ9G
import Derived.ScopeJumps
import Derived.WalkMore
/- Printed by gen_p8.py. compose.Two and compose.Compose by their contracts. -/
namespace Go.Proofs.YtdmcidljjfogjaaDoor
set_option maxRecDepth 100000
open Go.ChangeShapes Go.WideShapes Go.ChangeAt Go.RowKit
set_option linter.unusedVariables false
set_option linter.unusedSimpArgs false
attribute [local irreducible] P5 S5 C5

/-- a scope that is left by one jump ahead -/
theorem wp_scope_once {P : Program} {a : Act} {w : World} {Q : Exit → Act → World → Prop} {c rest : Code} (l : Nat) (hf : findLabel c l = some rest) (h : c.wp P (Exit.jump l (fun a' w' => rest.wp P (Exit.noGoto Q) a' w') Q) a w) : (Code.scope c).wp P Q a w :=
  wp_scope_jumps l _ (fun _ _ => 0) hf h fun a w hJ => Code.wp_mono (fun e a w hq => by cases e <;> first | exact hq | exact hq.elim) hJ
theorem jump_exit {l id : Nat} {J : Act → World → Prop} {Q : Exit → Act → World → Prop} {a : Act} {w : World} (h : Q (.exit id) a w) : Exit.jump l J Q (.exit id) a w := h
theorem two8 (a b : Int) (ha : R32 a) (hb : R32 b) (W : World) (B g : Nat) (hT : TblAt W B g C5 P5 S5) : Calls Tryd.prog 72 #[.pointer (some ⟨g, 0, none⟩), .int .i32 a, .int .i32 b] W fun e w' => e = .returned (.tuple #[.int .i32 (twoC a b), .bool (twoOk a b)]) ∧ W = w' := by
  have HJ := Lib.hid (fun W => hjoin_any a b W)
  cases hj : joinOk a b with
  | true =>
    obtain ⟨e1, e2⟩ := two_join hj
    rw [e1, e2]
    rw [hj] at HJ
    clear e1 e2 hj hT
    generalize joinC a b = d at *
    go_enter Tryd.func72, Tryd.ntmps72
    go_wp2_with fail
    with_reducible refine (HJ.out _).mono ?_
    rintro e w' ⟨rfl, rfl⟩
    go_wp2
    go_ret2
    exact ⟨rfl, rfl⟩
  | false =>
    obtain ⟨e1, e2⟩ := two_map hj
    rw [hj] at HJ
    have HQ : Hid (Calls Tryd.prog 68 #[.pointer (some ⟨g, 0, none⟩), .int .i32 a, .int .i32 b] W fun e w' => e = .returned (.tuple #[.int .i32 (twoC a b), .bool (twoOk a b)]) ∧ W = w') := Lib.hid (by rw [e1, e2]; exact joinedQ hT a b (r32_wf ha) (r32_wf hb))
    clear e1 e2 hj hT
    generalize twoC a b = v at *
    generalize twoOk a b = k at *
    generalize joinC a b = d at *
    go_enter Tryd.func72, Tryd.ntmps72
    go_wp2_with fail
    with_reducible refine (HJ.out _).mono ?_
    rintro e w' ⟨rfl, rfl⟩
    go_wp2_with fail
    with_reducible refine HQ.out.mono ?_
    rintro e w' ⟨rfl, rfl⟩
    go_wp2
    go_ret2
    exact ⟨rfl, rfl⟩
theorem two_ok : TwoOk := fun a b W g ha hb hT => (two8 a b ha hb W _ g hT).mono fun e w' h => ⟨h.1, h.2 ▸ Below.refl _ _⟩

/-- where the starter lies -/
def ptOf (gb : Nat) : CSt → Option Addr
  | (_, none) => none
  | (pre, some _) => some ⟨gb, pre.length, none⟩
/-- the class that is kept -/
def LastIs (q : Int) (σ : CSt) : Prop := ∀ s bs, σ.2 = some (s, bs) → q = cl5 (lastE s bs)
/-- the starter has class 0, what is behind it has not -/
def CIz (σ : CSt) : Prop := ∀ s bs, σ.2 = some (s, bs) → cl5 s = 0 ∧ ∀ b ∈ bs, 0 < cl5 b
theorem ciz_nil : CIz ([], none) := fun s bs h => by cases h
theorem ciz_put {pre : List Int} {s : Int} {bs : List Int} {c : Int} (h : CIz (pre, some (s, bs))) : CIz (cput cl5 pre s bs c) := by
  intro s' bs' e
  by_cases hz : cl5 c = 0
  · rw [cput_zero hz] at e
    injection e with e
    injection e with e1 e2
    subst e1; subst e2
    exact ⟨hz, fun b hb => by cases hb⟩
  · rw [cput_nonz hz] at e
    injection e with e
    injection e with e1 e2
    subst e1; subst e2
    refine ⟨(h _ _ rfl).1, fun b hb => ?_⟩
    rcases List.mem_append.1 hb with hb | hb
    · exact (h _ _ rfl).2 b hb
    · simp at hb; subst hb; have := cl5_nn b; omega
theorem ciz_step {σ : CSt} {c : Int} (h : CIz σ) : CIz (cstep cl5 two5 σ c) := by
  obtain ⟨pre, o⟩ := σ
  cases o with
  | none =>
    by_cases hz : cl5 c = 0
    · rw [cstep_zero hz]
      intro s' bs' e
      injection e with e
      injection e with e1 e2
      subst e1; subst e2
      exact ⟨hz, fun b hb => by cases hb⟩
    · rw [cstep_nonz hz]
      intro s' bs' e
      cases e
  | some q =>
    obtain ⟨s, bs⟩ := q
    by_cases hput : two5 s c = none ∨ barred cl5 bs c = true
    · rw [cstep_put hput]; exact ciz_put h
    · have hbar : barred cl5 bs c = false := by
        cases hh : barred cl5 bs c with
        | false => rfl
        | true => exact absurd (.inr hh) hput
      cases hh : two5 s c with
      | none => exact absurd (.inl hh) hput
      | some d =>
        rw [cstep_two hh hbar]
        intro s' bs' e
        injection e with e
        injection e with e1 e2
        subst e1; subst e2
        exact ⟨cmp5.tw0 _ _ _ hh, (h _ _ rfl).2⟩
theorem lastE_snoc (s : Int) (bs : List Int) (c : Int) : lastE s (bs ++ [c]) = c := by unfold lastE; simp
/-- one that is put behind the row -/
structure PutIs (gb : Nat) (σ σ' : CSt) (c : Int) : Prop where
  row : crow σ' = crow σ ++ [c]
  zero : cl5 c = 0 → ptOf gb σ' = some ⟨gb, (crow σ).length, none⟩
  more : cl5 c ≠ 0 → ptOf gb σ' = ptOf gb σ
  last : LastIs (cl5 c) σ'
theorem put_none (gb : Nat) (pre : List Int) (c : Int) : PutIs gb (pre, none) (cstep cl5 two5 (pre, none) c) c := by
  refine ⟨cstep_none pre c, fun h => by rw [cstep_zero h]; rfl, fun h => by rw [cstep_nonz h]; rfl, fun s bs e => ?_⟩
  by_cases hz : cl5 c = 0
  · rw [cstep_zero hz] at e
    injection e with e
    injection e with e1 e2
    subst e1; subst e2
    rfl
  · rw [cstep_nonz hz] at e
    cases e
theorem put_some {gb : Nat} {pre : List Int} {s : Int} {bs : List Int} {c : Int} (h : two5 s c = none ∨ barred cl5 bs c = true) : PutIs gb (pre, some (s, bs)) (cstep cl5 two5 (pre, some (s, bs)) c) c := by
  rw [cstep_put h]
  refine ⟨crow_put pre s bs c, fun h => by rw [cput_zero h]; rfl, fun h => by rw [cput_nonz h]; rfl, fun s' bs' e => ?_⟩
  by_cases hz : cl5 c = 0
  · rw [cput_zero hz] at e
    injection e with e
    injection e with e1 e2
    subst e1; subst e2
    rfl
  · rw [cput_nonz hz] at e
    injection e with e
    injection e with e1 e2
    subst e1; subst e2
    rw [lastE_snoc]
theorem barred_ciz {pre : List Int} {s : Int} {bs : List Int} {q c : Int} (h : CIz (pre, some (s, bs))) (hq : q = cl5 (lastE s bs)) : barred cl5 bs c = decide (0 < q ∧ cl5 c ≤ q) := by
  obtain ⟨h1, h2⟩ := h _ _ rfl
  rcases List.eq_nil_or_concat bs with hb | ⟨b, x, hb⟩
  · subst hb
    have : q = 0 := by rw [hq]; exact h1
    rw [barred_nil, decide_eq_false (by omega)]
  · have hx : lastE s bs = x := by subst hb; rw [List.concat_eq_append, lastE_snoc]
    have hp : 0 < cl5 x := h2 x (by subst hb; simp)
    rw [barred_last (s := s) (by subst hb; simp), hx]
    rw [hx] at hq
    subst hq
    exact decide_eq_decide.2 ⟨fun h => ⟨hp, by omega⟩, fun h => .inr h.2⟩
theorem last_two {pre : List Int} {s d : Int} {bs : List Int} {q : Int} (h : CIz (pre, some (s, bs))) (hq : LastIs q (pre, some (s, bs))) (hd : cl5 d = 0) : LastIs q (pre, some (d, bs)) := by
  intro s' bs' e
  injection e with e
  injection e with e1 e2
  subst e1; subst e2
  rw [hq _ _ rfl]
  unfold lastE
  cases bs.getLast? with
  | none => exact (h _ _ rfl).1.trans hd.symm
  | some x => rfl
def CmpLoop (w : World) (l : List Int) (gb n : Nat) (s5 s6 s7 s18 : Value) (wr : World) : Prop :=
  ∃ (k m : Nat) (q : Int) (σ : CSt), cst cl5 two5 (l.take k) = σ ∧ k ≤ n ∧ s18 = .int .i64 k ∧ m ≤ k ∧ (crow σ).length = m ∧ s5 = .slice (some ⟨gb, 0, none⟩) m n ∧ OwnS wr w.heap.size gb m n (crow σ) ∧ s6 = .pointer (ptOf gb σ) ∧ s7 = .int .i64 q ∧ LastIs q σ ∧ (∀ x ∈ crow σ, R32 x) ∧ CIz σ ∧ Below w.heap.size w wr
theorem one_cell (w : World) (c : Int) (t : TypeId) : ∀ j u, [Value.int .i32 c][j]? = some u → (w.alloc (.cells #[.int .i32 c] t)).cell? ((⟨w.heap.size, 0, none⟩ : Addr).add j) = some u := cell_one_new _ _ _
theorem one_ok (c : Int) : ∀ u ∈ [Value.int .i32 c], u.oneCell' = true := fun u h => by simp at h; subst h; rfl

set_option maxHeartbeats 8000000 in
theorem compose_ok : ComposeOk := by
  intro w g A n c l hA hT hR hn
  obtain ⟨ti, hi0, hz, hsz, hby⟩ := info_parts info_i32
  have HA := Lib.hid hA
  have HT := Lib.hid hT
  have HR := Lib.hid hR
  have HL := Lib.hid hA.len
  have HINFO := Lib.hid (And.intro hi0 (And.intro hz (And.intro hsz hby)))
  clear hA hT hR hi0 hz hsz hby
  go_enter Tryd.func57, Tryd.ntmps57
  go_wp2_with (at_make; refine wpList_make_own _ rfl _ _ 22 rfl w.heap.size 21 ti (.int .i32 0) 1 Tryd.underlying22 HINFO.out.1 HINFO.out.2.1 HINFO.out.2.2.1 .i64 .i64 _ n rfl rfl (by omega) (by rw [HINFO.out.2.2.2]; omega) (by unfold maxLen; omega) (Nat.le_refl _) ?_; intro w0 hown0 hgrow0)
  have HB0 : Hid (Below w.heap.size w w0) := Lib.hid ((Below.refl _ _).grown hgrow0 (Nat.le_refl _) (fun _ h => by cases h))
  have HO0 := Lib.hid hown0
  clear hown0 hgrow0
  have hgb : w.heap.size ≤ w.heap.size := Nat.le_refl _
  generalize hgg : w.heap.size = gb at HO0 hgb ⊢
  go_loopw [5, 6, 7, 18] (fun s5 s6 s7 s18 wr => CmpLoop w l gb n s5 s6 s7 s18 wr) (fun _ _ _ i _ => n - (intOf i).toNat)
  case atStart => exact ⟨0, 0, 0, ([], none), rfl, by omega, rfl, by omega, rfl, rfl, by rw [hgg]; exact HO0.out, rfl, rfl, (fun s bs e => by cases e), (fun x hx => by cases hx), ciz_nil, HB0.out⟩
  case round =>
    obtain ⟨k, m, q, σ, hσ, hk, rfl, hmk, hm, rfl, hO, rfl, rfl, hq, hI, hz, hb⟩ := hrel
    have HS := Lib.hid hσ
    have HM := Lib.hid hm
    have HO := Lib.hid hO
    have HQ := Lib.hid hq
    have HI := Lib.hid hI
    have HZI := Lib.hid hz
    have HBE := Lib.hid hb
    clear hσ hm hO hq hI hz HO0 HB0
    by_cases hlt : k < n
    · have hkl : k < l.length := by rw [HL.out]; exact hlt
      obtain ⟨b, o, rfl, hbl, hc⟩ := HA.out.first (by omega)
      have h1 : wr.cell? ⟨b, o + k, none⟩ = some (.int .i32 (l.getD k 0)) := (hb.cell (p := ⟨b, o + k, none⟩) hbl).trans (hc k hlt)
      have hlt' : (k : Int) < n := by omega
      have hmem : l.getD k 0 ∈ l := by
        rw [List.getD_eq_getElem?_getD, List.getElem?_eq_getElem hkl]
        exact List.getElem_mem hkl
      have HRC := Lib.hid (HR.out _ hmem)
      have HST : Hid (cst cl5 two5 (l.take (k + 1)) = cstep cl5 two5 σ (l.getD k 0)) := Lib.hid (by rw [take_snoc l k hkl, cst_snoc, HS.out])
      have HCL := Lib.hid (class7 (HT.out.go hb) (l.getD k 0))
      clear hc hmem hb hkl
      generalize l.getD k 0 = cc at *
      have HIN := Lib.hid (cstep_in HI.out HRC.out)
      have HZN := Lib.hid (ciz_step (c := cc) HZI.out)
      obtain ⟨σ', hσ'⟩ : ∃ σ', cstep cl5 two5 σ cc = σ' := ⟨_, rfl⟩
      rw [hσ'] at HST HIN HZN
      have HSN := Lib.hid hσ'
      clear hσ'
      go_wp2_with fail
      refine wp_scope_once 0 rfl ?_
      go_wp2_with fail
      with_reducible refine HCL.out.mono ?_
      rintro e w1 ⟨rfl, hs1⟩
      have HB1 : Hid (Below w.heap.size w w1) := Lib.hid (HBE.out.trans (hs1.below.mono HBE.out.size))
      have HO1 : Hid (OwnS w1 w.heap.size gb m n (crow σ)) := Lib.hid (own_below HO.out hs1.below (Nat.le_refl _))
      have HT1 := Lib.hid (HT.out.go HB1.out)
      clear hs1 HCL HBE HO h1
      have hgw1 : w.heap.size ≤ w1.heap.size := HB1.out.size
      have hnn := cl5_nn cc
      obtain ⟨pre, oo⟩ := σ
      cases oo with
      | none =>
        have HP := Lib.hid (put_none gb pre cc)
        rw [HSN.out] at HP
        have hpt : ptOf gb (pre, none) = none := rfl
        rw [hpt]
        have HPT := Lib.hid hpt
        clear hpt
        by_cases hz : cl5 cc = 0
        · have hzz : (cl5 cc == 0) = true := beq_iff_eq.2 hz
          have HZ := Lib.hid hz
          clear hz
          go_wp2_with fail
          go_step3
          refine ⟨rfl, ?_⟩
          go_wp2_with (at_builtin; refine wpList_append_fits _ rfl (.tmp 49) (.tmp 51) 22 rfl w.heap.size 21 ti 1 Tryd.underlying22 HINFO.out.1 HINFO.out.2.2.1 gb m n _ rfl (HO1.out.alloc _) ⟨w1.heap.size, 0, none⟩ 1 1 [.int .i32 cc] rfl rfl (one_cell w1 cc _) (one_ok cc) (by omega) ?_; intro w2 hO2 hG2; have HO2 := Lib.hid hO2; have HG2 := Lib.hid hG2; clear hO2 hG2)
          go_wp2
          change Exit.inBlock 1 _ Exit.normal _ _
          go_wp2
          go_roundw
          case rel => exact ⟨k + 1, m + 1, cl5 cc, σ', HST.out, by omega, by go_num, by omega, by rw [HP.out.row, List.length_append, HM.out]; rfl, rfl, by rw [HP.out.row]; unfold OwnS; rw [List.map_append]; exact HO2.out, by rw [HP.out.zero HZ.out, HM.out], rfl, HP.out.last, HIN.out, HZN.out, (HB1.out.trans ((below_new8 w1 (.cells #[.int .i32 cc] 21)).mono hgw1)).grown HG2.out (by rw [World.size_alloc]; omega) (fun k hk => by injection hk with hk; subst hk; exact HO1.out.low)⟩
          case measure => simp [intOf]; omega
        · have hzz : (cl5 cc == 0) = false := beq_eq_false_iff_ne.2 hz
          have HZ := Lib.hid hz
          clear hz
          go_wp2_with fail
          go_step3
          refine ⟨rfl, ?_⟩
          go_wp2_with (at_builtin; refine wpList_append_fits _ rfl (.tmp 49) (.tmp 51) 22 rfl w.heap.size 21 ti 1 Tryd.underlying22 HINFO.out.1 HINFO.out.2.2.1 gb m n _ rfl (HO1.out.alloc _) ⟨w1.heap.size, 0, none⟩ 1 1 [.int .i32 cc] rfl rfl (one_cell w1 cc _) (one_ok cc) (by omega) ?_; intro w2 hO2 hG2; have HO2 := Lib.hid hO2; have HG2 := Lib.hid hG2; clear hO2 hG2)
          go_wp2
          change Exit.inBlock 1 _ Exit.normal _ _
          go_wp2
          go_roundw
          case rel => exact ⟨k + 1, m + 1, cl5 cc, σ', HST.out, by omega, by go_num, by omega, by rw [HP.out.row, List.length_append, HM.out]; rfl, rfl, by rw [HP.out.row]; unfold OwnS; rw [List.map_append]; exact HO2.out, by rw [HP.out.more HZ.out, HPT.out], rfl, HP.out.last, HIN.out, HZN.out, (HB1.out.trans ((below_new8 w1 (.cells #[.int .i32 cc] 21)).mono hgw1)).grown HG2.out (by rw [World.size_alloc]; omega) (fun k hk => by injection hk with hk; subst hk; exact HO1.out.low)⟩
          case measure => simp [intOf]; omega
      | some so =>
        obtain ⟨s, bs⟩ := so
        obtain ⟨p, hp⟩ : ∃ p, pre.length = p := ⟨_, rfl⟩
        have hpt : ptOf gb (pre, some (s, bs)) = some ⟨gb, p, none⟩ := by simp [ptOf, hp]
        rw [hpt]
        have HPT := Lib.hid hpt
        clear hpt
        have HPB := Lib.hid hp
        have HBR := Lib.hid (barred_ciz (c := cc) HZI.out (HQ.out _ _ rfl))
        have hXl : (crow (pre, some (s, bs))).length = p + bs.length + 1 := by simp [crow, hp]; omega
        have hpm : p < m := by rw [← HM.out, hXl]; omega
        have HSI : Hid (R32 s) := Lib.hid (HI.out s (by simp [crow]))
        have hca : w1.cell? ⟨gb, p, none⟩ = some (.int .i32 s) := by
          have h := HO1.out.cell p (by rw [HM.out]; exact hpm)
          have h2 : (crow (pre, some (s, bs))).getD p 0 = s := by rw [← HPB.out]; exact row_at pre s bs
          rw [h2] at h; exact h
        have hq0 : 0 ≤ q := by rw [HQ.out _ _ rfl]; exact cl5_nn _
        clear hp hXl
        by_cases hbar : 0 < q ∧ cl5 cc ≤ q
        · have HP : Hid (PutIs gb (pre, some (s, bs)) (cstep cl5 two5 (pre, some (s, bs)) cc) cc) := Lib.hid (put_some (.inr (by rw [HBR.out]; exact decide_eq_true hbar)))
          rw [HSN.out] at HP
          obtain ⟨hb1, hb2⟩ := hbar
          clear hca
          by_cases hz : cl5 cc = 0
          · have hzz : (cl5 cc == 0) = true := beq_iff_eq.2 hz
            have HZ := Lib.hid hz
            clear hz
            go_wp2_with fail
            go_step3
            refine ⟨rfl, ?_⟩
            go_wp2_with (at_builtin; refine wpList_append_fits _ rfl (.tmp 49) (.tmp 51) 22 rfl w.heap.size 21 ti 1 Tryd.underlying22 HINFO.out.1 HINFO.out.2.2.1 gb m n _ rfl (HO1.out.alloc _) ⟨w1.heap.size, 0, none⟩ 1 1 [.int .i32 cc] rfl rfl (one_cell w1 cc _) (one_ok cc) (by omega) ?_; intro w2 hO2 hG2; have HO2 := Lib.hid hO2; have HG2 := Lib.hid hG2; clear hO2 hG2)
            go_wp2
            change Exit.inBlock 1 _ Exit.normal _ _
            go_wp2
            go_roundw
            case rel => exact ⟨k + 1, m + 1, cl5 cc, σ', HST.out, by omega, by go_num, by omega, by rw [HP.out.row, List.length_append, HM.out]; rfl, rfl, by rw [HP.out.row]; unfold OwnS; rw [List.map_append]; exact HO2.out, by rw [HP.out.zero HZ.out, HM.out], rfl, HP.out.last, HIN.out, HZN.out, (HB1.out.trans ((below_new8 w1 (.cells #[.int .i32 cc] 21)).mono hgw1)).grown HG2.out (by rw [World.size_alloc]; omega) (fun k hk => by injection hk with hk; subst hk; exact HO1.out.low)⟩
            case measure => simp [intOf]; omega
          · have hzz : (cl5 cc == 0) = false := beq_eq_false_iff_ne.2 hz
            have HZ := Lib.hid hz
            clear hz
            go_wp2_with fail
            go_step3
            refine ⟨rfl, ?_⟩
            go_wp2_with (at_builtin; refine wpList_append_fits _ rfl (.tmp 49) (.tmp 51) 22 rfl w.heap.size 21 ti 1 Tryd.underlying22 HINFO.out.1 HINFO.out.2.2.1 gb m n _ rfl (HO1.out.alloc _) ⟨w1.heap.size, 0, none⟩ 1 1 [.int .i32 cc] rfl rfl (one_cell w1 cc _) (one_ok cc) (by omega) ?_; intro w2 hO2 hG2; have HO2 := Lib.hid hO2; have HG2 := Lib.hid hG2; clear hO2 hG2)
            go_wp2
            change Exit.inBlock 1 _ Exit.normal _ _
            go_wp2
            go_roundw
            case rel => exact ⟨k + 1, m + 1, cl5 cc, σ', HST.out, by omega, by go_num, by omega, by rw [HP.out.row, List.length_append, HM.out]; rfl, rfl, by rw [HP.out.row]; unfold OwnS; rw [List.map_append]; exact HO2.out, by rw [HP.out.more HZ.out, HPT.out], rfl, HP.out.last, HIN.out, HZN.out, (HB1.out.trans ((below_new8 w1 (.cells #[.int .i32 cc] 21)).mono hgw1)).grown HG2.out (by rw [World.size_alloc]; omega) (fun k hk => by injection hk with hk; subst hk; exact HO1.out.low)⟩
            case measure => simp [intOf]; omega
        · have HBF : Hid (barred cl5 bs cc = false) := Lib.hid (by rw [HBR.out]; exact decide_eq_false hbar)
          have HTW := Lib.hid (two8 s cc HSI.out HRC.out w1 _ g HT1.out)
          cases htw : two5 s cc with
          | none =>
            have htc : twoC s cc = 0 := by unfold twoC; rw [htw]; rfl
            have hto : twoOk s cc = false := by unfold twoOk; rw [htw]; rfl
            rw [htc, hto] at HTW
            have HP : Hid (PutIs gb (pre, some (s, bs)) (cstep cl5 two5 (pre, some (s, bs)) cc) cc) := Lib.hid (put_some (.inl htw))
            rw [HSN.out] at HP
            clear htw htc hto
            by_cases hq1 : 0 < q
            · have hq2 : ¬ cl5 cc ≤ q := fun h => hbar ⟨hq1, h⟩
              have hq3 : ¬ q ≥ cl5 cc := hq2
              clear hbar
              by_cases hz : cl5 cc = 0
              · have hzz : (cl5 cc == 0) = true := beq_iff_eq.2 hz
                have HZ := Lib.hid hz
                clear hz
                go_wp2_with fail
                with_reducible refine HTW.out.mono ?_
                rintro e w' ⟨rfl, rfl⟩
                go_wp2_with fail
                go_step3
                go_wp2_with (at_builtin; refine wpList_append_fits _ rfl (.tmp 49) (.tmp 51) 22 rfl w.heap.size 21 ti 1 Tryd.underlying22 HINFO.out.1 HINFO.out.2.2.1 gb m n _ rfl (HO1.out.alloc _) ⟨w1.heap.size, 0, none⟩ 1 1 [.int .i32 cc] rfl rfl (one_cell w1 cc _) (one_ok cc) (by omega) ?_; intro w2 hO2 hG2; have HO2 := Lib.hid hO2; have HG2 := Lib.hid hG2; clear hO2 hG2)
                go_wp2
                change Exit.inBlock 1 _ Exit.normal _ _
                go_wp2
                go_roundw
                case rel => exact ⟨k + 1, m + 1, cl5 cc, σ', HST.out, by omega, by go_num, by omega, by rw [HP.out.row, List.length_append, HM.out]; rfl, rfl, by rw [HP.out.row]; unfold OwnS; rw [List.map_append]; exact HO2.out, by rw [HP.out.zero HZ.out, HM.out], rfl, HP.out.last, HIN.out, HZN.out, (HB1.out.trans ((below_new8 w1 (.cells #[.int .i32 cc] 21)).mono hgw1)).grown HG2.out (by rw [World.size_alloc]; omega) (fun k hk => by injection hk with hk; subst hk; exact HO1.out.low)⟩
                case measure => simp [intOf]; omega
              · have hzz : (cl5 cc == 0) = false := beq_eq_false_iff_ne.2 hz
                have HZ := Lib.hid hz
                clear hz
                go_wp2_with fail
                with_reducible refine HTW.out.mono ?_
                rintro e w' ⟨rfl, rfl⟩
                go_wp2_with fail
                go_step3
                go_wp2_with (at_builtin; refine wpList_append_fits _ rfl (.tmp 49) (.tmp 51) 22 rfl w.heap.size 21 ti 1 Tryd.underlying22 HINFO.out.1 HINFO.out.2.2.1 gb m n _ rfl (HO1.out.alloc _) ⟨w1.heap.size, 0, none⟩ 1 1 [.int .i32 cc] rfl rfl (one_cell w1 cc _) (one_ok cc) (by omega) ?_; intro w2 hO2 hG2; have HO2 := Lib.hid hO2; have HG2 := Lib.hid hG2; clear hO2 hG2)
                go_wp2
                change Exit.inBlock 1 _ Exit.normal _ _
                go_wp2
                go_roundw
                case rel => exact ⟨k + 1, m + 1, cl5 cc, σ', HST.out, by omega, by go_num, by omega, by rw [HP.out.row, List.length_append, HM.out]; rfl, rfl, by rw [HP.out.row]; unfold OwnS; rw [List.map_append]; exact HO2.out, by rw [HP.out.more HZ.out, HPT.out], rfl, HP.out.last, HIN.out, HZN.out, (HB1.out.trans ((below_new8 w1 (.cells #[.int .i32 cc] 21)).mono hgw1)).grown HG2.out (by rw [World.size_alloc]; omega) (fun k hk => by injection hk with hk; subst hk; exact HO1.out.low)⟩
                case measure => simp [intOf]; omega
            · obtain rfl : q = 0 := by omega
              have hq1 : ¬ (0 : Int) < 0 := by omega
              clear hbar
              by_cases hz : cl5 cc = 0
              · have hzz : (cl5 cc == 0) = true := beq_iff_eq.2 hz
                have HZ := Lib.hid hz
                clear hz
                go_wp2_with fail
                with_reducible refine HTW.out.mono ?_
                rintro e w' ⟨rfl, rfl⟩
                go_wp2_with fail
                go_step3
                go_wp2_with (at_builtin; refine wpList_append_fits _ rfl (.tmp 49) (.tmp 51) 22 rfl w.heap.size 21 ti 1 Tryd.underlying22 HINFO.out.1 HINFO.out.2.2.1 gb m n _ rfl (HO1.out.alloc _) ⟨w1.heap.size, 0, none⟩ 1 1 [.int .i32 cc] rfl rfl (one_cell w1 cc _) (one_ok cc) (by omega) ?_; intro w2 hO2 hG2; have HO2 := Lib.hid hO2; have HG2 := Lib.hid hG2; clear hO2 hG2)
                go_wp2
                change Exit.inBlock 1 _ Exit.normal _ _
                go_wp2
                go_roundw
                case rel => exact ⟨k + 1, m + 1, cl5 cc, σ', HST.out, by omega, by go_num, by omega, by rw [HP.out.row, List.length_append, HM.out]; rfl, rfl, by rw [HP.out.row]; unfold OwnS; rw [List.map_append]; exact HO2.out, by rw [HP.out.zero HZ.out, HM.out], rfl, HP.out.last, HIN.out, HZN.out, (HB1.out.trans ((below_new8 w1 (.cells #[.int .i32 cc] 21)).mono hgw1)).grown HG2.out (by rw [World.size_alloc]; omega) (fun k hk => by injection hk with hk; subst hk; exact HO1.out.low)⟩
                case measure => simp [intOf]; omega
              · have hzz : (cl5 cc == 0) = false := beq_eq_false_iff_ne.2 hz
                have HZ := Lib.hid hz
                clear hz
                go_wp2_with fail
                with_reducible refine HTW.out.mono ?_
                rintro e w' ⟨rfl, rfl⟩
                go_wp2_with fail
                go_step3
                go_wp2_with (at_builtin; refine wpList_append_fits _ rfl (.tmp 49) (.tmp 51) 22 rfl w.heap.size 21 ti 1 Tryd.underlying22 HINFO.out.1 HINFO.out.2.2.1 gb m n _ rfl (HO1.out.alloc _) ⟨w1.heap.size, 0, none⟩ 1 1 [.int .i32 cc] rfl rfl (one_cell w1 cc _) (one_ok cc) (by omega) ?_; intro w2 hO2 hG2; have HO2 := Lib.hid hO2; have HG2 := Lib.hid hG2; clear hO2 hG2)
                go_wp2
                change Exit.inBlock 1 _ Exit.normal _ _
                go_wp2
                go_roundw
                case rel => exact ⟨k + 1, m + 1, cl5 cc, σ', HST.out, by omega, by go_num, by omega, by rw [HP.out.row, List.length_append, HM.out]; rfl, rfl, by rw [HP.out.row]; unfold OwnS; rw [List.map_append]; exact HO2.out, by rw [HP.out.more HZ.out, HPT.out], rfl, HP.out.last, HIN.out, HZN.out, (HB1.out.trans ((below_new8 w1 (.cells #[.int .i32 cc] 21)).mono hgw1)).grown HG2.out (by rw [World.size_alloc]; omega) (fun k hk => by injection hk with hk; subst hk; exact HO1.out.low)⟩
                case measure => simp [intOf]; omega
          | some d =>
            have htc : twoC s cc = d := by unfold twoC; rw [htw]; rfl
            have hto : twoOk s cc = true := by unfold twoOk; rw [htw]; rfl
            rw [htc, hto] at HTW
            have HNEW : Hid (σ' = (pre, some (d, bs))) := Lib.hid (by rw [← HSN.out, cstep_two htw HBF.out])
            have HLT : Hid (LastIs q (pre, some (d, bs))) := Lib.hid (last_two HZI.out HQ.out (cmp5.tw0 _ _ _ htw))
            clear htw htc hto
            have f1 := World.ownsRow.frozenAt HO1.out p
            have hlow := HO1.out.low
            have HO2 : Hid (OwnS (w1.setCell ⟨gb, p, none⟩ (.int .i32 d)) w.heap.size gb m n (pre ++ d :: bs)) := Lib.hid (by have h := HO1.out.set p d; have h3 : (crow (pre, some (s, bs))).set p d = pre ++ d :: bs := (by rw [← HPB.out]; exact row_set pre s d bs); rw [h3] at h; exact h)
            have HB2 : Hid (Below w.heap.size w (w1.setCell ⟨gb, p, none⟩ (.int .i32 d))) := Lib.hid (HB1.out.setCell hlow _)
            by_cases hq1 : 0 < q
            · have hq2 : ¬ cl5 cc ≤ q := fun h => hbar ⟨hq1, h⟩
              have hq3 : ¬ q ≥ cl5 cc := hq2
              clear hbar
              go_wp2_with fail
              with_reducible refine HTW.out.mono ?_
              rintro e w' ⟨rfl, rfl⟩
              go_wp2
              refine jump_exit ?_
              go_wp2
              go_roundw
              case rel => exact ⟨k + 1, m, _, σ', HST.out, by omega, by go_num, by omega, by rw [HNEW.out, ← HM.out]; simp [crow], rfl, by rw [HNEW.out]; exact HO2.out, by rw [HNEW.out]; simp [ptOf, HPB.out], rfl, by rw [HNEW.out]; exact HLT.out, HIN.out, HZN.out, HB2.out⟩
              case measure => simp [intOf]; omega
            · obtain rfl : q = 0 := by omega
              have hq1 : ¬ (0 : Int) < 0 := by omega
              clear hbar
              go_wp2_with fail
              with_reducible refine HTW.out.mono ?_
              rintro e w' ⟨rfl, rfl⟩
              go_wp2
              refine jump_exit ?_
              go_wp2
              go_roundw
              case rel => exact ⟨k + 1, m, _, σ', HST.out, by omega, by go_num, by omega, by rw [HNEW.out, ← HM.out]; simp [crow], rfl, by rw [HNEW.out]; exact HO2.out, by rw [HNEW.out]; simp [ptOf, HPB.out], rfl, by rw [HNEW.out]; exact HLT.out, HIN.out, HZN.out, HB2.out⟩
              case measure => simp [intOf]; omega
    · have hlt' : ¬ (k : Int) < n := by omega
      have hkn : k = n := by omega
      go_wp2
      go_ret
      refine ⟨_, m, n, rfl, ?_, HBE.out⟩
      have h := RowIn.ofOwn HO.out
      have hl : l.take k = l := List.take_of_length_le (by rw [HL.out]; omega)
      unfold comp
      rw [hl] at HS
      rw [HS.out]
      exact h
end Go.Proofs.YtdmcidljjfogjaaDoor
