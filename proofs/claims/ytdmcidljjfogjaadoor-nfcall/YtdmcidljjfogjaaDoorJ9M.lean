/- Joined of: R8Two, R8Comp, C8Ex, C8Ok. -/
import Derived.Test.YtdmcidljjfogjaaDoorJ9L
import Derived.Test.YtdmcidljjfogjaaDoorJ9K
import Derived.Test.YtdmcidljjfogjaaDoorJ9G
import Derived.Test.YtdmcidljjfogjaaDoorJ9J
/- The document's Two by its contract. -/
namespace Go.Proofs.YtdmcidljjfogjaaDoor
set_option maxRecDepth 100000
open Go.ChangeShapes Go.WideShapes Go.ChangeAt Go.RowKit
set_option linter.unusedVariables false
set_option linter.unusedSimpArgs false
attribute [local irreducible] P5 S5 C5

/-- Two, as two results -/
noncomputable def twoC (a b : Int) : Int := (two5 a b).getD 0
noncomputable def twoOk (a b : Int) : Bool := (two5 a b).isSome
theorem two_join {a b : Int} (h : joinOk a b = true) : twoC a b = joinC a b ∧ twoOk a b = true := by
  unfold twoC twoOk two5; rw [if_pos h]; exact ⟨rfl, rfl⟩
theorem two_map {a b : Int} (h : joinOk a b = false) : twoC a b = (if [a, b] ∈ (jst P5).1 then (jst P5).2 [a, b] else 0) ∧ twoOk a b = decide ([a, b] ∈ (jst P5).1) := by
  unfold twoC twoOk two5
  rw [if_neg (by rw [h]; simp)]
  by_cases hm : [a, b] ∈ (jst P5).1
  · rw [if_pos hm, if_pos hm, decide_eq_true hm]; exact ⟨rfl, rfl⟩
  · rw [if_neg hm, if_neg hm, decide_eq_false hm]; exact ⟨rfl, rfl⟩
theorem twoC_in (a b : Int) : R32 (twoC a b) := by
  unfold twoC
  cases h : two5 a b with
  | none => unfold R32; simp
  | some d =>
    show R32 d
    unfold R32
    rcases two5_cases h with h | h | ⟨p, hp, _, _, _, h3⟩
    · have := (join_syl (.inl h)).1; omega
    · have := (join_syl (.inr h)).1; omega
    · have := (fine5.p p hp).1; omega
theorem DT.join {W : World} {R : Nat} (h : DT W R) : ∃ N, W.cell? ⟨R, 3, none⟩ = some (.map (some N)) ∧ ∀ a b, R32 a → R32 b → (Instr.lookup 65 (.map (some N)) (.agg #[.int .i32 a, .int .i32 b]) true).run Tryd.prog W = .ok (.tuple #[.int .i32 (if [a, b] ∈ (jst P5).1 then (jst P5).2 [a, b] else 0), .bool (decide ([a, b] ∈ (jst P5).1))]) W := by
  obtain ⟨N, rfl, h⟩ := h
  exact ⟨N + 1 + 1 + 1, h.blk.cell 3, fun a b ha hb => join_look h a b (r32_wf ha) (r32_wf hb)⟩
theorem rtwo_any (a b : Int) (ha : R32 a) (hb : R32 b) (W : World) (R : Nat) (hT : DT W R) : Calls Tryd.prog 56 #[.pointer (some ⟨R, 0, none⟩), .int .i32 a, .int .i32 b] W fun e w' => e = .returned (.tuple #[.int .i32 (twoC a b), .bool (twoOk a b)]) ∧ W = w' := by
  have HJ := Lib.hid (fun W => rjoin_any a b W)
  cases hj : joinOk a b with
  | true =>
    obtain ⟨e1, e2⟩ := two_join hj
    rw [e1, e2]
    rw [hj] at HJ
    clear e1 e2 hj hT
    generalize joinC a b = d at *
    go_enter Tryd.func56, Tryd.ntmps56
    go_wp2_with fail
    with_reducible refine (HJ.out _).mono ?_
    rintro e w' ⟨rfl, rfl⟩
    go_wp2
    go_ret2
    exact ⟨rfl, rfl⟩
  | false =>
    obtain ⟨e1, e2⟩ := two_map hj
    rw [hj] at HJ
    obtain ⟨N, hc, hl0⟩ := hT.join
    have hl : (Instr.lookup 65 (.map (some N)) (.agg #[.int .i32 a, .int .i32 b]) true).run Tryd.prog W = .ok (.tuple #[.int .i32 (twoC a b), .bool (twoOk a b)]) W := by rw [hl0 a b ha hb, e1, e2]
    clear e1 e2 hj hT hl0
    generalize twoC a b = v at *
    generalize twoOk a b = k at *
    generalize joinC a b = d at *
    go_enter Tryd.func56, Tryd.ntmps56
    go_wp2_with fail
    with_reducible refine (HJ.out _).mono ?_
    rintro e w' ⟨rfl, rfl⟩
    go_wp2
    go_ret2
    exact ⟨rfl, rfl⟩
end Go.Proofs.YtdmcidljjfogjaaDoor

/- Printed by gen_r8.py. The document's Compose by its contract. -/
namespace Go.Proofs.YtdmcidljjfogjaaDoor
set_option maxRecDepth 100000
open Go.ChangeShapes Go.WideShapes Go.ChangeAt Go.RowKit
set_option linter.unusedVariables false
set_option linter.unusedSimpArgs false
attribute [local irreducible] P5 S5 C5

/-- what stands last -/
def lastE (s : Int) (bs : List Int) : Int := bs.getLast?.getD s
/-- where the starter lies -/
def atOf : CSt → Int
  | (_, none) => -1
  | (pre, some _) => pre.length
theorem row_at (pre : List Int) (s : Int) (bs : List Int) : (pre ++ s :: bs).getD pre.length 0 = s := by
  rw [List.getD_eq_getElem?_getD, List.getElem?_append_right (Nat.le_refl _)]; simp
theorem row_last (pre : List Int) (s : Int) (bs : List Int) : (pre ++ s :: bs).getD (pre.length + bs.length) 0 = lastE s bs := by
  unfold lastE
  rw [List.getD_eq_getElem?_getD, List.getElem?_append_right (by omega)]
  rcases List.eq_nil_or_concat bs with h | ⟨b, x, h⟩
  · subst h; simp
  · subst h; simp
theorem row_set (pre : List Int) (s d : Int) (bs : List Int) : (pre ++ s :: bs).set pre.length d = pre ++ d :: bs := by
  rw [List.set_append_right _ _ (Nat.le_refl _)]; simp
theorem lastE_mem (pre : List Int) (s : Int) (bs : List Int) : lastE s bs ∈ pre ++ s :: bs := by
  unfold lastE
  cases h : bs.getLast? with
  | none => simp
  | some x => have := List.mem_of_getLast? h; simp [this]
theorem barred_last {s : Int} {bs : List Int} (hb : bs ≠ []) (c : Int) : barred cl5 bs c = decide (cl5 (lastE s bs) = 0 ∨ cl5 c ≤ cl5 (lastE s bs)) := by
  unfold barred lastE
  cases h : bs.getLast? with
  | none => exact absurd (List.getLast?_eq_none_iff.1 h) hb
  | some x => rfl
theorem cstep_in {σ : CSt} {c : Int} (h : ∀ x ∈ crow σ, R32 x) (hc : R32 c) : ∀ x ∈ crow (cstep cl5 two5 σ c), R32 x := by
  obtain ⟨pre, o⟩ := σ
  have hap : ∀ l : List Int, (∀ x ∈ l, R32 x) → ∀ x ∈ l ++ [c], R32 x := fun l hl x hx => by
    rcases List.mem_append.1 hx with hx | hx
    · exact hl x hx
    · simp at hx; rw [hx]; exact hc
  cases o with
  | none => rw [cstep_none]; exact hap pre h
  | some q =>
    obtain ⟨s, bs⟩ := q
    by_cases hput : two5 s c = none ∨ barred cl5 bs c = true
    · rw [cstep_put hput, crow_put]; exact hap _ h
    · have hbar : barred cl5 bs c = false := by
        cases hh : barred cl5 bs c with
        | false => rfl
        | true => exact absurd (.inr hh) hput
      cases hh : two5 s c with
      | none => exact absurd (.inl hh) hput
      | some d =>
        rw [cstep_two hh hbar]
        intro x hx
        have hd : R32 d := by have := twoC_in s c; unfold twoC at this; rw [hh] at this; exact this
        simp only [crow, List.mem_append, List.mem_cons] at hx
        rcases hx with hx | rfl | hx
        · exact h x (by simp [crow, hx])
        · exact hd
        · exact h x (by simp [crow, hx])
theorem crow_len (l : List Int) : (crow (cst cl5 two5 l)).length ≤ l.length := by
  refine row_snoc (p := fun l => (crow (cst cl5 two5 l)).length ≤ l.length) (Nat.le_refl _) (fun l c ih => ?_) l
  rw [cst_snoc]
  generalize cst cl5 two5 l = σ at *
  obtain ⟨pre, o⟩ := σ
  cases o with
  | none => rw [cstep_none]; simp [crow] at ih ⊢; omega
  | some q =>
    obtain ⟨s, bs⟩ := q
    by_cases hput : two5 s c = none ∨ barred cl5 bs c = true
    · rw [cstep_put hput, crow_put]; simp at ih ⊢; omega
    · have hbar : barred cl5 bs c = false := by
        cases hh : barred cl5 bs c with
        | false => rfl
        | true => exact absurd (.inr hh) hput
      cases hh : two5 s c with
      | none => exact absurd (.inl hh) hput
      | some d => rw [cstep_two hh hbar]; simp [crow] at ih ⊢; omega
theorem below_new8 (w : World) (o : Obj) : Below w.heap.size w (w.alloc o) := (Below.refl _ _).alloc (Nat.le_refl _) o
theorem len6 {x : Nat} {c : Int} (hx : x ≤ 1000000000) : x + [c].length ≤ 1099511627776 := by simp; omega
theorem bnd6 {x m : Nat} {c : Int} (h : x + [c].length = m) (hx : x ≤ 1000000000) : 1 ≤ m ∧ m ≤ 1000000001 := by simp at h; omega
theorem own_num {w : World} {base : Nat} {t : TypeId} {k : IntKind} {v : Value} {xs : List Int} (h : Own w base t k v xs) : ∃ A m c, xs.length = m ∧ v = .slice A m c := by
  obtain ⟨A, c, e, _, _⟩ := own_form h
  exact ⟨A, _, c, rfl, e⟩
theorem cstep_zero {pre : List Int} {c : Int} (h : cl5 c = 0) : cstep cl5 two5 (pre, none) c = (pre, some (c, [])) := by unfold cstep; simp [h]
theorem cstep_nonz {pre : List Int} {c : Int} (h : cl5 c ≠ 0) : cstep cl5 two5 (pre, none) c = (pre ++ [c], none) := by unfold cstep; simp [h]
theorem cput_zero {pre : List Int} {s : Int} {bs : List Int} {c : Int} (h : cl5 c = 0) : cput cl5 pre s bs c = (pre ++ s :: bs, some (c, [])) := by unfold cput; rw [if_pos h]
theorem cput_nonz {pre : List Int} {s : Int} {bs : List Int} {c : Int} (h : cl5 c ≠ 0) : cput cl5 pre s bs c = (pre, some (s, bs ++ [c])) := by unfold cput; rw [if_neg h]
def RCmpLoop (w : World) (l : List Int) (s5 s6 s7 : Value) (wr : World) : Prop :=
  ∃ k : Nat, k ≤ l.length ∧ s7 = .int .i64 k ∧ s6 = .int .i64 (atOf (cst cl5 two5 (l.take k))) ∧ Own wr w.heap.size 21 .i32 s5 (crow (cst cl5 two5 (l.take k))) ∧ (∀ x ∈ crow (cst cl5 two5 (l.take k)), R32 x) ∧ Below w.heap.size w wr

set_option maxHeartbeats 8000000 in
theorem rcompose_any (w : World) (R : Nat) (A : Option Addr) (n c : Nat) (l : List Int) (hA : RowIn w A n c l) (hT : DT w R) (hR : ∀ c ∈ l, R32 c) (hn : n ≤ 1000000000) :
    Calls Tryd.prog 34 #[.pointer (some ⟨R, 0, none⟩), .slice A n c] w (RowRes 21 .i32 w (comp cl5 two5 l)) := by
  have HA := Lib.hid hA
  have HT := Lib.hid hT
  have HR := Lib.hid hR
  have HL := Lib.hid hA.len
  clear hA hT hR
  go_enter Tryd.func34, Tryd.ntmps34
  go_wp2_with fail
  go_loopw [5, 6, 7] (fun s5 s6 s7 wr => RCmpLoop w l s5 s6 s7 wr) (fun _ _ i _ => n - (intOf i).toNat)
  case atStart => exact ⟨0, by omega, rfl, rfl, World.ownsRow_nil _ _ _ _, (fun x hx => by cases hx), Below.refl _ _⟩
  case round =>
    obtain ⟨k, hk, rfl, rfl, hO, hI, hb⟩ := hrel
    rw [HL.out] at hk
    have HBE := Lib.hid hb
    by_cases hlt : k < n
    · have hkl : k < l.length := by rw [HL.out]; exact hlt
      obtain ⟨b, o, rfl, hbl, hc⟩ := HA.out.first (by omega)
      have h1 : wr.cell? ⟨b, o + k, none⟩ = some (.int .i32 (l.getD k 0)) := (hb.cell (p := ⟨b, o + k, none⟩) hbl).trans (hc k hlt)
      have hlt' : (k : Int) < n := by omega
      have hgw : w.heap.size ≤ wr.heap.size := hb.size
      have hTr : DT wr R := HT.out.go hb
      have HTr := Lib.hid hTr
      have hcm := hTr.classAt.1
      have hmem : l.getD k 0 ∈ l := by
        rw [List.getD_eq_getElem?_getD, List.getElem?_eq_getElem hkl]
        exact List.getElem_mem hkl
      have HRC := Lib.hid (HR.out _ hmem)
      have HST : Hid (cst cl5 two5 (l.take (k + 1)) = cstep cl5 two5 (cst cl5 two5 (l.take k)) (l.getD k 0)) := Lib.hid (by rw [take_snoc l k hkl, cst_snoc])
      have hcl := crow_len (l.take k)
      rw [List.length_take, HL.out] at hcl
      have hlc : (Instr.lookup 62 (.map (some (R - 5))) (.int .i32 (l.getD k 0)) false).run Tryd.prog wr = .ok (.int .i64 (cl5 (l.getD k 0))) wr := hTr.classAt.2 _ HRC.out
      have HLK : Hid (∀ x, R32 x → ∀ q, (Instr.lookup 62 (.map (some (R - 5))) (.int .i32 x) false).run Tryd.prog (wr.drewN q) = .ok (.int .i64 (cl5 x)) (wr.drewN q)) := Lib.hid fun x hx q => (hTr.go (below_drewN' (Below.refl _ _) q)).classAt.2 x hx
      clear hc hTr hmem hb
      generalize cst cl5 two5 (l.take k) = σ at *
      generalize l.getD k 0 = cc at *
      have HIN := Lib.hid (cstep_in hI HRC.out)
      rw [← HST.out] at HIN
      obtain ⟨pre, oo⟩ := σ
      have HO := Lib.hid hO
      have HI := Lib.hid hI
      clear hO hI
      generalize R - 5 = M at *
      cases oo with
      | none =>
        have hat : ¬ (0 : Int) ≤ atOf (pre, none) := by simp [atOf]
        have hm1 : atOf (pre, none) = -1 := rfl
        rw [hm1] at hat
        have hcl : pre.length ≤ min k n := hcl
        have hxl : pre.length ≤ 1000000000 := by omega
        have HO5 : Hid (Own wr w.heap.size 21 .i32 u5 pre) := HO
        have HB5 := HBE
        have hgw5 := hgw
        generalize wr = w5 at *
        skip
        by_cases hz : cl5 cc = 0
        · have hzz : (cl5 cc == 0) = true := beq_iff_eq.2 hz
          have HZ := Lib.hid hz
          clear hz
          go_wp2_with (at_builtin; refine wpList_appN rfl (.tmp 97) (.tmp 99) 22 rfl w.heap.size 21 .i32 4 Tryd.underlying22 info_i32 (by omega) _ (pre) rfl (HO5.out.alloc _) _ _ _ 1 [cc] rfl rfl (fun h => by cases h) (Ints.lit w5 21 .i32 [cc]) (len6 hxl) (by rw [World.size_alloc]; omega) ?_; intro A6 m6 c6 w6 hm6 hO6 hb6; have HM6 := Lib.hid hm6; have HO6 := Lib.hid hO6; have HB6 := Lib.hid ((HB5.out.trans ((below_new8 w5 (.cells #[.int .i32 cc] 21)).mono hgw5)).trans hb6); have hm6b : 1 ≤ m6 ∧ m6 ≤ 1000000001 := bnd6 hm6 hxl; clear hO6 hb6 hm6)
          go_wp2
          go_roundw
          case rel => exact ⟨k + 1, by rw [HL.out]; omega, by go_num, by rw [HST.out, cstep_zero HZ.out]; have := HM6.out; simp at this; exact congrArg _ (by simp only [atOf]; omega), by rw [HST.out, cstep_none]; exact HO6.out, HIN.out, HB6.out⟩
          case measure => simp [intOf]; omega
        · have hzz : (cl5 cc == 0) = false := beq_eq_false_iff_ne.2 hz
          have HZ := Lib.hid hz
          clear hz
          go_wp2_with (at_builtin; refine wpList_appN rfl (.tmp 97) (.tmp 99) 22 rfl w.heap.size 21 .i32 4 Tryd.underlying22 info_i32 (by omega) _ (pre) rfl (HO5.out.alloc _) _ _ _ 1 [cc] rfl rfl (fun h => by cases h) (Ints.lit w5 21 .i32 [cc]) (len6 hxl) (by rw [World.size_alloc]; omega) ?_; intro A6 m6 c6 w6 hm6 hO6 hb6; have HM6 := Lib.hid hm6; have HO6 := Lib.hid hO6; have HB6 := Lib.hid ((HB5.out.trans ((below_new8 w5 (.cells #[.int .i32 cc] 21)).mono hgw5)).trans hb6); have hm6b : 1 ≤ m6 ∧ m6 ≤ 1000000001 := bnd6 hm6 hxl; clear hO6 hb6 hm6)
          go_wp2
          go_roundw
          case rel => exact ⟨k + 1, by rw [HL.out]; omega, by go_num, by rw [HST.out, cstep_nonz HZ.out]; rfl, by rw [HST.out, cstep_none]; exact HO6.out, HIN.out, HB6.out⟩
          case measure => simp [intOf]; omega
      | some q =>
        obtain ⟨s, bs⟩ := q
        have hX : crow (pre, some (s, bs)) = pre ++ s :: bs := rfl
        rw [hX] at hcl HO HI
        have hlen : (pre ++ s :: bs).length = pre.length + bs.length + 1 := by simp; omega
        have hO := HO.out
        obtain ⟨A5, m5, c5, hm5, rfl⟩ := own_num hO
        obtain ⟨z, rfl⟩ : ∃ z, m5 = z + 1 := ⟨pre.length + bs.length, by omega⟩
        have hOw : wr.ownsRow w.heap.size 21 1 (.slice A5 (z + 1) c5) (z + 1) ((pre ++ s :: bs).map (Value.int .i32)) := by rw [← hm5]; rw [← hm5] at hO; exact hO
        obtain ⟨gb, rfl⟩ := OwnS.is hOw (by omega)
        obtain ⟨p, hp⟩ : ∃ p, pre.length = p := ⟨_, rfl⟩
        have hzp : p + bs.length = z := by omega
        have hat : atOf (pre, some (s, bs)) = (p : Int) := by simp [atOf, hp]
        rw [hat]
        have hOS : OwnS wr w.heap.size gb (z + 1) c5 (pre ++ s :: bs) := hOw
        have hcz : wr.cell? ⟨gb, z, none⟩ = some (.int .i32 (lastE s bs)) := by have h := hOS.cell z (by omega); rw [← hzp, ← hp, row_last] at h; rw [← hzp, ← hp]; exact h
        have HE := Lib.hid (HI.out _ (lastE_mem pre s bs))
        have HSI := Lib.hid (HI.out s (by simp))
        have hle := HLK.out _ HE.out
        have hnne := cl5_nn (lastE s bs)
        have HBR : Hid (bs ≠ [] → barred cl5 bs cc = decide (cl5 (lastE s bs) = 0 ∨ cl5 cc ≤ cl5 (lastE s bs))) := Lib.hid fun h => barred_last h cc
        have HOS := Lib.hid hOS
        have hpz : p ≤ z := by omega
        have hge : (0 : Int) ≤ (p : Int) := by omega
        have HZB : Hid (z + 1 = (pre ++ s :: bs).length) := Lib.hid hm5.symm
        have HPB : Hid (pre.length = p) := Lib.hid hp
        have HBS : Hid (p + bs.length = z) := Lib.hid hzp
        have hzb : z + 1 ≤ 1000000000 := by omega
        clear hO hOw hm5 hp hzp hat hX hlen HO hOS hcl
        generalize hee : lastE s bs = ee at *
        clear hee
        by_cases hbs : bs = []
        · have HBAR : Hid (barred cl5 bs cc = false) := Lib.hid (by rw [hbs]; rfl)
          have hpzd : ¬ (p : Int) < (z : Int) := by have := HBS.out; rw [hbs] at this; simp at this; omega
          clear hbs HBR hnne
          cases htw : two5 s cc with
          | none =>
            have htc : twoC s cc = 0 := by unfold twoC; rw [htw]; rfl
            have hto : twoOk s cc = false := by unfold twoOk; rw [htw]; rfl
            have HPUT : Hid (two5 s cc = none ∨ barred cl5 bs cc = true) := Lib.hid (.inl htw)
            clear htw
            go_wp2_with fail
            go_quiet (fail)
            have hb5 : Below wr.heap.size wr (wr.drewN nq) := below_drewN' (Below.refl _ _) nq
            have HOS5 : Hid (OwnS (wr.drewN nq) w.heap.size gb (z + 1) c5 (pre ++ s :: bs)) := Lib.hid (own_below HOS.out hb5 (Nat.le_refl _))
            have HB5 : Hid (Below w.heap.size w (wr.drewN nq)) := Lib.hid (HBE.out.trans (hb5.mono HBE.out.size))
            have HT5 := Lib.hid (HTr.out.go hb5)
            clear hb5 hcz hle hcm hlc h1 HLK HTr HOS HBE
            generalize wr.drewN nq = w5 at *
            have hgw5 : w.heap.size ≤ w5.heap.size := HB5.out.size
            have hca : w5.cell? ⟨gb, p, none⟩ = some (.int .i32 s) := by have h := HOS5.out.cell p (by rw [← HZB.out]; omega); rw [← HPB.out, row_at] at h; rw [← HPB.out]; exact h
            have HTW := Lib.hid (rtwo_any s cc HSI.out HRC.out w5 R HT5.out)
            have HO5 : Hid (Own w5 w.heap.size 21 .i32 (.slice (some ⟨gb, 0, none⟩) (z + 1) c5) (pre ++ s :: bs)) := Lib.hid (by have h := HOS5.out; unfold Own; rw [← HZB.out]; exact h)
            have hxl : (pre ++ s :: bs).length ≤ 1000000000 := by rw [← HZB.out]; exact hzb
            rw [htc, hto] at HTW
            go_wp2_with fail
            with_reducible refine HTW.out.mono ?_
            rintro e w' ⟨rfl, rfl⟩
            by_cases hz : cl5 cc = 0
            · have hzz : (cl5 cc == 0) = true := beq_iff_eq.2 hz
              have HZ := Lib.hid hz
              clear hz
              go_wp2_with (at_builtin; refine wpList_appN rfl (.tmp 97) (.tmp 99) 22 rfl w.heap.size 21 .i32 4 Tryd.underlying22 info_i32 (by omega) _ (pre ++ s :: bs) rfl (HO5.out.alloc _) _ _ _ 1 [cc] rfl rfl (fun h => by cases h) (Ints.lit w5 21 .i32 [cc]) (len6 hxl) (by rw [World.size_alloc]; omega) ?_; intro A6 m6 c6 w6 hm6 hO6 hb6; have HM6 := Lib.hid hm6; have HO6 := Lib.hid hO6; have HB6 := Lib.hid ((HB5.out.trans ((below_new8 w5 (.cells #[.int .i32 cc] 21)).mono hgw5)).trans hb6); have hm6b : 1 ≤ m6 ∧ m6 ≤ 1000000001 := bnd6 hm6 hxl; clear hO6 hb6 hm6)
              go_wp2
              go_roundw
              case rel => exact ⟨k + 1, by rw [HL.out]; omega, by go_num, by rw [HST.out, cstep_put HPUT.out, cput_zero HZ.out]; have h1 := HM6.out; have h2 := HZB.out; simp only [List.length_cons, List.length_nil] at h1; exact congrArg _ (by simp only [atOf]; omega), by rw [HST.out, cstep_put HPUT.out, crow_put]; exact HO6.out, HIN.out, HB6.out⟩
              case measure => simp [intOf]; omega
            · have hzz : (cl5 cc == 0) = false := beq_eq_false_iff_ne.2 hz
              have HZ := Lib.hid hz
              clear hz
              go_wp2_with (at_builtin; refine wpList_appN rfl (.tmp 97) (.tmp 99) 22 rfl w.heap.size 21 .i32 4 Tryd.underlying22 info_i32 (by omega) _ (pre ++ s :: bs) rfl (HO5.out.alloc _) _ _ _ 1 [cc] rfl rfl (fun h => by cases h) (Ints.lit w5 21 .i32 [cc]) (len6 hxl) (by rw [World.size_alloc]; omega) ?_; intro A6 m6 c6 w6 hm6 hO6 hb6; have HM6 := Lib.hid hm6; have HO6 := Lib.hid hO6; have HB6 := Lib.hid ((HB5.out.trans ((below_new8 w5 (.cells #[.int .i32 cc] 21)).mono hgw5)).trans hb6); have hm6b : 1 ≤ m6 ∧ m6 ≤ 1000000001 := bnd6 hm6 hxl; clear hO6 hb6 hm6)
              go_wp2
              go_roundw
              case rel => exact ⟨k + 1, by rw [HL.out]; omega, by go_num, by rw [HST.out, cstep_put HPUT.out, cput_nonz HZ.out]; exact congrArg _ (by simp only [atOf]; rw [HPB.out]), by rw [HST.out, cstep_put HPUT.out, crow_put]; exact HO6.out, HIN.out, HB6.out⟩
              case measure => simp [intOf]; omega
          | some d =>
            have htc : twoC s cc = d := by unfold twoC; rw [htw]; rfl
            have hto : twoOk s cc = true := by unfold twoOk; rw [htw]; rfl
            have HTWO := Lib.hid htw
            have HD0 := Lib.hid (cmp5.tw0 _ _ _ htw)
            have HD32 : Hid (R32 d) := Lib.hid (by have h := twoC_in s cc; rw [htc] at h; exact h)
            clear htw
            go_wp2_with fail
            go_quiet (fail)
            have hb5 : Below wr.heap.size wr (wr.drewN nq) := below_drewN' (Below.refl _ _) nq
            have HOS5 : Hid (OwnS (wr.drewN nq) w.heap.size gb (z + 1) c5 (pre ++ s :: bs)) := Lib.hid (own_below HOS.out hb5 (Nat.le_refl _))
            have HB5 : Hid (Below w.heap.size w (wr.drewN nq)) := Lib.hid (HBE.out.trans (hb5.mono HBE.out.size))
            have HT5 := Lib.hid (HTr.out.go hb5)
            clear hb5 hcz hle hcm hlc h1 HLK HTr HOS HBE
            generalize wr.drewN nq = w5 at *
            have hgw5 : w.heap.size ≤ w5.heap.size := HB5.out.size
            have hca : w5.cell? ⟨gb, p, none⟩ = some (.int .i32 s) := by have h := HOS5.out.cell p (by rw [← HZB.out]; omega); rw [← HPB.out, row_at] at h; rw [← HPB.out]; exact h
            have HTW := Lib.hid (rtwo_any s cc HSI.out HRC.out w5 R HT5.out)
            have f5 := World.ownsRow.frozenAt HOS5.out p
            have hlow := HOS5.out.low
            have HO6 : Hid (OwnS (w5.setCell ⟨gb, p, none⟩ (.int .i32 d)) w.heap.size gb (z + 1) c5 (pre ++ d :: bs)) := Lib.hid (by have h := HOS5.out.set p d; rw [← HPB.out, row_set] at h; rw [← HPB.out]; exact h)
            have HB6 : Hid (Below w.heap.size w (w5.setCell ⟨gb, p, none⟩ (.int .i32 d))) := Lib.hid (HB5.out.setCell hlow _)
            rw [htc, hto] at HTW
            go_wp2_with fail
            with_reducible refine HTW.out.mono ?_
            rintro e w' ⟨rfl, rfl⟩
            go_wp2_with fail
            generalize w5.setCell ⟨gb, p, none⟩ (.int .i32 d) = w6 at *
            have hT6 : DT w6 R := HT.out.go HB6.out
            have hcm6 := hT6.classAt.1
            have hld : ∀ q, (Instr.lookup 62 (.map (some (R - 5))) (.int .i32 d) false).run Tryd.prog (w6.drewN q) = .ok (.int .i64 0) (w6.drewN q) := fun q => by have h := (hT6.go (below_drewN' (Below.refl _ _) q)).classAt.2 d HD32.out; rw [HD0.out] at h; exact h
            have hcd : w6.cell? ⟨gb, p, none⟩ = some (.int .i32 d) := by have h := HO6.out.cell p (by rw [List.length_append, HPB.out]; simp); rw [← HPB.out, row_at] at h; rw [← HPB.out]; exact h
            generalize R - 5 = M6 at *
            clear hT6
            go_loopw [6, 14] (fun a j wx => a = .int .i64 p ∧ j = .int .i64 z ∧ wx = w6) (fun _ _ _ => 0)
            case atStart => exact ⟨rfl, rfl, rfl⟩
            case round =>
              obtain ⟨rfl, rfl, rfl⟩ := hrel
              have hz0 : (0 : Int) ≤ (z : Int) := by omega
              have h00 : decide ((0 : Int) < 0) = false := rfl
              go_wp2_with fail
              go_quiet (fail)
              go_wp2
              go_roundw
              case rel => exact ⟨k + 1, by rw [HL.out]; omega, by go_num, by rw [HST.out, cstep_two HTWO.out HBAR.out]; exact congrArg _ (by simp only [atOf]; rw [HPB.out]), by rw [HST.out, cstep_two HTWO.out HBAR.out]; have h := HO6.out; have h2 : (pre ++ d :: bs).length = z + 1 := (by have := HZB.out; rw [List.length_append, List.length_cons] at this ⊢; omega); unfold Own; show World.ownsRow _ _ _ _ _ (pre ++ d :: bs).length _; rw [h2]; exact own_below h (below_drewN' (Below.refl _ _) _) (Nat.le_refl _), HIN.out, below_drewN' HB6.out _⟩
              case measure => simp [intOf]; omega
        · have hpzd : (p : Int) < (z : Int) := by have := HBS.out; have := List.length_pos_iff.2 hbs; omega
          have HBR2 := Lib.hid (HBR.out hbs)
          clear HBR hbs
          by_cases he0 : cl5 ee = 0
          · have HBAR : Hid (barred cl5 bs cc = true) := Lib.hid (by rw [HBR2.out]; exact decide_eq_true (.inl he0))
            have heb : (cl5 ee == 0) = true := beq_iff_eq.2 he0
            clear he0 HBR2 hnne
            cases htw : two5 s cc with
            | none =>
              have htc : twoC s cc = 0 := by unfold twoC; rw [htw]; rfl
              have hto : twoOk s cc = false := by unfold twoOk; rw [htw]; rfl
              have HPUT : Hid (two5 s cc = none ∨ barred cl5 bs cc = true) := Lib.hid (.inl htw)
              clear htw
              go_wp2_with fail
              go_quiet (fail)
              have hb5 : Below wr.heap.size wr (wr.drewN nq) := below_drewN' (Below.refl _ _) nq
              have HOS5 : Hid (OwnS (wr.drewN nq) w.heap.size gb (z + 1) c5 (pre ++ s :: bs)) := Lib.hid (own_below HOS.out hb5 (Nat.le_refl _))
              have HB5 : Hid (Below w.heap.size w (wr.drewN nq)) := Lib.hid (HBE.out.trans (hb5.mono HBE.out.size))
              have HT5 := Lib.hid (HTr.out.go hb5)
              clear hb5 hcz hle hcm hlc h1 HLK HTr HOS HBE
              generalize wr.drewN nq = w5 at *
              have hgw5 : w.heap.size ≤ w5.heap.size := HB5.out.size
              have hca : w5.cell? ⟨gb, p, none⟩ = some (.int .i32 s) := by have h := HOS5.out.cell p (by rw [← HZB.out]; omega); rw [← HPB.out, row_at] at h; rw [← HPB.out]; exact h
              have HTW := Lib.hid (rtwo_any s cc HSI.out HRC.out w5 R HT5.out)
              have HO5 : Hid (Own w5 w.heap.size 21 .i32 (.slice (some ⟨gb, 0, none⟩) (z + 1) c5) (pre ++ s :: bs)) := Lib.hid (by have h := HOS5.out; unfold Own; rw [← HZB.out]; exact h)
              have hxl : (pre ++ s :: bs).length ≤ 1000000000 := by rw [← HZB.out]; exact hzb
              rw [htc, hto] at HTW
              go_wp2_with fail
              with_reducible refine HTW.out.mono ?_
              rintro e w' ⟨rfl, rfl⟩
              by_cases hz : cl5 cc = 0
              · have hzz : (cl5 cc == 0) = true := beq_iff_eq.2 hz
                have HZ := Lib.hid hz
                clear hz
                go_wp2_with (at_builtin; refine wpList_appN rfl (.tmp 97) (.tmp 99) 22 rfl w.heap.size 21 .i32 4 Tryd.underlying22 info_i32 (by omega) _ (pre ++ s :: bs) rfl (HO5.out.alloc _) _ _ _ 1 [cc] rfl rfl (fun h => by cases h) (Ints.lit w5 21 .i32 [cc]) (len6 hxl) (by rw [World.size_alloc]; omega) ?_; intro A6 m6 c6 w6 hm6 hO6 hb6; have HM6 := Lib.hid hm6; have HO6 := Lib.hid hO6; have HB6 := Lib.hid ((HB5.out.trans ((below_new8 w5 (.cells #[.int .i32 cc] 21)).mono hgw5)).trans hb6); have hm6b : 1 ≤ m6 ∧ m6 ≤ 1000000001 := bnd6 hm6 hxl; clear hO6 hb6 hm6)
                go_wp2
                go_roundw
                case rel => exact ⟨k + 1, by rw [HL.out]; omega, by go_num, by rw [HST.out, cstep_put HPUT.out, cput_zero HZ.out]; have h1 := HM6.out; have h2 := HZB.out; simp only [List.length_cons, List.length_nil] at h1; exact congrArg _ (by simp only [atOf]; omega), by rw [HST.out, cstep_put HPUT.out, crow_put]; exact HO6.out, HIN.out, HB6.out⟩
                case measure => simp [intOf]; omega
              · have hzz : (cl5 cc == 0) = false := beq_eq_false_iff_ne.2 hz
                have HZ := Lib.hid hz
                clear hz
                go_wp2_with (at_builtin; refine wpList_appN rfl (.tmp 97) (.tmp 99) 22 rfl w.heap.size 21 .i32 4 Tryd.underlying22 info_i32 (by omega) _ (pre ++ s :: bs) rfl (HO5.out.alloc _) _ _ _ 1 [cc] rfl rfl (fun h => by cases h) (Ints.lit w5 21 .i32 [cc]) (len6 hxl) (by rw [World.size_alloc]; omega) ?_; intro A6 m6 c6 w6 hm6 hO6 hb6; have HM6 := Lib.hid hm6; have HO6 := Lib.hid hO6; have HB6 := Lib.hid ((HB5.out.trans ((below_new8 w5 (.cells #[.int .i32 cc] 21)).mono hgw5)).trans hb6); have hm6b : 1 ≤ m6 ∧ m6 ≤ 1000000001 := bnd6 hm6 hxl; clear hO6 hb6 hm6)
                go_wp2
                go_roundw
                case rel => exact ⟨k + 1, by rw [HL.out]; omega, by go_num, by rw [HST.out, cstep_put HPUT.out, cput_nonz HZ.out]; exact congrArg _ (by simp only [atOf]; rw [HPB.out]), by rw [HST.out, cstep_put HPUT.out, crow_put]; exact HO6.out, HIN.out, HB6.out⟩
                case measure => simp [intOf]; omega
            | some d =>
              have htc : twoC s cc = d := by unfold twoC; rw [htw]; rfl
              have hto : twoOk s cc = true := by unfold twoOk; rw [htw]; rfl
              have HPUT : Hid (two5 s cc = none ∨ barred cl5 bs cc = true) := Lib.hid (.inr HBAR.out)
              clear htw
              go_wp2_with fail
              go_quiet (fail)
              have hb5 : Below wr.heap.size wr (wr.drewN nq) := below_drewN' (Below.refl _ _) nq
              have HOS5 : Hid (OwnS (wr.drewN nq) w.heap.size gb (z + 1) c5 (pre ++ s :: bs)) := Lib.hid (own_below HOS.out hb5 (Nat.le_refl _))
              have HB5 : Hid (Below w.heap.size w (wr.drewN nq)) := Lib.hid (HBE.out.trans (hb5.mono HBE.out.size))
              have HT5 := Lib.hid (HTr.out.go hb5)
              clear hb5 hcz hle hcm hlc h1 HLK HTr HOS HBE
              generalize wr.drewN nq = w5 at *
              have hgw5 : w.heap.size ≤ w5.heap.size := HB5.out.size
              have hca : w5.cell? ⟨gb, p, none⟩ = some (.int .i32 s) := by have h := HOS5.out.cell p (by rw [← HZB.out]; omega); rw [← HPB.out, row_at] at h; rw [← HPB.out]; exact h
              have HTW := Lib.hid (rtwo_any s cc HSI.out HRC.out w5 R HT5.out)
              have HO5 : Hid (Own w5 w.heap.size 21 .i32 (.slice (some ⟨gb, 0, none⟩) (z + 1) c5) (pre ++ s :: bs)) := Lib.hid (by have h := HOS5.out; unfold Own; rw [← HZB.out]; exact h)
              have hxl : (pre ++ s :: bs).length ≤ 1000000000 := by rw [← HZB.out]; exact hzb
              rw [htc, hto] at HTW
              go_wp2_with fail
              with_reducible refine HTW.out.mono ?_
              rintro e w' ⟨rfl, rfl⟩
              by_cases hz : cl5 cc = 0
              · have hzz : (cl5 cc == 0) = true := beq_iff_eq.2 hz
                have HZ := Lib.hid hz
                clear hz
                go_wp2_with (at_builtin; refine wpList_appN rfl (.tmp 97) (.tmp 99) 22 rfl w.heap.size 21 .i32 4 Tryd.underlying22 info_i32 (by omega) _ (pre ++ s :: bs) rfl (HO5.out.alloc _) _ _ _ 1 [cc] rfl rfl (fun h => by cases h) (Ints.lit w5 21 .i32 [cc]) (len6 hxl) (by rw [World.size_alloc]; omega) ?_; intro A6 m6 c6 w6 hm6 hO6 hb6; have HM6 := Lib.hid hm6; have HO6 := Lib.hid hO6; have HB6 := Lib.hid ((HB5.out.trans ((below_new8 w5 (.cells #[.int .i32 cc] 21)).mono hgw5)).trans hb6); have hm6b : 1 ≤ m6 ∧ m6 ≤ 1000000001 := bnd6 hm6 hxl; clear hO6 hb6 hm6)
                go_wp2
                go_roundw
                case rel => exact ⟨k + 1, by rw [HL.out]; omega, by go_num, by rw [HST.out, cstep_put HPUT.out, cput_zero HZ.out]; have h1 := HM6.out; have h2 := HZB.out; simp only [List.length_cons, List.length_nil] at h1; exact congrArg _ (by simp only [atOf]; omega), by rw [HST.out, cstep_put HPUT.out, crow_put]; exact HO6.out, HIN.out, HB6.out⟩
                case measure => simp [intOf]; omega
              · have hzz : (cl5 cc == 0) = false := beq_eq_false_iff_ne.2 hz
                have HZ := Lib.hid hz
                clear hz
                go_wp2_with (at_builtin; refine wpList_appN rfl (.tmp 97) (.tmp 99) 22 rfl w.heap.size 21 .i32 4 Tryd.underlying22 info_i32 (by omega) _ (pre ++ s :: bs) rfl (HO5.out.alloc _) _ _ _ 1 [cc] rfl rfl (fun h => by cases h) (Ints.lit w5 21 .i32 [cc]) (len6 hxl) (by rw [World.size_alloc]; omega) ?_; intro A6 m6 c6 w6 hm6 hO6 hb6; have HM6 := Lib.hid hm6; have HO6 := Lib.hid hO6; have HB6 := Lib.hid ((HB5.out.trans ((below_new8 w5 (.cells #[.int .i32 cc] 21)).mono hgw5)).trans hb6); have hm6b : 1 ≤ m6 ∧ m6 ≤ 1000000001 := bnd6 hm6 hxl; clear hO6 hb6 hm6)
                go_wp2
                go_roundw
                case rel => exact ⟨k + 1, by rw [HL.out]; omega, by go_num, by rw [HST.out, cstep_put HPUT.out, cput_nonz HZ.out]; exact congrArg _ (by simp only [atOf]; rw [HPB.out]), by rw [HST.out, cstep_put HPUT.out, crow_put]; exact HO6.out, HIN.out, HB6.out⟩
                case measure => simp [intOf]; omega
          · have heb : (cl5 ee == 0) = false := beq_eq_false_iff_ne.2 he0
            by_cases hle2 : cl5 cc ≤ cl5 ee
            · have HBAR : Hid (barred cl5 bs cc = true) := Lib.hid (by rw [HBR2.out]; exact decide_eq_true (.inr hle2))
              have hlb : decide (cl5 cc ≤ cl5 ee) = true := decide_eq_true hle2
              clear he0 HBR2 hnne hle2
              cases htw : two5 s cc with
              | none =>
                have htc : twoC s cc = 0 := by unfold twoC; rw [htw]; rfl
                have hto : twoOk s cc = false := by unfold twoOk; rw [htw]; rfl
                have HPUT : Hid (two5 s cc = none ∨ barred cl5 bs cc = true) := Lib.hid (.inl htw)
                clear htw
                go_wp2_with fail
                go_quiet (fail)
                have hb5 : Below wr.heap.size wr (wr.drewN nq) := below_drewN' (Below.refl _ _) nq
                have HOS5 : Hid (OwnS (wr.drewN nq) w.heap.size gb (z + 1) c5 (pre ++ s :: bs)) := Lib.hid (own_below HOS.out hb5 (Nat.le_refl _))
                have HB5 : Hid (Below w.heap.size w (wr.drewN nq)) := Lib.hid (HBE.out.trans (hb5.mono HBE.out.size))
                have HT5 := Lib.hid (HTr.out.go hb5)
                clear hb5 hcz hle hcm hlc h1 HLK HTr HOS HBE
                generalize wr.drewN nq = w5 at *
                have hgw5 : w.heap.size ≤ w5.heap.size := HB5.out.size
                have hca : w5.cell? ⟨gb, p, none⟩ = some (.int .i32 s) := by have h := HOS5.out.cell p (by rw [← HZB.out]; omega); rw [← HPB.out, row_at] at h; rw [← HPB.out]; exact h
                have HTW := Lib.hid (rtwo_any s cc HSI.out HRC.out w5 R HT5.out)
                have HO5 : Hid (Own w5 w.heap.size 21 .i32 (.slice (some ⟨gb, 0, none⟩) (z + 1) c5) (pre ++ s :: bs)) := Lib.hid (by have h := HOS5.out; unfold Own; rw [← HZB.out]; exact h)
                have hxl : (pre ++ s :: bs).length ≤ 1000000000 := by rw [← HZB.out]; exact hzb
                rw [htc, hto] at HTW
                go_wp2_with fail
                with_reducible refine HTW.out.mono ?_
                rintro e w' ⟨rfl, rfl⟩
                by_cases hz : cl5 cc = 0
                · have hzz : (cl5 cc == 0) = true := beq_iff_eq.2 hz
                  have HZ := Lib.hid hz
                  clear hz
                  go_wp2_with (at_builtin; refine wpList_appN rfl (.tmp 97) (.tmp 99) 22 rfl w.heap.size 21 .i32 4 Tryd.underlying22 info_i32 (by omega) _ (pre ++ s :: bs) rfl (HO5.out.alloc _) _ _ _ 1 [cc] rfl rfl (fun h => by cases h) (Ints.lit w5 21 .i32 [cc]) (len6 hxl) (by rw [World.size_alloc]; omega) ?_; intro A6 m6 c6 w6 hm6 hO6 hb6; have HM6 := Lib.hid hm6; have HO6 := Lib.hid hO6; have HB6 := Lib.hid ((HB5.out.trans ((below_new8 w5 (.cells #[.int .i32 cc] 21)).mono hgw5)).trans hb6); have hm6b : 1 ≤ m6 ∧ m6 ≤ 1000000001 := bnd6 hm6 hxl; clear hO6 hb6 hm6)
                  go_wp2
                  go_roundw
                  case rel => exact ⟨k + 1, by rw [HL.out]; omega, by go_num, by rw [HST.out, cstep_put HPUT.out, cput_zero HZ.out]; have h1 := HM6.out; have h2 := HZB.out; simp only [List.length_cons, List.length_nil] at h1; exact congrArg _ (by simp only [atOf]; omega), by rw [HST.out, cstep_put HPUT.out, crow_put]; exact HO6.out, HIN.out, HB6.out⟩
                  case measure => simp [intOf]; omega
                · have hzz : (cl5 cc == 0) = false := beq_eq_false_iff_ne.2 hz
                  have HZ := Lib.hid hz
                  clear hz
                  go_wp2_with (at_builtin; refine wpList_appN rfl (.tmp 97) (.tmp 99) 22 rfl w.heap.size 21 .i32 4 Tryd.underlying22 info_i32 (by omega) _ (pre ++ s :: bs) rfl (HO5.out.alloc _) _ _ _ 1 [cc] rfl rfl (fun h => by cases h) (Ints.lit w5 21 .i32 [cc]) (len6 hxl) (by rw [World.size_alloc]; omega) ?_; intro A6 m6 c6 w6 hm6 hO6 hb6; have HM6 := Lib.hid hm6; have HO6 := Lib.hid hO6; have HB6 := Lib.hid ((HB5.out.trans ((below_new8 w5 (.cells #[.int .i32 cc] 21)).mono hgw5)).trans hb6); have hm6b : 1 ≤ m6 ∧ m6 ≤ 1000000001 := bnd6 hm6 hxl; clear hO6 hb6 hm6)
                  go_wp2
                  go_roundw
                  case rel => exact ⟨k + 1, by rw [HL.out]; omega, by go_num, by rw [HST.out, cstep_put HPUT.out, cput_nonz HZ.out]; exact congrArg _ (by simp only [atOf]; rw [HPB.out]), by rw [HST.out, cstep_put HPUT.out, crow_put]; exact HO6.out, HIN.out, HB6.out⟩
                  case measure => simp [intOf]; omega
              | some d =>
                have htc : twoC s cc = d := by unfold twoC; rw [htw]; rfl
                have hto : twoOk s cc = true := by unfold twoOk; rw [htw]; rfl
                have HPUT : Hid (two5 s cc = none ∨ barred cl5 bs cc = true) := Lib.hid (.inr HBAR.out)
                clear htw
                go_wp2_with fail
                go_quiet (fail)
                have hb5 : Below wr.heap.size wr (wr.drewN nq) := below_drewN' (Below.refl _ _) nq
                have HOS5 : Hid (OwnS (wr.drewN nq) w.heap.size gb (z + 1) c5 (pre ++ s :: bs)) := Lib.hid (own_below HOS.out hb5 (Nat.le_refl _))
                have HB5 : Hid (Below w.heap.size w (wr.drewN nq)) := Lib.hid (HBE.out.trans (hb5.mono HBE.out.size))
                have HT5 := Lib.hid (HTr.out.go hb5)
                clear hb5 hcz hle hcm hlc h1 HLK HTr HOS HBE
                generalize wr.drewN nq = w5 at *
                have hgw5 : w.heap.size ≤ w5.heap.size := HB5.out.size
                have hca : w5.cell? ⟨gb, p, none⟩ = some (.int .i32 s) := by have h := HOS5.out.cell p (by rw [← HZB.out]; omega); rw [← HPB.out, row_at] at h; rw [← HPB.out]; exact h
                have HTW := Lib.hid (rtwo_any s cc HSI.out HRC.out w5 R HT5.out)
                have HO5 : Hid (Own w5 w.heap.size 21 .i32 (.slice (some ⟨gb, 0, none⟩) (z + 1) c5) (pre ++ s :: bs)) := Lib.hid (by have h := HOS5.out; unfold Own; rw [← HZB.out]; exact h)
                have hxl : (pre ++ s :: bs).length ≤ 1000000000 := by rw [← HZB.out]; exact hzb
                rw [htc, hto] at HTW
                go_wp2_with fail
                with_reducible refine HTW.out.mono ?_
                rintro e w' ⟨rfl, rfl⟩
                by_cases hz : cl5 cc = 0
                · have hzz : (cl5 cc == 0) = true := beq_iff_eq.2 hz
                  have HZ := Lib.hid hz
                  clear hz
                  go_wp2_with (at_builtin; refine wpList_appN rfl (.tmp 97) (.tmp 99) 22 rfl w.heap.size 21 .i32 4 Tryd.underlying22 info_i32 (by omega) _ (pre ++ s :: bs) rfl (HO5.out.alloc _) _ _ _ 1 [cc] rfl rfl (fun h => by cases h) (Ints.lit w5 21 .i32 [cc]) (len6 hxl) (by rw [World.size_alloc]; omega) ?_; intro A6 m6 c6 w6 hm6 hO6 hb6; have HM6 := Lib.hid hm6; have HO6 := Lib.hid hO6; have HB6 := Lib.hid ((HB5.out.trans ((below_new8 w5 (.cells #[.int .i32 cc] 21)).mono hgw5)).trans hb6); have hm6b : 1 ≤ m6 ∧ m6 ≤ 1000000001 := bnd6 hm6 hxl; clear hO6 hb6 hm6)
                  go_wp2
                  go_roundw
                  case rel => exact ⟨k + 1, by rw [HL.out]; omega, by go_num, by rw [HST.out, cstep_put HPUT.out, cput_zero HZ.out]; have h1 := HM6.out; have h2 := HZB.out; simp only [List.length_cons, List.length_nil] at h1; exact congrArg _ (by simp only [atOf]; omega), by rw [HST.out, cstep_put HPUT.out, crow_put]; exact HO6.out, HIN.out, HB6.out⟩
                  case measure => simp [intOf]; omega
                · have hzz : (cl5 cc == 0) = false := beq_eq_false_iff_ne.2 hz
                  have HZ := Lib.hid hz
                  clear hz
                  go_wp2_with (at_builtin; refine wpList_appN rfl (.tmp 97) (.tmp 99) 22 rfl w.heap.size 21 .i32 4 Tryd.underlying22 info_i32 (by omega) _ (pre ++ s :: bs) rfl (HO5.out.alloc _) _ _ _ 1 [cc] rfl rfl (fun h => by cases h) (Ints.lit w5 21 .i32 [cc]) (len6 hxl) (by rw [World.size_alloc]; omega) ?_; intro A6 m6 c6 w6 hm6 hO6 hb6; have HM6 := Lib.hid hm6; have HO6 := Lib.hid hO6; have HB6 := Lib.hid ((HB5.out.trans ((below_new8 w5 (.cells #[.int .i32 cc] 21)).mono hgw5)).trans hb6); have hm6b : 1 ≤ m6 ∧ m6 ≤ 1000000001 := bnd6 hm6 hxl; clear hO6 hb6 hm6)
                  go_wp2
                  go_roundw
                  case rel => exact ⟨k + 1, by rw [HL.out]; omega, by go_num, by rw [HST.out, cstep_put HPUT.out, cput_nonz HZ.out]; exact congrArg _ (by simp only [atOf]; rw [HPB.out]), by rw [HST.out, cstep_put HPUT.out, crow_put]; exact HO6.out, HIN.out, HB6.out⟩
                  case measure => simp [intOf]; omega
            · have HBAR : Hid (barred cl5 bs cc = false) := Lib.hid (by rw [HBR2.out]; exact decide_eq_false (by omega))
              have hlb : decide (cl5 cc ≤ cl5 ee) = false := decide_eq_false hle2
              clear he0 HBR2 hnne hle2
              cases htw : two5 s cc with
              | none =>
                have htc : twoC s cc = 0 := by unfold twoC; rw [htw]; rfl
                have hto : twoOk s cc = false := by unfold twoOk; rw [htw]; rfl
                have HPUT : Hid (two5 s cc = none ∨ barred cl5 bs cc = true) := Lib.hid (.inl htw)
                clear htw
                go_wp2_with fail
                go_quiet (fail)
                have hb5 : Below wr.heap.size wr (wr.drewN nq) := below_drewN' (Below.refl _ _) nq
                have HOS5 : Hid (OwnS (wr.drewN nq) w.heap.size gb (z + 1) c5 (pre ++ s :: bs)) := Lib.hid (own_below HOS.out hb5 (Nat.le_refl _))
                have HB5 : Hid (Below w.heap.size w (wr.drewN nq)) := Lib.hid (HBE.out.trans (hb5.mono HBE.out.size))
                have HT5 := Lib.hid (HTr.out.go hb5)
                clear hb5 hcz hle hcm hlc h1 HLK HTr HOS HBE
                generalize wr.drewN nq = w5 at *
                have hgw5 : w.heap.size ≤ w5.heap.size := HB5.out.size
                have hca : w5.cell? ⟨gb, p, none⟩ = some (.int .i32 s) := by have h := HOS5.out.cell p (by rw [← HZB.out]; omega); rw [← HPB.out, row_at] at h; rw [← HPB.out]; exact h
                have HTW := Lib.hid (rtwo_any s cc HSI.out HRC.out w5 R HT5.out)
                have HO5 : Hid (Own w5 w.heap.size 21 .i32 (.slice (some ⟨gb, 0, none⟩) (z + 1) c5) (pre ++ s :: bs)) := Lib.hid (by have h := HOS5.out; unfold Own; rw [← HZB.out]; exact h)
                have hxl : (pre ++ s :: bs).length ≤ 1000000000 := by rw [← HZB.out]; exact hzb
                rw [htc, hto] at HTW
                go_wp2_with fail
                with_reducible refine HTW.out.mono ?_
                rintro e w' ⟨rfl, rfl⟩
                by_cases hz : cl5 cc = 0
                · have hzz : (cl5 cc == 0) = true := beq_iff_eq.2 hz
                  have HZ := Lib.hid hz
                  clear hz
                  go_wp2_with (at_builtin; refine wpList_appN rfl (.tmp 97) (.tmp 99) 22 rfl w.heap.size 21 .i32 4 Tryd.underlying22 info_i32 (by omega) _ (pre ++ s :: bs) rfl (HO5.out.alloc _) _ _ _ 1 [cc] rfl rfl (fun h => by cases h) (Ints.lit w5 21 .i32 [cc]) (len6 hxl) (by rw [World.size_alloc]; omega) ?_; intro A6 m6 c6 w6 hm6 hO6 hb6; have HM6 := Lib.hid hm6; have HO6 := Lib.hid hO6; have HB6 := Lib.hid ((HB5.out.trans ((below_new8 w5 (.cells #[.int .i32 cc] 21)).mono hgw5)).trans hb6); have hm6b : 1 ≤ m6 ∧ m6 ≤ 1000000001 := bnd6 hm6 hxl; clear hO6 hb6 hm6)
                  go_wp2
                  go_roundw
                  case rel => exact ⟨k + 1, by rw [HL.out]; omega, by go_num, by rw [HST.out, cstep_put HPUT.out, cput_zero HZ.out]; have h1 := HM6.out; have h2 := HZB.out; simp only [List.length_cons, List.length_nil] at h1; exact congrArg _ (by simp only [atOf]; omega), by rw [HST.out, cstep_put HPUT.out, crow_put]; exact HO6.out, HIN.out, HB6.out⟩
                  case measure => simp [intOf]; omega
                · have hzz : (cl5 cc == 0) = false := beq_eq_false_iff_ne.2 hz
                  have HZ := Lib.hid hz
                  clear hz
                  go_wp2_with (at_builtin; refine wpList_appN rfl (.tmp 97) (.tmp 99) 22 rfl w.heap.size 21 .i32 4 Tryd.underlying22 info_i32 (by omega) _ (pre ++ s :: bs) rfl (HO5.out.alloc _) _ _ _ 1 [cc] rfl rfl (fun h => by cases h) (Ints.lit w5 21 .i32 [cc]) (len6 hxl) (by rw [World.size_alloc]; omega) ?_; intro A6 m6 c6 w6 hm6 hO6 hb6; have HM6 := Lib.hid hm6; have HO6 := Lib.hid hO6; have HB6 := Lib.hid ((HB5.out.trans ((below_new8 w5 (.cells #[.int .i32 cc] 21)).mono hgw5)).trans hb6); have hm6b : 1 ≤ m6 ∧ m6 ≤ 1000000001 := bnd6 hm6 hxl; clear hO6 hb6 hm6)
                  go_wp2
                  go_roundw
                  case rel => exact ⟨k + 1, by rw [HL.out]; omega, by go_num, by rw [HST.out, cstep_put HPUT.out, cput_nonz HZ.out]; exact congrArg _ (by simp only [atOf]; rw [HPB.out]), by rw [HST.out, cstep_put HPUT.out, crow_put]; exact HO6.out, HIN.out, HB6.out⟩
                  case measure => simp [intOf]; omega
              | some d =>
                have htc : twoC s cc = d := by unfold twoC; rw [htw]; rfl
                have hto : twoOk s cc = true := by unfold twoOk; rw [htw]; rfl
                have HTWO := Lib.hid htw
                have HD0 := Lib.hid (cmp5.tw0 _ _ _ htw)
                have HD32 : Hid (R32 d) := Lib.hid (by have h := twoC_in s cc; rw [htc] at h; exact h)
                clear htw
                go_wp2_with fail
                go_quiet (fail)
                have hb5 : Below wr.heap.size wr (wr.drewN nq) := below_drewN' (Below.refl _ _) nq
                have HOS5 : Hid (OwnS (wr.drewN nq) w.heap.size gb (z + 1) c5 (pre ++ s :: bs)) := Lib.hid (own_below HOS.out hb5 (Nat.le_refl _))
                have HB5 : Hid (Below w.heap.size w (wr.drewN nq)) := Lib.hid (HBE.out.trans (hb5.mono HBE.out.size))
                have HT5 := Lib.hid (HTr.out.go hb5)
                clear hb5 hcz hle hcm hlc h1 HLK HTr HOS HBE
                generalize wr.drewN nq = w5 at *
                have hgw5 : w.heap.size ≤ w5.heap.size := HB5.out.size
                have hca : w5.cell? ⟨gb, p, none⟩ = some (.int .i32 s) := by have h := HOS5.out.cell p (by rw [← HZB.out]; omega); rw [← HPB.out, row_at] at h; rw [← HPB.out]; exact h
                have HTW := Lib.hid (rtwo_any s cc HSI.out HRC.out w5 R HT5.out)
                have f5 := World.ownsRow.frozenAt HOS5.out p
                have hlow := HOS5.out.low
                have HO6 : Hid (OwnS (w5.setCell ⟨gb, p, none⟩ (.int .i32 d)) w.heap.size gb (z + 1) c5 (pre ++ d :: bs)) := Lib.hid (by have h := HOS5.out.set p d; rw [← HPB.out, row_set] at h; rw [← HPB.out]; exact h)
                have HB6 : Hid (Below w.heap.size w (w5.setCell ⟨gb, p, none⟩ (.int .i32 d))) := Lib.hid (HB5.out.setCell hlow _)
                rw [htc, hto] at HTW
                go_wp2_with fail
                with_reducible refine HTW.out.mono ?_
                rintro e w' ⟨rfl, rfl⟩
                go_wp2_with fail
                generalize w5.setCell ⟨gb, p, none⟩ (.int .i32 d) = w6 at *
                have hT6 : DT w6 R := HT.out.go HB6.out
                have hcm6 := hT6.classAt.1
                have hld : ∀ q, (Instr.lookup 62 (.map (some (R - 5))) (.int .i32 d) false).run Tryd.prog (w6.drewN q) = .ok (.int .i64 0) (w6.drewN q) := fun q => by have h := (hT6.go (below_drewN' (Below.refl _ _) q)).classAt.2 d HD32.out; rw [HD0.out] at h; exact h
                have hcd : w6.cell? ⟨gb, p, none⟩ = some (.int .i32 d) := by have h := HO6.out.cell p (by rw [List.length_append, HPB.out]; simp); rw [← HPB.out, row_at] at h; rw [← HPB.out]; exact h
                generalize R - 5 = M6 at *
                clear hT6
                go_loopw [6, 14] (fun a j wx => a = .int .i64 p ∧ j = .int .i64 z ∧ wx = w6) (fun _ _ _ => 0)
                case atStart => exact ⟨rfl, rfl, rfl⟩
                case round =>
                  obtain ⟨rfl, rfl, rfl⟩ := hrel
                  have hz0 : (0 : Int) ≤ (z : Int) := by omega
                  have h00 : decide ((0 : Int) < 0) = false := rfl
                  go_wp2_with fail
                  go_quiet (fail)
                  go_wp2
                  go_roundw
                  case rel => exact ⟨k + 1, by rw [HL.out]; omega, by go_num, by rw [HST.out, cstep_two HTWO.out HBAR.out]; exact congrArg _ (by simp only [atOf]; rw [HPB.out]), by rw [HST.out, cstep_two HTWO.out HBAR.out]; have h := HO6.out; have h2 : (pre ++ d :: bs).length = z + 1 := (by have := HZB.out; rw [List.length_append, List.length_cons] at this ⊢; omega); unfold Own; show World.ownsRow _ _ _ _ _ (pre ++ d :: bs).length _; rw [h2]; exact own_below h (below_drewN' (Below.refl _ _) _) (Nat.le_refl _), HIN.out, below_drewN' HB6.out _⟩
                  case measure => simp [intOf]; omega
    · have hkk : k = n := by omega
      subst hkk
      have hlt' : ¬ (k : Int) < k := by omega
      have ht : l.take k = l := List.take_of_length_le (by rw [HL.out]; exact Nat.le_refl _)
      rw [ht] at hO
      have HO := Lib.hid hO
      clear hO hI ht hb
      go_wp2
      go_ret
      exact ⟨_, rfl, HO.out, HBE.out⟩
end Go.Proofs.YtdmcidljjfogjaaDoor

/- Layer 8: the chapter's examples, by the kernel; what the program's two functions are to keep to. -/
namespace Go.Proofs.YtdmcidljjfogjaaDoor
set_option linter.unusedVariables false

theorem kJ1 : lkJ P5 97 770 none = some 226 := by kernel_rfl
theorem kJ2 : lkJ P5 226 769 none = some 7845 := by kernel_rfl
theorem kJ3 : lkJ P5 101 807 none = some 553 := by kernel_rfl
theorem kJ4 : lkJ P5 553 769 none = none := by kernel_rfl
theorem kJ5 : lkJ P5 101 769 none = some 233 := by kernel_rfl
theorem kJ6 : (Nat.beq (lk C5 97 0) 0 && (Nat.beq (lk C5 770 0) 230 && (Nat.beq (lk C5 769 0) 230 && (Nat.beq (lk C5 101 0) 0 && Nat.beq (lk C5 807 0) 202)))) = true := by kernel_rfl
attribute [local irreducible] P5 S5 C5 cl5 two5
theorem two_jo {a b d : Int} (h : joinOk a b = true) (hd : joinC a b = d) : two5 a b = some d := by unfold two5; rw [if_pos h, hd]
theorem two_at {x y : Nat} {r : Option Nat} (hx : x < 4352) (h : lkJ P5 x y none = r) : two5 (x : Int) (y : Int) = r.map fun (c : Nat) => (c : Int) := by
  have hj : joinOk (x : Int) (y : Int) = false := by
    unfold joinOk
    have h1 : ¬ (kind6 (x : Int) = 1 ∧ kind6 (y : Int) = 2) := fun hh => by have := kind6_1 hh.1; omega
    have h2 : ¬ (kind6 (x : Int) = 4 ∧ kind6 (y : Int) = 3) := fun hh => by have := kind6_is4 hh.1; omega
    rw [decide_eq_false h1, decide_eq_false h2]; rfl
  obtain ⟨e1, e2⟩ := joined_at P5 x y
  unfold two5
  rw [if_neg (by rw [hj]; simp)]
  rw [h] at e1 e2
  cases r with
  | none =>
    have hn : ¬ [(x : Int), (y : Int)] ∈ (jst P5).1 := of_decide_eq_false e1
    rw [if_neg hn]; rfl
  | some c =>
    have hy : [(x : Int), (y : Int)] ∈ (jst P5).1 := of_decide_eq_true e1
    rw [if_pos hy] at e2 ⊢
    rw [e2]; rfl
theorem cls8 : cl5 97 = 0 ∧ cl5 770 = 230 ∧ cl5 769 = 230 ∧ cl5 101 = 0 ∧ cl5 807 = 202 := by
  have k := kJ6
  simp only [Bool.and_eq_true, Nat.beq_eq] at k
  obtain ⟨k1, k2, k3, k4, k5⟩ := k
  have h1 := cl5_at 97
  have h2 := cl5_at 770
  have h3 := cl5_at 769
  have h4 := cl5_at 101
  have h5 := cl5_at 807
  rw [k1] at h1
  rw [k2] at h2
  rw [k3] at h3
  rw [k4] at h4
  rw [k5] at h5
  exact ⟨h1, h2, h3, h4, h5⟩
theorem comp3 {cl : Int → Int} {two : Int → Int → Option Int} (a b c : Int) : comp cl two [a, b, c] = crow (cstep cl two (cstep cl two (cstep cl two ([], none) a) b) c) := rfl
theorem comp_ex1 : comp cl5 two5 [97, 770, 769] = [7845] := by
  have t1 : two5 97 770 = some 226 := two_at (by omega) kJ1
  have t2 : two5 226 769 = some 7845 := two_at (by omega) kJ2
  rw [comp3, cstep_zero cls8.1, cstep_two t1 rfl, cstep_two t2 rfl]; rfl
theorem comp_ex3 : comp cl5 two5 [101, 807, 769] = [553, 769] := by
  have t1 : two5 101 807 = some 553 := two_at (by omega) kJ3
  have t2 : two5 553 769 = none := two_at (by omega) kJ4
  rw [comp3, cstep_zero cls8.2.2.2.1, cstep_two t1 rfl, cstep_put (.inl t2), crow_put]; rfl
theorem comp_ex2 : comp cl5 two5 [4352, 4449, 4520] = [44033] := by
  have t1 : two5 4352 4449 = some 44032 := two_jo (by decide) rfl
  have t2 : two5 44032 4520 = some 44033 := two_jo (by decide) rfl
  rw [comp3, cstep_zero (cl_jamo (by omega) (by omega)), cstep_two t1 rfl, cstep_two t2 rfl]; rfl
theorem two_ex : twoC 101 769 = 233 ∧ twoOk 101 769 = true := by
  have t1 : two5 101 769 = some 233 := two_at (by omega) kJ5
  unfold twoC twoOk
  rw [t1]; exact ⟨rfl, rfl⟩
end Go.Proofs.YtdmcidljjfogjaaDoor

/- What the walks of layer 8 ask of the program's Two and Compose. -/
namespace Go.Proofs.YtdmcidljjfogjaaDoor
set_option maxRecDepth 100000
open Go.ChangeShapes Go.WideShapes Go.ChangeAt Go.RowKit
set_option linter.unusedVariables false
set_option linter.unusedSimpArgs false

abbrev TwoOk : Prop := ∀ (a b : Int) (W : World) (g : Nat), R32 a → R32 b → TblAt W W.heap.size g C5 P5 S5 → Calls Tryd.prog 72 #[.pointer (some ⟨g, 0, none⟩), .int .i32 a, .int .i32 b] W fun e w' => e = .returned (.tuple #[.int .i32 (twoC a b), .bool (twoOk a b)]) ∧ Below W.heap.size W w'
abbrev ComposeOk : Prop := ∀ (W : World) (g : Nat) (A : Option Addr) (n c : Nat) (l : List Int), RowIn W A n c l → TblAt W W.heap.size g C5 P5 S5 → (∀ x ∈ l, R32 x) → n ≤ 1000000 → Calls Tryd.prog 57 #[.pointer (some ⟨g, 0, none⟩), .slice A n c] W (RowOut W (comp cl5 two5 l))

theorem rcompose_out (w : World) (R : Nat) (A : Option Addr) (n c : Nat) (l : List Int) (hA : RowIn w A n c l) (hT : DT w R) (hR : ∀ c ∈ l, R32 c) (hn : n ≤ 1000000000) :
    Calls Tryd.prog 34 #[.pointer (some ⟨R, 0, none⟩), .slice A n c] w (RowOut w (comp cl5 two5 l)) := (rcompose_any w R A n c l hA hT hR hn).mono fun _ _ h => h.out
theorem comp_in {l : List Int} (h : ∀ x ∈ l, R32 x) : ∀ x ∈ comp cl5 two5 l, R32 x := by
  unfold comp
  revert h
  refine row_snoc (p := fun l => (∀ x ∈ l, R32 x) → ∀ x ∈ crow (cst cl5 two5 l), R32 x) (fun _ x hx => by cases hx) (fun l c ih h => ?_) l
  rw [cst_snoc]
  exact cstep_in (ih fun x hx => h x (by simp [hx])) (h c (by simp))
end Go.Proofs.YtdmcidljjfogjaaDoor
