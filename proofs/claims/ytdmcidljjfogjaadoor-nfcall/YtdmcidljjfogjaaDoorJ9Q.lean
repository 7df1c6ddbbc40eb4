/- Joined of: N9Math, N9Cmp, N9Q, N9Ok. -/
import Derived.Test.YtdmcidljjfogjaaDoorJ9L
import Derived.Test.YtdmcidljjfogjaaDoorJ9G
import Derived.Test.YtdmcidljjfogjaaDoorJ9M
import Derived.Test.YtdmcidljjfogjaaDoorJ9P
import Derived.Test.YtdmcidljjfogjaaDoorJ9O
/- Layer 9: the form, and the quick look, as mathematics. No program in it. -/
namespace Go.Proofs.YtdmcidljjfogjaaDoor
set_option linter.unusedVariables false

/-- what the tables must keep to, for the quick look: mb: it may be taken by what is ahead of it; good: it is no 'no' by itself -/
structure Nq (T : Pts) (cl : Int → Int) (two : Int → Int → Option Int) (mb : Int → Bool) (good : Int → Prop) : Prop where
  C : Cmp T cl two
  tk : ∀ s c d, two s c = some d → mb c = true
  gd : ∀ s c d, two s c = some d → good d
  gp : ∀ c, Plain T c → good c
  up : ∀ c, good c → Plain T c ∨ (cl c = 0 ∧ ∃ x y, two x y = some c ∧ good x ∧ cl x = 0 ∧ mb x = false)
/-- the form -/
def formF (T : Pts) (cl : Int → Int) (two : Int → Int → Option Int) (l : List Int) : List Int := comp cl two (allF T cl l)
section
variable {T : Pts} {cl : Int → Int} {two : Int → Int → Option Int}
theorem full_pos (C : Cmp T cl two) : ∀ (n : Nat) (c : Int), Ends T n c → 0 < (fullN T n c).length
  | 0, c, h => absurd h (by simp [Ends])
  | n + 1, c, h => by
    by_cases hsy : T.sy c = []
    · by_cases hsg : T.sg c = 0
      · cases hpk : T.pk c with
        | true =>
          rw [fullN_pk n hsy hsg hpk, List.length_append]
          have := full_pos C n (T.px c) ((h hsy).2 hsg hpk).1
          omega
        | false => rw [fullN_no n hsy hsg hpk]; simp
      · rw [fullN_sg n hsy hsg]; exact full_pos C n _ ((h hsy).1 hsg)
    · rw [fullN_sy n hsy]
      exact List.length_pos_iff.2 hsy
theorem step_new {σ : CSt} {h : Int} (ht : ∀ s bs, σ.2 = some (s, bs) → two s h = none) (h0 : cl h = 0) : cstep cl two σ h = (crow σ, some (h, [])) := by
  obtain ⟨pre, o⟩ := σ
  cases o with
  | none => unfold cstep; simp [h0, crow]
  | some q =>
    obtain ⟨s, bs⟩ := q
    rw [cstep_put (.inl (ht s bs rfl))]
    unfold cput
    rw [if_pos h0]
    rfl
/-- its parts put together are it -/
theorem comp_up {mb : Int → Bool} {good : Int → Prop} (N : Nq T cl two mb good) : ∀ (n : Nat) (c : Int), (fullF T c).length ≤ n → good c → cl c = 0 → mb c = false → ∃ h t, fullF T c = h :: t ∧ cl h = 0 ∧ mb h = false ∧ ∀ pre, t.foldl (cstep cl two) (pre, some (h, [])) = (pre, some (c, []))
  | 0, c, hl, _, _, _ => by
    have := full_pos N.C 5 c (N.C.hE c)
    unfold fullF at hl
    omega
  | n + 1, c, hl, hg, h0, hm => by
    rcases N.up c hg with hp | ⟨_, x, y, hxy, hgx, hx0, hxm⟩
    · exact ⟨c, [], full_no hp, h0, hm, fun pre => rfl⟩
    · have hf : fullF T c = fullF T x ++ [y] := by rw [N.C.twF _ _ _ hxy, full_no (N.C.twP _ _ _ hxy)]
      obtain ⟨h, t, e, e0, em, up⟩ := comp_up N n x (by rw [hf, List.length_append] at hl; simp at hl; omega) hgx hx0 hxm
      refine ⟨h, t ++ [y], by rw [hf, e]; rfl, e0, em, fun pre => ?_⟩
      rw [List.foldl_append, up pre]
      exact cstep_two hxy (barred_nil y)
theorem ins_split (x : Int) : ∀ ra : List Int, ∃ qa rb, ra = qa ++ rb ∧ insR cl x ra = qa ++ x :: rb ∧ ∀ y ∈ qa, cl y ≠ 0 ∧ cl x < cl y
  | [] => ⟨[], [], rfl, by unfold insR; rfl, fun y hy => by cases hy⟩
  | a :: ra => by
    unfold insR
    split
    · rename_i h
      obtain ⟨qa, rb, e1, e2, h3⟩ := ins_split x ra
      refine ⟨a :: qa, rb, by rw [e1]; rfl, by rw [e2]; rfl, fun y hy => ?_⟩
      rcases List.mem_cons.1 hy with rfl | hy
      · exact ⟨h.1, by omega⟩
      · exact h3 y hy
    · exact ⟨[], a :: ra, rfl, rfl, fun y hy => by cases hy⟩
theorem ord_snoc (D : List Int) (x : Int) : ∃ A B, ordL cl D = A ++ B ∧ ordL cl (D ++ [x]) = A ++ x :: B ∧ ∀ b ∈ B, cl b ≠ 0 ∧ cl x < cl b := by
  obtain ⟨qa, rb, e1, e2, h⟩ := ins_split (cl := cl) x (ordR cl D)
  refine ⟨rb.reverse, qa.reverse, by unfold ordL; rw [e1, List.reverse_append], ?_, fun b hb => h b (List.mem_reverse.1 hb)⟩
  unfold ordL
  rw [ordR_snoc, e2]
  simp
theorem norm_suf : ∀ (p : List Int) {q : List Int}, Norm cl (p ++ q) → Norm cl q
  | [], _, h => h
  | x :: p, _, h => norm_suf p (Norm.tail h)
theorem marks_le {p bs : List Int} {x : Int} (hn : Norm cl (p ++ (bs ++ [x]))) (hb : ∀ b ∈ bs, 0 < cl b) (hx : 0 < cl x) : ∀ b ∈ bs, cl b ≤ cl x := by
  have h := pair_norm (cl := cl) (l := bs ++ [x]) (fun y hy => by
    rcases List.mem_append.1 hy with hy | hy
    · exact hb y hy
    · simp at hy; rw [hy]; exact hx) (norm_suf p hn)
  rw [List.pairwise_append] at h
  exact fun b hb => of_decide_eq_true (h.2.2 b hb x (by simp))
def Taken (two : Int → Int → Option Int) : Int → List Int → Int → Prop
  | s, [], s' => s = s'
  | s, b :: B, s' => ∃ s1, two s b = some s1 ∧ Taken two s1 B s'
theorem fold_none : ∀ (B : List Int) (pre : List Int), (∀ b ∈ B, cl b ≠ 0) → B.foldl (cstep cl two) (pre, none) = (pre ++ B, none)
  | [], pre, _ => by simp
  | b :: B, pre, h => by
    have e : cstep cl two (pre, none) b = (pre ++ [b], none) := by unfold cstep; simp [h b (by simp)]
    rw [List.foldl_cons, e, fold_none B _ (fun y hy => h y (by simp [hy]))]
    simp
theorem fold_marks : ∀ (B : List Int) (pre : List Int) (s : Int) (bs : List Int), (∀ b ∈ B, cl b ≠ 0) → ∃ s' R, B.foldl (cstep cl two) (pre, some (s, bs)) = (pre, some (s', bs ++ R)) ∧ (∀ r ∈ R, r ∈ B) ∧ (R = [] → Taken two s B s')
  | [], pre, s, bs, _ => ⟨s, [], by simp, fun r hr => (by cases hr), fun _ => rfl⟩
  | b :: B, pre, s, bs, h => by
    by_cases hput : two s b = none ∨ barred cl bs b = true
    · have e : cstep cl two (pre, some (s, bs)) b = (pre, some (s, bs ++ [b])) := by rw [cstep_put hput]; unfold cput; rw [if_neg (h b (by simp))]
      obtain ⟨s', R, e1, h1, _⟩ := fold_marks B pre s (bs ++ [b]) (fun y hy => h y (by simp [hy]))
      refine ⟨s', b :: R, by rw [List.foldl_cons, e, e1]; simp, fun r hr => ?_, fun hR => by cases hR⟩
      rcases List.mem_cons.1 hr with rfl | hr
      · simp
      · simp [h1 r hr]
    · have hbar : barred cl bs b = false := by
        cases hh : barred cl bs b with
        | false => rfl
        | true => exact absurd (.inr hh) hput
      cases hh : two s b with
      | none => exact absurd (.inl hh) hput
      | some d =>
        obtain ⟨s', R, e1, h1, h2⟩ := fold_marks B pre d bs (fun y hy => h y (by simp [hy]))
        exact ⟨s', R, by rw [List.foldl_cons, cstep_two hh hbar, e1], fun r hr => by simp [h1 r hr], fun hR => ⟨d, hh, h2 hR⟩⟩
theorem take_all {x : Int} (hx : 0 < cl x) : ∀ (B : List Int) (pre : List Int) (s s' : Int) (bs : List Int), Taken two s B s' → (∀ b ∈ B, cl x < cl b) → B.foldl (cstep cl two) (pre, some (s, bs ++ [x])) = (pre, some (s', bs ++ [x]))
  | [], pre, s, s', bs, h, _ => by rw [List.foldl_nil, show s = s' from h]
  | b :: B, pre, s, s', bs, h, hb => by
    obtain ⟨s1, h1, h2⟩ := h
    have hbar : barred cl (bs ++ [x]) b = false := by
      unfold barred
      rw [List.getLast?_append]
      have := hb b (by simp)
      simp
      omega
    rw [List.foldl_cons, cstep_two h1 hbar, take_all hx B pre s1 s' bs h2 (fun y hy => hb y (by simp [hy]))]
theorem all_snoc (C : Cmp T cl two) (l : List Int) {x : Int} (hp : Plain T x) : allF T cl (l ++ [x]) = ordL cl (allF T cl l ++ [x]) := by
  unfold allF
  rw [partsF_snoc, full_no hp]
  exact ordL_sims C.h0 ((ordL_sim _).symm.app (Sim.refl [x]))
/-- what is told yes is its form -/
theorem yes_form {mb : Int → Bool} {good : Int → Prop} (N : Nq T cl two mb good) (l : List Int) : (∀ c ∈ l, good c ∧ mb c = false) → Norm cl l → formF T cl two l = l := by
  refine row_snoc (p := fun l => (∀ c ∈ l, good c ∧ mb c = false) → Norm cl l → formF T cl two l = l) (fun _ _ => rfl) (fun l x ih hg hn => ?_) l
  have IH : crow (cst cl two (allF T cl l)) = l := ih (fun c hc => hg c (by simp [hc])) (norm_pre l hn)
  obtain ⟨gx, mx⟩ := hg x (by simp)
  show crow (cst cl two (allF T cl (l ++ [x]))) = l ++ [x]
  have nt : ∀ s h, mb h = false → two s h = none := fun s h hm => by
    cases hh : two s h with
    | none => rfl
    | some d => rw [N.tk _ _ _ hh] at hm; cases hm
  by_cases hx : cl x = 0
  · obtain ⟨h, t, e, e0, em, up⟩ := comp_up N _ x (Nat.le_refl _) gx hx mx
    have e1 : allF T cl [x] = fullF T x := by unfold allF; rw [partsF_one]; exact ordL_self N.C.h0 (N.C.nrm x)
    have e2 : allF T cl (l ++ [x]) = allF T cl l ++ h :: t := by
      rw [← allF_cut N.C.h0 l [x] (by rw [e1, e]; intro a ha; simp at ha; rw [← ha]; exact e0), e1, e]
    rw [e2]
    show crow ((allF T cl l ++ h :: t).foldl (cstep cl two) ([], none)) = l ++ [x]
    rw [List.foldl_append, List.foldl_cons]
    have e3 : cstep cl two ((allF T cl l).foldl (cstep cl two) ([], none)) h = (l, some (h, [])) := by
      rw [step_new (fun s bs _ => nt s h em) e0]
      exact congrArg (·, some (h, [])) IH
    rw [e3, up l]
    rfl
  · have hp : Plain T x := by
      rcases N.up x gx with hp | ⟨h0, _⟩
      · exact hp
      · exact absurd h0 hx
    have hxp : 0 < cl x := by have := N.C.h0 x; omega
    have hD : Norm cl (allF T cl l) := ordL_norm N.C.h0 _
    rw [all_snoc N.C l hp]
    obtain ⟨A, B, e1, e2, hB⟩ := ord_snoc (cl := cl) (allF T cl l) x
    rw [ordL_self N.C.h0 hD] at e1
    rw [e2]
    have I := ci_all N.C (allF T cl l) hD
    rw [e1] at IH I
    have f1 : cst cl two (A ++ B) = B.foldl (cstep cl two) (cst cl two A) := by simp [cst, List.foldl_append]
    have f2 : cst cl two (A ++ x :: B) = B.foldl (cstep cl two) (cstep cl two (cst cl two A) x) := by simp [cst, List.foldl_append]
    rw [f2]
    rw [f1] at IH I
    generalize cst cl two A = σ at *
    obtain ⟨pre, o⟩ := σ
    cases o with
    | none =>
      rw [fold_none B pre (fun b hb => (hB b hb).1)] at IH I
      have hl : pre ++ B = l := IH
      have hBn : B = [] := by
        cases B with
        | nil => rfl
        | cons b B =>
          exfalso
          have hb := hB b (by simp)
          rw [← hl] at hn
          have h2 := marks_le (p := pre) (bs := b :: B) (x := x) (by simpa using hn) (fun y hy => by have := (hB y hy).1; have := N.C.h0 y; omega) hxp b (by simp)
          omega
      subst hBn
      have e : cstep cl two (pre, none) x = (pre ++ [x], none) := by unfold cstep; simp [hx]
      rw [List.foldl_nil, e, ← hl]
      simp [crow]
    | some q =>
      obtain ⟨s, bs⟩ := q
      obtain ⟨s', R, e3, hR, hT⟩ := fold_marks (two := two) B pre s bs (fun b hb => (hB b hb).1)
      rw [e3] at IH I
      have hl : pre ++ s' :: (bs ++ R) = l := IH
      have hz := (I.z s' (bs ++ R) rfl).2
      have hRn : R = [] := by
        cases R with
        | nil => rfl
        | cons r R =>
          exfalso
          have hb := hB r (hR r (by simp))
          rw [← hl] at hn
          have h2 := marks_le (p := pre ++ [s']) (bs := bs ++ r :: R) (x := x) (by simpa using hn) hz hxp r (by simp)
          omega
      subst hRn
      have e4 : cstep cl two (pre, some (s, bs)) x = (pre, some (s, bs ++ [x])) := by rw [cstep_put (.inl (nt s x mx))]; unfold cput; rw [if_neg hx]
      rw [e4, take_all hxp B pre s s' bs (hT rfl) (fun b hb => (hB b hb).2), ← hl]
      simp [crow]
/-- what stands in a row that was put together -/
theorem comp_mem (l : List Int) : ∀ x ∈ crow (cst cl two l), x ∈ l ∨ ∃ a b, two a b = some x := by
  refine row_snoc (p := fun l => ∀ x ∈ crow (cst cl two l), x ∈ l ∨ ∃ a b, two a b = some x) (fun x hx => by cases hx) (fun l c ih x hx => ?_) l
  rw [cst_snoc] at hx
  generalize cst cl two l = σ at *
  have hput : ∀ σ' : CSt, crow σ' = crow σ ++ [c] → x ∈ crow σ' → x ∈ l ++ [c] ∨ ∃ a b, two a b = some x := fun σ' e h => by
    rw [e] at h
    rcases List.mem_append.1 h with h | h
    · rcases ih x h with h | h
      · exact .inl (by simp [h])
      · exact .inr h
    · exact .inl (List.mem_append.2 (.inr h))
  obtain ⟨pre, o⟩ := σ
  cases o with
  | none => exact hput _ (cstep_none pre c) hx
  | some q =>
    obtain ⟨s, bs⟩ := q
    by_cases hp : two s c = none ∨ barred cl bs c = true
    · rw [cstep_put hp] at hx; exact hput _ (crow_put pre s bs c) hx
    · have hbar : barred cl bs c = false := by
        cases hh : barred cl bs c with
        | false => rfl
        | true => exact absurd (.inr hh) hp
      cases hh : two s c with
      | none => exact absurd (.inl hh) hp
      | some d =>
        rw [cstep_two hh hbar] at hx
        simp only [crow, List.mem_append, List.mem_cons] at hx
        rcases hx with hx | rfl | hx
        · rcases ih x (by simp [crow, hx]) with h | h
          · exact .inl (by simp [h])
          · exact .inr h
        · exact .inr ⟨s, c, hh⟩
        · rcases ih x (by simp [crow, hx]) with h | h
          · exact .inl (by simp [h])
          · exact .inr h
theorem norm_put {m : List Int} {c : Int} (hm : Norm cl m) (h : 0 < cl c → ∀ e ∈ m.getLast?, cl e ≤ cl c) : Norm cl (m ++ [c]) := by
  rcases List.eq_nil_or_concat m with hh | ⟨m', a, hh⟩
  · subst hh; exact trivial
  · subst hh
    rw [List.concat_eq_append] at *
    rw [List.append_assoc]
    exact norm_snoc hm (fun hc => h hc a (by simp))
theorem norm_turn : ∀ (pre : List Int) {s d : Int} {bs : List Int}, Norm cl (pre ++ s :: bs) → cl s = cl d → Norm cl (pre ++ d :: bs)
  | [], s, d, [], _, _ => trivial
  | [], s, d, b :: bs, h, e => ⟨fun hb => e ▸ h.1 hb, h.2⟩
  | [x], s, d, bs, h, e => ⟨fun hb => e ▸ h.1 (e ▸ hb), norm_turn [] h.2 e⟩
  | x :: y :: pre, s, d, bs, h, e => ⟨h.1, norm_turn (y :: pre) h.2 e⟩
theorem comp_norm (C : Cmp T cl two) (l : List Int) : Norm cl l → Norm cl (crow (cst cl two l)) ∧ ((cst cl two l).2 = none → (cst cl two l).1 = l) := by
  refine row_snoc (p := fun l => Norm cl l → Norm cl (crow (cst cl two l)) ∧ ((cst cl two l).2 = none → (cst cl two l).1 = l)) (fun _ => ⟨trivial, fun _ => rfl⟩) (fun l c ih hn => ?_) l
  obtain ⟨ih1, ih2⟩ := ih (norm_pre l hn)
  have I := ci_all C l (norm_pre l hn)
  rw [cst_snoc]
  generalize cst cl two l = σ at *
  obtain ⟨pre, o⟩ := σ
  cases o with
  | none =>
    have hpl : pre = l := ih2 rfl
    subst hpl
    refine ⟨by rw [cstep_none]; exact hn, fun h => ?_⟩
    by_cases hc : cl c = 0
    · have e : cstep cl two (pre, none) c = (pre, some (c, [])) := by unfold cstep; simp [hc]
      rw [e] at h; cases h
    · have e : cstep cl two (pre, none) c = (pre ++ [c], none) := by unfold cstep; simp [hc]
      rw [e]
  | some q =>
    obtain ⟨s, bs⟩ := q
    obtain ⟨hs0, hb0⟩ := I.z s bs rfl
    have htp := I.top s bs rfl
    have hsb := I.sub s bs rfl
    by_cases hp : two s c = none ∨ barred cl bs c = true
    · rw [cstep_put hp]
      refine ⟨by
        rw [crow_put]
        refine norm_put ih1 fun hc e he => ?_
        rcases List.eq_nil_or_concat bs with hb | ⟨b, y, hb⟩
        · subst hb
          simp [crow] at he
          rw [← he, hs0]; omega
        · have hey : e = y := by
            have e3 : crow (pre, some (s, bs)) = (pre ++ s :: b) ++ [y] := by subst hb; simp [crow]
            rw [e3, List.getLast?_append] at he
            simp at he
            exact he.symm
          subst hey
          have hm : e ∈ bs := by rw [hb]; simp
          obtain ⟨z, hz⟩ := last_of_mem (hsb e hm)
          exact Int.le_trans (htp e hm z hz) (norm_last hn hc z hz), fun h => ?_⟩
      unfold cput at h
      split at h <;> cases h
    · have hbar : barred cl bs c = false := by
        cases hh : barred cl bs c with
        | false => rfl
        | true => exact absurd (.inr hh) hp
      cases hh : two s c with
      | none => exact absurd (.inl hh) hp
      | some d =>
        rw [cstep_two hh hbar]
        exact ⟨norm_turn pre ih1 (by rw [hs0, C.tw0 _ _ _ hh]), fun h => by cases h⟩
theorem form_good {mb : Int → Bool} {good : Int → Prop} (N : Nq T cl two mb good) (l : List Int) : (∀ c ∈ formF T cl two l, good c) ∧ Norm cl (formF T cl two l) := by
  refine ⟨fun c hc => ?_, (comp_norm N.C _ (ordL_norm N.C.h0 _)).1⟩
  rcases comp_mem _ c hc with h | ⟨a, b, h⟩
  · exact N.gp c (allF_plain N.C.hs N.C.hE l c h)
  · exact N.gd _ _ _ h
theorem form_back (C : Cmp T cl two) (l : List Int) : allF T cl (formF T cl two l) = allF T cl l := comp_back C (ordL_norm C.h0 _) (allF_plain C.hs C.hE l)
theorem form_once (C : Cmp T cl two) (l : List Int) : formF T cl two (formF T cl two l) = formF T cl two l := by
  show comp cl two (allF T cl (formF T cl two l)) = _
  rw [form_back C]; rfl
theorem form_parts (C : Cmp T cl two) (a b c : List Int) : formF T cl two (a ++ formF T cl two b ++ c) = formF T cl two (a ++ b ++ c) := by
  unfold formF
  refine congrArg _ ?_
  show ordL cl (partsF T (a ++ formF T cl two b ++ c)) = ordL cl (partsF T (a ++ b ++ c))
  rw [partsF_app, partsF_app, partsF_app, partsF_app]
  have h : Sim cl (partsF T (formF T cl two b)) (partsF T b) := by
    have h1 : Sim cl (allF T cl (formF T cl two b)) (partsF T (formF T cl two b)) := ordL_sim _
    have h2 : Sim cl (allF T cl b) (partsF T b) := ordL_sim _
    rw [form_back C] at h1
    exact h1.symm.trans h2
  exact ordL_sims C.h0 (((Sim.refl _).app h).app (Sim.refl _))
theorem form_eq (C : Cmp T cl two) (l m : List Int) : formF T cl two l = formF T cl two m ↔ allF T cl l = allF T cl m :=
  ⟨fun h => by rw [← form_back C l, ← form_back C m, h], fun h => by unfold formF; rw [h]⟩
end
end Go.Proofs.YtdmcidljjfogjaaDoor

/- Layer 9: Unicode's tables keep to what the quick look asks. -/
namespace Go.Proofs.YtdmcidljjfogjaaDoor
set_option linter.unusedVariables false

noncomputable def sec5 (c : Int) : Bool := tab (castE (scL P5)) c != 0
/-- it may be taken by what is ahead of it -/
noncomputable def mb5 (c : Int) : Bool := sec5 c || (decide (kind6 c = 2) || decide (kind6 c = 3))
/-- it is no 'no' by itself -/
def good5 (c : Int) : Prop := T5.sg c = 0 ∧ (T5.pk c = true → [T5.px c, T5.py c] ∈ (jst P5).1 ∧ (jst P5).2 [T5.px c, T5.py c] = c)
noncomputable def outB : Nat := bitsOf ((P5.filter (·.o)).map (·.c)) 0
noncomputable def seB : Nat := bitsOf ((scL P5).map (·.1)) 0
theorem kUp : (P5.all fun p => p.o || (!hasBit outB p.x && (!hasBit kB p.x && (!hasBit seB p.x && (Nat.blt p.x 4352 || Nat.blt 4607 p.x))))) = true := by kernel_rfl
theorem kSecJ : ((scL P5).all fun e => Nat.blt e.1 4352 || Nat.blt 4607 e.1) = true := by kernel_rfl
attribute [local irreducible] P5 S5 C5
theorem up_fact {p : Pr5} (hp : p ∈ P5) (ho : p.o = false) : hasBit outB p.x = false ∧ hasBit kB p.x = false ∧ hasBit seB p.x = false ∧ (p.x < 4352 ∨ 4607 < p.x) := by
  have h := List.all_eq_true.1 kUp p hp
  rw [ho, Bool.false_or] at h
  simp only [Bool.and_eq_true, Bool.not_eq_true', Bool.or_eq_true, Nat.blt_eq] at h
  exact ⟨h.1, h.2.1, h.2.2.1, h.2.2.2⟩
theorem sec_mem {c : Int} (h : sec5 c = true) : ∃ p ∈ P5, p.o = false ∧ (p.y : Int) = c := by
  unfold sec5 at h
  obtain ⟨e, he, e1, _⟩ := tab_nz (l := scL P5) (fun e he => by obtain ⟨q, hq, _, rfl⟩ := scL_mem.1 he; exact (fine5.p q hq).2.2) (by simpa using h)
  obtain ⟨p, hp, ho, rfl⟩ := scL_mem.1 he
  exact ⟨p, hp, ho, e1⟩
theorem sec_in {p : Pr5} (hp : p ∈ P5) (ho : p.o = false) : sec5 (p.y : Int) = true := by
  unfold sec5
  rw [bne_iff_ne]
  intro h
  have hsc : ∀ e ∈ scL P5, e.1 ≤ 1114111 := fun e he => by
    obtain ⟨q, hq, _, rfl⟩ := scL_mem.1 he
    exact (fine5.p q hq).2.2
  have hnz : ∀ e ∈ scL P5, e.2 ≠ 0 := fun e he => by
    obtain ⟨q, hq, _, rfl⟩ := scL_mem.1 he
    exact Nat.one_ne_zero
  exact tab_z hsc hnz h (p.y, 1) (scL_mem.2 ⟨p, hp, ho, rfl⟩) rfl
theorem sec_no {c : Nat} (h : hasBit seB c = false) : sec5 (c : Int) = false := by
  cases hh : sec5 (c : Int) with
  | false => rfl
  | true =>
    obtain ⟨p, hp, ho, e⟩ := sec_mem hh
    have : hasBit seB c = true := by
      unfold seB
      rw [has_iff]
      exact List.mem_map.2 ⟨(p.y, 1), scL_mem.2 ⟨p, hp, ho, rfl⟩, by dsimp only; omega⟩
    rw [this] at h
    cases h
theorem sec_jamo {c : Int} (h0 : 4352 ≤ c) (h1 : c ≤ 4607) : sec5 c = false := by
  cases hh : sec5 c with
  | false => rfl
  | true =>
    obtain ⟨p, hp, ho, e⟩ := sec_mem hh
    have := List.all_eq_true.1 kSecJ (p.y, 1) (scL_mem.2 ⟨p, hp, ho, rfl⟩)
    simp [Nat.blt_eq] at this
    omega
theorem sec_syl {c : Int} (h0 : 44032 ≤ c) (h1 : c ≤ 55203) : sec5 c = false := by
  cases hh : sec5 c with
  | false => rfl
  | true =>
    obtain ⟨p, hp, ho, e⟩ := sec_mem hh
    have := (first_fact hp).2.2
    omega
theorem jst_of {p : Pr5} (hp : p ∈ P5) (ho : p.o = false) : [(p.x : Int), (p.y : Int)] ∈ (jst P5).1 ∧ (jst P5).2 [(p.x : Int), (p.y : Int)] = p.c := by
  have hm : [(p.x : Int), (p.y : Int)] ∈ (jst P5).1 := by
    rw [jst_jL]
    obtain ⟨h1, h2⟩ := mst_look (0 : Int) (jL P5) [(p.x : Int), (p.y : Int)]
    refine h1.2 ?_
    cases hl : look (jL P5) [(p.x : Int), (p.y : Int)] with
    | some v => rfl
    | none =>
      exfalso
      refine look_none _ _ hl ?_
      unfold jL
      rw [List.map_map]
      exact List.mem_map.2 ⟨p, List.mem_filter.2 ⟨hp, by rw [ho]; rfl⟩, rfl⟩
  refine ⟨hm, ?_⟩
  obtain ⟨q, hq, hqo, hk, hv⟩ := jst_in hm
  unfold key5 at hk
  obtain ⟨k1, k2⟩ := List.cons.inj hk
  obtain ⟨k2, _⟩ := List.cons.inj k2
  rw [hv, keys_once hq hp (by omega) (by omega)]
theorem good_pair {p : Pr5} (hp : p ∈ P5) (ho : p.o = false) : good5 (p.c : Int) := by
  obtain ⟨_, h1, h2, h3, h4⟩ := pair_of hp
  refine ⟨h1, fun _ => ?_⟩
  rw [h3, h4]
  exact jst_of hp ho
/-- a pair that is joined back was not left out -/
theorem pair_good {c : Int} (hg : good5 c) (hk : T5.pk c = true) : ∃ p ∈ P5, p.o = false ∧ (p.c : Int) = c ∧ T5.px c = p.x ∧ T5.py c = p.y := by
  obtain ⟨p, hp, e1, e2, e3⟩ := pk_mem hk
  obtain ⟨hm, hv⟩ := hg.2 hk
  have e2 : T5.px c = p.x := e2
  have e3 : T5.py c = p.y := e3
  rw [e2, e3] at hm hv
  obtain ⟨q, hq, hqo, hkq, hvq⟩ := jst_in hm
  unfold key5 at hkq
  obtain ⟨k1, k2⟩ := List.cons.inj hkq
  obtain ⟨k2, _⟩ := List.cons.inj k2
  obtain rfl : q = p := keys_once hq hp (by omega) (by omega)
  exact ⟨q, hq, hqo, e1, e2, e3⟩
theorem good_first {p : Pr5} (hp : p ∈ P5) (ho : p.o = false) : good5 (p.x : Int) := by
  refine ⟨(first_fact hp).1, fun hk => ?_⟩
  obtain ⟨q, hq, e1, e2, e3⟩ := pk_mem hk
  have hqo : q.o = false := by
    cases hh : q.o with
    | false => rfl
    | true =>
      have h := (up_fact hp ho).1
      have : hasBit outB p.x = true := by
        unfold outB
        rw [has_iff]
        exact List.mem_map.2 ⟨q, List.mem_filter.2 ⟨hq, hh⟩, by omega⟩
      rw [this] at h
      cases h
  have e2 : T5.px (p.x : Int) = q.x := e2
  have e3 : T5.py (p.x : Int) = q.y := e3
  rw [e2, e3, ← e1]
  exact jst_of hq hqo
theorem join_no {p : Pr5} (hp : p ∈ P5) (ho : p.o = false) : joinOk (p.x : Int) (p.y : Int) = false := by
  have h1 := (up_fact hp ho).2.2.2
  have h2 := (first_fact hp).2.1
  unfold joinOk
  have k1 : ¬ (kind6 (p.x : Int) = 1 ∧ kind6 (p.y : Int) = 2) := fun h => by have := kind6_1 h.1; omega
  have k2 : ¬ (kind6 (p.x : Int) = 4 ∧ kind6 (p.y : Int) = 3) := fun h => by have := kind6_is4 h.1; omega
  rw [decide_eq_false k1, decide_eq_false k2]; rfl
theorem two_pair {p : Pr5} (hp : p ∈ P5) (ho : p.o = false) : two5 (p.x : Int) (p.y : Int) = some (p.c : Int) := by
  unfold two5
  obtain ⟨h1, h2⟩ := jst_of hp ho
  rw [if_neg (by rw [join_no hp ho]; simp), if_pos h1, h2]
theorem mb_no {c : Int} (h : sec5 c = false) (h2 : kind6 c ≠ 2) (h3 : kind6 c ≠ 3) : mb5 c = false := by
  unfold mb5
  rw [h, decide_eq_false h2, decide_eq_false h3]; rfl
theorem syl_good {c : Int} (h0 : 44032 ≤ c) (h1 : c ≤ 55203) : good5 c := by
  refine ⟨?_, fun hk => ?_⟩
  · apply Classical.byContradiction
    intro hs
    obtain ⟨e, he, e1, _⟩ := sg_mem hs
    have := sylS he
    omega
  · obtain ⟨p, hp, e1, _, _⟩ := pk_mem hk
    have := sylP hp
    omega
theorem nq5 : Nq T5 cl5 two5 mb5 good5 := by
  refine ⟨cmp5, fun s c d h => ?_, fun s c d h => ?_, fun c hp => ⟨hp.2.1, fun hk => by rw [hp.2.2] at hk; cases hk⟩, fun c hg => ?_⟩
  · unfold mb5
    rcases two5_cases h with h | h | ⟨p, hp, ho, h1, h2, h3⟩
    · rw [decide_eq_true h.2.1]; simp
    · rw [decide_eq_true h.2.1]; simp
    · rw [← h2, sec_in hp ho]; rfl
  · rcases two5_cases h with h | h | ⟨p, hp, ho, h1, h2, h3⟩
    · have := (join_syl (.inl h)).1; exact syl_good this.1 this.2
    · have := (join_syl (.inr h)).1; exact syl_good this.1 this.2
    · rw [h3]; exact good_pair hp ho
  · by_cases hsy : T5.sy c = []
    · cases hk : T5.pk c with
      | false => exact .inl ⟨hsy, hg.1, hk⟩
      | true =>
        obtain ⟨p, hp, ho, e1, e2, e3⟩ := pair_good hg hk
        have hz := List.all_eq_true.1 kZero p hp
        rw [ho, Bool.false_or] at hz
        obtain ⟨u1, u2, u3, u4⟩ := up_fact hp ho
        refine .inr ⟨by rw [← e1]; exact cl_nob (by simpa using hz), p.x, p.y, by rw [two_pair hp ho, e1], good_first hp ho, cl_nob u2, mb_no (sec_no u3) (fun h => ?_) (fun h => ?_)⟩
        · have := kind6_2 h; omega
        · have := kind6_3 h; omega
    · have hk : 3 < kind6 c := by
        apply Classical.byContradiction
        intro hn
        exact hsy (split6_none (by omega))
      obtain ⟨h0, h1⟩ := kind6_big hk
      refine .inr ⟨cl_syl h0 h1, ?_⟩
      by_cases h4 : (c - 44032) % 28 = 0
      · have kL : kind6 (4352 + (c - 44032) / 588) = 1 := by unfold kind6; rw [if_pos (by omega)]
        have kV : kind6 (4449 + (c - 44032) % 588 / 28) = 2 := by unfold kind6; rw [if_neg (by omega), if_pos (by omega)]
        refine ⟨4352 + (c - 44032) / 588, 4449 + (c - 44032) % 588 / 28, ?_, ?_, cl_jamo (by omega) (by omega), mb_no (sec_jamo (by omega) (by omega)) (by omega) (by omega)⟩
        · have hj : joinOk (4352 + (c - 44032) / 588) (4449 + (c - 44032) % 588 / 28) = true := by unfold joinOk; rw [kL, kV]; rfl
          unfold two5
          rw [if_pos hj]
          unfold joinC
          rw [if_pos ⟨kL, kV⟩]
          exact congrArg _ (by omega)
        · have hp := jamo_plain (d := 4352 + (c - 44032) / 588) (by omega) (by omega)
          exact ⟨hp.2.1, fun hk => by rw [hp.2.2] at hk; cases hk⟩
      · have ka : kind6 (c - (c - 44032) % 28) = 4 := kind6_at4 (by omega) (by omega) (by omega)
        have kT : kind6 (4519 + (c - 44032) % 28) = 3 := by unfold kind6; rw [if_neg (by omega), if_neg (by omega), if_pos (by omega)]
        refine ⟨c - (c - 44032) % 28, 4519 + (c - 44032) % 28, ?_, syl_good (by omega) (by omega), cl_syl (by omega) (by omega), mb_no (sec_syl (by omega) (by omega)) (by omega) (by omega)⟩
        have hn : ¬ (kind6 (c - (c - 44032) % 28) = 1 ∧ kind6 (4519 + (c - 44032) % 28) = 2) := by omega
        have hj : joinOk (c - (c - 44032) % 28) (4519 + (c - 44032) % 28) = true := by unfold joinOk; rw [ka, kT]; rfl
        unfold two5
        rw [if_pos hj]
        unfold joinC
        rw [if_neg hn, if_pos ⟨ka, kT⟩]
        exact congrArg _ (by omega)
open Classical in
/-- what the quick look tells -/
noncomputable def quickF (l : List Int) : Int := if (∃ c ∈ l, ¬ good5 c) ∨ ¬ Norm cl5 l then 2 else if ∃ c ∈ l, mb5 c = true then 3 else 1
theorem quick_yes {l : List Int} (h : quickF l = 1) : formF T5 cl5 two5 l = l := by
  unfold quickF at h
  split at h
  · cases h
  · rename_i h1
    split at h
    · cases h
    · rename_i h2
      refine yes_form nq5 l (fun c hc => ⟨?_, ?_⟩) ?_
      · apply Classical.byContradiction; exact fun hn => h1 (.inl ⟨c, hc, hn⟩)
      · cases hh : mb5 c with
        | false => rfl
        | true => exact absurd ⟨c, hc, hh⟩ h2
      · apply Classical.byContradiction; exact fun hn => h1 (.inr hn)
theorem quick_form (l : List Int) : quickF (formF T5 cl5 two5 l) ≠ 2 := by
  unfold quickF
  obtain ⟨h1, h2⟩ := form_good nq5 l
  rw [if_neg (fun h => h.elim (fun ⟨c, hc, hn⟩ => hn (h1 c hc)) (fun hn => hn h2))]
  split <;> decide
theorem quick_no {l : List Int} (h : quickF l = 2) : formF T5 cl5 two5 l ≠ l := fun e => by
  have := quick_form l
  rw [e] at this
  exact this h
theorem quick_in (l : List Int) : 1 ≤ quickF l ∧ quickF l ≤ 3 := by
  unfold quickF
  split
  · decide
  · split <;> decide
end Go.Proofs.YtdmcidljjfogjaaDoor

/- Layer 9: the quick look, one by one. No program in it. -/
namespace Go.Proofs.YtdmcidljjfogjaaDoor
set_option linter.unusedVariables false
attribute [local irreducible] P5 S5 C5

/-- no 'no' -/
def okQ (l : List Int) : Prop := (∀ c ∈ l, good5 c) ∧ Norm cl5 l
open Classical in
/-- what is said if there is no 'no' -/
noncomputable def saidF (l : List Int) : Int := if ∃ c ∈ l, mb5 c = true then 3 else 1
/-- the class of the last one -/
noncomputable def lastC (l : List Int) : Int := (l.getLast?.map cl5).getD 0
theorem okQ_nil : okQ [] := ⟨(fun c h => by cases h), trivial⟩
theorem saidF_nil : saidF [] = 1 := by unfold saidF; rw [if_neg]; rintro ⟨c, h, _⟩; cases h
theorem lastC_nil : lastC [] = 0 := rfl
theorem lastC_snoc (l : List Int) (c : Int) : lastC (l ++ [c]) = cl5 c := by unfold lastC; simp
theorem okQ_snoc {l : List Int} {c : Int} (h : okQ l) (hg : good5 c) (hn : ¬ (0 < cl5 c ∧ cl5 c < lastC l)) : okQ (l ++ [c]) := by
  refine ⟨fun x hx => ?_, norm_put h.2 fun hc e he => ?_⟩
  · rcases List.mem_append.1 hx with hx | hx
    · exact h.1 x hx
    · simp at hx; rw [hx]; exact hg
  · have : lastC l = cl5 e := by unfold lastC; rw [Option.mem_def.1 he]; rfl
    omega
theorem okQ_pre {l m : List Int} (h : okQ (l ++ m)) : okQ l := ⟨fun c hc => h.1 c (by simp [hc]), norm_pre l h.2⟩
theorem okQ_good {l : List Int} {c : Int} (h : okQ (l ++ [c])) : good5 c := h.1 c (by simp)
theorem okQ_fall {l : List Int} {c : Int} (h : okQ (l ++ [c])) : ¬ (0 < cl5 c ∧ cl5 c < lastC l) := fun ⟨h0, h1⟩ => by
  have hl := norm_last h.2 h0
  unfold lastC at h1
  cases hh : l.getLast? with
  | none => rw [hh] at h1; simp at h1; omega
  | some e =>
    rw [hh] at h1
    have := hl e (by rw [hh]; rfl)
    simp at h1
    omega
theorem saidF_snoc (l : List Int) (c : Int) : saidF (l ++ [c]) = if mb5 c = true then 3 else saidF l := by
  unfold saidF
  by_cases h : mb5 c = true
  · rw [if_pos ⟨c, by simp, h⟩, if_pos h]
  · rw [if_neg h]
    by_cases h2 : ∃ c ∈ l, mb5 c = true
    · obtain ⟨d, hd, hm⟩ := h2
      rw [if_pos ⟨d, by simp [hd], hm⟩, if_pos ⟨d, hd, hm⟩]
    · rw [if_neg h2, if_neg]
      rintro ⟨d, hd, hm⟩
      rcases List.mem_append.1 hd with hd | hd
      · exact h2 ⟨d, hd, hm⟩
      · simp at hd; rw [hd] at hm; exact h hm
theorem saidF_in (l : List Int) : 1 ≤ saidF l ∧ saidF l ≤ 3 := by
  unfold saidF
  split <;> omega
theorem lastC_in (l : List Int) : 0 ≤ lastC l ∧ lastC l ≤ 100000000 := by
  unfold lastC
  cases l.getLast? with
  | none => simp
  | some c => exact ⟨cl5_nn c, cl5_le c⟩
theorem quick_ok {l : List Int} (h : okQ l) : quickF l = saidF l := by
  unfold quickF saidF
  rw [if_neg]
  rintro (⟨c, hc, hn⟩ | hn)
  · exact hn (h.1 c hc)
  · exact hn h.2
theorem quick_bad {l : List Int} (h : ¬ okQ l) : quickF l = 2 := by
  unfold quickF
  rw [if_pos]
  by_cases h2 : ∃ c ∈ l, ¬ good5 c
  · exact .inl h2
  · refine .inr fun hn => h ⟨fun c hc => ?_, hn⟩
    apply Classical.byContradiction
    exact fun hc' => h2 ⟨c, hc, hc'⟩
/-- a 'no' at a place is one of the whole -/
theorem quick_at {l : List Int} {k : Nat} (hk : k < l.length) (h : ¬ good5 (l.getD k 0) ∨ (0 < cl5 (l.getD k 0) ∧ cl5 (l.getD k 0) < lastC (l.take k))) : quickF l = 2 := by
  refine quick_bad fun hq => ?_
  have e : l = (l.take k ++ [l.getD k 0]) ++ l.drop (k + 1) := by
    rw [← take_snoc l k hk, List.take_append_drop]
  rw [e] at hq
  have hq := okQ_pre hq
  rcases h with h | h
  · exact h (okQ_good hq)
  · exact okQ_fall hq h
/-- whether it goes into its parts for ever -/
noncomputable def noB (c : Int) : Bool := (tab (castE S5) c != 0) || (pkF P5 c && !(decide ([pxF P5 c, pyF P5 c] ∈ (jst P5).1) && decide ((jst P5).2 [pxF P5 c, pyF P5 c] = c)))
theorem noB_iff (c : Int) : noB c = true ↔ ¬ good5 c := by
  unfold noB good5 T5
  simp only [Bool.or_eq_true, bne_iff_ne, Bool.and_eq_true, Bool.not_eq_true', Bool.and_eq_false_iff, decide_eq_false_iff_not]
  constructor
  · rintro (h | ⟨h1, h2⟩) ⟨g1, g2⟩
    · exact h g1
    · have := g2 h1
      rcases h2 with h2 | h2
      · exact h2 this.1
      · exact h2 this.2
  · intro h
    by_cases h1 : tab (castE S5) c = 0
    · refine .inr ?_
      by_cases h2 : pkF P5 c = true
      · refine ⟨h2, ?_⟩
        by_cases h3 : [pxF P5 c, pyF P5 c] ∈ (jst P5).1
        · exact .inr fun h4 => h ⟨h1, fun _ => ⟨h3, h4⟩⟩
        · exact .inl h3
      · exact absurd ⟨h1, fun h3 => absurd h3 h2⟩ h
    · exact .inl h1
theorem noB_no {c : Int} (h : noB c = false) : good5 c := by
  apply Classical.byContradiction
  intro hn
  rw [(noB_iff c).2 hn] at h
  cases h
end Go.Proofs.YtdmcidljjfogjaaDoor

/- Layer 9: what the walks ask of the program's five functions; how long a form is. -/
namespace Go.Proofs.YtdmcidljjfogjaaDoor
set_option maxRecDepth 100000
open Go.ChangeShapes Go.WideShapes Go.ChangeAt Go.RowKit
set_option linter.unusedVariables false
attribute [local irreducible] P5 S5 C5

noncomputable abbrev form5 (l : List Int) : List Int := formF T5 cl5 two5 l
/-- the form of a text's bytes -/
noncomputable def textF (xs : List Int) : List Int := if (allS xs).2.2 = true then txt (form5 (allS xs).1) else xs
theorem form_len (l : List Int) : (form5 l).length ≤ 96 * l.length := Nat.le_trans (crow_len _) (allF_len (cl := cl5) sy5_len l)
theorem form_in {l : List Int} (h : ∀ x ∈ l, R32 x) : ∀ x ∈ form5 l, R32 x := comp_in (all5_in h)
abbrev FormOk : Prop := ∀ (W : World) (g : Nat) (A : Option Addr) (n c : Nat) (l : List Int), RowIn W A n c l → TblAt W W.heap.size g C5 P5 S5 → (∀ x ∈ l, R32 x) → n ≤ 10000 → Calls Tryd.prog 12 #[.pointer (some ⟨g, 0, none⟩), .slice A n c] W (RowOut W (form5 l))
abbrev IsOk : Prop := ∀ (W : World) (g : Nat) (A : Option Addr) (n c : Nat) (l : List Int), RowIn W A n c l → TblAt W W.heap.size g C5 P5 S5 → (∀ x ∈ l, R32 x) → n ≤ 10000 → Calls Tryd.prog 14 #[.pointer (some ⟨g, 0, none⟩), .slice A n c] W fun e w' => e = .returned (.bool (decide (form5 l = l))) ∧ Below W.heap.size W w'
abbrev QuickOk : Prop := ∀ (W : World) (g : Nat) (A : Option Addr) (n c : Nat) (l : List Int), RowIn W A n c l → TblAt W W.heap.size g C5 P5 S5 → (∀ x ∈ l, R32 x) → n ≤ 10000 → Calls Tryd.prog 16 #[.pointer (some ⟨g, 0, none⟩), .slice A n c] W fun e w' => e = .returned (.int .i64 (quickF l)) ∧ Below W.heap.size W w'
abbrev EqualOk : Prop := ∀ (W : World) (g : Nat) (A : Option Addr) (n c : Nat) (l : List Int) (B : Option Addr) (m d : Nat) (k : List Int), RowIn W A n c l → RowIn W B m d k → TblAt W W.heap.size g C5 P5 S5 → (∀ x ∈ l, R32 x) → (∀ x ∈ k, R32 x) → n ≤ 10000 → m ≤ 10000 → Calls Tryd.prog 18 #[.pointer (some ⟨g, 0, none⟩), .slice A n c, .slice B m d] W fun e w' => e = .returned (.bool (decide (form5 l = form5 k))) ∧ Below W.heap.size W w'
abbrev TextOk : Prop := ∀ (W : World) (g : Nat) (xs : List Int), Tab W → TblAt W W.heap.size g C5 P5 S5 → Bts xs → xs.length ≤ 600 → Calls Tryd.prog 20 #[.pointer (some ⟨g, 0, none⟩), .string (strOfNums xs)] W fun e w' => e = .returned (.string (strOfNums (textF xs))) ∧ Below W.heap.size W w'
/-- all five -/
structure NfcOk : Prop where
  form : FormOk
  is : IsOk
  quick : QuickOk
  equal : EqualOk
  text : TextOk
end Go.Proofs.YtdmcidljjfogjaaDoor
