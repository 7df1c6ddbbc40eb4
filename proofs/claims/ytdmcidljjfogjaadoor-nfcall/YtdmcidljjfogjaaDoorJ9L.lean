/- Joined of: C8Math, C8Inv, C8K, C8Cmp. -/
import Derived.Test.YtdmcidljjfogjaaDoorJ9J
import Derived.Test.YtdmcidljjfogjaaDoorJ9G
/- Layer 8: parts put together, as mathematics. No program in it. -/
namespace Go.Proofs.YtdmcidljjfogjaaDoor
set_option linter.unusedVariables false

/-- something stands behind the starter that bars c -/
def barred (cl : Int → Int) (bs : List Int) (c : Int) : Bool := match bs.getLast? with
  | none => false
  | some e => decide (cl e = 0 ∨ cl c ≤ cl e)
/-- the row: what is ahead of the starter; the starter and what is behind it -/
abbrev CSt := List Int × Option (Int × List Int)
def crow : CSt → List Int
  | (pre, none) => pre
  | (pre, some (s, bs)) => pre ++ s :: bs
def cput (cl : Int → Int) (pre : List Int) (s : Int) (bs : List Int) (c : Int) : CSt := if cl c = 0 then (pre ++ s :: bs, some (c, [])) else (pre, some (s, bs ++ [c]))
def cstep (cl : Int → Int) (two : Int → Int → Option Int) (σ : CSt) (c : Int) : CSt := match σ with
  | (pre, none) => if cl c = 0 then (pre, some (c, [])) else (pre ++ [c], none)
  | (pre, some (s, bs)) => match two s c with
    | none => cput cl pre s bs c
    | some d => if barred cl bs c = true then cput cl pre s bs c else (pre, some (d, bs))
def cst (cl : Int → Int) (two : Int → Int → Option Int) (l : List Int) : CSt := l.foldl (cstep cl two) ([], none)
def comp (cl : Int → Int) (two : Int → Int → Option Int) (l : List Int) : List Int := crow (cst cl two l)
theorem cst_snoc {cl : Int → Int} {two : Int → Int → Option Int} (l : List Int) (c : Int) : cst cl two (l ++ [c]) = cstep cl two (cst cl two l) c := by simp [cst, List.foldl_append]
section
variable {cl : Int → Int} {two : Int → Int → Option Int}
theorem crow_put (pre : List Int) (s : Int) (bs : List Int) (c : Int) : crow (cput cl pre s bs c) = crow (pre, some (s, bs)) ++ [c] := by
  unfold cput
  split <;> simp [crow]
theorem cstep_none (pre : List Int) (c : Int) : crow (cstep cl two (pre, none) c) = pre ++ [c] := by
  unfold cstep
  dsimp only
  split <;> rfl
theorem cstep_put {pre : List Int} {s : Int} {bs : List Int} {c : Int} (h : two s c = none ∨ barred cl bs c = true) : cstep cl two (pre, some (s, bs)) c = cput cl pre s bs c := by
  unfold cstep
  dsimp only
  rcases h with h | h
  · rw [h]
  · cases two s c with
    | none => rfl
    | some d => simp [h]
theorem cstep_two {pre : List Int} {s : Int} {bs : List Int} {c d : Int} (h : two s c = some d) (hb : barred cl bs c = false) : cstep cl two (pre, some (s, bs)) c = (pre, some (d, bs)) := by
  unfold cstep
  dsimp only
  rw [h]
  simp [hb]
theorem barred_nil (c : Int) : barred cl [] c = false := rfl
theorem barred_no {bs : List Int} {c : Int} (h : barred cl bs c = false) : ∀ e ∈ bs.getLast?, cl e ≠ 0 ∧ cl e < cl c := by
  unfold barred at h
  intro e he
  rw [Option.mem_def] at he
  rw [he] at h
  have := of_decide_eq_false h
  omega
/-- nothing in the row could be put together -/
def CN (cl : Int → Int) (two : Int → Int → Option Int) (m : List Int) : Prop :=
  ∀ (pre : List Int) (s : Int) (bs : List Int) (c : Int) (rest : List Int), m = pre ++ s :: (bs ++ c :: rest) → cl s = 0 → (∀ b ∈ bs, 0 < cl b) → barred cl bs c = false → two s c = none
/-- the state tells the last one of class 0 -/
structure CI0 (σ : CSt) : Prop where
  some : ∀ s bs, σ.2 = Option.some (s, bs) → cl s = 0 ∧ ∀ b ∈ bs, 0 < cl b
  none : σ.2 = Option.none → ∀ x ∈ σ.1, cl x ≠ 0
end
/-- what the tables must keep to -/
structure Cmp (T : Pts) (cl : Int → Int) (two : Int → Int → Option Int) : Prop where
  h0 : ∀ x, 0 ≤ cl x
  hs : ∀ c, ∀ d ∈ T.sy c, Plain T d
  hE : ∀ c, Ends T 5 c
  tw0 : ∀ a b d, two a b = some d → cl d = 0
  twF : ∀ a b d, two a b = some d → fullF T d = fullF T a ++ fullF T b
  twP : ∀ a b d, two a b = some d → Plain T b
  twN : ∀ a b d, two a b = some d → ¬ Plain T d
  nrm : ∀ c, Norm cl (fullF T c)
section
variable {T : Pts} {cl : Int → Int} {two : Int → Int → Option Int}
theorem norm_mid : ∀ (p : List Int) {e c : Int} {r : List Int}, Norm cl (p ++ e :: c :: r) → 0 < cl c → cl e ≤ cl c
  | [], _, _, _, h, hc => h.1 hc
  | x :: p, _, _, _, h, hc => norm_mid p (Norm.tail (by simpa using h)) hc
theorem norm_pre : ∀ (p : List Int) {r : List Int}, Norm cl (p ++ r) → Norm cl p
  | [], _, _ => trivial
  | [x], _, _ => trivial
  | x :: y :: p, r, h => ⟨h.1, norm_pre (y :: p) h.2⟩
theorem norm_last {p : List Int} {c : Int} (h : Norm cl (p ++ [c])) (hc : 0 < cl c) : ∀ e ∈ p.getLast?, cl e ≤ cl c := by
  intro e he
  rw [Option.mem_def, List.getLast?_eq_some_iff] at he
  obtain ⟨p', rfl⟩ := he
  rw [List.append_assoc] at h
  exact norm_mid p' h hc
/-- the last one of class 0, and what is behind it, once -/
theorem last_zero : ∀ (p p' : List Int) (s s' : Int) (bs bs' : List Int), p ++ s :: bs = p' ++ s' :: bs' → cl s = 0 → cl s' = 0 → (∀ b ∈ bs, 0 < cl b) → (∀ b ∈ bs', 0 < cl b) → p = p' ∧ s = s' ∧ bs = bs'
  | [], [], s, s', bs, bs', h, _, _, _, _ => by
    obtain ⟨h1, h2⟩ := List.cons.inj h
    exact ⟨rfl, h1, h2⟩
  | [], y :: p', s, s', bs, bs', h, _, h2, h3, _ => by
    obtain ⟨_, e⟩ := List.cons.inj h
    have := h3 s' (by rw [e]; simp)
    omega
  | x :: p, [], s, s', bs, bs', h, h1, _, _, h4 => by
    obtain ⟨_, e⟩ := List.cons.inj h
    have := h4 s (by rw [← e]; simp)
    omega
  | x :: p, y :: p', s, s', bs, bs', h, h1, h2, h3, h4 => by
    obtain ⟨e1, e2⟩ := List.cons.inj h
    obtain ⟨k1, k2, k3⟩ := last_zero p p' s s' bs bs' e2 h1 h2 h3 h4
    exact ⟨by rw [e1, k1], k2, k3⟩
/-- a row that grows at its end -/
theorem CN.put {pre : List Int} {s : Int} {bs : List Int} {c : Int} (h : CN cl two (pre ++ s :: bs)) (hs : cl s = 0) (hb : ∀ b ∈ bs, 0 < cl b) (hc : two s c = none ∨ barred cl bs c = true) : CN cl two ((pre ++ s :: bs) ++ [c]) := by
  intro pre' s' bs' c' rest' e hs' hb' hbar
  rcases List.eq_nil_or_concat rest' with hr | ⟨r, z, hr⟩
  · subst hr
    have e' : (pre ++ s :: bs) ++ [c] = (pre' ++ s' :: bs') ++ [c'] := by rw [e]; simp
    obtain ⟨e1, e2⟩ := List.append_inj' e' rfl
    obtain ⟨rfl, rfl, rfl⟩ := last_zero _ _ _ _ _ _ e1 hs hs' hb hb'
    simp at e2
    subst e2
    rcases hc with hc | hc
    · exact hc
    · rw [hc] at hbar; cases hbar
  · have e' : (pre ++ s :: bs) ++ [c] = (pre' ++ s' :: (bs' ++ c' :: r)) ++ [z] := by rw [e, hr]; simp
    obtain ⟨e1, _⟩ := List.append_inj' e' rfl
    exact h pre' s' bs' c' r e1 hs' hb' hbar
theorem CN.first {pre : List Int} {c : Int} (h : ∀ x ∈ pre, cl x ≠ 0) : CN cl two (pre ++ [c]) := by
  intro pre' s' bs' c' rest' e hs' hb' hbar
  have hm : s' ∈ pre := by
    rcases List.eq_nil_or_concat rest' with hr | ⟨r, z, hr⟩
    · subst hr
      have e' : pre ++ [c] = (pre' ++ s' :: bs') ++ [c'] := by rw [e]; simp
      rw [(List.append_inj' e' rfl).1]; simp
    · have e' : pre ++ [c] = (pre' ++ s' :: (bs' ++ c' :: r)) ++ [z] := by rw [e, hr]; simp
      rw [(List.append_inj' e' rfl).1]; simp
  exact absurd hs' (h s' hm)
/-- a starter that becomes another -/
theorem CN.both (C : Cmp T cl two) {pre : List Int} {s : Int} {bs : List Int} {c d : Int} (h : CN cl two (pre ++ s :: bs)) (ht : two s c = some d) (hb : ∀ b ∈ bs, 0 < cl b ∧ cl b < cl c) : CN cl two (pre ++ d :: bs) := by
  have hd0 := C.tw0 _ _ _ ht
  intro pre' s' bs' c' rest' e hs' hb' hbar
  rcases List.append_eq_append_iff.1 e with ⟨zs, e1, e2⟩ | ⟨zs, e1, e2⟩
  · -- pre' = pre ++ zs, d :: bs = zs ++ s' :: ..
    cases zs with
    | nil =>
      obtain ⟨rfl, e3⟩ := List.cons.inj e2
      have hc' : c' ∈ bs := by rw [e3]; simp
      obtain ⟨k1, k2⟩ := hb c' hc'
      cases hh : two d c' with
      | none => rfl
      | some x =>
        exfalso
        have f1 := C.twF _ _ _ hh
        have f2 := C.twF _ _ _ ht
        rw [f2, full_no (C.twP _ _ _ ht), full_no (C.twP _ _ _ hh)] at f1
        have hn := C.nrm x
        rw [f1, List.append_assoc] at hn
        have := norm_mid (fullF T s) (r := []) hn k1
        omega
    | cons y zs =>
      obtain ⟨rfl, e3⟩ := List.cons.inj e2
      have : s' ∈ bs := by rw [e3]; simp
      have := (hb s' this).1
      omega
  · -- pre = pre' ++ zs, s' :: .. = zs ++ d :: bs
    cases zs with
    | nil =>
      obtain ⟨rfl, e3⟩ := List.cons.inj e2
      have hc' : c' ∈ bs := by rw [← e3]; simp
      obtain ⟨k1, k2⟩ := hb c' hc'
      cases hh : two s' c' with
      | none => rfl
      | some x =>
        exfalso
        have f1 := C.twF _ _ _ hh
        have f2 := C.twF _ _ _ ht
        rw [f2, full_no (C.twP _ _ _ ht), full_no (C.twP _ _ _ hh)] at f1
        have hn := C.nrm x
        rw [f1, List.append_assoc] at hn
        have := norm_mid (fullF T s) (r := []) hn k1
        omega
    | cons y zs =>
      obtain ⟨rfl, e3⟩ := List.cons.inj e2
      rcases List.append_eq_append_iff.1 e3 with ⟨q, e4, e5⟩ | ⟨q, e4, e5⟩
      · -- zs = bs' ++ q, c' :: rest' = q ++ d :: bs
        cases q with
        | nil =>
          obtain ⟨rfl, _⟩ := List.cons.inj e5
          cases hh : two s' c' with
          | none => rfl
          | some x => exact absurd (C.twP _ _ _ hh) (C.twN _ _ _ ht)
        | cons z q =>
          obtain ⟨rfl, e6⟩ := List.cons.inj e5
          refine h pre' s' bs' c' (q ++ s :: bs) ?_ hs' hb' hbar
          rw [e1, e4]; simp
      · -- bs' = zs ++ q, d :: bs = q ++ c' :: rest'
        cases q with
        | nil =>
          obtain ⟨rfl, _⟩ := List.cons.inj e5
          cases hh : two s' d with
          | none => rfl
          | some x => exact absurd (C.twP _ _ _ hh) (C.twN _ _ _ ht)
        | cons z q =>
          obtain ⟨rfl, e6⟩ := List.cons.inj e5
          have := hb' d (by rw [e4]; simp)
          omega
end
end Go.Proofs.YtdmcidljjfogjaaDoor

/- Layer 8: what follows of parts put together, as mathematics. No program in it. -/
namespace Go.Proofs.YtdmcidljjfogjaaDoor
set_option linter.unusedVariables false

section
variable {T : Pts} {cl : Int → Int} {two : Int → Int → Option Int}
theorem sim_move {c : Int} : ∀ (bs : List Int), (∀ b ∈ bs, cl b ≠ 0 ∧ cl b ≠ cl c) → (bs ≠ [] → cl c ≠ 0) → Sim cl (c :: bs) (bs ++ [c])
  | [], _, _ => Sim.refl _
  | b :: bs, h, hc => by
    have hb := h b (by simp)
    have h1 : Sim cl (c :: b :: bs) (b :: c :: bs) := Sim.swap bs (hc (by simp)) hb.1 (fun e => hb.2 e.symm)
    refine h1.trans ?_
    exact (sim_move bs (fun x hx => h x (by simp [hx])) (fun _ => hc (by simp))).cons b
theorem le_last {l : List Int} (h : l.Pairwise fun a b => cl a ≤ cl b) : ∀ e ∈ l.getLast?, ∀ b ∈ l, cl b ≤ cl e := by
  intro e he b hb
  rw [Option.mem_def, List.getLast?_eq_some_iff] at he
  obtain ⟨l', rfl⟩ := he
  rw [List.pairwise_append] at h
  rcases List.mem_append.1 hb with hb | hb
  · exact h.2.2 b hb e (by simp)
  · simp at hb; rw [hb]; exact Int.le_refl _
theorem last_of_mem {l : List Int} {b : Int} (h : b ∈ l) : ∃ e, l.getLast? = some e := by
  cases hl : l.getLast? with
  | none => rw [List.getLast?_eq_none_iff] at hl; subst hl; cases h
  | some e => exact ⟨e, rfl⟩
/-- how a row in order stands while it is put together -/
structure CI (T : Pts) (cl : Int → Int) (two : Int → Int → Option Int) (p : List Int) (σ : CSt) : Prop where
  z : ∀ s bs, σ.2 = some (s, bs) → cl s = 0 ∧ ∀ b ∈ bs, 0 < cl b
  srt : ∀ s bs, σ.2 = some (s, bs) → bs.Pairwise fun a b => cl a ≤ cl b
  top : ∀ s bs, σ.2 = some (s, bs) → ∀ b ∈ bs, ∀ e ∈ p.getLast?, cl b ≤ cl e
  sub : ∀ s bs, σ.2 = some (s, bs) → ∀ b ∈ bs, b ∈ p
  non : σ.2 = none → ∀ x ∈ σ.1, cl x ≠ 0
  cn : CN cl two (crow σ)
  sim : (∀ x ∈ p, Plain T x) → Sim cl (partsF T (crow σ)) p
  len : (crow σ).length ≤ p.length
theorem ci_all (C : Cmp T cl two) (l : List Int) : Norm cl l → CI T cl two l (cst cl two l) := by
  refine row_snoc (p := fun l => Norm cl l → CI T cl two l (cst cl two l)) (fun _ => ?_) (fun p c ih hn => ?_) l
  · exact ⟨fun _ _ h => (by cases h), fun _ _ h => (by cases h), fun _ _ h => (by cases h), fun _ _ h => (by cases h), fun _ x hx => (by cases hx), fun pre s bs c rest e => (by cases pre <;> cases e), fun _ => Sim.refl _, Nat.le_refl _⟩
  · have I := ih (norm_pre p hn)
    have hsnoc : ∀ σ' : CSt, crow σ' = crow (cst cl two p) ++ [c] → (∀ x ∈ p ++ [c], Plain T x) → Sim cl (partsF T (crow σ')) (p ++ [c]) := fun σ' e hp => by
      rw [e, partsF_snoc, full_no (hp c (by simp))]
      exact (I.sim fun x hx => hp x (by simp [hx])).app (Sim.refl [c])
    have hlen : ∀ σ' : CSt, crow σ' = crow (cst cl two p) ++ [c] → (crow σ').length ≤ (p ++ [c]).length := fun σ' e => by
      rw [e, List.length_append, List.length_append]
      have := I.len; simp; omega
    rw [cst_snoc]
    generalize cst cl two p = σ at *
    obtain ⟨pre, o⟩ := σ
    cases o with
    | none =>
      have hnz := I.non rfl
      have e1 : crow (cstep cl two (pre, none) c) = crow (pre, none) ++ [c] := cstep_none pre c
      by_cases hc : cl c = 0
      · have e : cstep cl two (pre, none) c = (pre, some (c, [])) := by unfold cstep; simp [hc]
        rw [e] at e1 ⊢
        refine ⟨fun s bs h => ?_, fun s bs h => ?_, fun s bs h => ?_, fun s bs h => ?_, fun h => (by cases h), ?_, hsnoc _ e1, hlen _ e1⟩
        · cases h; exact ⟨hc, fun b hb => by cases hb⟩
        · cases h; exact List.Pairwise.nil
        · cases h; intro b hb; cases hb
        · cases h; intro b hb; cases hb
        · rw [e1]; exact CN.first hnz
      · have e : cstep cl two (pre, none) c = (pre ++ [c], none) := by unfold cstep; simp [hc]
        rw [e] at e1 ⊢
        refine ⟨fun s bs h => (by cases h), fun s bs h => (by cases h), fun s bs h => (by cases h), fun s bs h => (by cases h), fun _ x hx => ?_, ?_, hsnoc _ e1, hlen _ e1⟩
        · rcases List.mem_append.1 hx with hx | hx
          · exact hnz x hx
          · simp at hx; rw [hx]; exact hc
        · rw [e1]; exact CN.first hnz
    | some q =>
      obtain ⟨s, bs⟩ := q
      obtain ⟨hs0, hb0⟩ := I.z s bs rfl
      have hsr := I.srt s bs rfl
      have htp := I.top s bs rfl
      have hsb := I.sub s bs rfl
      by_cases hput : two s c = none ∨ barred cl bs c = true
      · have e : cstep cl two (pre, some (s, bs)) c = cput cl pre s bs c := cstep_put hput
        have e1 : crow (cput cl pre s bs c) = crow (pre, some (s, bs)) ++ [c] := crow_put pre s bs c
        rw [e]
        have hcn : CN cl two (crow (cput cl pre s bs c)) := by rw [e1]; exact CN.put I.cn hs0 hb0 hput
        have hsi := hsnoc _ e1
        have hle := hlen _ e1
        have C0 := C.h0 c
        by_cases hc : cl c = 0
        · have e2 : cput cl pre s bs c = (pre ++ s :: bs, some (c, [])) := by unfold cput; rw [if_pos hc]
          rw [e2] at hcn hsi hle ⊢
          refine ⟨fun s bs h => ?_, fun s bs h => ?_, fun s bs h => ?_, fun s bs h => ?_, fun h => (by cases h), hcn, hsi, hle⟩
          · cases h; exact ⟨hc, fun b hb => by cases hb⟩
          · cases h; exact List.Pairwise.nil
          · cases h; intro b hb; cases hb
          · cases h; intro b hb; cases hb
        · have e2 : cput cl pre s bs c = (pre, some (s, bs ++ [c])) := by unfold cput; rw [if_neg hc]
          rw [e2] at hcn hsi hle ⊢
          have hcp : 0 < cl c := by omega
          have hbc : ∀ b ∈ bs, cl b ≤ cl c := fun b hb => by
            obtain ⟨x, hx⟩ := last_of_mem (hsb b hb)
            exact Int.le_trans (htp b hb x hx) (norm_last hn hcp x hx)
          refine ⟨fun s' bs' h => ?_, fun s' bs' h => ?_, fun s' bs' h => ?_, fun s' bs' h => ?_, fun h => (by cases h), hcn, hsi, hle⟩
          · cases h
            refine ⟨hs0, fun b hb => ?_⟩
            rcases List.mem_append.1 hb with hb | hb
            · exact hb0 b hb
            · simp at hb; rw [hb]; exact hcp
          · cases h
            rw [List.pairwise_append]
            exact ⟨hsr, by simp, fun b hb x hx => by simp at hx; rw [hx]; exact hbc b hb⟩
          · cases h
            intro b hb x hx
            simp at hx
            rw [← hx]
            rcases List.mem_append.1 hb with hb | hb
            · exact hbc b hb
            · simp at hb; rw [hb]; exact Int.le_refl _
          · cases h
            intro b hb
            rcases List.mem_append.1 hb with hb | hb
            · exact List.mem_append.2 (.inl (hsb b hb))
            · exact List.mem_append.2 (.inr hb)
      · have hbar : barred cl bs c = false := by
          cases hh : barred cl bs c with
          | false => rfl
          | true => exact absurd (.inr hh) hput
        obtain ⟨d, hd⟩ : ∃ d, two s c = some d := by
          cases hh : two s c with
          | none => exact absurd (.inl hh) hput
          | some d => exact ⟨d, rfl⟩
        rw [cstep_two hd hbar]
        have hbd : ∀ b ∈ bs, 0 < cl b ∧ cl b < cl c := fun b hb => by
          obtain ⟨x, hx⟩ := last_of_mem hb
          have h1 := le_last hsr x hx b hb
          have h2 := (barred_no hbar x hx).2
          exact ⟨hb0 b hb, by omega⟩
        refine ⟨fun s' bs' h => ?_, fun s' bs' h => ?_, fun s' bs' h => ?_, fun s' bs' h => ?_, fun h => (by cases h), CN.both C I.cn hd hbd, fun hp => ?_, ?_⟩
        · cases h; exact ⟨C.tw0 _ _ _ hd, hb0⟩
        · cases h; exact hsr
        · cases h
          intro b hb x hx
          simp at hx
          rw [← hx]; exact Int.le_of_lt (hbd b hb).2
        · cases h
          intro b hb
          exact List.mem_append.2 (.inl (hsb b hb))
        · have hpl : partsF T bs = bs := partsF_self fun x hx => hp x (List.mem_append.2 (.inl (hsb x hx)))
          have h1 := I.sim fun x hx => hp x (by simp [hx])
          have e0 : ∀ y : Int, partsF T (crow (pre, some (y, bs))) = partsF T pre ++ (fullF T y ++ bs) := fun y => by
            show partsF T (pre ++ y :: bs) = _
            have e3 : pre ++ y :: bs = pre ++ ([y] ++ bs) := rfl
            rw [e3, partsF_app, partsF_app, partsF_one, hpl]
          rw [e0] at h1
          show Sim cl (partsF T (crow (pre, some (d, bs)))) (p ++ [c])
          rw [e0, C.twF _ _ _ hd, full_no (C.twP _ _ _ hd)]
          have h2 : Sim cl (c :: bs) (bs ++ [c]) := sim_move bs (fun b hb => by have := hbd b hb; omega) (fun hne => by
            cases bs with
            | nil => exact absurd rfl hne
            | cons b bs => have := hbd b (by simp); omega)
          have h3 : Sim cl (partsF T pre ++ (fullF T s ++ [c] ++ bs)) (partsF T pre ++ (fullF T s ++ bs) ++ [c]) := by
            have e4 : partsF T pre ++ (fullF T s ++ bs) ++ [c] = partsF T pre ++ (fullF T s ++ (bs ++ [c])) := by simp
            have e5 : fullF T s ++ [c] ++ bs = fullF T s ++ (c :: bs) := by simp
            rw [e4, e5]
            exact (Sim.refl _).app ((Sim.refl _).app h2)
          exact h3.trans (h1.app (Sim.refl [c]))
        · have h1 := I.len
          simp [crow] at h1 ⊢
          omega
/-- in parts again it is what it was -/
theorem comp_back (C : Cmp T cl two) {l : List Int} (hn : Norm cl l) (hp : ∀ x ∈ l, Plain T x) : allF T cl (comp cl two l) = l :=
  (ordL_of C.h0 ((ci_all C l hn).sim hp).symm hn).symm
theorem comp_len (C : Cmp T cl two) {l : List Int} (hn : Norm cl l) : (comp cl two l).length ≤ l.length := (ci_all C l hn).len
theorem comp_cn (C : Cmp T cl two) {l : List Int} (hn : Norm cl l) : CN cl two (comp cl two l) := (ci_all C l hn).cn
/-- where nothing could be put together nothing is -/
theorem cn_fix (h0 : ∀ x, 0 ≤ cl x) {m : List Int} (h : CN cl two m) : comp cl two m = m := by
  have key : ∀ p : List Int, (∃ rest, m = p ++ rest) → crow (cst cl two p) = p ∧ ∀ s bs, (cst cl two p).2 = some (s, bs) → cl s = 0 ∧ ∀ b ∈ bs, 0 < cl b := fun p => by
    refine row_snoc (p := fun p => (∃ rest, m = p ++ rest) → crow (cst cl two p) = p ∧ ∀ s bs, (cst cl two p).2 = some (s, bs) → cl s = 0 ∧ ∀ b ∈ bs, 0 < cl b) (fun _ => ⟨rfl, fun _ _ h => by cases h⟩) (fun p c ih hm => ?_) p
    obtain ⟨rest, hm⟩ := hm
    obtain ⟨i1, i2⟩ := ih ⟨c :: rest, by rw [hm]; simp⟩
    rw [cst_snoc]
    generalize cst cl two p = σ at *
    obtain ⟨pre, o⟩ := σ
    have C0 := h0 c
    cases o with
    | none =>
      refine ⟨by rw [cstep_none]; rw [show pre = p from i1], fun s bs e => ?_⟩
      unfold cstep at e
      dsimp only at e
      split at e
      · rename_i hc
        cases e; exact ⟨hc, fun b hb => by cases hb⟩
      · cases e
    | some q =>
      obtain ⟨s, bs⟩ := q
      obtain ⟨z1, z2⟩ := i2 s bs rfl
      have hput : two s c = none ∨ barred cl bs c = true := by
        cases hb : barred cl bs c with
        | true => exact .inr rfl
        | false =>
          refine .inl (h pre s bs c rest ?_ z1 z2 hb)
          rw [hm, ← i1]
          simp [crow]
      rw [cstep_put hput]
      refine ⟨by rw [crow_put, i1], fun s' bs' e => ?_⟩
      unfold cput at e
      split at e
      · rename_i hc
        cases e; exact ⟨hc, fun b hb => by cases hb⟩
      · rename_i hc
        cases e
        refine ⟨z1, fun b hb => ?_⟩
        rcases List.mem_append.1 hb with hb | hb
        · exact z2 b hb
        · simp at hb; rw [hb]; omega
  exact (key m ⟨[], by simp⟩).1
theorem comp_again (C : Cmp T cl two) {l : List Int} (hn : Norm cl l) : comp cl two (comp cl two l) = comp cl two l := cn_fix C.h0 (comp_cn C hn)
/-- a letter with marks stays one row -/
theorem comp_head (C : Cmp T cl two) {x : Int} (hx : cl x = 0) (r : List Int) : (∀ y ∈ r, 0 < cl y) → ∃ s bs, cst cl two (x :: r) = ([], some (s, bs)) ∧ cl s = 0 ∧ ∀ b ∈ bs, 0 < cl b := by
  refine row_snoc (p := fun r => (∀ y ∈ r, 0 < cl y) → ∃ s bs, cst cl two (x :: r) = ([], some (s, bs)) ∧ cl s = 0 ∧ ∀ b ∈ bs, 0 < cl b) (fun _ => ?_) (fun r c ih h => ?_) r
  · exact ⟨x, [], by simp [cst, cstep, hx], hx, fun b hb => by cases hb⟩
  · obtain ⟨s, bs, e, h1, h2⟩ := ih fun y hy => h y (by simp [hy])
    have hc := h c (by simp)
    have e' : cst cl two (x :: (r ++ [c])) = cstep cl two ([], some (s, bs)) c := by
      rw [← e, ← cst_snoc]; rfl
    by_cases hput : two s c = none ∨ barred cl bs c = true
    · rw [e', cstep_put hput]
      refine ⟨s, bs ++ [c], by unfold cput; rw [if_neg (by omega)], h1, fun b hb => ?_⟩
      rcases List.mem_append.1 hb with hb | hb
      · exact h2 b hb
      · simp at hb; rw [hb]; exact hc
    · have hbar : barred cl bs c = false := by
        cases hh : barred cl bs c with
        | false => rfl
        | true => exact absurd (.inr hh) hput
      cases hh : two s c with
      | none => exact absurd (.inl hh) hput
      | some d =>
        rw [e', cstep_two hh hbar]
        exact ⟨d, bs, rfl, C.tw0 _ _ _ hh, h2⟩
/-- rows of class 0 alone -/
theorem sim_zero {l m : List Int} (h : Sim cl m l) (hz : ∀ x ∈ l, cl x = 0) : m = l := by
  have h1 : ∀ k : List Int, (∀ x ∈ k, cl x = 0) → proj cl 0 k = k := fun k hk => by
    unfold proj
    rw [List.filter_eq_self]
    intro x hx
    simp [hk x hx]
  have := h 0
  rwa [h1 l hz, h1 m fun x hx => hz x (sim_mem h hx)] at this
theorem norm_zero {l : List Int} (hz : ∀ x ∈ l, cl x = 0) : Norm cl l := by
  induction l with
  | nil => trivial
  | cons x l ih =>
    cases l with
    | nil => trivial
    | cons y l => exact ⟨fun h => by have := hz y (by simp); omega, ih fun z hz' => hz z (by simp [hz'])⟩
/-- of class 0 alone: the parts are what they were, and none beside another could be put together -/
theorem comp_zero (C : Cmp T cl two) {l : List Int} (hz : ∀ x ∈ l, cl x = 0) (hp : ∀ x ∈ l, Plain T x) : partsF T (comp cl two l) = l ∧ CN cl two (comp cl two l) :=
  ⟨sim_zero ((ci_all C l (norm_zero hz)).sim hp) hz, comp_cn C (norm_zero hz)⟩
end
end Go.Proofs.YtdmcidljjfogjaaDoor

/- Layer 8: what Unicode's tables keep to, by the kernel. -/
namespace Go.Proofs.YtdmcidljjfogjaaDoor
set_option linter.unusedVariables false

noncomputable def yB : Nat := bitsOf (P5.map (·.y)) 0
noncomputable def xB : Nat := bitsOf (P5.map (·.x)) 0
noncomputable def cB : Nat := bitsOf (P5.map (·.c)) 0
noncomputable def kB : Nat := bitsOf (C5.map (·.1)) 0
noncomputable def Cy5 : List (Nat × Nat) := C5.filter fun e => hasBit yB e.1
noncomputable def Cx5 : List (Nat × Nat) := C5.filter fun e => hasBit xB e.1
noncomputable def Px5 : List Pr5 := P5.filter fun q => hasBit xB q.c
/-- what stands last in a first's parts is not above what follows -/
noncomputable def okTwo (p : Pr5) : Bool :=
  bif Nat.beq (lk Cy5 p.y 0) 0 then true else bif hasBit cB p.x then (match lkP Px5 p.x none with
    | some q => Nat.ble (lk Cy5 q.y 0) (lk Cy5 p.y 0)
    | none => false) else (!hasBit kB p.x || Nat.ble (lk Cx5 p.x 0) (lk Cy5 p.y 0))
theorem kTwo : P5.all okTwo = true := by kernel_rfl
theorem kZero : (P5.all fun p => p.o || !hasBit kB p.c) = true := by kernel_rfl
theorem kSylC : (C5.all fun e => (Nat.blt e.1 44032 || Nat.blt 55203 e.1) && (Nat.blt e.1 4352 || Nat.blt 4607 e.1)) = true := by kernel_rfl
theorem kFirst : (P5.all fun p => !hasBit (bitsOf (S5.map (·.1)) 0) p.x && ((Nat.blt p.x 44032 || Nat.blt 55203 p.x) && (Nat.blt p.y 44032 || Nat.blt 55203 p.y))) = true := by kernel_rfl
end Go.Proofs.YtdmcidljjfogjaaDoor

/- Layer 8: Two by Unicode's tables and by syllables; the tables keep to what C8Math asks. -/
namespace Go.Proofs.YtdmcidljjfogjaaDoor
set_option linter.unusedVariables false
attribute [local irreducible] P5 S5 C5 L5 keysB yB xB cB kB Cy5 Cx5 Px5

theorem lk_filter (f : Nat × Nat → Bool) (k : Nat) (hf : ∀ e : Nat × Nat, e.1 = k → f e = true) : ∀ (l : List (Nat × Nat)) (a : Nat), lk (l.filter f) k a = lk l k a
  | [], a => rfl
  | e :: r, a => by
    rw [List.filter_cons]
    by_cases he : e.1 = k
    · rw [if_pos (hf e he)]
      exact lk_filter f k hf r _
    · have hb : Nat.beq e.1 k = false := by rw [Bool.eq_false_iff]; simpa [Nat.beq_eq] using he
      have e2 : lk (e :: r) k a = lk r k a := by
        show lk r k (bif Nat.beq e.1 k then e.2 else a) = lk r k a
        rw [hb]; rfl
      rw [e2]
      split
      · show lk (r.filter f) k (bif Nat.beq e.1 k then e.2 else a) = lk r k a
        rw [hb]
        exact lk_filter f k hf r a
      · exact lk_filter f k hf r a
theorem lkP_filter (f : Pr5 → Bool) (k : Nat) (hf : ∀ e : Pr5, e.c = k → f e = true) : ∀ (l : List Pr5) (a : Option Pr5), lkP (l.filter f) k a = lkP l k a
  | [], a => rfl
  | e :: r, a => by
    rw [List.filter_cons]
    by_cases he : e.c = k
    · rw [if_pos (hf e he)]
      exact lkP_filter f k hf r _
    · have hb : Nat.beq e.c k = false := by rw [Bool.eq_false_iff]; simpa [Nat.beq_eq] using he
      have e2 : lkP (e :: r) k a = lkP r k a := by
        show lkP r k (bif Nat.beq e.c k then some e else a) = lkP r k a
        rw [hb]; rfl
      rw [e2]
      split
      · show lkP (r.filter f) k (bif Nat.beq e.c k then some e else a) = lkP r k a
        rw [hb]
        exact lkP_filter f k hf r a
      · exact lkP_filter f k hf r a
theorem yB_mem {c : Nat} : hasBit yB c = true ↔ c ∈ P5.map (·.y) := by unfold yB; exact has_iff _ _
theorem xB_mem {c : Nat} : hasBit xB c = true ↔ c ∈ P5.map (·.x) := by unfold xB; exact has_iff _ _
theorem cB_mem {c : Nat} : hasBit cB c = true ↔ c ∈ P5.map (·.c) := by unfold cB; exact has_iff _ _
theorem kB_mem {c : Nat} : hasBit kB c = true ↔ c ∈ C5.map (·.1) := by unfold kB; exact has_iff _ _
theorem cy_at {p : Pr5} (hp : p ∈ P5) : (lk Cy5 p.y 0 : Int) = cl5 p.y := by
  rw [cl5_at]
  unfold Cy5
  rw [lk_filter _ _ (fun e he => by rw [he]; exact yB_mem.2 (List.mem_map_of_mem (f := (·.y)) hp))]
theorem cx_at {p : Pr5} (hp : p ∈ P5) : (lk Cx5 p.x 0 : Int) = cl5 p.x := by
  rw [cl5_at]
  unfold Cx5
  rw [lk_filter _ _ (fun e he => by rw [he]; exact xB_mem.2 (List.mem_map_of_mem (f := (·.x)) hp))]
theorem px_at {p : Pr5} (hp : p ∈ P5) : lkP Px5 p.x none = lastP P5 (p.x : Int) := by
  rw [lastP_at]
  unfold Px5
  exact lkP_filter _ _ (fun e he => by rw [he]; exact xB_mem.2 (List.mem_map_of_mem (f := (·.x)) hp)) _ _
theorem cl_none {c : Int} (h : ∀ e ∈ C5, (e.1 : Int) ≠ c) : cl5 c = 0 := by
  apply Classical.byContradiction
  intro hne
  obtain ⟨e, he, e1, _⟩ := tab_nz (fun e he => (fine5.c e he).1) hne
  exact h e he e1
theorem cl_nob {c : Nat} (h : hasBit kB c = false) : cl5 (c : Int) = 0 := cl_none fun e he e1 => by
  have : c ∈ C5.map (·.1) := List.mem_map.2 ⟨e, he, by omega⟩
  rw [kB_mem.2 this] at h
  cases h
theorem cl_syl {c : Int} (h0 : 44032 ≤ c) (h1 : c ≤ 55203) : cl5 c = 0 := cl_none fun e he e1 => by
  have := List.all_eq_true.1 kSylC e he
  simp [Nat.blt_eq] at this
  omega
theorem cl_jamo {c : Int} (h0 : 4352 ≤ c) (h1 : c ≤ 4607) : cl5 c = 0 := cl_none fun e he e1 => by
  have := List.all_eq_true.1 kSylC e he
  simp [Nat.blt_eq] at this
  omega
theorem first_fact {p : Pr5} (hp : p ∈ P5) : tab (castE S5) (p.x : Int) = 0 ∧ (p.x < 44032 ∨ 55203 < p.x) ∧ (p.y < 44032 ∨ 55203 < p.y) := by
  have h := List.all_eq_true.1 kFirst p hp
  simp only [Bool.and_eq_true, Bool.or_eq_true, Nat.blt_eq, Bool.not_eq_true'] at h
  refine ⟨?_, h.2.1, h.2.2⟩
  apply Classical.byContradiction
  intro hne
  obtain ⟨e, he, e1, _⟩ := sg_mem hne
  have : hasBit (bitsOf (S5.map (·.1)) 0) p.x = true := (has_iff _ _).2 (List.mem_map.2 ⟨e, he, by omega⟩)
  rw [this] at h
  cases h.1
theorem low_sy {c : Nat} (h : c < 44032 ∨ 55203 < c) : T5.sy (c : Int) = [] := by
  refine split6_none ?_
  apply Classical.byContradiction
  intro hk
  have := kind6_big (c := (c : Int)) (by omega)
  omega
theorem second_plain {p : Pr5} (hp : p ∈ P5) : Plain T5 (p.y : Int) := by
  have hk := List.all_eq_true.1 kSec p hp
  obtain ⟨k1, k2⟩ := no_key (c := p.y) (by simpa using hk)
  exact ⟨low_sy (first_fact hp).2.2, k1, k2⟩
/-- what a place has that is a pair -/
theorem pair_of {p : Pr5} (hp : p ∈ P5) : T5.sy (p.c : Int) = [] ∧ T5.sg (p.c : Int) = 0 ∧ T5.pk (p.c : Int) = true ∧ T5.px (p.c : Int) = p.x ∧ T5.py (p.c : Int) = p.y := by
  have hl := lastP_once nodupC hp
  refine ⟨low_sy (sylP hp), ?_, ?_, ?_, ?_⟩
  · show tab (castE S5) (p.c : Int) = 0
    apply Classical.byContradiction
    intro hne
    obtain ⟨e, he, e1, _⟩ := sg_mem hne
    exact apart5 hp he (by omega)
  · show pkF P5 (p.c : Int) = true
    unfold pkF; rw [hl]; rfl
  · show pxF P5 (p.c : Int) = p.x
    unfold pxF; rw [hl]; rfl
  · show pyF P5 (p.c : Int) = p.y
    unfold pyF; rw [hl]; rfl
theorem full_pair {p : Pr5} (hp : p ∈ P5) : fullF T5 (p.c : Int) = fullF T5 (p.x : Int) ++ [(p.y : Int)] := by
  obtain ⟨h1, h2, h3, h4, h5⟩ := pair_of hp
  rw [full_pk ends5 h1 h2 h3, h4, h5, full_no (second_plain hp)]
/-- whatever has parts has them in order -/
theorem full_norm : ∀ (n : Nat) (c : Int), Ends T5 n c → Norm cl5 (fullF T5 c)
  | 0, _, h => h.elim
  | n + 1, c, h => by
    by_cases hsy : T5.sy c = []
    · obtain ⟨h1, h2⟩ := h hsy
      by_cases hsg : T5.sg c = 0
      · cases hpk : T5.pk c with
        | false => rw [full_no ⟨hsy, hsg, hpk⟩]; trivial
        | true =>
          obtain ⟨p, hp, e1, e2, e3⟩ := pk_mem hpk
          have hx := full_norm n _ (h2 hsg hpk).1
          have ex : T5.px c = p.x := e2
          rw [ex] at hx
          rw [← e1, full_pair hp]
          have hk := List.all_eq_true.1 kTwo p hp
          have f := first_fact hp
          cases hl : lastP P5 (p.x : Int) with
          | some q =>
            obtain ⟨hq, eq⟩ := lastP_some hl
            have e4 : fullF T5 (p.x : Int) = fullF T5 (q.x : Int) ++ [(q.y : Int)] := by rw [← eq]; exact full_pair hq
            rw [e4] at hx ⊢
            rw [List.append_assoc]
            refine norm_snoc hx fun hpos => ?_
            unfold okTwo at hk
            have hcb : hasBit cB p.x = true := cB_mem.2 (List.mem_map.2 ⟨q, hq, by omega⟩)
            have hy := cy_at hp
            have hqy := cy_at hq
            have hz : Nat.beq (lk Cy5 p.y 0) 0 = false := by rw [Bool.eq_false_iff]; simp [Nat.beq_eq]; omega
            rw [hz, hcb, px_at hp, hl] at hk
            have hle := Nat.le_of_ble_eq_true hk
            omega
          | none =>
            have hpl : Plain T5 (p.x : Int) := ⟨low_sy f.2.1, f.1, by show pkF P5 (p.x : Int) = false; unfold pkF; rw [hl]; rfl⟩
            rw [full_no hpl]
            refine norm_snoc (m := []) trivial fun hpos => ?_
            unfold okTwo at hk
            have hcb : hasBit cB p.x = false := by
              rw [Bool.eq_false_iff]
              intro hh
              obtain ⟨q, hq, eq⟩ := List.mem_map.1 (cB_mem.1 hh)
              exact lastP_none hl q hq (by omega)
            have hy := cy_at hp
            have hx' := cx_at hp
            have hz : Nat.beq (lk Cy5 p.y 0) 0 = false := by rw [Bool.eq_false_iff]; simp [Nat.beq_eq]; omega
            rw [hz, hcb] at hk
            simp only [cond_false, Bool.or_eq_true, Bool.not_eq_true'] at hk
            rcases hk with hk | hk
            · rw [cl_nob hk]; exact cl5_nn _
            · have hle := Nat.le_of_ble_eq_true hk
              omega
      · rw [full_sg ends5 hsy hsg]
        exact full_norm n _ (h1 hsg)
    · rw [full_sy hsy]
      refine norm_zero fun x hx => ?_
      have := split6_mem (c := c) hx
      exact cl_jamo (by omega) (by omega)
/-- Two -/
noncomputable def two5 (a b : Int) : Option Int := if joinOk a b = true then some (joinC a b) else if [a, b] ∈ (jst P5).1 then some ((jst P5).2 [a, b]) else none
theorem two5_cases {a b d : Int} (h : two5 a b = some d) : (kind6 a = 1 ∧ kind6 b = 2 ∧ d = 44032 + (a - 4352) * 588 + (b - 4449) * 28) ∨ (kind6 a = 4 ∧ kind6 b = 3 ∧ d = a + b - 4519) ∨ ∃ p ∈ P5, p.o = false ∧ (p.x : Int) = a ∧ (p.y : Int) = b ∧ d = p.c := by
  unfold two5 at h
  split at h
  · rename_i hj
    obtain rfl := Option.some.inj h
    unfold joinOk at hj
    unfold joinC
    by_cases h1 : kind6 a = 1 ∧ kind6 b = 2
    · rw [if_pos h1]; exact .inl ⟨h1.1, h1.2, rfl⟩
    · have h2 : kind6 a = 4 ∧ kind6 b = 3 := by
        rw [decide_eq_false h1, Bool.false_or] at hj
        exact of_decide_eq_true hj
      rw [if_neg h1, if_pos h2]; exact .inr (.inl ⟨h2.1, h2.2, rfl⟩)
  · split at h
    · rename_i hm
      obtain rfl := Option.some.inj h
      obtain ⟨p, hp, ho, hk, hv⟩ := jst_in hm
      unfold key5 at hk
      obtain ⟨k1, k2⟩ := List.cons.inj hk
      obtain ⟨k2, _⟩ := List.cons.inj k2
      exact .inr (.inr ⟨p, hp, ho, k1, k2, hv⟩)
    · cases h
theorem kind6_at4 {c : Int} (h0 : 44032 ≤ c) (h1 : c ≤ 55203) (h : (c - 44032) % 28 = 0) : kind6 c = 4 := by
  unfold kind6
  rw [if_neg (by omega), if_neg (by omega), if_neg (by omega), if_neg (by omega), if_pos h]
theorem kind6_at5 {c : Int} (h0 : 44032 ≤ c) (h1 : c ≤ 55203) (h : (c - 44032) % 28 ≠ 0) : kind6 c = 5 := by
  unfold kind6
  rw [if_neg (by omega), if_neg (by omega), if_neg (by omega), if_neg (by omega), if_neg h]
theorem kind6_is4 {c : Int} (h : kind6 c = 4) : 44032 ≤ c ∧ c ≤ 55203 ∧ (c - 44032) % 28 = 0 := by
  obtain ⟨h0, h1⟩ := kind6_big (c := c) (by omega)
  refine ⟨h0, h1, ?_⟩
  apply Classical.byContradiction
  intro hne
  rw [kind6_at5 h0 h1 hne] at h
  omega
theorem join_syl {a b d : Int} (h : (kind6 a = 1 ∧ kind6 b = 2 ∧ d = 44032 + (a - 4352) * 588 + (b - 4449) * 28) ∨ (kind6 a = 4 ∧ kind6 b = 3 ∧ d = a + b - 4519)) : (44032 ≤ d ∧ d ≤ 55203) ∧ fullF T5 d = fullF T5 a ++ fullF T5 b ∧ Plain T5 b ∧ ¬ Plain T5 d := by
  rcases h with ⟨h1, h2, h3⟩ | ⟨h1, h2, h3⟩
  · have a1 := kind6_1 h1
    have b1 := kind6_2 h2
    have hd : 44032 ≤ d ∧ d ≤ 55203 := by omega
    have hk : kind6 d = 4 := kind6_at4 hd.1 hd.2 (by omega)
    have hsp : T5.sy d = [a, b] := by
      show split6 d = [a, b]
      unfold split6
      rw [if_pos hk]
      have e1 : 4352 + (d - 44032) / 588 = a := by omega
      have e2 : 4449 + (d - 44032) % 588 / 28 = b := by omega
      rw [e1, e2]
    refine ⟨hd, ?_, jamo_plain (by omega) (by omega), fun hp => ?_⟩
    · rw [full_sy (by rw [hsp]; simp), hsp, full_no (jamo_plain (d := a) (by omega) (by omega)), full_no (jamo_plain (d := b) (by omega) (by omega))]; rfl
    · have := hp.1; rw [hsp] at this; cases this
  · have a1 := kind6_is4 h1
    have b1 := kind6_3 h2
    have hd : 44032 ≤ d ∧ d ≤ 55203 := by omega
    have hk : kind6 d = 5 := kind6_at5 hd.1 hd.2 (by omega)
    have hsa : T5.sy a = [4352 + (a - 44032) / 588, 4449 + (a - 44032) % 588 / 28] := by
      show split6 a = _
      unfold split6
      rw [if_pos h1]
    have hsp : T5.sy d = [4352 + (a - 44032) / 588, 4449 + (a - 44032) % 588 / 28, b] := by
      show split6 d = _
      unfold split6
      rw [if_neg (by omega), if_pos hk]
      have e1 : (d - 44032) / 588 = (a - 44032) / 588 := by omega
      have e2 : (d - 44032) % 588 / 28 = (a - 44032) % 588 / 28 := by omega
      have e3 : 4519 + (d - 44032) % 28 = b := by omega
      rw [e1, e2, e3]
    refine ⟨hd, ?_, jamo_plain (by omega) (by omega), fun hp => ?_⟩
    · rw [full_sy (by rw [hsp]; simp), hsp, full_sy (c := a) (by rw [hsa]; simp), hsa, full_no (jamo_plain (d := b) (by omega) (by omega))]; rfl
    · have := hp.1; rw [hsp] at this; cases this
theorem cmp5 : Cmp T5 cl5 two5 := by
  refine ⟨cl5_nn, sy5_plain, ends5, fun a b d h => ?_, fun a b d h => ?_, fun a b d h => ?_, fun a b d h => ?_, fun c => full_norm 5 c (ends5 c)⟩
  · rcases two5_cases h with h | h | ⟨p, hp, ho, h1, h2, h3⟩
    · have := (join_syl (.inl h)).1; exact cl_syl this.1 this.2
    · have := (join_syl (.inr h)).1; exact cl_syl this.1 this.2
    · have hk := List.all_eq_true.1 kZero p hp
      rw [ho, Bool.false_or] at hk
      rw [h3]
      exact cl_nob (by simpa using hk)
  · rcases two5_cases h with h | h | ⟨p, hp, ho, h1, h2, h3⟩
    · exact (join_syl (.inl h)).2.1
    · exact (join_syl (.inr h)).2.1
    · rw [h3, full_pair hp, h1, ← h2, full_no (second_plain hp)]
  · rcases two5_cases h with h | h | ⟨p, hp, ho, h1, h2, h3⟩
    · exact (join_syl (.inl h)).2.2.1
    · exact (join_syl (.inr h)).2.2.1
    · rw [← h2]; exact second_plain hp
  · rcases two5_cases h with h | h | ⟨p, hp, ho, h1, h2, h3⟩
    · exact (join_syl (.inl h)).2.2.2
    · exact (join_syl (.inr h)).2.2.2
    · rw [h3]
      intro hpl
      have := hpl.2.2
      rw [(pair_of hp).2.2.1] at this
      cases this
end Go.Proofs.YtdmcidljjfogjaaDoor
