/- Joined of: D7Ord, D7Full, D7K, AppL, D7Put, RowT, D7Srt, D7By, D7All, SameR. -/
import Derived.Test.YtdmcidljjfogjaaDoorRows
import Derived.Test.YtdmcidljjfogjaaDoorJ9F
import Derived.Test.YtdmcidljjfogjaaDoorJ9G
import Derived.Test.YtdmcidljjfogjaaDoorJ9A
import Derived.Test.YtdmcidljjfogjaaDoorJ9D
import Derived.BigQuiet
import Derived.Deep.QuietTactic
/- Layer 7: rows in order, as mathematics. No program in it. -/
namespace Go.Proofs.YtdmcidljjfogjaaDoor
set_option linter.unusedVariables false

section
variable (cl : Int → Int)
/-- those of class 0 and of class k -/
def proj (k : Int) (l : List Int) : List Int := l.filter fun x => cl x == 0 || cl x == k
/-- alike but for the order of unlike classes between two of class 0 -/
def Sim (l m : List Int) : Prop := ∀ k, proj cl k l = proj cl k m
/-- classes don't fall to one above 0 -/
def Norm : List Int → Prop
  | [] => True
  | [_] => True
  | a :: b :: l => (0 < cl b → cl a ≤ cl b) ∧ Norm (b :: l)
end
theorem row_snoc {p : List Int → Prop} (h0 : p []) (h1 : ∀ l b, p l → p (l ++ [b])) (l : List Int) : p l := by
  have : ∀ m : List Int, p m.reverse := fun m => by
    induction m with
    | nil => exact h0
    | cons x m ih => rw [List.reverse_cons]; exact h1 _ _ ih
  have h := this l.reverse
  rwa [List.reverse_reverse] at h
section
variable {cl : Int → Int}
theorem proj_app (k : Int) (l m : List Int) : proj cl k (l ++ m) = proj cl k l ++ proj cl k m := List.filter_append ..
theorem proj_cons (k x : Int) (l : List Int) : proj cl k (x :: l) = if cl x = 0 ∨ cl x = k then x :: proj cl k l else proj cl k l := by
  unfold proj
  rw [List.filter_cons]
  simp
theorem Sim.refl (l : List Int) : Sim cl l l := fun _ => rfl
theorem Sim.symm {l m : List Int} (h : Sim cl l m) : Sim cl m l := fun k => (h k).symm
theorem Sim.trans {l m n : List Int} (h : Sim cl l m) (h' : Sim cl m n) : Sim cl l n := fun k => (h k).trans (h' k)
theorem Sim.app {l m l' m' : List Int} (h : Sim cl l m) (h' : Sim cl l' m') : Sim cl (l ++ l') (m ++ m') := fun k => by rw [proj_app, proj_app, h k, h' k]
theorem Sim.cons {l m : List Int} (x : Int) (h : Sim cl l m) : Sim cl (x :: l) (x :: m) := fun k => by rw [proj_cons, proj_cons, h k]
theorem Sim.swap {a b : Int} (l : List Int) (ha : cl a ≠ 0) (hb : cl b ≠ 0) (hab : cl a ≠ cl b) : Sim cl (a :: b :: l) (b :: a :: l) := fun k => by
  simp only [proj_cons]
  by_cases h1 : cl a = k
  · have h2 : ¬ cl b = k := fun e => hab (h1.trans e.symm)
    simp [h1, h2, hb]
  · simp [h1, ha]
theorem Sim.unc {l m : List Int} {x : Int} (h : Sim cl (x :: l) (x :: m)) : Sim cl l m := fun k => by
  have := h k
  rw [proj_cons, proj_cons] at this
  split at this
  · exact (List.cons.inj this).2
  · exact this
theorem Norm.tail {x : Int} {l : List Int} (h : Norm cl (x :: l)) : Norm cl l := by
  cases l with
  | nil => trivial
  | cons y l => exact h.2
theorem norm_first (h0 : ∀ x, 0 ≤ cl x) {k : Int} (hk : 0 < k) : ∀ (m : List Int) (y : Int), k < cl y → Norm cl (y :: m) → ∀ x, (proj cl k (y :: m)).head? = some x → cl x = 0
  | [], y, hy, _, x, hx => by
    rw [proj_cons, if_neg (by omega)] at hx
    cases hx
  | z :: m, y, hy, hn, x, hx => by
    rw [proj_cons, if_neg (by omega)] at hx
    have hz0 := h0 z
    by_cases hz : 0 < cl z
    · have := hn.1 hz
      exact norm_first h0 hk m z (by omega) hn.2 x hx
    · rw [proj_cons, if_pos (.inl (by omega))] at hx
      simp at hx
      rw [← hx]; omega
theorem sim_nil {m : List Int} (h : Sim cl [] m) : m = [] := by
  cases m with
  | nil => rfl
  | cons y m =>
    have := h (cl y)
    rw [proj_cons, if_pos (.inr rfl)] at this
    cases this
/-- one order alone -/
theorem ord_one (h0 : ∀ x, 0 ≤ cl x) : ∀ (l m : List Int), Sim cl l m → Norm cl l → Norm cl m → l = m
  | [], m, h, _, _ => (sim_nil h).symm
  | x :: l, [], h, _, _ => sim_nil h.symm
  | x :: l, y :: m, h, hl, hm => by
    have key : x = y := by
      have hx0 := h0 x
      have hy0 := h0 y
      by_cases hx : cl x = 0
      · have := h (cl y)
        rw [proj_cons, proj_cons, if_pos (.inl hx), if_pos (.inr rfl)] at this
        exact (List.cons.inj this).1
      by_cases hy : cl y = 0
      · have := h (cl x)
        rw [proj_cons, proj_cons, if_pos (.inr rfl), if_pos (.inl hy)] at this
        exact (List.cons.inj this).1
      by_cases he : cl x = cl y
      · have := h (cl y)
        rw [proj_cons, proj_cons, if_pos (.inr he), if_pos (.inr rfl)] at this
        exact (List.cons.inj this).1
      exfalso
      by_cases hlt : cl x < cl y
      · have e := h (cl x)
        have hh := norm_first h0 (k := cl x) (by omega) m y hlt hm x (by rw [← e, proj_cons, if_pos (.inr rfl)]; rfl)
        exact hx hh
      · have e := h (cl y)
        have hh := norm_first h0 (k := cl y) (by omega) l x (by omega) hl y (by rw [e, proj_cons, if_pos (.inr rfl)]; rfl)
        exact hy hh
    subst key
    rw [ord_one h0 l m h.unc hl.tail hm.tail]

/-- the document's way: the last is moved ahead, past those of greater class (rows turned round) -/
def insR (cl : Int → Int) (b : Int) : List Int → List Int
  | [] => [b]
  | a :: ra => if cl a ≠ 0 ∧ cl b ≠ 0 ∧ cl b < cl a then a :: insR cl b ra else b :: a :: ra
def ordR (cl : Int → Int) (l : List Int) : List Int := l.foldl (fun ra b => insR cl b ra) []
def ordL (cl : Int → Int) (l : List Int) : List Int := (ordR cl l).reverse
theorem ordR_snoc (l : List Int) (b : Int) : ordR cl (l ++ [b]) = insR cl b (ordR cl l) := by simp [ordR, List.foldl_append]
theorem insR_len (b : Int) : ∀ ra : List Int, (insR cl b ra).length = ra.length + 1
  | [] => rfl
  | a :: ra => by
    unfold insR
    split
    · simp [insR_len b ra]
    · simp
theorem ordR_len (l : List Int) : (ordR cl l).length = l.length := by
  refine row_snoc (p := fun l => (ordR cl l).length = l.length) rfl (fun l b ih => ?_) l
  rw [ordR_snoc, insR_len, ih]; simp
theorem ordL_len (l : List Int) : (ordL cl l).length = l.length := by unfold ordL; rw [List.length_reverse, ordR_len]
theorem proj_rev (k : Int) (l : List Int) : proj cl k l.reverse = (proj cl k l).reverse := by unfold proj; rw [List.filter_reverse]
theorem Sim.rev {l m : List Int} (h : Sim cl l m) : Sim cl l.reverse m.reverse := fun k => by rw [proj_rev, proj_rev, h k]
theorem insR_sim (b : Int) : ∀ ra : List Int, Sim cl (insR cl b ra) (b :: ra)
  | [] => Sim.refl _
  | a :: ra => by
    unfold insR
    split
    · rename_i h
      exact ((insR_sim b ra).cons a).trans (Sim.swap ra h.1 h.2.1 (by omega))
    · exact Sim.refl _
/-- rows turned round, in order -/
def NormR (cl : Int → Int) : List Int → Prop
  | [] => True
  | [_] => True
  | b :: a :: l => (0 < cl b → cl a ≤ cl b) ∧ NormR cl (a :: l)
theorem insR_norm (h0 : ∀ x, 0 ≤ cl x) (b : Int) : ∀ ra : List Int, NormR cl ra → NormR cl (insR cl b ra)
  | [], _ => trivial
  | [a], _ => by
    unfold insR
    split
    · rename_i h
      exact ⟨fun _ => by omega, trivial⟩
    · rename_i h
      refine ⟨fun hb => ?_, trivial⟩
      have := h0 a
      by_cases ha : cl a = 0
      · omega
      · exact Int.not_lt.1 fun hlt => h ⟨ha, by omega, hlt⟩
  | a :: a' :: ra, hn => by
    have ih := insR_norm h0 b (a' :: ra) hn.2
    unfold insR
    split
    · rename_i h
      unfold insR at ih ⊢
      split
      · rename_i h'
        rw [if_pos h'] at ih
        exact ⟨hn.1, ih⟩
      · rename_i h'
        rw [if_neg h'] at ih
        exact ⟨fun _ => by omega, ih⟩
    · rename_i h
      refine ⟨fun hb => ?_, hn⟩
      have := h0 a
      by_cases ha : cl a = 0
      · omega
      · exact Int.not_lt.1 fun hlt => h ⟨ha, by omega, hlt⟩
theorem norm_snoc {m : List Int} {a b : Int} : Norm cl (m ++ [a]) → (0 < cl b → cl a ≤ cl b) → Norm cl (m ++ [a, b]) := by
  induction m with
  | nil => intro _ h; exact ⟨h, trivial⟩
  | cons x m ih =>
    intro hn h
    cases m with
    | nil => exact ⟨hn.1, h, trivial⟩
    | cons y m => exact ⟨hn.1, ih hn.2 h⟩
theorem normR_rev : ∀ l : List Int, NormR cl l → Norm cl l.reverse
  | [], _ => trivial
  | [_], _ => trivial
  | b :: a :: l, h => by
    have := normR_rev (a :: l) h.2
    simp only [List.reverse_cons, List.append_assoc] at this ⊢
    exact norm_snoc this h.1
theorem ordR_norm (h0 : ∀ x, 0 ≤ cl x) (l : List Int) : NormR cl (ordR cl l) := by
  refine row_snoc (p := fun l => NormR cl (ordR cl l)) trivial (fun l b ih => ?_) l
  rw [ordR_snoc]; exact insR_norm h0 b _ ih
theorem ordL_norm (h0 : ∀ x, 0 ≤ cl x) (l : List Int) : Norm cl (ordL cl l) := normR_rev _ (ordR_norm h0 l)
theorem ordR_sim (l : List Int) : Sim cl (ordR cl l) l.reverse := by
  refine row_snoc (p := fun l => Sim cl (ordR cl l) l.reverse) (Sim.refl _) (fun l b ih => ?_) l
  rw [ordR_snoc, List.reverse_append]
  exact (insR_sim b _).trans (ih.cons b)
theorem ordL_sim (l : List Int) : Sim cl (ordL cl l) l := by
  have := (ordR_sim (cl := cl) l).rev
  rwa [List.reverse_reverse] at this
/-- what is like l and in order is l in order -/
theorem ordL_of (h0 : ∀ x, 0 ≤ cl x) {l m : List Int} (hs : Sim cl m l) (hn : Norm cl m) : m = ordL cl l := ord_one h0 _ _ (hs.trans (ordL_sim l).symm) hn (ordL_norm h0 l)
theorem ordL_self (h0 : ∀ x, 0 ≤ cl x) {m : List Int} (hn : Norm cl m) : ordL cl m = m := (ordL_of h0 (Sim.refl _) hn).symm
theorem ordL_sims (h0 : ∀ x, 0 ≤ cl x) {l m : List Int} (hs : Sim cl l m) : ordL cl l = ordL cl m := ordL_of h0 ((ordL_sim l).trans hs) (ordL_norm h0 l)
theorem sim_mem {l m : List Int} (h : Sim cl l m) {x : Int} (hx : x ∈ l) : x ∈ m := by
  have : x ∈ proj cl (cl x) l := List.mem_filter.2 ⟨hx, by simp⟩
  rw [h] at this
  exact (List.mem_filter.1 this).1
theorem ordL_mem {l : List Int} {x : Int} : x ∈ ordL cl l ↔ x ∈ l := ⟨sim_mem (ordL_sim l), sim_mem (ordL_sim l).symm⟩
/-- ahead of one of class 0 a row may be cut -/
theorem norm_app {l m : List Int} (hl : Norm cl l) (hm : Norm cl m) (hc : ∀ a ∈ m.head?, cl a = 0) : Norm cl (l ++ m) := by
  induction l with
  | nil => exact hm
  | cons x l ih =>
    cases l with
    | nil =>
      cases m with
      | nil => trivial
      | cons y m => exact ⟨fun h => by have := hc y rfl; omega, hm⟩
    | cons y l => exact ⟨hl.1, ih hl.2⟩
/-- rows one behind the other, where the first ends or the second begins in class 0 -/
theorem norm_app' {l m : List Int} (hl : Norm cl l) (hm : Norm cl m) (h0 : ∀ x, 0 ≤ cl x) (hc : ∀ a ∈ l.getLast?, cl a = 0) : Norm cl (l ++ m) := by
  induction l with
  | nil => exact hm
  | cons x l ih =>
    cases l with
    | nil =>
      cases m with
      | nil => trivial
      | cons y m => exact ⟨fun h => by have := hc x rfl; have := h0 y; omega, hm⟩
    | cons y l => exact ⟨hl.1, ih hl.2 (by simpa using hc)⟩
theorem norm_pair {l : List Int} (h : l.Pairwise fun a b => decide (cl a ≤ cl b) = true) : Norm cl l := by
  induction l with
  | nil => trivial
  | cons x l ih =>
    cases l with
    | nil => trivial
    | cons y l => exact ⟨fun _ => of_decide_eq_true ((List.pairwise_cons.1 h).1 y (by simp)), ih (List.pairwise_cons.1 h).2⟩
theorem pair_norm {l : List Int} (hp : ∀ x ∈ l, 0 < cl x) (h : Norm cl l) : l.Pairwise fun a b => decide (cl a ≤ cl b) = true := by
  induction l with
  | nil => exact List.Pairwise.nil
  | cons x l ih =>
    refine List.pairwise_cons.2 ⟨?_, ih (fun y hy => hp y (by simp [hy])) h.tail⟩
    have hr : ∀ (m : List Int) (x : Int), (∀ y ∈ m, 0 < cl y) → Norm cl (x :: m) → ∀ z ∈ m, cl x ≤ cl z := by
      intro m
      induction m with
      | nil => intro x _ _ z hz; cases hz
      | cons y m ih2 =>
        intro x hp2 hn z hz
        have h1 := hn.1 (hp2 y (by simp))
        rcases List.mem_cons.1 hz with rfl | hz
        · exact h1
        · exact Int.le_trans h1 (ih2 y (fun u hu => hp2 u (by simp [hu])) hn.2 z hz)
    exact fun z hz => decide_eq_true (hr l x (fun y hy => hp y (by simp [hy])) h z hz)
/-- merged is one behind the other, but for the order -/
def mergeC (cl : Int → Int) (a b : List Int) : List Int := List.merge a b (fun x y => decide (cl x ≤ cl y))
theorem mergeC_nil (b : List Int) : mergeC cl [] b = b := List.nil_merge b
theorem mergeC_right (a : List Int) : mergeC cl a [] = a := List.merge_right a
theorem mergeC_le {x y : Int} (a b : List Int) (h : cl x ≤ cl y) : mergeC cl (x :: a) (y :: b) = x :: mergeC cl a (y :: b) := by
  unfold mergeC; exact List.cons_merge_cons_pos _ _ _ (decide_eq_true h)
theorem mergeC_gt {x y : Int} (a b : List Int) (h : ¬ cl x ≤ cl y) : mergeC cl (x :: a) (y :: b) = y :: mergeC cl (x :: a) b := by
  unfold mergeC; exact List.cons_merge_cons_neg _ _ _ (by simpa using h)
theorem mergeC_sim : ∀ (n : Nat) (a b : List Int), a.length + b.length ≤ n → (∀ x ∈ a, 0 < cl x) → (∀ x ∈ b, 0 < cl x) → Norm cl a → Sim cl (mergeC cl a b) (a ++ b)
  | _, [], b, _, _, _, _ => by rw [mergeC_nil]; exact Sim.refl _
  | _, x :: a, [], _, _, _, _ => by rw [mergeC_right, List.append_nil]; exact Sim.refl _
  | 0, x :: a, y :: b, h, _, _, _ => by simp at h
  | n + 1, x :: a, y :: b, h, ha, hb, hn => by
    simp at h
    by_cases hc : cl x ≤ cl y
    · rw [mergeC_le a b hc]
      exact (mergeC_sim n a (y :: b) (by simp; omega) (fun z hz => ha z (by simp [hz])) hb hn.tail).cons x
    · rw [mergeC_gt a b hc]
      refine ((mergeC_sim n (x :: a) b (by simp; omega) ha (fun z hz => hb z (by simp [hz])) hn).cons y).trans fun k => ?_
      have hy := hb y (by simp)
      have hall : ∀ z ∈ x :: a, cl y < cl z := by
        intro z hz
        rcases List.mem_cons.1 hz with rfl | hz
        · omega
        · have := of_decide_eq_true ((List.pairwise_cons.1 (pair_norm ha hn)).1 z hz)
          omega
      rw [proj_cons, proj_app, proj_app, proj_cons (l := b)]
      by_cases hk : cl y = k
      · rw [if_pos (.inr hk), if_pos (.inr hk)]
        have hnil : proj cl k (x :: a) = [] := by
          unfold proj
          rw [List.filter_eq_nil_iff]
          intro z hz
          have := hall z hz
          simp; omega
        rw [hnil]; rfl
      · rw [if_neg (by omega), if_neg (by omega)]
theorem mergeC_norm {a b : List Int} (ha : ∀ x ∈ a, 0 < cl x) (hb : ∀ x ∈ b, 0 < cl x) (na : Norm cl a) (nb : Norm cl b) : Norm cl (mergeC cl a b) := by
  refine norm_pair ?_
  unfold mergeC
  refine List.pairwise_merge (le := fun x y => decide (cl x ≤ cl y)) ?_ ?_ _ _ (pair_norm ha na) (pair_norm hb nb)
  · intro x y z h1 h2; exact decide_eq_true (Int.le_trans (of_decide_eq_true h1) (of_decide_eq_true h2))
  · intro x y
    by_cases h : cl x ≤ cl y
    · simp [h]
    · have : cl y ≤ cl x := by omega
      simp [this]
/-- two runs in order, merged, are both in order -/
theorem mergeC_ord (h0 : ∀ x, 0 ≤ cl x) {a b : List Int} (ha : ∀ x ∈ a, 0 < cl x) (hb : ∀ x ∈ b, 0 < cl x) : mergeC cl (ordL cl a) (ordL cl b) = ordL cl (a ++ b) := by
  have ha' : ∀ x ∈ ordL cl a, 0 < cl x := fun x hx => ha x (ordL_mem.1 hx)
  have hb' : ∀ x ∈ ordL cl b, 0 < cl x := fun x hx => hb x (ordL_mem.1 hx)
  exact ordL_of h0 ((mergeC_sim _ _ _ (Nat.le_refl _) ha' hb' (ordL_norm h0 a)).trans ((ordL_sim a).app (ordL_sim b))) (mergeC_norm ha' hb' (ordL_norm h0 a) (ordL_norm h0 b))
theorem ordL_short {l : List Int} (h : l.length < 2) : ordL cl l = l := by
  match l, h with
  | [], _ => rfl
  | [x], _ => rfl
/-- order by parts, cut ahead of one of class 0 -/
theorem ordL_cut (h0 : ∀ x, 0 ≤ cl x) {l m : List Int} (hc : ∀ a ∈ m.head?, cl a = 0) : ordL cl (l ++ m) = ordL cl l ++ ordL cl m := by
  refine (ordL_of h0 ((ordL_sim l).app (ordL_sim m)) (norm_app (ordL_norm h0 l) (ordL_norm h0 m) ?_)).symm
  cases m with
  | nil => intro a ha; cases ha
  | cons y m =>
    have hy := hc y rfl
    have : ∃ m', ordL cl (y :: m) = y :: m' := by
      have hs := ordL_sim (cl := cl) (y :: m)
      cases ho : ordL cl (y :: m) with
      | nil => have := ordL_len (cl := cl) (y :: m); rw [ho] at this; simp at this
      | cons z m' =>
        rw [ho] at hs
        have e := hs (cl z)
        rw [proj_cons, proj_cons, if_pos (.inr rfl), if_pos (.inl hy)] at e
        exact ⟨m', by rw [(List.cons.inj e).1]⟩
    obtain ⟨m', hm'⟩ := this
    intro a ha
    rw [hm'] at ha
    simp at ha
    rw [← ha]; exact hy
/-- and behind one of class 0 -/
theorem ordL_zero (h0 : ∀ x, 0 ≤ cl x) {z : Int} (hz : cl z = 0) (m : List Int) : ordL cl (z :: m) = z :: ordL cl m := by
  refine (ordL_of h0 ((ordL_sim m).cons z) ?_).symm
  exact norm_app' (l := [z]) trivial (ordL_norm h0 m) h0 (by simp [hz])
end
end Go.Proofs.YtdmcidljjfogjaaDoor

/- Layer 7: the parts of numbers, as mathematics. No program in it. -/
namespace Go.Proofs.YtdmcidljjfogjaaDoor
set_option linter.unusedVariables false

/-- what a number stands for: a syllable's parts, one, two -/
structure Pts where
  sy : Int → List Int
  sg : Int → Int
  pk : Int → Bool
  px : Int → Int
  py : Int → Int
def fullN (T : Pts) : Nat → Int → List Int
  | 0, c => [c]
  | n + 1, c => if T.sy c ≠ [] then T.sy c else if T.sg c ≠ 0 then fullN T n (T.sg c) else if T.pk c = true then fullN T n (T.px c) ++ fullN T n (T.py c) else [c]
/-- within n steps there is nothing left to part -/
def Ends (T : Pts) : Nat → Int → Prop
  | 0, _ => False
  | n + 1, c => T.sy c = [] → (T.sg c ≠ 0 → Ends T n (T.sg c)) ∧ (T.sg c = 0 → T.pk c = true → Ends T n (T.px c) ∧ Ends T n (T.py c))
def fullF (T : Pts) (c : Int) : List Int := fullN T 5 c
def Plain (T : Pts) (c : Int) : Prop := T.sy c = [] ∧ T.sg c = 0 ∧ T.pk c = false
section
variable {T : Pts}
theorem fullN_sy (n : Nat) {c : Int} (h : T.sy c ≠ []) : fullN T (n + 1) c = T.sy c := by unfold fullN; rw [if_pos h]
theorem fullN_sg (n : Nat) {c : Int} (h : T.sy c = []) (h1 : T.sg c ≠ 0) : fullN T (n + 1) c = fullN T n (T.sg c) := by
  conv => lhs; unfold fullN
  rw [if_neg (fun e => e h), if_pos h1]
theorem fullN_pk (n : Nat) {c : Int} (h : T.sy c = []) (h1 : T.sg c = 0) (h2 : T.pk c = true) : fullN T (n + 1) c = fullN T n (T.px c) ++ fullN T n (T.py c) := by
  conv => lhs; unfold fullN
  rw [if_neg (fun e => e h), if_neg (fun e => e h1), if_pos h2]
theorem fullN_no (n : Nat) {c : Int} (h : T.sy c = []) (h1 : T.sg c = 0) (h2 : T.pk c = false) : fullN T (n + 1) c = [c] := by
  unfold fullN; rw [if_neg (fun e => e h), if_neg (fun e => e h1), if_neg (by rw [h2]; simp)]
theorem full_mono : ∀ (n : Nat) (c : Int), Ends T n c → fullN T (n + 1) c = fullN T n c
  | 0, _, h => h.elim
  | n + 1, c, h => by
    by_cases h0 : T.sy c = []
    · obtain ⟨h1, h2⟩ := h h0
      by_cases hs : T.sg c = 0
      · cases hp : T.pk c with
        | false => rw [fullN_no _ h0 hs hp, fullN_no _ h0 hs hp]
        | true =>
          obtain ⟨e1, e2⟩ := h2 hs hp
          rw [fullN_pk _ h0 hs hp, fullN_pk _ h0 hs hp, full_mono n _ e1, full_mono n _ e2]
      · rw [fullN_sg _ h0 hs, fullN_sg _ h0 hs, full_mono n _ (h1 hs)]
    · rw [fullN_sy _ h0, fullN_sy _ h0]
theorem full_sy {c : Int} (h : T.sy c ≠ []) : fullF T c = T.sy c := fullN_sy 4 h
theorem full_sg (hE : ∀ c, Ends T 5 c) {c : Int} (h : T.sy c = []) (h1 : T.sg c ≠ 0) : fullF T c = fullF T (T.sg c) := by
  unfold fullF
  rw [← full_mono 5 c (hE c), fullN_sg 5 h h1]
theorem full_pk (hE : ∀ c, Ends T 5 c) {c : Int} (h : T.sy c = []) (h1 : T.sg c = 0) (h2 : T.pk c = true) : fullF T c = fullF T (T.px c) ++ fullF T (T.py c) := by
  unfold fullF
  rw [← full_mono 5 c (hE c), fullN_pk 5 h h1 h2]
theorem full_no {c : Int} (h : Plain T c) : fullF T c = [c] := fullN_no 4 h.1 h.2.1 h.2.2
theorem fullN_len (h3 : ∀ c, (T.sy c).length ≤ 3) : ∀ (n : Nat) (c : Int), (fullN T n c).length ≤ 3 * 2 ^ n
  | 0, c => by simp [fullN]
  | n + 1, c => by
    have hp : 1 ≤ 2 ^ n := Nat.one_le_two_pow
    have hpp : 2 ^ (n + 1) = 2 * 2 ^ n := by rw [Nat.pow_succ]; omega
    by_cases h0 : T.sy c = []
    · by_cases hs : T.sg c = 0
      · cases hk : T.pk c with
        | false => rw [fullN_no _ h0 hs hk]; simp; omega
        | true =>
          have e1 := fullN_len h3 n (T.px c)
          have e2 := fullN_len h3 n (T.py c)
          rw [fullN_pk _ h0 hs hk, List.length_append]; omega
      · have := fullN_len h3 n (T.sg c)
        rw [fullN_sg _ h0 hs]; omega
    · have := h3 c
      rw [fullN_sy _ h0]; omega
theorem fullF_len (h3 : ∀ c, (T.sy c).length ≤ 3) (c : Int) : (fullF T c).length ≤ 96 := fullN_len h3 5 c
theorem fullN_plain (hs : ∀ c, ∀ d ∈ T.sy c, Plain T d) : ∀ (n : Nat) (c : Int), Ends T n c → ∀ d ∈ fullN T n c, Plain T d
  | 0, _, h => h.elim
  | n + 1, c, h => by
    intro d hd
    by_cases h0 : T.sy c = []
    · obtain ⟨h1, h2⟩ := h h0
      by_cases hg : T.sg c = 0
      · cases hk : T.pk c with
        | false => rw [fullN_no _ h0 hg hk] at hd; simp at hd; subst hd; exact ⟨h0, hg, hk⟩
        | true =>
          obtain ⟨e1, e2⟩ := h2 hg hk
          rw [fullN_pk _ h0 hg hk] at hd
          rcases List.mem_append.1 hd with hd | hd
          · exact fullN_plain hs n _ e1 d hd
          · exact fullN_plain hs n _ e2 d hd
      · rw [fullN_sg _ h0 hg] at hd
        exact fullN_plain hs n _ (h1 hg) d hd
    · rw [fullN_sy _ h0] at hd
      exact hs c d hd
theorem fullN_in {R : Int → Prop} (h1 : ∀ c, ∀ d ∈ T.sy c, R d) (h2 : ∀ c, R (T.sg c)) (h3 : ∀ c, R (T.px c)) (h4 : ∀ c, R (T.py c)) : ∀ (n : Nat) (c : Int), R c → ∀ d ∈ fullN T n c, R d
  | 0, c, hc => by intro d hd; simp [fullN] at hd; subst hd; exact hc
  | n + 1, c, hc => by
    intro d hd
    by_cases h0 : T.sy c = []
    · by_cases hg : T.sg c = 0
      · cases hk : T.pk c with
        | false => rw [fullN_no _ h0 hg hk] at hd; simp at hd; subst hd; exact hc
        | true =>
          rw [fullN_pk _ h0 hg hk] at hd
          rcases List.mem_append.1 hd with hd | hd
          · exact fullN_in h1 h2 h3 h4 n _ (h3 c) d hd
          · exact fullN_in h1 h2 h3 h4 n _ (h4 c) d hd
      · rw [fullN_sg _ h0 hg] at hd
        exact fullN_in h1 h2 h3 h4 n _ (h2 c) d hd
    · rw [fullN_sy _ h0] at hd
      exact h1 c d hd
/-- the parts of a row -/
def partsF (T : Pts) (l : List Int) : List Int := l.flatMap (fullF T)
theorem partsF_nil : partsF T [] = [] := rfl
theorem partsF_app (l m : List Int) : partsF T (l ++ m) = partsF T l ++ partsF T m := List.flatMap_append ..
theorem partsF_snoc (l : List Int) (c : Int) : partsF T (l ++ [c]) = partsF T l ++ fullF T c := by rw [partsF_app]; simp [partsF]
theorem partsF_one (c : Int) : partsF T [c] = fullF T c := by simp [partsF]
theorem partsF_two (c d : Int) : partsF T [c, d] = fullF T c ++ fullF T d := by simp [partsF]
theorem partsF_len (h3 : ∀ c, (T.sy c).length ≤ 3) (l : List Int) : (partsF T l).length ≤ 96 * l.length := by
  induction l with
  | nil => simp [partsF]
  | cons x l ih =>
    have := fullF_len h3 x
    have e : partsF T (x :: l) = fullF T x ++ partsF T l := rfl
    rw [e, List.length_append, List.length_cons]; omega
theorem partsF_plain (hs : ∀ c, ∀ d ∈ T.sy c, Plain T d) (hE : ∀ c, Ends T 5 c) (l : List Int) : ∀ d ∈ partsF T l, Plain T d := fun d hd => by
  obtain ⟨c, _, hc⟩ := List.mem_flatMap.1 hd
  exact fullN_plain hs 5 c (hE c) d hc
theorem partsF_self {l : List Int} (h : ∀ d ∈ l, Plain T d) : partsF T l = l := by
  induction l with
  | nil => rfl
  | cons x l ih =>
    have e : partsF T (x :: l) = fullF T x ++ partsF T l := rfl
    rw [e, full_no (h x (by simp)), ih (fun d hd => h d (by simp [hd]))]; rfl
theorem partsF_in {R : Int → Prop} (h1 : ∀ c, ∀ d ∈ T.sy c, R d) (h2 : ∀ c, R (T.sg c)) (h3 : ∀ c, R (T.px c)) (h4 : ∀ c, R (T.py c)) {l : List Int} (hl : ∀ c ∈ l, R c) : ∀ d ∈ partsF T l, R d := fun d hd => by
  obtain ⟨c, hc, hd⟩ := List.mem_flatMap.1 hd
  exact fullN_in h1 h2 h3 h4 5 c (hl c hc) d hd
/-- all in parts, in order -/
def allF (T : Pts) (cl : Int → Int) (l : List Int) : List Int := ordL cl (partsF T l)
variable {cl : Int → Int}
theorem allF_len (h3 : ∀ c, (T.sy c).length ≤ 3) (l : List Int) : (allF T cl l).length ≤ 96 * l.length := by unfold allF; rw [ordL_len]; exact partsF_len h3 l
theorem allF_plain (hs : ∀ c, ∀ d ∈ T.sy c, Plain T d) (hE : ∀ c, Ends T 5 c) (l : List Int) : ∀ d ∈ allF T cl l, Plain T d := fun d hd => partsF_plain hs hE l d (ordL_mem.1 hd)
/-- once is enough -/
theorem allF_once (h0 : ∀ x, 0 ≤ cl x) (hs : ∀ c, ∀ d ∈ T.sy c, Plain T d) (hE : ∀ c, Ends T 5 c) (l : List Int) : allF T cl (allF T cl l) = allF T cl l := by
  have h := allF_plain (cl := cl) hs hE l
  show ordL cl (partsF T (allF T cl l)) = allF T cl l
  rw [partsF_self h]
  exact ordL_self h0 (ordL_norm h0 _)
/-- the parts of both -/
theorem allF_app (h0 : ∀ x, 0 ≤ cl x) (l m : List Int) : ordL cl (allF T cl l ++ allF T cl m) = allF T cl (l ++ m) := by
  unfold allF
  rw [partsF_app]
  exact ordL_sims h0 ((ordL_sim _).app (ordL_sim _))
theorem allF_cut (h0 : ∀ x, 0 ≤ cl x) (l m : List Int) (hc : ∀ a ∈ (allF T cl m).head?, cl a = 0) : allF T cl l ++ allF T cl m = allF T cl (l ++ m) := by
  rw [← allF_app h0]
  exact (ordL_self h0 (norm_app (ordL_norm h0 _) (ordL_norm h0 _) hc)).symm
end
/-- no chain of n steps -/
def StepsN (L : List (Nat × Nat)) : Nat → Nat → Prop
  | 0, _ => True
  | n + 1, c => ∃ x, (c, x) ∈ L ∧ StepsN L n x
end Go.Proofs.YtdmcidljjfogjaaDoor

/- Layer 7: the parts that Unicode's tables tell, and what the kernel reckons of them. -/
namespace Go.Proofs.YtdmcidljjfogjaaDoor
set_option linter.unusedVariables false

/-- these texts' classes and parts -/
noncomputable def cl5 (c : Int) : Int := tab (castE C5) c
noncomputable def T5 : Pts := ⟨split6, fun c => tab (castE S5) c, pkF P5, pxF P5, pyF P5⟩
theorem cl5_nn (c : Int) : 0 ≤ cl5 c := (tab_castE_bd (m := 100000000) (fun e he => (fine5.c e he).2) c).1
theorem cl5_le (c : Int) : cl5 c ≤ 100000000 := (tab_castE_bd (m := 100000000) (fun e he => (fine5.c e he).2) c).2
noncomputable def keysB : Nat := bitsOf (P5.map (·.c) ++ S5.map (·.1)) 0
theorem kSec : (P5.all fun p => !hasBit keysB p.y) = true := by kernel_rfl
theorem kJamo : (P5.all (fun p => Nat.blt p.c 4352 || Nat.blt 4607 p.c) && S5.all (fun e => Nat.blt e.1 4352 || Nat.blt 4607 e.1)) = true := by kernel_rfl
theorem kEx1 : ((lkP P5 7845 none).map fun p => (p.x, p.y)) = some (226, 769) := by kernel_rfl
theorem kEx2 : ((lkP P5 226 none).map fun p => (p.x, p.y)) = some (97, 770) := by kernel_rfl
theorem kEx3 : ((lkP P5 197 none).map fun p => (p.x, p.y)) = some (65, 778) := by kernel_rfl
theorem kEx4 : (Nat.beq (lk S5 7845 0) 0 && (Nat.beq (lk S5 226 0) 0 && (Nat.beq (lk S5 197 0) 0 && Nat.beq (lk S5 8491 0) 197))) = true := by kernel_rfl
theorem kEx5 : (!hasBit keysB 97 && (!hasBit keysB 769 && (!hasBit keysB 770 && (!hasBit keysB 65 && !hasBit keysB 778)))) = true := by kernel_rfl
theorem kEx6 : (Nat.beq (lk C5 97 0) 0 && (Nat.beq (lk C5 769 0) 230 && (Nat.beq (lk C5 807 0) 202 && (Nat.beq (lk C5 65 0) 0 && Nat.beq (lk C5 778 0) 230)))) = true := by kernel_rfl
theorem key_mem {c : Nat} : hasBit keysB c = true ↔ c ∈ P5.map (·.c) ++ S5.map (·.1) := has_iff _ _
attribute [local irreducible] P5 S5 C5 L5 keysB
theorem pk_mem {c : Int} (h : pkF P5 c = true) : ∃ p ∈ P5, (p.c : Int) = c ∧ pxF P5 c = p.x ∧ pyF P5 c = p.y := by
  unfold pkF at h
  unfold pxF pyF
  cases hl : lastP P5 c with
  | none => rw [hl] at h; cases h
  | some p =>
    obtain ⟨hp, he⟩ := lastP_some hl
    exact ⟨p, hp, he, rfl, rfl⟩
theorem sg_mem {c : Int} (h : tab (castE S5) c ≠ 0) : ∃ e ∈ S5, (e.1 : Int) = c ∧ tab (castE S5) c = e.2 := tab_nz (fun e he => (fine5.s e he).1) h
theorem no_key {c : Nat} (h : hasBit keysB c = false) : tab (castE S5) (c : Int) = 0 ∧ pkF P5 (c : Int) = false := by
  have hn : ¬ c ∈ P5.map (·.c) ++ S5.map (·.1) := fun hm => by rw [key_mem.2 hm] at h; cases h
  rw [List.mem_append] at hn
  constructor
  · apply Classical.byContradiction
    intro hne
    obtain ⟨e, he, e1, _⟩ := sg_mem hne
    exact hn (.inr (List.mem_map.2 ⟨e, he, by omega⟩))
  · rw [Bool.eq_false_iff]
    intro hp
    obtain ⟨p, hp, e1, _⟩ := pk_mem hp
    exact hn (.inl (List.mem_map.2 ⟨p, hp, by omega⟩))
/-- chains from c -/
theorem no_steps (c : Nat) : ¬ StepsN L5 5 c := by
  rintro ⟨c1, h1, c2, h2, c3, h3, c4, h4, c5, h5, _⟩
  exact no_five four5 h1 h2 h3 h4 h5
theorem ends_of : ∀ (n : Nat) (c : Nat), ¬ StepsN L5 n c → Ends T5 n (c : Int)
  | 0, c, h => (h trivial).elim
  | n + 1, c, h => by
    intro _
    refine ⟨fun hs => ?_, fun hs hp => ?_⟩
    · obtain ⟨e, he, e1, e2⟩ := sg_mem hs
      have hc : c = e.1 := by omega
      have hm : (c, e.2) ∈ L5 := by
        unfold L5
        rw [hc]
        exact List.mem_append.2 (.inr he)
      show Ends T5 n (tab (castE S5) (c : Int))
      rw [e2]
      exact ends_of n e.2 (fun hs' => h ⟨e.2, hm, hs'⟩)
    · obtain ⟨p, hp, e1, e2, e3⟩ := pk_mem hp
      have hc : p.c = c := by omega
      have hm : (c, p.x) ∈ L5 := by
        unfold L5
        exact List.mem_append.2 (.inl (List.mem_map.2 ⟨p, hp, by rw [hc]⟩))
      constructor
      · show Ends T5 n (pxF P5 (c : Int))
        rw [e2]
        exact ends_of n p.x (fun hs' => h ⟨p.x, hm, hs'⟩)
      · show Ends T5 n (pyF P5 (c : Int))
        rw [e3]
        cases n with
        | zero => exact (h ⟨p.x, hm, trivial⟩).elim
        | succ n =>
          intro _
          have hk := List.all_eq_true.1 kSec p hp
          obtain ⟨k1, k2⟩ := no_key (c := p.y) (by simpa using hk)
          exact ⟨fun hs => absurd k1 hs, fun _ hp => by
            have : pkF P5 (p.y : Int) = true := hp
            rw [k2] at this; cases this⟩
theorem ends5 (c : Int) : Ends T5 5 c := by
  by_cases h0 : 0 ≤ c
  · obtain ⟨k, rfl⟩ := Int.eq_ofNat_of_zero_le h0
    exact ends_of 5 k (no_steps k)
  · intro _
    refine ⟨fun hs => ?_, fun _ hp => ?_⟩
    · obtain ⟨e, he, e1, e2⟩ := sg_mem hs
      omega
    · obtain ⟨p, hp, e1, e2, e3⟩ := pk_mem hp
      omega
theorem sy5_len (c : Int) : (T5.sy c).length ≤ 3 := split6_len c
theorem split6_mem {c d : Int} (h : d ∈ split6 c) : (4352 ≤ d ∧ d ≤ 4370) ∨ (4449 ≤ d ∧ d ≤ 4469) ∨ (4520 ≤ d ∧ d ≤ 4546) := by
  unfold split6 at h
  split at h
  · rename_i h4
    obtain ⟨b1, b2⟩ := kind6_big (c := c) (by omega)
    simp only [List.mem_cons, List.not_mem_nil, or_false] at h
    rcases h with rfl | rfl <;> omega
  · split at h
    · rename_i h4 h5
      obtain ⟨b1, b2⟩ := kind6_big (c := c) (by omega)
      have hne : (c - 44032) % 28 ≠ 0 := fun e => by
        unfold kind6 at h5
        rw [if_neg (by omega), if_neg (by omega), if_neg (by omega), if_neg (by omega), if_pos e] at h5
        omega
      simp only [List.mem_cons, List.not_mem_nil, or_false] at h
      rcases h with rfl | rfl | rfl <;> omega
    · cases h
theorem split6_none {c : Int} (h : kind6 c ≤ 3) : split6 c = [] := by
  unfold split6
  rw [if_neg (by omega), if_neg (by omega)]
theorem split6_some {c : Int} (h : 3 < kind6 c) : split6 c ≠ [] := by
  have := (kind6_bd c).2
  unfold split6
  by_cases h4 : kind6 c = 4
  · rw [if_pos h4]; simp
  · rw [if_neg h4, if_pos (by omega)]; simp
theorem jamo_plain {d : Int} (h0 : 4352 ≤ d) (h1 : d ≤ 4607) : Plain T5 d := by
  obtain ⟨j1, j2⟩ := Bool.and_eq_true_iff.1 kJamo
  refine ⟨split6_none ?_, ?_, ?_⟩
  · apply Classical.byContradiction
    intro h
    have := kind6_big (c := d) (by omega)
    omega
  · apply Classical.byContradiction
    intro hne
    obtain ⟨e, he, e1, _⟩ := sg_mem hne
    have := List.all_eq_true.1 j2 e he
    simp [Nat.blt_eq] at this
    omega
  · show pkF P5 d = false
    rw [Bool.eq_false_iff]
    intro hp
    obtain ⟨p, hp, e1, _⟩ := pk_mem hp
    have := List.all_eq_true.1 j1 p hp
    simp [Nat.blt_eq] at this
    omega
theorem sy5_plain (c : Int) : ∀ d ∈ T5.sy c, Plain T5 d := fun d hd => by
  have := split6_mem (c := c) hd
  exact jamo_plain (by omega) (by omega)
/-- numbers of a rune's kind -/
def R32 (c : Int) : Prop := -2147483648 ≤ c ∧ c ≤ 2147483647
theorem sy5_in (c : Int) : ∀ d ∈ T5.sy c, R32 d := fun d hd => by
  have := split6_mem (c := c) hd
  unfold R32; omega
theorem sg5_in (c : Int) : R32 (T5.sg c) := by
  have := tab_castE_bd (m := 1114111) (fun e he => (fine5.s e he).2) c
  show R32 (tab (castE S5) c)
  unfold R32; omega
theorem px5_in (c : Int) : R32 (T5.px c) := by
  show R32 (pxF P5 c)
  unfold pxF R32
  cases hl : lastP P5 c with
  | none => simp
  | some p => have := (fine5.p p (lastP_some hl).1).2.1; simp; omega
theorem py5_in (c : Int) : R32 (T5.py c) := by
  show R32 (pyF P5 c)
  unfold pyF R32
  cases hl : lastP P5 c with
  | none => simp
  | some p => have := (fine5.p p (lastP_some hl).1).2.2; simp; omega
theorem parts5_in {l : List Int} (hl : ∀ c ∈ l, R32 c) : ∀ d ∈ partsF T5 l, R32 d := partsF_in sy5_in sg5_in px5_in py5_in hl
theorem full5_in {c : Int} (hc : R32 c) : ∀ d ∈ fullF T5 c, R32 d := fun d hd => parts5_in (l := [c]) (by simpa using hc) d (by rw [partsF_one]; exact hd)
theorem all5_in {l : List Int} (hl : ∀ c ∈ l, R32 c) : ∀ d ∈ allF T5 cl5 l, R32 d := fun d hd => parts5_in hl d (ordL_mem.1 hd)
theorem ord_in {l : List Int} (hl : ∀ c ∈ l, R32 c) : ∀ d ∈ ordL cl5 l, R32 d := fun d hd => hl d (ordL_mem.1 hd)

/-! ### the chapter's examples -/
theorem pair_at {c x y : Nat} (h : ((lkP P5 c none).map fun p => (p.x, p.y)) = some (x, y)) : pkF P5 (c : Int) = true ∧ pxF P5 (c : Int) = x ∧ pyF P5 (c : Int) = y := by
  unfold pkF pxF pyF
  rw [lastP_at]
  cases hl : lkP P5 c none with
  | none => rw [hl] at h; cases h
  | some p =>
    rw [hl] at h
    simp at h
    obtain ⟨rfl, rfl⟩ := h
    exact ⟨rfl, rfl, rfl⟩
theorem sgl_at (c : Nat) : T5.sg (c : Int) = lk S5 c 0 := tab_at (fun e he => (fine5.s e he).1) c
theorem cl5_at (c : Nat) : cl5 (c : Int) = lk C5 c 0 := tab_at (fun e he => (fine5.c e he).1) c
theorem plain_at {c : Nat} (hc : c < 44032) (h : (!hasBit keysB c) = true) : Plain T5 (c : Int) := by
  obtain ⟨k1, k2⟩ := no_key (c := c) (by simpa using h)
  refine ⟨split6_none ?_, k1, k2⟩
  apply Classical.byContradiction
  intro h
  have := kind6_big (c := (c : Int)) (by omega)
  omega
theorem split_low {c : Nat} (hc : c < 44032) : T5.sy (c : Int) = [] := by
  refine split6_none ?_
  apply Classical.byContradiction
  intro h
  have := kind6_big (c := (c : Int)) (by omega)
  omega
theorem full_awake : fullF T5 7845 = [97, 770, 769] := by
  have k4 := kEx4
  have k5 := kEx5
  simp only [Bool.and_eq_true, Nat.beq_eq] at k4 k5
  obtain ⟨s1, s2, s3, s4⟩ := k4
  obtain ⟨b1, b2, b3, b4, b5⟩ := k5
  obtain ⟨p1, x1, y1⟩ := pair_at kEx1
  obtain ⟨p2, x2, y2⟩ := pair_at kEx2
  have e1 : fullF T5 ((7845 : Nat) : Int) = fullF T5 (pxF P5 ((7845 : Nat) : Int)) ++ fullF T5 (pyF P5 ((7845 : Nat) : Int)) := full_pk ends5 (split_low (by omega)) (by rw [sgl_at, s1]; rfl) p1
  have e2 : fullF T5 ((226 : Nat) : Int) = fullF T5 (pxF P5 ((226 : Nat) : Int)) ++ fullF T5 (pyF P5 ((226 : Nat) : Int)) := full_pk ends5 (split_low (by omega)) (by rw [sgl_at, s2]; rfl) p2
  rw [x2, y2, full_no (plain_at (by omega) b1), full_no (plain_at (by omega) b3)] at e2
  rw [x1, y1, e2, full_no (plain_at (by omega) b2)] at e1
  exact e1
theorem all_awake : allF T5 cl5 [8491] = [65, 778] := by
  have k4 := kEx4
  have k5 := kEx5
  simp only [Bool.and_eq_true, Nat.beq_eq] at k4 k5
  obtain ⟨s1, s2, s3, s4⟩ := k4
  obtain ⟨b1, b2, b3, b4, b5⟩ := k5
  obtain ⟨p1, x1, y1⟩ := pair_at kEx3
  have e0 : fullF T5 ((8491 : Nat) : Int) = fullF T5 (T5.sg ((8491 : Nat) : Int)) := full_sg ends5 (split_low (by omega)) (by rw [sgl_at, s4]; simp)
  have e1 : fullF T5 ((197 : Nat) : Int) = fullF T5 (pxF P5 ((197 : Nat) : Int)) ++ fullF T5 (pyF P5 ((197 : Nat) : Int)) := full_pk ends5 (split_low (by omega)) (by rw [sgl_at, s3]; rfl) p1
  rw [x1, y1, full_no (plain_at (by omega) b4), full_no (plain_at (by omega) b5)] at e1
  rw [sgl_at, s4, e1] at e0
  unfold allF
  have e2 : partsF T5 [8491] = [65, 778] := (partsF_one _).trans e0
  rw [e2]
  refine ordL_self cl5_nn ⟨fun _ => ?_, trivial⟩
  have k6 := kEx6
  simp only [Bool.and_eq_true, Nat.beq_eq] at k6
  have h1 := cl5_at 65
  have h2 := cl5_at 778
  rw [k6.2.2.2.1] at h1
  rw [k6.2.2.2.2] at h2
  show cl5 ((65 : Nat) : Int) ≤ cl5 ((778 : Nat) : Int)
  rw [h1, h2]; omega
theorem ord_awake : ordL cl5 [97, 769, 807] = [97, 807, 769] := by
  have k6 := kEx6
  simp only [Bool.and_eq_true, Nat.beq_eq] at k6
  have h1 := cl5_at 97
  have h2 := cl5_at 769
  have h3 := cl5_at 807
  rw [k6.1] at h1
  rw [k6.2.1] at h2
  rw [k6.2.2.1] at h3
  have h1 : cl5 97 = 0 := h1
  have h2 : cl5 769 = 230 := h2
  have h3 : cl5 807 = 202 := h3
  refine (ordL_of cl5_nn (m := [97, 807, 769]) ?_ ?_).symm
  · exact (Sim.swap [] (by omega) (by omega) (by omega)).cons 97
  · exact ⟨fun _ => by omega, fun _ => by omega, trivial⟩
end Go.Proofs.YtdmcidljjfogjaaDoor

/- append onto a row that may have been handed in, told by where it lies: what a call does to the row that it is handed. -/
namespace Go.Proofs.YtdmcidljjfogjaaDoor
open Go.RowKit
set_option linter.unusedVariables false

/-- nothing but v's own row has turned, and v' lies there or is new -/
def Grew (w w' : World) (v v' : Value) : Prop := w.grownBy w' v.ownBlock ∧ ∀ g, v'.ownBlock = some g → v.ownBlock = some g ∨ w.heap.size ≤ g
theorem Grew.refl (w : World) (v : Value) : Grew w w v v := ⟨World.grownBy.refl w _, fun g h => .inl h⟩
theorem Grew.trans {w w1 w2 : World} {v v1 v2 : Value} (h : Grew w w1 v v1) (k : Grew w1 w2 v1 v2) : Grew w w2 v v2 := by
  refine ⟨⟨k.1.os.trans h.1.os, k.1.tape.trans h.1.tape, k.1.output.trans h.1.output, Nat.le_trans h.1.size k.1.size, fun i hi hne => ?_⟩, fun g hg => ?_⟩
  · refine (k.1.block i (Nat.lt_of_lt_of_le hi h.1.size) (fun e => ?_)).trans (h.1.block i hi hne)
    rcases h.2 i e.symm with h' | h'
    · exact hne h'.symm
    · omega
  · rcases k.2 g hg with h' | h'
    · exact h.2 g h'
    · exact .inr (Nat.le_trans h.1.size h')
theorem Grew.of_below {w w' : World} (v : Value) (h : Below w.heap.size w w') : Grew w w' v v := ⟨⟨h.os, h.tape, h.output, h.size, fun i hi _ => h.block i hi⟩, fun g h => .inl h⟩
theorem Grew.below {w w' : World} {base : Nat} {t : TypeId} {k : IntKind} {v v' : Value} {xs : List Int} (h : Grew w w' v v') (hO : Own w base t k v xs) (hb : base ≤ w.heap.size) : Below base w w' := own_grown_below hO h.1 hb
/-- a row that is read lies elsewhere -/
def Apart (A : Option Addr) (v : Value) : Prop := ∀ b o, A = some ⟨b, o, none⟩ → v.ownBlock ≠ some b
theorem apart_nil (A : Option Addr) (n c : Nat) : Apart A (.slice none n c) := fun b o _ h => by cases h
theorem Grew.ints {w w' : World} {k : IntKind} {A : Option Addr} {v v' : Value} {xs : List Int} (h : Grew w w' v v') (hI : Ints w w.heap.size k A xs) (hA : Apart A v) : Ints w' w'.heap.size k A xs := by
  rcases hI with h' | ⟨b, o, e, hb, hc⟩
  · exact .inl h'
  · exact .inr ⟨b, o, e, Nat.lt_of_lt_of_le hb h.1.size, fun j hj => h.1.cell (a := ⟨b, o + j, none⟩) (hc j hj) (fun e' => hA b o e e'.symm)⟩
theorem app_runL {P : Program} (w : World) (base : Nat) (t ty e : TypeId) (k : IntKind) (bytes : Nat) (ht : P.underlying t = some (.slice e)) (hi : (P.info? e).map (fun i => (i.zero, i.size, i.bytes)) = some (some (.int k 0), 1, bytes)) (h8 : bytes ≤ 8)
    (v : Value) (xs : List Int) (hown : Own w base e k v xs) (B : Nat) (A : Option Addr) (c : Nat) (ys : List Int) (hA : A = none → c = 0) (hr : Ints w B k A ys) (hlen : xs.length + ys.length ≤ 1099511627776) (hbase : base ≤ w.heap.size) :
    ∃ v' w', (Builtin.append_ #[t, t] ty #[v, .slice A ys.length c]).run P w = .ok v' w' ∧ Own w' base e k v' (xs ++ ys) ∧ Grew w w' v v' := by
  obtain ⟨i, hi0, hz, hsz, hby⟩ := info_parts hi
  have hb8 : (xs.length + ys.length) * bytes ≤ 140737488355328 := by
    have := Nat.mul_le_mul hlen h8
    omega
  cases A with
  | none =>
    have hy : ys = [] := by
      rcases hr with h | ⟨b, o, e, _⟩
      · exact h
      · cases e
    subst hy
    rw [hA rfl]
    exact ⟨v, w, run_append_owned_none w base t ty e i 1 ht hi0 v xs.length _ hown, by rw [List.append_nil]; exact hown, Grew.refl w _⟩
  | some ad =>
    have hn : ∀ j u, (ys.map (Value.int k))[j]? = some u → w.cell? (ad.add j) = some u := by
      intro j u hu
      rcases hr with h | ⟨b, o, e, _, hc⟩
      · subst h; simp at hu
      · injection e with e
        subst e
        have hj : j < ys.length := by
          apply Classical.byContradiction; intro hn
          rw [List.getElem?_eq_none (by simp; omega)] at hu; cases hu
        have ha : (⟨b, o, none⟩ : Addr).add j = ⟨b, o + j, none⟩ := by unfold Addr.add; split <;> simp_all
        rw [ha, hc j hj, ← hu]
        simp [List.getElem?_map, List.getD_eq_getElem?_getD, List.getElem?_eq_getElem hj]
    obtain ⟨v', w', hrun, h2, h3, _, h5⟩ := run_append_own_at (P := P) w base t ty e i (.int k 0) 1 bytes ht hi0 hz hsz hby rfl (by omega) v xs.length _ hown ad ys.length c (ys.map (Value.int k)) (by simp) hn (ints_oneCell k ys)
      (by simp only [maxLen]; omega) hb8 hbase
    exact ⟨v', w', hrun, by
      have : (xs ++ ys).length = xs.length + ys.length := by simp
      rw [Own, this, List.map_append]; exact h2, h3, fun g hg => by
      rcases h5 with h5 | h5
      · exact .inl (h5 ▸ hg)
      · rw [h5] at hg; injection hg with hg; exact .inr (by omega)⟩
theorem wpList_appL {P : Program} {w : World} {ops : Array Oper} {rest : List Oper} {o : Oper} {a : Act} {Q : Exit → Act → World → Prop} (hgd : o.guard = none) (s x : Operand) (t : TypeId)
    (ho : o.op = .call { callee := .builtin .append, args := #[s, x], argTypes := #[t, t] })
    (base : Nat) (e : TypeId) (k : IntKind) (bytes : Nat) (ht : P.underlying t = some (.slice e)) (hi : (P.info? e).map (fun i => (i.zero, i.size, i.bytes)) = some (some (.int k 0), 1, bytes)) (h8 : bytes ≤ 8)
    (v : Value) (xs : List Int) (hs : a.eval s = v) (hown : Own w base e k v xs) (B : Nat) (A : Option Addr) (n c : Nat) (ys : List Int) (hn : ys.length = n) (hx : a.eval x = .slice A n c) (hA : A = none → c = 0) (hr : Ints w B k A ys)
    (hlen : xs.length + ys.length ≤ 1099511627776) (hbase : base ≤ w.heap.size)
    (h : ∀ v' w', Own w' base e k v' (xs ++ ys) → Grew w w' v v' → wpList P ops Q rest (a.put o.dst v') w') : wpList P ops Q (o :: rest) a w := by
  subst hn
  refine wpList_plain hgd fun _ hK => ?_
  obtain ⟨v', w', hrun, h2, h3⟩ := app_runL (P := P) w base t o.type e k bytes ht hi h8 v xs hown B A c ys hA hr hlen hbase
  unfold Oper.wp execOp
  simp only [ho, resolve, invoke, builtin, Sem.run_bind, Sem.run_pure, Result.andThen_ok, List.map_toArray, List.map_cons, List.map_nil, hs, hx, hrun]
  exact hK _ _ (h v' w' h2 h3)
theorem wp_appL {P : Program} {w : World} {o : Oper} {a : Act} {K : Act → World → Prop} {Q : Exit → Act → World → Prop} (s x : Operand) (t : TypeId)
    (ho : o.op = .call { callee := .builtin .append, args := #[s, x], argTypes := #[t, t] })
    (base : Nat) (e : TypeId) (k : IntKind) (bytes : Nat) (ht : P.underlying t = some (.slice e)) (hi : (P.info? e).map (fun i => (i.zero, i.size, i.bytes)) = some (some (.int k 0), 1, bytes)) (h8 : bytes ≤ 8)
    (v : Value) (xs : List Int) (hs : a.eval s = v) (hown : Own w base e k v xs) (B : Nat) (A : Option Addr) (n c : Nat) (ys : List Int) (hn : ys.length = n) (hx : a.eval x = .slice A n c) (hA : A = none → c = 0) (hr : Ints w B k A ys)
    (hlen : xs.length + ys.length ≤ 1099511627776) (hbase : base ≤ w.heap.size)
    (h : ∀ v' w', Own w' base e k v' (xs ++ ys) → Grew w w' v v' → K (a.put o.dst v') w') : o.wp P a w K Q := by
  subst hn
  obtain ⟨v', w', hrun, h2, h3⟩ := app_runL (P := P) w base t o.type e k bytes ht hi h8 v xs hown B A c ys hA hr hlen hbase
  unfold Oper.wp execOp
  simp only [ho, resolve, invoke, builtin, Sem.run_bind, Sem.run_pure, Result.andThen_ok, List.map_toArray, List.map_cons, List.map_nil, hs, hx, hrun]
  exact h v' w' h2 h3
/-- the same, the row that comes out by letters -/
theorem wpList_appN {P : Program} {w : World} {ops : Array Oper} {rest : List Oper} {o : Oper} {a : Act} {Q : Exit → Act → World → Prop} (hgd : o.guard = none) (s x : Operand) (t : TypeId)
    (ho : o.op = .call { callee := .builtin .append, args := #[s, x], argTypes := #[t, t] })
    (base : Nat) (e : TypeId) (k : IntKind) (bytes : Nat) (ht : P.underlying t = some (.slice e)) (hi : (P.info? e).map (fun i => (i.zero, i.size, i.bytes)) = some (some (.int k 0), 1, bytes)) (h8 : bytes ≤ 8)
    (v : Value) (xs : List Int) (hs : a.eval s = v) (hown : Own w base e k v xs) (B : Nat) (A : Option Addr) (n c : Nat) (ys : List Int) (hn : ys.length = n) (hx : a.eval x = .slice A n c) (hA : A = none → c = 0) (hr : Ints w B k A ys)
    (hlen : xs.length + ys.length ≤ 1099511627776) (hbase : base ≤ w.heap.size)
    (h : ∀ A' m' c' w', xs.length + ys.length = m' → Own w' base e k (.slice A' m' c') (xs ++ ys) → Below base w w' → wpList P ops Q rest (a.put o.dst (.slice A' m' c')) w') : wpList P ops Q (o :: rest) a w :=
  wpList_appL hgd s x t ho base e k bytes ht hi h8 v xs hs hown B A n c ys hn hx hA hr hlen hbase fun v' w' hO hG => by
    obtain ⟨A', c', rfl, _, _⟩ := own_form hO
    exact h A' _ c' w' (by rw [List.length_append]) hO (hG.below hown hbase)
end Go.Proofs.YtdmcidljjfogjaaDoor

/- decomp.put and decomp.Full by their contracts. -/
namespace Go.Proofs.YtdmcidljjfogjaaDoor
open Go.ChangeShapes Go.WideShapes Go.ChangeAt Go.RowKit
set_option linter.unusedVariables false
set_option linter.unusedSimpArgs false

attribute [local irreducible] P5 S5 C5
theorem single7 {w : World} {B g : Nat} (hT : TblAt w B g C5 P5 S5) (c : Int) : Calls Tryd.prog 66 #[.pointer (some ⟨g, 0, none⟩), .int .i32 c] w fun e w' => e = .returned (.tuple #[.int .i32 (T5.sg c), .bool (T5.sg c != 0)]) ∧ Still w w' := singleQ hT fine5 c
theorem pair7 {w : World} {B g : Nat} (hT : TblAt w B g C5 P5 S5) (c : Int) : Calls Tryd.prog 67 #[.pointer (some ⟨g, 0, none⟩), .int .i32 c] w fun e w' => e = .returned (.tuple #[.int .i32 (T5.px c), .int .i32 (T5.py c), .bool (T5.pk c)]) ∧ Below w.heap.size w w' := pairQ hT fine5 c
theorem class7 {w : World} {B g : Nat} (hT : TblAt w B g C5 P5 S5) (c : Int) : Calls Tryd.prog 52 #[.pointer (some ⟨g, 0, none⟩), .int .i32 c] w fun e w' => e = .returned (.int .i64 (cl5 c)) ∧ Still w w' := classQ hT c
theorem split7 (c : Int) (w : World) (hc : R32 c) : Calls Tryd.prog 87 #[.int .i32 c] w (RowRes 21 .i32 w (T5.sy c)) := hsplit_any c w hc.1 hc.2

/-- the row that was handed in, with more behind it -/
def PutPost (base : Nat) (w : World) (v : Value) (zs : List Int) (e : Ending) (w' : World) : Prop := ∃ v', e = .returned v' ∧ Own w' base 21 .i32 v' zs ∧ Grew w w' v v'
abbrev PutOk (n : Nat) : Prop := ∀ (l : List Int), (∀ c ∈ l, Ends T5 n c) → (∀ c ∈ l, R32 c) → ∀ (w : World) (base g : Nat) (v : Value) (xs : List Int) (A : Option Addr) (m c : Nat), l.length = m → Own w base 21 .i32 v xs → base ≤ w.heap.size →
  TblAt w base g C5 P5 S5 → Ints w w.heap.size .i32 A l → Apart A v → xs.length + 96 * m + 96 * n ≤ 1000000000 → Calls Tryd.prog 74 #[v, .pointer (some ⟨g, 0, none⟩), .slice A m c] w (PutPost base w v (xs ++ partsF T5 l))
def PutLoop (base : Nat) (w : World) (v : Value) (xs l : List Int) (t i : Value) (wr : World) : Prop :=
  ∃ k : Nat, k ≤ l.length ∧ i = .int .i64 k ∧ Own wr base 21 .i32 t (xs ++ partsF T5 (l.take k)) ∧ Grew w wr v t

set_option maxHeartbeats 2000000 in
theorem put_step (n : Nat) (IH : ∀ k, n = k + 1 → PutOk k) : PutOk n := by
  intro l hE hR w base g v xs A m c hm hO hbase hT hI hAp hlen
  have HIH := Lib.hid IH
  have HE := Lib.hid hE
  have HR := Lib.hid hR
  have HO := Lib.hid hO
  have HT := Lib.hid hT
  have HI := Lib.hid hI
  have HAp := Lib.hid hAp
  have HM := Lib.hid hm
  clear IH hE hR hO hT hI hAp hm
  go_enter Tryd.func74, Tryd.ntmps74
  go_wp2_with fail
  go_loopw [0, 17] (fun t i wr => PutLoop base w v xs l t i wr) (fun _ i _ => m - (intOf i).toNat)
  case atStart => exact ⟨0, by omega, rfl, by simpa [partsF] using HO.out, Grew.refl w v⟩
  case round =>
    obtain ⟨k, hk, rfl, hOt, hG⟩ := hrel
    rw [HM.out] at hk
    by_cases hlt : k < m
    · have hkl : k < l.length := by rw [HM.out]; exact hlt
      have HOt := Lib.hid hOt
      have HG := Lib.hid hG
      have hIt := hG.ints HI.out HAp.out
      obtain ⟨b, o, rfl, hbl, hc⟩ := hIt.at (by omega)
      have h1 : wr.cell? ⟨b, o + k, none⟩ = some (.int .i32 (l.getD k 0)) := hc k hkl
      have hmem : l.getD k 0 ∈ l := by
        rw [List.getD_eq_getElem?_getD, List.getElem?_eq_getElem hkl]
        exact List.getElem_mem hkl
      have HEc := Lib.hid (HE.out _ hmem)
      have HRc := Lib.hid (HR.out _ hmem)
      have HS := Lib.hid (take_snoc l k hkl)
      have hbt : Below base w wr := hG.below HO.out hbase
      have HTt := Lib.hid (HT.out.below hbt (Nat.le_refl _))
      have hbr : base ≤ wr.heap.size := Nat.le_trans hbase hG.1.size
      have hlx : (xs ++ partsF T5 (l.take k)).length ≤ xs.length + 96 * k := by
        have := partsF_len sy5_len (l.take k)
        rw [List.length_take] at this
        rw [List.length_append]; omega
      clear hc hOt hG hIt hbt hmem
      generalize hcc : l.getD k 0 = cc at *
      clear hcc
      generalize hxx : xs ++ partsF T5 (l.take k) = xt at *
      have HX := Lib.hid hxx
      clear hxx
      have hlt' : (k : Int) < m := by omega
      cases n with
      | zero => exact HEc.out.elim
      | succ n =>
      have HP : Hid (PutOk n) := Lib.hid (HIH.out n rfl)
      have HSP : Hid (∀ W, Calls Tryd.prog 87 #[.int .i32 cc] W (RowRes 21 .i32 W (T5.sy cc))) := Lib.hid fun W => split7 cc W HRc.out
      have hsl := sy5_len cc
      by_cases hsy : T5.sy cc = []
      · rw [hsy] at HSP
        have HCQ : Hid (∀ W, TblAt W base g C5 P5 S5 → Calls Tryd.prog 66 #[.pointer (some ⟨g, 0, none⟩), .int .i32 cc] W fun e w' => e = .returned (.tuple #[.int .i32 (T5.sg cc), .bool (T5.sg cc != 0)]) ∧ Still W w') := Lib.hid fun W h => single7 h cc
        have HPQ : Hid (∀ W, TblAt W base g C5 P5 S5 → Calls Tryd.prog 67 #[.pointer (some ⟨g, 0, none⟩), .int .i32 cc] W fun e w' => e = .returned (.tuple #[.int .i32 (T5.px cc), .int .i32 (T5.py cc), .bool (T5.pk cc)]) ∧ Below W.heap.size W w') := Lib.hid fun W h => pair7 h cc
        obtain ⟨hE1, hE2⟩ := HEc.out hsy
        have HSI := Lib.hid (sg5_in cc)
        have HXI := Lib.hid (px5_in cc)
        have HYI := Lib.hid (py5_in cc)
        by_cases hsg : T5.sg cc = 0
        · cases hpk : T5.pk cc with
          | true =>
            have HFULL : Hid (partsF T5 (l.take (k + 1)) = partsF T5 (l.take k) ++ partsF T5 [T5.px cc, T5.py cc]) := Lib.hid (by rw [HS.out, partsF_snoc, partsF_two, full_pk ends5 hsy hsg hpk])
            have HEX := Lib.hid (hE2 hsg hpk)
            rw [hpk] at HPQ
            rw [hsg] at HCQ
            clear hsg hE1 hE2 hsy HEc hpk
            generalize T5.px cc = fx at *
            generalize T5.py cc = fy at *
            go_wp2_with fail
            with_reducible refine (HSP.out _).mono ?_
            rintro e w2 ⟨v2, rfl, hO2, hb2⟩
            obtain ⟨A2, c2, rfl, hc2, hcm⟩ := own_form hO2
            have HB2 := Lib.hid hb2
            clear hO2 hb2
            have hz0 : (([] : List Int).length : Int) = 0 := rfl
            go_wp2_with fail
            with_reducible refine (HCQ.out _ (HTt.out.below HB2.out (by omega))).mono ?_
            rintro e w3 ⟨rfl, hs3⟩
            have HB3 : Hid (Below wr.heap.size wr w3) := Lib.hid (HB2.out.trans (hs3.lower _))
            clear hs3 HB2
            have h00 : ((0 : Int) != 0) = false := rfl
            go_wp2_with fail
            with_reducible refine (HPQ.out _ (HTt.out.below HB3.out (by omega))).mono ?_
            rintro e w4 ⟨rfl, hb4⟩
            have HB4 : Hid (Below wr.heap.size wr w4) := Lib.hid (HB3.out.trans (hb4.mono HB3.out.size))
            clear hb4 HB3
            go_wp2_with fail
            have HO4 : Hid (Own w4 base 21 .i32 u0 xt) := Lib.hid (own_below HOt.out HB4.out (Nat.le_refl _))
            have hb4 : base ≤ w4.heap.size := Nat.le_trans hbr HB4.out.size
            have HI5 : Hid (Ints (w4.alloc (.cells #[.int .i32 fx, .int .i32 fy] 21)) (w4.alloc (.cells #[.int .i32 fx, .int .i32 fy] 21)).heap.size .i32 (some ⟨w4.heap.size, 0, none⟩) [fx, fy]) := Lib.hid (by rw [World.size_alloc]; exact Ints.lit w4 21 .i32 [fx, fy])
            have HA5 : Hid (Apart (some ⟨w4.heap.size, 0, none⟩) u0) := Lib.hid fun b o e h => by
              have := (HO4.out.lt b h).2
              injection e with e; injection e with e1; omega
            have HT5 : Hid (TblAt (w4.alloc (.cells #[.int .i32 fx, .int .i32 fy] 21)) base g C5 P5 S5) := Lib.hid ((HTt.out.below HB4.out (by omega)).below ((Below.refl _ _).alloc (Nat.le_refl _) _) (by omega))
            have HG5 : Hid (Grew w (w4.alloc (.cells #[.int .i32 fx, .int .i32 fy] 21)) v u0) := Lib.hid (HG.out.trans (Grew.of_below u0 (HB4.out.alloc HB4.out.size _)))
            with_reducible refine (HP.out [fx, fy] ?_ ?_ _ base g u0 xt _ 2 2 rfl (HO4.out.alloc _) (by rw [World.size_alloc]; omega) HT5.out HI5.out HA5.out (by omega)).mono ?_
            · intro x hx
              simp only [List.mem_cons, List.not_mem_nil, or_false] at hx
              rcases hx with rfl | rfl
              · exact HEX.out.1
              · exact HEX.out.2
            · intro x hx
              simp only [List.mem_cons, List.not_mem_nil, or_false] at hx
              rcases hx with rfl | rfl
              · exact HXI.out
              · exact HYI.out
            rintro e w6 ⟨v6, rfl, hO6, hG6⟩
            have HO6 := Lib.hid hO6
            have HG6 := Lib.hid (HG5.out.trans hG6)
            clear hO6 hG6 HG5 HT5 HI5 HA5 HO4
            go_wp2
            go_roundw
            case rel => exact ⟨k + 1, by rw [HM.out]; omega, by go_num, by rw [HFULL.out, ← List.append_assoc, HX.out]; exact HO6.out, HG6.out⟩
            case measure => simp [intOf]; omega
          | false =>
            have HFULL : Hid (partsF T5 (l.take (k + 1)) = partsF T5 (l.take k) ++ [cc]) := Lib.hid (by rw [HS.out, partsF_snoc, full_no ⟨hsy, hsg, hpk⟩])
            rw [hpk] at HPQ
            rw [hsg] at HCQ
            clear hsg hE1 hE2 hsy HEc hpk
            generalize T5.px cc = fx at *
            generalize T5.py cc = fy at *
            go_wp2_with fail
            with_reducible refine (HSP.out _).mono ?_
            rintro e w2 ⟨v2, rfl, hO2, hb2⟩
            obtain ⟨A2, c2, rfl, hc2, hcm⟩ := own_form hO2
            have HB2 := Lib.hid hb2
            clear hO2 hb2
            have hz0 : (([] : List Int).length : Int) = 0 := rfl
            go_wp2_with fail
            with_reducible refine (HCQ.out _ (HTt.out.below HB2.out (by omega))).mono ?_
            rintro e w3 ⟨rfl, hs3⟩
            have HB3 : Hid (Below wr.heap.size wr w3) := Lib.hid (HB2.out.trans (hs3.lower _))
            clear hs3 HB2
            have h00 : ((0 : Int) != 0) = false := rfl
            go_wp2_with fail
            with_reducible refine (HPQ.out _ (HTt.out.below HB3.out (by omega))).mono ?_
            rintro e w4 ⟨rfl, hb4⟩
            have HB4 : Hid (Below wr.heap.size wr w4) := Lib.hid (HB3.out.trans (hb4.mono HB3.out.size))
            clear hb4 HB3
            have HO4 : Hid (Own w4 base 21 .i32 u0 xt) := Lib.hid (own_below HOt.out HB4.out (Nat.le_refl _))
            have hb4 : base ≤ w4.heap.size := Nat.le_trans hbr HB4.out.size
            have HG5 : Hid (Grew w (w4.alloc (.cells #[.int .i32 cc] 21)) v u0) := Lib.hid (HG.out.trans (Grew.of_below u0 (HB4.out.alloc HB4.out.size _)))
            go_wp2_with (at_builtin; refine wpList_appL rfl (.tmp 55) (.tmp 57) 22 rfl base 21 .i32 4 Tryd.underlying22 info_i32 (by omega) _ xt rfl (HO4.out.alloc _) _ _ _ 1 [cc] rfl rfl (fun h => by cases h) (Ints.lit w4 21 .i32 [cc]) (by simp; omega) (by rw [World.size_alloc]; omega) ?_; intro v6 w6 hO6 hG6)
            have HO6 := Lib.hid hO6
            have HG6 := Lib.hid (HG5.out.trans hG6)
            clear hO6 hG6 HG5 HO4
            go_wp2
            go_roundw
            case rel => exact ⟨k + 1, by rw [HM.out]; omega, by go_num, by rw [HFULL.out, ← List.append_assoc, HX.out]; exact HO6.out, HG6.out⟩
            case measure => simp [intOf]; omega
        · have HFULL : Hid (partsF T5 (l.take (k + 1)) = partsF T5 (l.take k) ++ partsF T5 [T5.sg cc]) := Lib.hid (by rw [HS.out, partsF_snoc, partsF_one, full_sg ends5 hsy hsg])
          have HEX := Lib.hid (hE1 hsg)
          have hs0 : (T5.sg cc != 0) = true := by simp [hsg]
          rw [hs0] at HCQ
          clear hsg hE1 hE2 hsy HEc hs0 HPQ
          generalize T5.sg cc = fx at *
          go_wp2_with fail
          with_reducible refine (HSP.out _).mono ?_
          rintro e w2 ⟨v2, rfl, hO2, hb2⟩
          obtain ⟨A2, c2, rfl, hc2, hcm⟩ := own_form hO2
          have HB2 := Lib.hid hb2
          clear hO2 hb2
          have hz0 : (([] : List Int).length : Int) = 0 := rfl
          go_wp2_with fail
          with_reducible refine (HCQ.out _ (HTt.out.below HB2.out (by omega))).mono ?_
          rintro e w3 ⟨rfl, hs3⟩
          have HB3 : Hid (Below wr.heap.size wr w3) := Lib.hid (HB2.out.trans (hs3.lower _))
          clear hs3 HB2
          go_wp2_with fail
          have HO4 : Hid (Own w3 base 21 .i32 u0 xt) := Lib.hid (own_below HOt.out HB3.out (Nat.le_refl _))
          have hb3 : base ≤ w3.heap.size := Nat.le_trans hbr HB3.out.size
          have HI5 : Hid (Ints (w3.alloc (.cells #[.int .i32 fx] 21)) (w3.alloc (.cells #[.int .i32 fx] 21)).heap.size .i32 (some ⟨w3.heap.size, 0, none⟩) [fx]) := Lib.hid (by rw [World.size_alloc]; exact Ints.lit w3 21 .i32 [fx])
          have HA5 : Hid (Apart (some ⟨w3.heap.size, 0, none⟩) u0) := Lib.hid fun b o e h => by
            have := (HO4.out.lt b h).2
            injection e with e; injection e with e1; omega
          have HT5 : Hid (TblAt (w3.alloc (.cells #[.int .i32 fx] 21)) base g C5 P5 S5) := Lib.hid ((HTt.out.below HB3.out (by omega)).below ((Below.refl _ _).alloc (Nat.le_refl _) _) (by omega))
          have HG5 : Hid (Grew w (w3.alloc (.cells #[.int .i32 fx] 21)) v u0) := Lib.hid (HG.out.trans (Grew.of_below u0 (HB3.out.alloc HB3.out.size _)))
          with_reducible refine (HP.out [fx] ?_ ?_ _ base g u0 xt _ 1 1 rfl (HO4.out.alloc _) (by rw [World.size_alloc]; omega) HT5.out HI5.out HA5.out (by omega)).mono ?_
          · intro x hx
            simp only [List.mem_cons, List.not_mem_nil, or_false] at hx
            subst hx
            exact HEX.out
          · intro x hx
            simp only [List.mem_cons, List.not_mem_nil, or_false] at hx
            subst hx
            exact HSI.out
          rintro e w6 ⟨v6, rfl, hO6, hG6⟩
          have HO6 := Lib.hid hO6
          have HG6 := Lib.hid (HG5.out.trans hG6)
          clear hO6 hG6 HG5 HT5 HI5 HA5 HO4
          go_wp2
          go_roundw
          case rel => exact ⟨k + 1, by rw [HM.out]; omega, by go_num, by rw [HFULL.out, ← List.append_assoc, HX.out]; exact HO6.out, HG6.out⟩
          case measure => simp [intOf]; omega
      · have HFULL : Hid (partsF T5 (l.take (k + 1)) = partsF T5 (l.take k) ++ T5.sy cc) := Lib.hid (by rw [HS.out, partsF_snoc, full_sy hsy])
        have hpos : 0 < (T5.sy cc).length := List.length_pos_iff.2 hsy
        clear hsy HEc
        generalize T5.sy cc = ss at *
        generalize hns : ss.length = ns at *
        have HNS := Lib.hid hns
        go_wp2_with fail
        with_reducible refine (HSP.out _).mono ?_
        rintro e w2 ⟨v2, rfl, hO2, hb2⟩
        obtain ⟨A2, c2, rfl, hc2, hcm⟩ := own_form hO2
        have HN2 := Lib.hid (own_nil hO2)
        have HI2 : Hid (Ints w2 w2.heap.size .i32 A2 ss) := Lib.hid (Ints.own hO2)
        have HB2 := Lib.hid hb2
        clear hO2 hb2
        rw [HNS.out] at hc2
        rw [HNS.out]
        clear hns
        have hpos' : (0 : Int) < ns := by omega
        have HO4 : Hid (Own w2 base 21 .i32 u0 xt) := Lib.hid (own_below HOt.out HB2.out (Nat.le_refl _))
        have hb4 : base ≤ w2.heap.size := Nat.le_trans hbr HB2.out.size
        have HG5 : Hid (Grew w w2 v u0) := Lib.hid (HG.out.trans (Grew.of_below u0 HB2.out))
        go_wp2_with (at_builtin; refine wpList_appL rfl (.tmp 26) (.tmp 27) 22 rfl base 21 .i32 4 Tryd.underlying22 info_i32 (by omega) _ xt rfl HO4.out _ _ _ _ ss HNS.out rfl HN2.out HI2.out (by rw [HNS.out]; omega) hb4 ?_; intro v6 w6 hO6 hG6)
        have HO6 := Lib.hid hO6
        have HG6 := Lib.hid (HG5.out.trans hG6)
        clear hO6 hG6 HG5 HO4
        go_wp2
        go_roundw
        case rel => exact ⟨k + 1, by rw [HM.out]; omega, by go_num, by rw [HFULL.out, ← List.append_assoc, HX.out]; exact HO6.out, HG6.out⟩
        case measure => simp [intOf]; omega
    · have hkk : k = m := by omega
      subst hkk
      have hlt' : ¬ (k : Int) < k := by omega
      have HOt := Lib.hid hOt
      have HG := Lib.hid hG
      clear hOt hG
      go_wp2
      go_ret
      exact ⟨_, rfl, by have h := HOt.out; rwa [List.take_of_length_le (by rw [HM.out]; exact Nat.le_refl _)] at h, HG.out⟩
end Go.Proofs.YtdmcidljjfogjaaDoor

/- Rows of runes that are handed from call to call. -/
namespace Go.Proofs.YtdmcidljjfogjaaDoor
open Go.RowKit
set_option linter.unusedVariables false

/-- a row of runes that is read: its length and its room by letters -/
structure RowIn (w : World) (A : Option Addr) (n c : Nat) (xs : List Int) : Prop where
  len : xs.length = n
  le : n ≤ c
  cap : c ≤ maxLen
  nil : A = none → c = 0
  ints : Ints w w.heap.size .i32 A xs
theorem addr_add (b o k : Nat) : (⟨b, o, none⟩ : Addr).add k = ⟨b, o + k, none⟩ := by unfold Addr.add; split <;> simp_all
theorem RowIn.go {w w' : World} {A : Option Addr} {n c : Nat} {xs : List Int} (h : RowIn w A n c xs) (hb : Below w.heap.size w w') : RowIn w' A n c xs := ⟨h.len, h.le, h.cap, h.nil, h.ints.go hb⟩
theorem RowIn.take {w : World} {A : Option Addr} {n c : Nat} {xs : List Int} (h : RowIn w A n c xs) (k : Nat) (hk : k ≤ n) : RowIn w A k c (xs.take k) :=
  ⟨by rw [List.length_take, h.len]; omega, Nat.le_trans hk h.le, h.cap, h.nil, h.ints.take k⟩
theorem RowIn.tail {w : World} {A : Option Addr} {n c : Nat} {xs : List Int} (h : RowIn w A n c xs) (k : Nat) (hk : k ≤ n) : RowIn w (if c = k then A else Option.map (fun x => x.add k) A) (n - k) (c - k) (xs.drop k) := by
  have h1 := h.len
  have h2 := h.le
  have h3 := h.cap
  refine ⟨by rw [List.length_drop]; omega, by omega, by omega, fun e => ?_, ?_⟩
  · by_cases hc : c = k
    · omega
    · rw [if_neg hc] at e
      cases A with
      | none => have := h.nil rfl; omega
      | some x => cases e
  · by_cases e : c = k
    · rw [List.drop_eq_nil_of_le (by omega)]; exact .inl rfl
    · rw [if_neg e]
      rcases h.ints with h | ⟨b, o, rfl, hl, hcl⟩
      · subst h; exact .inl (by simp)
      · have ha : (⟨b, o, none⟩ : Addr).add k = ⟨b, o + k, none⟩ := by unfold Addr.add; split <;> simp_all
        rw [Option.map_some, ha]
        exact Ints.drop (.inr ⟨b, o, rfl, hl, hcl⟩) k
theorem RowIn.ofOwn {w : World} {base : Nat} {t : TypeId} {A : Option Addr} {n c : Nat} {xs : List Int} (h : w.ownsRow base t 1 (.slice A n c) n (xs.map (Value.int .i32))) : RowIn w A n c xs := by
  have hl := own_len h
  obtain ⟨A', c', e, h1, h2⟩ := own_form h
  injection e with e1 e2 e3
  exact ⟨by simpa using hl, by omega, by omega, own_nil h, Ints.own h⟩
/-- a row that is handed back -/
def RowOut (w : World) (zs : List Int) (e : Ending) (w' : World) : Prop := ∃ A n c, e = .returned (.slice A n c) ∧ RowIn w' A n c zs ∧ Below w.heap.size w w'
theorem RowRes.out {t : TypeId} {w w' : World} {zs : List Int} {e : Ending} (h : RowRes t .i32 w zs e w') : RowOut w zs e w' := by
  obtain ⟨v, rfl, hO, hb⟩ := h
  obtain ⟨A, c, rfl, hc, hcm⟩ := own_form hO
  exact ⟨A, _, c, rfl, RowIn.ofOwn hO, hb⟩
/-- a row that is not empty lies somewhere -/
theorem RowIn.first {w : World} {A : Option Addr} {n c : Nat} {xs : List Int} (h : RowIn w A n c xs) (hp : 0 < n) : ∃ b o, A = some ⟨b, o, none⟩ ∧ b < w.heap.size ∧ ∀ j, j < n → w.cell? ⟨b, o + j, none⟩ = some (.int .i32 (xs.getD j 0)) := by
  obtain ⟨b, o, e, hb, hc⟩ := h.ints.at (by rw [h.len]; exact hp)
  exact ⟨b, o, e, hb, fun j hj => hc j (by rw [h.len]; exact hj)⟩
end Go.Proofs.YtdmcidljjfogjaaDoor

/- decomp.run, merge, byClass by their contracts. -/
namespace Go.Proofs.YtdmcidljjfogjaaDoor
set_option maxRecDepth 100000
open Go.ChangeShapes Go.WideShapes Go.ChangeAt Go.RowKit
set_option linter.unusedVariables false
set_option linter.unusedSimpArgs false

theorem quiet_st {P : Program} {f : FuncId} {args : Array Value} {w : World} {n : Nat} {v : Value}
    (h : Calls P f args (w.drewN n) fun e w' => e = .returned v ∧ Still (w.drewN n) w') : Calls P f args (w.drewN n) fun e w'' => e = .returned v ∧ ∃ m, w'' = w.drewN m :=
  h.mono fun _ _ ⟨he, m, hm⟩ => ⟨he, n + m, by rw [hm, World.drewN_drewN]⟩
def MergeLoop (w : World) (xs ys : List Int) (s1 s2 s7 : Value) (wr : World) : Prop :=
  ∃ A n c B m d a b z, s1 = .slice A n c ∧ s2 = .slice B m d ∧ RowIn w A n c a ∧ RowIn w B m d b ∧ a.length ≤ xs.length ∧ b.length ≤ ys.length ∧ Own wr w.heap.size 21 .i32 s7 z ∧ mergeC cl5 xs ys = z ++ mergeC cl5 a b ∧ Below w.heap.size w wr
def lenOf : Value → Nat
  | .slice _ n _ => n
  | _ => 0

set_option maxHeartbeats 4000000 in
theorem merge_any (w : World) (g : Nat) (A : Option Addr) (n c : Nat) (xs : List Int) (B : Option Addr) (m d : Nat) (ys : List Int) (hA : RowIn w A n c xs) (hB : RowIn w B m d ys) (hT : TblAt w w.heap.size g C5 P5 S5) (hnm : n + m ≤ 1000000000) :
    Calls Tryd.prog 93 #[.pointer (some ⟨g, 0, none⟩), .slice A n c, .slice B m d] w (RowRes 21 .i32 w (mergeC cl5 xs ys)) := by
  obtain ⟨ti, hi0, hz, hsz, hby⟩ := info_parts info_i32
  have HA := Lib.hid hA
  have HB := Lib.hid hB
  have HT := Lib.hid hT
  have hlx := hA.len
  have hly := hB.len
  have HINFO := Lib.hid (And.intro hi0 (And.intro hz (And.intro hsz hby)))
  clear hA hB hT hi0 hz hsz hby
  go_enter Tryd.func93, Tryd.ntmps93
  go_wp2_with (at_make; refine wpList_make_own _ rfl _ _ 22 rfl w.heap.size 21 ti (.int .i32 0) 1 Tryd.underlying22 HINFO.out.1 HINFO.out.2.1 HINFO.out.2.2.1 .i64 .i64 _ (n + m) rfl rfl (by omega) (by rw [HINFO.out.2.2.2]; omega) (by unfold maxLen; omega) (Nat.le_refl _) ?_; intro w0 hown0 hgrow0)
  have hb0 : Below w.heap.size w w0 := (Below.refl _ _).grown hgrow0 (Nat.le_refl _) (fun _ h => by cases h)
  go_loopw [1, 2, 7] (fun s1 s2 s7 wr => MergeLoop w xs ys s1 s2 s7 wr) (fun s1 s2 _ _ => lenOf s1 + lenOf s2)
  case atStart => exact ⟨A, n, c, B, m, d, xs, ys, [], rfl, rfl, HA.out, HB.out, Nat.le_refl _, Nat.le_refl _, hown0, rfl, hb0⟩
  case round =>
    clear hb0 hown0 hgrow0
    obtain ⟨A1, n1, c1, B1, m1, d1, a, b, z, rfl, rfl, hA1, hB1, hla, hlb, hO, hM, hb⟩ := hrel
    have HM := Lib.hid hM
    have HO := Lib.hid hO
    have HA1 := Lib.hid hA1
    have HB1 := Lib.hid hB1
    have HBE := Lib.hid hb
    have hl1 := hA1.len
    have hl2 := hB1.len
    have hc1 := hA1.le
    have hc2 := hB1.le
    have hc3 := hA1.cap
    have hc4 := hB1.cap
    unfold maxLen at hc3 hc4
    have hzl : z.length + n1 + m1 = n + m := by
      have := congrArg List.length hM
      unfold mergeC at this
      rw [List.length_append, List.length_merge, List.length_merge] at this
      omega
    have HTr := Lib.hid (HT.out.below hb (Nat.le_refl _))
    by_cases hn : 0 < n1
    · by_cases hm : 0 < m1
      · obtain ⟨ba, oa, rfl, hba, hca⟩ := hA1.first hn
        obtain ⟨bb, ob, rfl, hbb, hcb⟩ := hB1.first hm
        have h1 : wr.cell? ⟨ba, oa, none⟩ = some (.int .i32 (a.getD 0 0)) := (hb.cell (p := ⟨ba, oa, none⟩) hba).trans (hca 0 hn)
        have h2 : wr.cell? ⟨bb, ob, none⟩ = some (.int .i32 (b.getD 0 0)) := (hb.cell (p := ⟨bb, ob, none⟩) hbb).trans (hcb 0 hm)
        clear hca hcb hM hO hA1 hB1 hb
        cases a with
        | nil => simp at hl1; omega
        | cons x a =>
        cases b with
        | nil => simp at hl2; omega
        | cons y b =>
        simp only [List.getD_cons_zero, List.length_cons] at h1 h2 hl1 hl2
        have hn' : (0 : Int) < n1 := by omega
        have hm' : (0 : Int) < m1 := by omega
        have hn'' : (1 : Int) ≤ n1 := by omega
        have hm'' : (1 : Int) ≤ m1 := by omega
        have HC1 : Hid (∀ q, Calls Tryd.prog 52 #[.pointer (some ⟨g, 0, none⟩), .int .i32 x] (wr.drewN q) fun e w'' => e = .returned (.int .i64 (cl5 x)) ∧ ∃ m, w'' = wr.drewN m) := Lib.hid fun q => quiet_st (class7 (HTr.out.below (below_drewN' (Below.refl _ _) q) (Nat.le_refl _)) x)
        have HC2 : Hid (∀ q, Calls Tryd.prog 52 #[.pointer (some ⟨g, 0, none⟩), .int .i32 y] (wr.drewN q) fun e w'' => e = .returned (.int .i64 (cl5 y)) ∧ ∃ m, w'' = wr.drewN m) := Lib.hid fun q => quiet_st (class7 (HTr.out.below (below_drewN' (Below.refl _ _) q) (Nat.le_refl _)) y)
        have HLE := Lib.hid (mergeC_le (cl := cl5) (x := x) (y := y) a b)
        have HGT := Lib.hid (mergeC_gt (cl := cl5) (x := x) (y := y) a b)
        generalize cl5 x = cx at *
        generalize cl5 y = cy at *
        by_cases hxy : cx ≤ cy
        · have HMM : Hid (mergeC cl5 xs ys = (z ++ [x]) ++ mergeC cl5 a (y :: b)) := Lib.hid (by rw [HM.out, HLE.out hxy]; simp)
          clear HLE HGT HM
          have HTL : Hid (RowIn w (if c1 = 1 then some ⟨ba, oa, none⟩ else some ⟨ba, oa + 1, none⟩) (n1 - 1) (c1 - 1) a) := Lib.hid (by
            have h := HA1.out.tail 1 (by omega)
            have ha : (⟨ba, oa, none⟩ : Addr).add 1 = ⟨ba, oa + 1, none⟩ := by unfold Addr.add; split <;> simp_all
            rw [Option.map_some, ha] at h
            exact h)
          have hd : decide (cx ≤ cy) = true := decide_eq_true hxy
          go_wp2_with fail
          go_quiet ((go_at_call 52; first | with_reducible exact HC1.out _ | with_reducible exact HC2.out _))
          go_wp2_with fail
          refine wp_region_A (by kernel_rfl) ?_
          have hb5 : Below wr.heap.size wr (wr.drewN nq).drew := (below_drewN' (Below.refl _ _) nq).drew
          generalize (wr.drewN nq).drew = w5 at *
          have hx5 : w5.cell? ⟨ba, oa, none⟩ = some (.int .i32 x) := (hb5.cell (p := ⟨ba, oa, none⟩) (Nat.lt_of_lt_of_le hba HBE.out.size)).trans h1
          have HO5 : Hid (Own w5 w.heap.size 21 .i32 u7 z) := Lib.hid (own_below HO.out hb5 (Nat.le_refl _))
          have hs5 : w.heap.size ≤ w5.heap.size := Nat.le_trans HBE.out.size hb5.size
          refine wpA_take 0 33 (v := ?v0) rfl rfl (by kernel_rfl) (by kernel_rfl) (by kernel_rfl) (fun _ _ _ h => h) (Or.inl ⟨by rfl, ?y0⟩) ?r0
          case y0 => (intro W; go_simp; try with_reducible rfl)
          simp only [Act.put, List.setIfInBounds_toArray, List.set_cons_zero, List.set_cons_succ]
          refine wpA_take 1 34 (v := ?v1) rfl rfl (by kernel_rfl) (by kernel_rfl) (by kernel_rfl) (fun _ _ _ h => h) (Or.inl ⟨by rfl, ?y1⟩) ?r1
          case y1 => (intro W; go_simp; try with_reducible rfl)
          simp only [Act.put, List.setIfInBounds_toArray, List.set_cons_zero, List.set_cons_succ]
          refine wpA_take 2 35 (v := ?v2) rfl rfl (by kernel_rfl) (by kernel_rfl) (by kernel_rfl) (fun _ _ _ h => h) (Or.inl ⟨by rfl, ?y2⟩) ?r2
          case y2 => (intro W; go_simp; try with_reducible rfl)
          simp only [Act.put, List.setIfInBounds_toArray, List.set_cons_zero, List.set_cons_succ]
          refine wpA_take 6 39 (v := ?v6) rfl rfl (by kernel_rfl) (by kernel_rfl) (by kernel_rfl) (fun _ _ _ h => h) (Or.inl ⟨by rfl, ?y6⟩) ?r6
          case y6 => (intro W; go_simp; try with_reducible rfl)
          simp only [Act.put, List.setIfInBounds_toArray, List.set_cons_zero, List.set_cons_succ]
          refine wpA_take 7 40 (v := ?v7) rfl rfl (by kernel_rfl) (by kernel_rfl) (by kernel_rfl) (fun _ _ _ h => h) (Or.inl ⟨by rfl, ?y7⟩) ?r7
          case y7 => (intro W; go_simp; first | rw [if_pos hn''] | rw [if_pos hm''] | skip; try with_reducible rfl)
          simp only [Act.put, List.setIfInBounds_toArray, List.set_cons_zero, List.set_cons_succ]
          generalize (if c1 = 1 then some (⟨ba, oa, none⟩ : Addr) else some ⟨ba, oa + 1, none⟩) = A2 at *
          refine wpA_one 3 (by kernel_rfl) rfl (fun K hK => ?_)
          go_simp
          refine hK.out _ _ ?_
          clear hK K
          try simp only [Act.put, List.getElem_toArray, List.getElem_cons_succ, List.getElem_cons_zero, List.setIfInBounds_toArray, List.set_cons_zero, List.set_cons_succ]
          refine wpA_one 4 (by kernel_rfl) rfl (fun K hK => ?_)
          refine wpA_if (by rfl) ?_
          refine wpO_lit 22 21 1 _ rfl (.int .i32 0) 1 4 Tryd.underlying22 info_i32 (by decide) (by decide) (by decide) [.int .i32 x] (by simp [Act.eval]) (by simp [Value.cells]) rfl #[.int .i32 x] (by simp [Value.cells]) ?_
          refine hK.out _ _ ?_
          clear hK K
          try simp only [Act.put, List.getElem_toArray, List.getElem_cons_succ, List.getElem_cons_zero, List.setIfInBounds_toArray, List.set_cons_zero, List.set_cons_succ]
          refine wpA_one 5 (by kernel_rfl) rfl (fun K hK => ?_)
          refine wpA_if (by rfl) ?_
          refine wp_app (.tmp 33) (.tmp 37) 22 rfl w.heap.size 21 .i32 4 Tryd.underlying22 info_i32 (by omega) u7 z rfl (HO5.out.alloc _) _ _ _ [x] rfl (fun h => by cases h) (Ints.lit w5 21 .i32 [x]) (by simp; omega) (by rw [World.size_alloc]; omega) ?_
          intro v6 w6 hO6 hG6
          refine hK.out _ _ ?_
          clear hK K
          try simp only [Act.put, List.getElem_toArray, List.getElem_cons_succ, List.getElem_cons_zero, List.setIfInBounds_toArray, List.set_cons_zero, List.set_cons_succ]
          refine wpA_take 8 7 (v := ?v8) rfl rfl (by kernel_rfl) (by kernel_rfl) (by kernel_rfl) (fun _ _ _ h => h) (Or.inl ⟨by rfl, ?y8⟩) ?r8
          case y8 => (intro W; go_simp; try with_reducible rfl)
          simp only [Act.put, List.setIfInBounds_toArray, List.set_cons_zero, List.set_cons_succ]
          refine wpA_take 9 1 (v := ?v9) rfl rfl (by kernel_rfl) (by kernel_rfl) (by kernel_rfl) (fun _ _ _ h => h) (Or.inl ⟨by rfl, ?y9⟩) ?r9
          case y9 => (intro W; go_simp; try with_reducible rfl)
          simp only [Act.put, List.setIfInBounds_toArray, List.set_cons_zero, List.set_cons_succ]
          refine wpA_done (by kernel_rfl) ?_ _
          have HO6 := Lib.hid hO6
          have HB6 : Hid (Below w.heap.size w w6) := Lib.hid (((HBE.out.trans (hb5.mono HBE.out.size)).alloc hs5 _).trans (own_grown_below (HO5.out.alloc _) hG6 (by rw [World.size_alloc]; omega)))
          clear hO6 hG6
          go_wp2
          go_roundw
          case rel => exact ⟨_, _, _, _, _, _, a, y :: b, z ++ [x], rfl, rfl, HTL.out, HB1.out, by simp at hla; omega, hlb, HO6.out, HMM.out, HB6.out⟩
          case measure => simp [lenOf]; omega
        · have HMM : Hid (mergeC cl5 xs ys = (z ++ [y]) ++ mergeC cl5 (x :: a) b) := Lib.hid (by rw [HM.out, HGT.out hxy]; simp)
          clear HLE HGT HM
          have HTL : Hid (RowIn w (if d1 = 1 then some ⟨bb, ob, none⟩ else some ⟨bb, ob + 1, none⟩) (m1 - 1) (d1 - 1) b) := Lib.hid (by
            have h := HB1.out.tail 1 (by omega)
            have ha : (⟨bb, ob, none⟩ : Addr).add 1 = ⟨bb, ob + 1, none⟩ := by unfold Addr.add; split <;> simp_all
            rw [Option.map_some, ha] at h
            exact h)
          have hd : decide (cx ≤ cy) = false := decide_eq_false hxy
          go_wp2_with fail
          go_quiet ((go_at_call 52; first | with_reducible exact HC1.out _ | with_reducible exact HC2.out _))
          go_wp2_with fail
          refine wp_region_A (by kernel_rfl) ?_
          have hb5 : Below wr.heap.size wr (wr.drewN nq).drew := (below_drewN' (Below.refl _ _) nq).drew
          generalize (wr.drewN nq).drew = w5 at *
          have hx5 : w5.cell? ⟨bb, ob, none⟩ = some (.int .i32 y) := (hb5.cell (p := ⟨bb, ob, none⟩) (Nat.lt_of_lt_of_le hbb HBE.out.size)).trans h2
          have HO5 : Hid (Own w5 w.heap.size 21 .i32 u7 z) := Lib.hid (own_below HO.out hb5 (Nat.le_refl _))
          have hs5 : w.heap.size ≤ w5.heap.size := Nat.le_trans HBE.out.size hb5.size
          refine wpA_take 0 41 (v := ?v0b) rfl rfl (by kernel_rfl) (by kernel_rfl) (by kernel_rfl) (fun _ _ _ h => h) (Or.inl ⟨by rfl, ?y0b⟩) ?r0b
          case y0b => (intro W; go_simp; try with_reducible rfl)
          simp only [Act.put, List.setIfInBounds_toArray, List.set_cons_zero, List.set_cons_succ]
          refine wpA_take 1 42 (v := ?v1b) rfl rfl (by kernel_rfl) (by kernel_rfl) (by kernel_rfl) (fun _ _ _ h => h) (Or.inl ⟨by rfl, ?y1b⟩) ?r1b
          case y1b => (intro W; go_simp; try with_reducible rfl)
          simp only [Act.put, List.setIfInBounds_toArray, List.set_cons_zero, List.set_cons_succ]
          refine wpA_take 2 43 (v := ?v2b) rfl rfl (by kernel_rfl) (by kernel_rfl) (by kernel_rfl) (fun _ _ _ h => h) (Or.inl ⟨by rfl, ?y2b⟩) ?r2b
          case y2b => (intro W; go_simp; try with_reducible rfl)
          simp only [Act.put, List.setIfInBounds_toArray, List.set_cons_zero, List.set_cons_succ]
          refine wpA_take 6 47 (v := ?v6b) rfl rfl (by kernel_rfl) (by kernel_rfl) (by kernel_rfl) (fun _ _ _ h => h) (Or.inl ⟨by rfl, ?y6b⟩) ?r6b
          case y6b => (intro W; go_simp; try with_reducible rfl)
          simp only [Act.put, List.setIfInBounds_toArray, List.set_cons_zero, List.set_cons_succ]
          refine wpA_take 7 48 (v := ?v7b) rfl rfl (by kernel_rfl) (by kernel_rfl) (by kernel_rfl) (fun _ _ _ h => h) (Or.inl ⟨by rfl, ?y7b⟩) ?r7b
          case y7b => (intro W; go_simp; first | rw [if_pos hn''] | rw [if_pos hm''] | skip; try with_reducible rfl)
          simp only [Act.put, List.setIfInBounds_toArray, List.set_cons_zero, List.set_cons_succ]
          generalize (if d1 = 1 then some (⟨bb, ob, none⟩ : Addr) else some ⟨bb, ob + 1, none⟩) = A2 at *
          refine wpA_one 3 (by kernel_rfl) rfl (fun K hK => ?_)
          go_simp
          refine hK.out _ _ ?_
          clear hK K
          try simp only [Act.put, List.getElem_toArray, List.getElem_cons_succ, List.getElem_cons_zero, List.setIfInBounds_toArray, List.set_cons_zero, List.set_cons_succ]
          refine wpA_one 4 (by kernel_rfl) rfl (fun K hK => ?_)
          refine wpA_if (by rfl) ?_
          refine wpO_lit 22 21 1 _ rfl (.int .i32 0) 1 4 Tryd.underlying22 info_i32 (by decide) (by decide) (by decide) [.int .i32 y] (by simp [Act.eval]) (by simp [Value.cells]) rfl #[.int .i32 y] (by simp [Value.cells]) ?_
          refine hK.out _ _ ?_
          clear hK K
          try simp only [Act.put, List.getElem_toArray, List.getElem_cons_succ, List.getElem_cons_zero, List.setIfInBounds_toArray, List.set_cons_zero, List.set_cons_succ]
          refine wpA_one 5 (by kernel_rfl) rfl (fun K hK => ?_)
          refine wpA_if (by rfl) ?_
          refine wp_app (.tmp 41) (.tmp 45) 22 rfl w.heap.size 21 .i32 4 Tryd.underlying22 info_i32 (by omega) u7 z rfl (HO5.out.alloc _) _ _ _ [y] rfl (fun h => by cases h) (Ints.lit w5 21 .i32 [y]) (by simp; omega) (by rw [World.size_alloc]; omega) ?_
          intro v6 w6 hO6 hG6
          refine hK.out _ _ ?_
          clear hK K
          try simp only [Act.put, List.getElem_toArray, List.getElem_cons_succ, List.getElem_cons_zero, List.setIfInBounds_toArray, List.set_cons_zero, List.set_cons_succ]
          refine wpA_take 8 7 (v := ?v8b) rfl rfl (by kernel_rfl) (by kernel_rfl) (by kernel_rfl) (fun _ _ _ h => h) (Or.inl ⟨by rfl, ?y8b⟩) ?r8b
          case y8b => (intro W; go_simp; try with_reducible rfl)
          simp only [Act.put, List.setIfInBounds_toArray, List.set_cons_zero, List.set_cons_succ]
          refine wpA_take 9 2 (v := ?v9b) rfl rfl (by kernel_rfl) (by kernel_rfl) (by kernel_rfl) (fun _ _ _ h => h) (Or.inl ⟨by rfl, ?y9b⟩) ?r9b
          case y9b => (intro W; go_simp; try with_reducible rfl)
          simp only [Act.put, List.setIfInBounds_toArray, List.set_cons_zero, List.set_cons_succ]
          refine wpA_done (by kernel_rfl) ?_ _
          have HO6 := Lib.hid hO6
          have HB6 : Hid (Below w.heap.size w w6) := Lib.hid (((HBE.out.trans (hb5.mono HBE.out.size)).alloc hs5 _).trans (own_grown_below (HO5.out.alloc _) hG6 (by rw [World.size_alloc]; omega)))
          clear hO6 hG6
          go_wp2
          go_roundw
          case rel => exact ⟨_, _, _, _, _, _, x :: a, b, z ++ [y], rfl, rfl, HA1.out, HTL.out, hla, by simp at hlb; omega, HO6.out, HMM.out, HB6.out⟩
          case measure => simp [lenOf]; omega
      · have hm0 : m1 = 0 := by omega
        subst hm0
        have hb0 : b = [] := List.eq_nil_of_length_eq_zero hl2
        subst hb0
        have hn' : (0 : Int) < n1 := by omega
        have HMM : Hid (mergeC cl5 xs ys = z ++ a ++ []) := Lib.hid (by rw [HM.out, mergeC_right]; simp)
        clear HM hM hO hA1 hB1 hb
        have HNA := Lib.hid HA1.out.nil
        have HNB := Lib.hid HB1.out.nil
        have HIA : Hid (Ints wr w.heap.size .i32 A1 a) := Lib.hid (HA1.out.ints.below HBE.out (Nat.le_refl _))
        have hgw : w.heap.size ≤ wr.heap.size := HBE.out.size
        go_wp2_with (at_builtin; first
          | (refine wpList_appL rfl (.tmp 49) (.tmp 50) 22 rfl w.heap.size 21 .i32 4 Tryd.underlying22 info_i32 (by omega) _ z rfl HO.out _ _ _ _ a hl1 rfl HNA.out HIA.out (by first | omega | (simp; omega)) hgw ?_; intro v6 w6 hO6 hG6)
          | (refine wpList_appL rfl (.tmp 51) (.tmp 52) 22 rfl w.heap.size 21 .i32 4 Tryd.underlying22 info_i32 (by omega) _ (z ++ a) rfl hO6 _ _ _ _ [] rfl rfl HNB.out ((.inl rfl : Ints w6 0 .i32 _ [])) (by first | (simp; omega) | (rw [List.length_append]; omega)) (Nat.le_trans hgw hG6.1.size) ?_; intro v7 w7 hO7 hG7))
        have HO7 := Lib.hid hO7
        have HB7 : Hid (Below w.heap.size w w7) := Lib.hid ((HBE.out.trans (hG6.below HO.out hgw)).trans (hG7.below hO6 (Nat.le_trans hgw hG6.1.size)))
        clear hO6 hG6 hO7 hG7
        go_wp2
        go_ret
        exact ⟨_, rfl, by rw [HMM.out]; exact HO7.out, HB7.out⟩
    · have hn0 : n1 = 0 := by omega
      subst hn0
      have ha0 : a = [] := List.eq_nil_of_length_eq_zero hl1
      subst ha0
      have HMM : Hid (mergeC cl5 xs ys = z ++ [] ++ b) := Lib.hid (by rw [HM.out, mergeC_nil]; simp)
      clear HM hM hO hA1 hB1 hb
      have HNA := Lib.hid HA1.out.nil
      have HNB := Lib.hid HB1.out.nil
      have HIA : Hid (Ints wr w.heap.size .i32 A1 []) := Lib.hid (.inl rfl)
      have hgw : w.heap.size ≤ wr.heap.size := HBE.out.size
      go_wp2_with (at_builtin; first
        | (refine wpList_appL rfl (.tmp 49) (.tmp 50) 22 rfl w.heap.size 21 .i32 4 Tryd.underlying22 info_i32 (by omega) _ z rfl HO.out _ _ _ _ [] rfl rfl HNA.out HIA.out (by first | omega | (simp; omega)) hgw ?_; intro v6 w6 hO6 hG6)
        | (refine wpList_appL rfl (.tmp 51) (.tmp 52) 22 rfl w.heap.size 21 .i32 4 Tryd.underlying22 info_i32 (by omega) _ (z ++ []) rfl hO6 _ _ _ _ b hl2 rfl HNB.out (HB1.out.ints.below (HBE.out.trans (hG6.below HO.out hgw)) (Nat.le_refl _)) (by first | (simp; omega) | (rw [List.length_append]; omega)) (Nat.le_trans hgw hG6.1.size) ?_; intro v7 w7 hO7 hG7))
      have HO7 := Lib.hid hO7
      have HB7 : Hid (Below w.heap.size w w7) := Lib.hid ((HBE.out.trans (hG6.below HO.out hgw)).trans (hG7.below hO6 (Nat.le_trans hgw hG6.1.size)))
      clear hO6 hG6 hO7 hG7
      go_wp2
      go_ret
      exact ⟨_, rfl, by rw [HMM.out]; exact HO7.out, HB7.out⟩
end Go.Proofs.YtdmcidljjfogjaaDoor

/- decomp.run and byClass by their contracts. -/
namespace Go.Proofs.YtdmcidljjfogjaaDoor
set_option maxRecDepth 100000
open Go.ChangeShapes Go.WideShapes Go.ChangeAt Go.RowKit
set_option linter.unusedVariables false
set_option linter.unusedSimpArgs false

/-- how many from the first on have a class above 0 -/
def RunPost (w : World) (l : List Int) (e : Ending) (w' : World) : Prop :=
  ∃ k : Nat, e = .returned (.int .i64 k) ∧ k ≤ l.length ∧ (∀ x ∈ l.take k, 0 < cl5 x) ∧ (∀ x ∈ (l.drop k).head?, cl5 x = 0) ∧ Still w w'
def RunLoop (w : World) (l : List Int) (i : Value) (wr : World) : Prop := ∃ k : Nat, k ≤ l.length ∧ i = .int .i64 k ∧ (∀ x ∈ l.take k, 0 < cl5 x) ∧ Still w wr
theorem drop_head (l : List Int) (k : Nat) (hk : k < l.length) : (l.drop k).head? = some (l.getD k 0) := by
  rw [List.drop_eq_getElem_cons hk]
  simp [List.getD_eq_getElem?_getD, List.getElem?_eq_getElem hk]

set_option maxHeartbeats 1000000 in
theorem run_any (w : World) (g : Nat) (A : Option Addr) (n c : Nat) (l : List Int) (hA : RowIn w A n c l) (hT : TblAt w w.heap.size g C5 P5 S5) (hn : n ≤ 1000000000) :
    Calls Tryd.prog 85 #[.pointer (some ⟨g, 0, none⟩), .slice A n c] w (RunPost w l) := by
  have HA := Lib.hid hA
  have HT := Lib.hid hT
  have HL := Lib.hid hA.len
  clear hA hT
  go_enter Tryd.func85, Tryd.ntmps85
  go_wp2_with fail
  go_loopw [9] (fun i wr => RunLoop w l i wr) (fun i _ => n - (intOf i).toNat)
  case atStart => exact ⟨0, by omega, rfl, by simp, Still.refl w⟩
  case round =>
    obtain ⟨k, hk, rfl, hP, hst⟩ := hrel
    rw [HL.out] at hk
    have HP := Lib.hid hP
    clear hP
    by_cases hlt : k < n
    · obtain ⟨b, o, rfl, hbl, hc⟩ := HA.out.first (by omega)
      have h1 : wr.cell? ⟨b, o + k, none⟩ = some (.int .i32 (l.getD k 0)) := (hst.cell _).trans (hc k hlt)
      have hlt' : (k : Int) < n := by omega
      have hkl : k < l.length := by rw [HL.out]; exact hlt
      have HS := Lib.hid (take_snoc l k hkl)
      have HD := Lib.hid (drop_head l k hkl)
      have HC := Lib.hid (class7 (HT.out.below hst.below (Nat.le_refl _)) (l.getD k 0))
      have hnn := cl5_nn (l.getD k 0)
      generalize hx : l.getD k 0 = x at *
      have HX := Lib.hid hx
      clear hx hc
      by_cases hz : cl5 x = 0
      · rw [hz] at HC
        have hz' : ((0 : Int) == 0) = true := rfl
        go_wp2_with fail
        with_reducible refine HC.out.mono ?_
        rintro e w2 ⟨rfl, hs2⟩
        go_wp2
        go_ret
        exact ⟨k, rfl, by omega, HP.out, by rw [HD.out]; intro y hy; simp at hy; rw [← hy]; exact hz, hst.trans hs2⟩
      · have HZ := Lib.hid hz
        have hz' : (cl5 x == 0) = false := beq_eq_false_iff_ne.2 hz
        have hpos : Hid (0 < cl5 x) := Lib.hid (by omega)
        generalize cl5 x = cx at HC hz' 
        clear hz hnn
        go_wp2_with fail
        with_reducible refine HC.out.mono ?_
        rintro e w2 ⟨rfl, hs2⟩
        go_wp2
        go_roundw
        case rel => exact ⟨k + 1, by rw [HL.out]; omega, by go_num, by
          rw [HS.out]; intro y hy
          rcases List.mem_append.1 hy with hy | hy
          · exact HP.out y hy
          · simp at hy; rw [hy]; exact hpos.out, hst.trans hs2⟩
        case measure => simp [intOf]; omega
    · have hkk : k = n := by omega
      subst hkk
      have hlt' : ¬ (k : Int) < k := by omega
      go_wp2
      go_ret
      exact ⟨k, rfl, by rw [HL.out]; exact Nat.le_refl _, HP.out, fun y hy => (by rw [List.drop_eq_nil_of_le (by rw [HL.out]; exact Nat.le_refl _)] at hy; cases hy), hst⟩

abbrev ByOk (k : Nat) : Prop := ∀ (l : List Int) (w : World) (g : Nat) (A : Option Addr) (n c : Nat), n ≤ k → (n < 2 ∨ ∀ x ∈ l, 0 < cl5 x) → RowIn w A n c l → TblAt w w.heap.size g C5 P5 S5 → n ≤ 1000000000 →
  Calls Tryd.prog 86 #[.pointer (some ⟨g, 0, none⟩), .slice A n c] w (RowOut w (ordL cl5 l))
set_option maxHeartbeats 4000000 in
theorem by_step (k : Nat) (IH : ∀ j, j < k → ByOk j) : ByOk k := by
  intro l w g A n c hk hp hA hT hn
  by_cases h2 : n < 2
  · have HA := Lib.hid hA
    have hs : ordL cl5 l = l := ordL_short (by rw [hA.len]; exact h2)
    rw [hs]
    have h2' : (n : Int) < 2 := by omega
    clear hs hp IH hA hT
    go_enter Tryd.func86, Tryd.ntmps86
    go_wp2
    go_ret
    exact ⟨A, n, c, rfl, HA.out, Below.refl _ _⟩
  · have hp : ∀ x ∈ l, 0 < cl5 x := hp.resolve_left h2
    have h2' : ¬ (n : Int) < 2 := by omega
    obtain ⟨b, o, rfl, _, _⟩ := hA.first (by omega)
    have hce := hA.le
    have hcm := hA.cap
    unfold maxLen at hcm
    obtain ⟨h, hh⟩ : ∃ h : Nat, n / 2 = h := ⟨_, rfl⟩
    have hq : (n : Int) / 2 = h := by omega
    have HIH := Lib.hid IH
    have HA := Lib.hid hA
    have HT := Lib.hid hT
    have HP := Lib.hid hp
    clear IH hA hT hp
    have hhc : (h : Int) ≤ c := by omega
    have hhn : (h : Int) ≤ n := by omega
    have HTL : Hid (RowIn w (if c = h then some ⟨b, o, none⟩ else some ⟨b, o + h, none⟩) (n - h) (c - h) (l.drop h)) := Lib.hid (by
      have hh := HA.out.tail h (by omega)
      rw [Option.map_some, addr_add] at hh
      exact hh)
    have HP1 : Hid (∀ x ∈ l.take h, 0 < cl5 x) := Lib.hid fun x hx => HP.out x (List.mem_of_mem_take hx)
    have HP2 : Hid (∀ x ∈ l.drop h, 0 < cl5 x) := Lib.hid fun x hx => HP.out x (List.mem_of_mem_drop hx)
    have HE : Hid (mergeC cl5 (ordL cl5 (l.take h)) (ordL cl5 (l.drop h)) = ordL cl5 l) := Lib.hid (by rw [mergeC_ord cl5_nn HP1.out HP2.out, List.take_append_drop])
    have hll := HA.out.len
    go_enter Tryd.func86, Tryd.ntmps86
    go_wp2_with fail
    refine wp_region_G (by kernel_rfl) ?_
    have hb0 : Below w.heap.size w w.drew := (Below.refl _ _).drew
    have HR0 : Hid (RowIn w.drew (some ⟨b, o, none⟩) h c (l.take h)) := Lib.hid ((HA.out.take h (by omega)).go hb0)
    have HT0 : Hid (TblAt w.drew w.drew.heap.size g C5 P5 S5) := Lib.hid (HT.out.go hb0)
    have HD0 : Hid (RowIn w.drew (if c = h then some ⟨b, o, none⟩ else some ⟨b, o + h, none⟩) (n - h) (c - h) (l.drop h)) := Lib.hid (HTL.out.go hb0)
    have HB0 := Lib.hid hb0
    clear hb0
    generalize w.drew = w0 at *
    refine wpG_take 0 13 (v := ?v0) rfl rfl (by kernel_rfl) (by kernel_rfl) (by kernel_rfl) (fun _ _ _ h => h) (Or.inl ⟨by rfl, ?y0⟩) ?r0
    case y0 => (intro W hW; (go_simp; try with_reducible rfl))
    simp only [Act.put, List.setIfInBounds_toArray, List.set_cons_zero, List.set_cons_succ]
    refine wpG_take 1 14 (v := ?v1) rfl rfl (by kernel_rfl) (by kernel_rfl) (by kernel_rfl) (fun _ _ _ h => h) (Or.inl ⟨by rfl, ?y1⟩) ?r1
    case y1 => (intro W hW; (go_simp; try with_reducible rfl))
    simp only [Act.put, List.setIfInBounds_toArray, List.set_cons_zero, List.set_cons_succ]
    refine wpG_take 2 15 (v := ?v2) rfl rfl (by kernel_rfl) (by kernel_rfl) (by kernel_rfl) (fun _ _ _ h => h) (Or.inl ⟨by rfl, ?y2⟩) ?r2
    case y2 => (intro W hW; (go_simp; try with_reducible rfl))
    simp only [Act.put, List.setIfInBounds_toArray, List.set_cons_zero, List.set_cons_succ]
    refine wpG_take 3 16 (v := ?v3) rfl rfl (by kernel_rfl) (by kernel_rfl) (by kernel_rfl) (fun _ _ _ h => h) (Or.inl ⟨by rfl, ?y3⟩) ?r3
    case y3 => (intro W hW; (go_simp; try with_reducible rfl))
    simp only [Act.put, List.setIfInBounds_toArray, List.set_cons_zero, List.set_cons_succ]
    refine wpG_take 4 17 (v := ?v4) rfl rfl (by kernel_rfl) (by kernel_rfl) (by kernel_rfl) (fun _ _ _ h => h) (Or.inl ⟨by rfl, ?y4⟩) ?r4
    case y4 => (intro W hW; go_simp; first | rw [if_pos hhc] | skip; try with_reducible rfl)
    simp only [Act.put, List.setIfInBounds_toArray, List.set_cons_zero, List.set_cons_succ]
    refine wpG_take 6 19 (v := ?v6) rfl rfl (by kernel_rfl) (by kernel_rfl) (by kernel_rfl) (fun _ _ _ h => h) (Or.inl ⟨by rfl, ?y6⟩) ?r6
    case y6 => (intro W hW; (go_simp; try with_reducible rfl))
    simp only [Act.put, List.setIfInBounds_toArray, List.set_cons_zero, List.set_cons_succ]
    refine wpG_take 7 20 (v := ?v7) rfl rfl (by kernel_rfl) (by kernel_rfl) (by kernel_rfl) (fun _ _ _ h => h) (Or.inl ⟨by rfl, ?y7⟩) ?r7
    case y7 => (intro W hW; (go_simp; try with_reducible rfl))
    simp only [Act.put, List.setIfInBounds_toArray, List.set_cons_zero, List.set_cons_succ]
    refine wpG_take 8 21 (v := ?v8) rfl rfl (by kernel_rfl) (by kernel_rfl) (by kernel_rfl) (fun _ _ _ h => h) (Or.inl ⟨by rfl, ?y8⟩) ?r8
    case y8 => (intro W hW; (go_simp; try with_reducible rfl))
    simp only [Act.put, List.setIfInBounds_toArray, List.set_cons_zero, List.set_cons_succ]
    refine wpG_take 9 22 (v := ?v9) rfl rfl (by kernel_rfl) (by kernel_rfl) (by kernel_rfl) (fun _ _ _ h => h) (Or.inl ⟨by rfl, ?y9⟩) ?r9
    case y9 => (intro W hW; go_simp; first | rw [if_pos hhn] | skip; try with_reducible rfl)
    simp only [Act.put, List.setIfInBounds_toArray, List.set_cons_zero, List.set_cons_succ]
    generalize (if c = h then some (⟨b, o, none⟩ : Addr) else some ⟨b, o + h, none⟩) = A2 at *
    refine wpG_call 5 (by kernel_rfl) rfl (fun K hK => ?_)
    go_simp
    refine (HIH.out h (by omega) (l.take h) _ g _ h c (Nat.le_refl _) (.inr HP1.out) HR0.out HT0.out (by omega)).mono ?_
    rintro e w1 ⟨A3, n3, c3, rfl, hr3, hb3⟩
    refine hK.out _ _ ?_ ?_
    · exact hb3
    clear hK K
    have HR3 := Lib.hid hr3
    have HT1 := Lib.hid (HT0.out.go hb3)
    have HD1 := Lib.hid (HD0.out.go hb3)
    have HB1 := Lib.hid (HB0.out.trans (hb3.mono HB0.out.size))
    clear hr3 hb3
    try simp only [Act.put, List.getElem_toArray, List.getElem_cons_succ, List.getElem_cons_zero, List.setIfInBounds_toArray, List.set_cons_zero, List.set_cons_succ]
    refine wpG_call 10 (by kernel_rfl) rfl (fun K hK => ?_)
    go_simp
    refine (HIH.out (n - h) (by omega) (l.drop h) _ g _ (n - h) (c - h) (Nat.le_refl _) (.inr HP2.out) HD1.out HT1.out (by omega)).mono ?_
    rintro e w2 ⟨A4, n4, c4, rfl, hr4, hb4⟩
    refine hK.out _ _ ?_ ?_
    · exact hb4
    clear hK K
    have HR4 := Lib.hid hr4
    have HR3' := Lib.hid (HR3.out.go hb4)
    have HT2 := Lib.hid (HT1.out.go hb4)
    have HB2 := Lib.hid (HB1.out.trans (hb4.mono HB1.out.size))
    have hl3 := HR3.out.len
    have hl4 := hr4.len
    rw [ordL_len, List.length_take] at hl3
    rw [ordL_len, List.length_drop] at hl4
    clear hr4 hb4
    try simp only [Act.put, List.getElem_toArray, List.getElem_cons_succ, List.getElem_cons_zero, List.setIfInBounds_toArray, List.set_cons_zero, List.set_cons_succ]
    refine wpG_call 11 (by kernel_rfl) rfl (fun K hK => ?_)
    go_simp
    refine (merge_any w2 g A3 n3 c3 _ A4 n4 c4 _ HR3'.out HR4.out HT2.out (by omega)).mono ?_
    rintro e w5 hm5
    obtain ⟨A5, n5, c5, rfl, hr5, hb5⟩ := hm5.out
    refine hK.out _ _ ?_ ?_
    · exact hb5
    clear hK K
    have HR5 := Lib.hid hr5
    have HB5 := Lib.hid (HB2.out.trans (hb5.mono HB2.out.size))
    clear hr5 hb5 hm5
    try simp only [Act.put, List.getElem_toArray, List.getElem_cons_succ, List.getElem_cons_zero, List.setIfInBounds_toArray, List.set_cons_zero, List.set_cons_succ]
    refine wpG_take 12 4 (v := ?v12) rfl rfl (by kernel_rfl) (by kernel_rfl) (by kernel_rfl) (fun _ _ _ h => h) (Or.inl ⟨by rfl, ?y12⟩) ?r12
    case y12 => (intro W hW; (go_simp; try with_reducible rfl))
    try simp only [Act.put, List.setIfInBounds_toArray, List.set_cons_zero, List.set_cons_succ]
    refine wpG_done (by kernel_rfl) ?_ _
    go_wp2
    go_ret
    exact ⟨A5, n5, c5, rfl, by rw [← HE.out]; exact HR5.out, HB5.out⟩
theorem by_ok : ∀ k, ByOk k := fun k => Nat.strongRecOn k fun k ih => by_step k ih
end Go.Proofs.YtdmcidljjfogjaaDoor

/- decomp.Order, All by their contracts. -/
namespace Go.Proofs.YtdmcidljjfogjaaDoor
set_option maxRecDepth 100000
open Go.ChangeShapes Go.WideShapes Go.ChangeAt Go.RowKit
set_option linter.unusedVariables false
set_option linter.unusedSimpArgs false

theorem put_ok (n : Nat) : PutOk n := by
  induction n with
  | zero => exact put_step 0 fun k h => by omega
  | succ n ih =>
    refine put_step (n + 1) fun k h => ?_
    obtain rfl : n = k := by omega
    exact ih
/-- onto nothing -/
theorem put_new (w : World) (base g : Nat) (A : Option Addr) (n c : Nat) (l : List Int) (hl : l.length = n) (hI : Ints w w.heap.size .i32 A l) (hb : base ≤ w.heap.size) (hT : TblAt w base g C5 P5 S5) (hR : ∀ c ∈ l, R32 c) (hn : n ≤ 1000000) :
    Calls Tryd.prog 74 #[.slice none 0 0, .pointer (some ⟨g, 0, none⟩), .slice A n c] w fun e w' => ∃ v', e = .returned v' ∧ Own w' base 21 .i32 v' (partsF T5 l) ∧ Below base w w' := by
  have hO : Own w base 21 .i32 (.slice none 0 0) [] := World.ownsRow_nil _ _ _ _
  refine (put_ok 5 l (fun c _ => ends5 c) hR w base g (.slice none 0 0) [] A n c hl hO hb hT hI (apart_nil _ _ _) (by simp; omega)).mono ?_
  rintro e w' ⟨v', rfl, h1, h2⟩
  exact ⟨v', rfl, h1, h2.below hO hb⟩
def OrdLoop (w : World) (l : List Int) (s1 s5 : Value) (wr : World) : Prop :=
  ∃ A n c a z, s1 = .slice A n c ∧ RowIn w A n c a ∧ Own wr w.heap.size 21 .i32 s5 z ∧ ordL cl5 l = z ++ ordL cl5 a ∧ n ≤ l.length ∧ Below w.heap.size w wr

set_option maxHeartbeats 4000000 in
theorem order_any (w : World) (g : Nat) (A : Option Addr) (n c : Nat) (l : List Int) (hA : RowIn w A n c l) (hT : TblAt w w.heap.size g C5 P5 S5) (hn : n ≤ 1000000000) :
    Calls Tryd.prog 73 #[.pointer (some ⟨g, 0, none⟩), .slice A n c] w (RowRes 21 .i32 w (ordL cl5 l)) := by
  obtain ⟨ti, hi0, hz, hsz, hby⟩ := info_parts info_i32
  have HA := Lib.hid hA
  have HT := Lib.hid hT
  have hlx := hA.len
  have HINFO := Lib.hid (And.intro hi0 (And.intro hz (And.intro hsz hby)))
  clear hA hT hi0 hz hsz hby
  go_enter Tryd.func73, Tryd.ntmps73
  go_wp2_with (at_make; refine wpList_make_own _ rfl _ _ 22 rfl w.heap.size 21 ti (.int .i32 0) 1 Tryd.underlying22 HINFO.out.1 HINFO.out.2.1 HINFO.out.2.2.1 .i64 .i64 _ n rfl rfl (by omega) (by rw [HINFO.out.2.2.2]; omega) (by unfold maxLen; omega) (Nat.le_refl _) ?_; intro w0 hown0 hgrow0)
  have hb0 : Below w.heap.size w w0 := (Below.refl _ _).grown hgrow0 (Nat.le_refl _) (fun _ h => by cases h)
  go_loopw [1, 5] (fun s1 s5 wr => OrdLoop w l s1 s5 wr) (fun s1 _ _ => lenOf s1)
  case atStart => exact ⟨A, n, c, l, [], rfl, HA.out, hown0, rfl, by omega, hb0⟩
  case round =>
    clear hb0 hown0 hgrow0
    obtain ⟨A1, n1, c1, a, z, rfl, hA1, hO, hM, hln, hb⟩ := hrel
    have HM := Lib.hid hM
    have HO := Lib.hid hO
    have HA1 := Lib.hid hA1
    have HBE := Lib.hid hb
    have hl1 := hA1.len
    have hc1 := hA1.le
    have hc3 := hA1.cap
    unfold maxLen at hc3
    have hzl : z.length + n1 = n := by
      have := congrArg List.length hM
      rw [List.length_append, ordL_len, ordL_len] at this
      omega
    have hgw : w.heap.size ≤ wr.heap.size := hb.size
    have HTr := Lib.hid ((HT.out.below hb (Nat.le_refl _)).more hgw)
    by_cases hn0 : 0 < n1
    · obtain ⟨ba, oa, rfl, hba, hca⟩ := hA1.first hn0
      clear hca hM hO hA1 hb
      have hn' : (0 : Int) < n1 := by omega
      have HRr : Hid (RowIn wr (some ⟨ba, oa, none⟩) n1 c1 a) := Lib.hid ⟨hl1, hc1, by unfold maxLen; omega, fun h => (by cases h), (HA1.out.ints.below HBE.out (Nat.le_refl _)).more hgw⟩
      have HRUN := Lib.hid (run_any wr g _ n1 c1 a HRr.out HTr.out (by omega))
      go_wp2_with fail
      with_reducible refine HRUN.out.mono ?_
      rintro e w2 ⟨k, rfl, hk, hpos, hhd, hs2⟩
      -- one of class 0, or a run
      obtain ⟨j, hj1, hj2, hj3, HCUT⟩ : ∃ j : Nat, 1 ≤ j ∧ j ≤ n1 ∧ (if k = 0 then 1 else k) = j ∧ Hid (ordL cl5 a = ordL cl5 (a.take j) ++ ordL cl5 (a.drop j) ∧ (j < 2 ∨ ∀ x ∈ a.take j, 0 < cl5 x)) := by
        by_cases hk0 : k = 0
        · subst hk0
          refine ⟨1, by omega, by omega, rfl, Lib.hid ⟨?_, .inl (by omega)⟩⟩
          cases a with
          | nil => simp at hl1; omega
          | cons x a =>
            have hx : cl5 x = 0 := hhd x rfl
            have e1 : (x :: a).take 1 = [x] := by simp
            have e2 : (x :: a).drop 1 = a := rfl
            rw [ordL_zero cl5_nn hx, e1, e2]
            rfl
        · refine ⟨k, by omega, by omega, by rw [if_neg hk0], Lib.hid ⟨?_, .inr hpos⟩⟩
          rw [← ordL_cut cl5_nn hhd, List.take_append_drop]
      have HB2 : Hid (Below wr.heap.size wr w2) := Lib.hid hs2.below
      have HR2 : Hid (RowIn w2 (some ⟨ba, oa, none⟩) j c1 (a.take j)) := Lib.hid ((HRr.out.take j hj2).go hs2.below)
      have HT2 := Lib.hid (HTr.out.go hs2.below)
      have HBY := Lib.hid (by_ok j (a.take j) w2 g _ j c1 (Nat.le_refl _) HCUT.out.2 HR2.out HT2.out (by omega))
      have HTL : Hid (RowIn w (if c1 = j then some ⟨ba, oa, none⟩ else some ⟨ba, oa + j, none⟩) (n1 - j) (c1 - j) (a.drop j)) := Lib.hid (by
        have hh := HA1.out.tail j hj2
        rw [Option.map_some, addr_add] at hh
        exact hh)
      have hjc : (j : Int) ≤ c1 := by omega
      have hjn : (j : Int) ≤ n1 := by omega
      clear hpos hhd hs2 HRUN
      by_cases hk0 : k = 0
      · subst hk0
        obtain rfl : j = 1 := by simpa using hj3.symm
        have hkz : (((0 : Nat) : Int) == 0) = true := rfl
        have hjc : (1 : Int) ≤ c1 := by omega
        have hjn : (1 : Int) ≤ n1 := by omega
        obtain ⟨A2, hA2⟩ : ∃ A2, (if c1 = 1 then some (⟨ba, oa, none⟩ : Addr) else some ⟨ba, oa + 1, none⟩) = A2 := ⟨_, rfl⟩
        rw [hA2] at HTL
        have HO2 : Hid (Own w2 w.heap.size 21 .i32 u5 z) := Lib.hid (own_below HO.out HB2.out (Nat.le_refl _))
        go_wp2_with fail
        with_reducible refine HBY.out.mono ?_
        rintro e w3 ⟨B3, m3, d3, rfl, hr3, hb3⟩
        have HR3 := Lib.hid hr3
        have HO3 : Hid (Own w3 w.heap.size 21 .i32 u5 z) := Lib.hid (own_below HO2.out hb3 (Nat.le_refl _))
        have hgw3 : w.heap.size ≤ w3.heap.size := Nat.le_trans hgw (Nat.le_trans HB2.out.size hb3.size)
        have HB3 : Hid (Below w.heap.size w w3) := Lib.hid ((HBE.out.trans (HB2.out.mono hgw)).trans (hb3.mono (Nat.le_trans hgw HB2.out.size)))
        have hl3 : (ordL cl5 (a.take 1)).length = 1 := by rw [ordL_len, List.length_take]; omega
        clear hr3 hb3
        go_wp2_with (at_builtin; refine wpList_appL rfl (.tmp 18) (.tmp 23) 22 rfl w.heap.size 21 .i32 4 Tryd.underlying22 info_i32 (by omega) u5 z rfl HO3.out _ _ _ _ _ HR3.out.len rfl HR3.out.nil HR3.out.ints (by omega) hgw3 ?_; intro v4 w4 hO4 hG4)
        have HO4 := Lib.hid hO4
        have HB4 := Lib.hid (HB3.out.trans (hG4.below HO3.out hgw3))
        clear hO4 hG4
        go_wp2
        go_roundw
        case rel => exact ⟨A2, _, _, a.drop 1, z ++ ordL cl5 (a.take 1), rfl, HTL.out, HO4.out, by rw [HM.out, HCUT.out.1, List.append_assoc], by omega, HB4.out⟩
        case measure => simp [lenOf]; omega
      · obtain rfl : j = k := by rw [if_neg hk0] at hj3; exact hj3.symm
        have hkz : ((j : Int) == 0) = false := by simp; omega
        obtain ⟨A2, hA2⟩ : ∃ A2, (if c1 = j then some (⟨ba, oa, none⟩ : Addr) else some ⟨ba, oa + j, none⟩) = A2 := ⟨_, rfl⟩
        rw [hA2] at HTL
        have HO2 : Hid (Own w2 w.heap.size 21 .i32 u5 z) := Lib.hid (own_below HO.out HB2.out (Nat.le_refl _))
        go_wp2_with fail
        with_reducible refine HBY.out.mono ?_
        rintro e w3 ⟨B3, m3, d3, rfl, hr3, hb3⟩
        have HR3 := Lib.hid hr3
        have HO3 : Hid (Own w3 w.heap.size 21 .i32 u5 z) := Lib.hid (own_below HO2.out hb3 (Nat.le_refl _))
        have hgw3 : w.heap.size ≤ w3.heap.size := Nat.le_trans hgw (Nat.le_trans HB2.out.size hb3.size)
        have HB3 : Hid (Below w.heap.size w w3) := Lib.hid ((HBE.out.trans (HB2.out.mono hgw)).trans (hb3.mono (Nat.le_trans hgw HB2.out.size)))
        have hl3 : (ordL cl5 (a.take j)).length = j := by rw [ordL_len, List.length_take]; omega
        clear hr3 hb3
        go_wp2_with (at_builtin; refine wpList_appL rfl (.tmp 18) (.tmp 23) 22 rfl w.heap.size 21 .i32 4 Tryd.underlying22 info_i32 (by omega) u5 z rfl HO3.out _ _ _ _ _ HR3.out.len rfl HR3.out.nil HR3.out.ints (by omega) hgw3 ?_; intro v4 w4 hO4 hG4)
        have HO4 := Lib.hid hO4
        have HB4 := Lib.hid (HB3.out.trans (hG4.below HO3.out hgw3))
        clear hO4 hG4
        go_wp2
        go_roundw
        case rel => exact ⟨A2, _, _, a.drop j, z ++ ordL cl5 (a.take j), rfl, HTL.out, HO4.out, by rw [HM.out, HCUT.out.1, List.append_assoc], by omega, HB4.out⟩
        case measure => simp [lenOf]; omega
    · have hn1 : n1 = 0 := by omega
      subst hn1
      have ha0 : a = [] := List.eq_nil_of_length_eq_zero hl1
      subst ha0
      have HMM : Hid (ordL cl5 l = z) := Lib.hid (by rw [HM.out]; exact List.append_nil z)
      clear HM hM hO hA1 hb
      go_wp2
      go_ret
      exact ⟨_, rfl, by rw [HMM.out]; exact HO.out, HBE.out⟩

theorem order_out (w : World) (g : Nat) (A : Option Addr) (n c : Nat) (l : List Int) (hA : RowIn w A n c l) (hT : TblAt w w.heap.size g C5 P5 S5) (hn : n ≤ 1000000000) :
    Calls Tryd.prog 73 #[.pointer (some ⟨g, 0, none⟩), .slice A n c] w (RowOut w (ordL cl5 l)) := (order_any w g A n c l hA hT hn).mono fun _ _ h => h.out
theorem all_any (w : World) (g : Nat) (A : Option Addr) (n c : Nat) (l : List Int) (hA : RowIn w A n c l) (hT : TblAt w w.heap.size g C5 P5 S5) (hR : ∀ c ∈ l, R32 c) (hn : n ≤ 1000000) :
    Calls Tryd.prog 58 #[.pointer (some ⟨g, 0, none⟩), .slice A n c] w (RowOut w (allF T5 cl5 l)) := by
  have HP := Lib.hid (put_new w w.heap.size g A n c l hA.len hA.ints (Nat.le_refl _) hT hR hn)
  have HT := Lib.hid hT
  have hpl := partsF_len sy5_len l
  rw [hA.len] at hpl
  clear hA hT hR
  go_enter Tryd.func58, Tryd.ntmps58
  go_wp2_with fail
  with_reducible refine HP.out.mono ?_
  rintro e w2 ⟨v2, rfl, hO2, hb2⟩
  obtain ⟨A2, c2, rfl, hc2, hcm⟩ := own_form hO2
  have HR := Lib.hid (RowIn.ofOwn hO2)
  have HB := Lib.hid hb2
  clear hO2 hb2
  generalize hm : (partsF T5 l).length = m at *
  have HQ := Lib.hid (order_out w2 g A2 m c2 _ HR.out (HT.out.go HB.out) (by omega))
  clear hm
  go_wp2_with fail
  with_reducible refine HQ.out.mono ?_
  rintro e w3 ⟨A3, n3, c3, rfl, hr3, hb3⟩
  have HR3 := Lib.hid hr3
  have HB3 := Lib.hid (HB.out.trans (hb3.mono HB.out.size))
  clear hr3 hb3
  go_wp2
  go_ret
  exact ⟨A3, n3, c3, rfl, HR3.out, HB3.out⟩
end Go.Proofs.YtdmcidljjfogjaaDoor

/- Same for rows that are alike; literals. -/
namespace Go.Proofs.YtdmcidljjfogjaaDoor
set_option maxRecDepth 100000
open Go.ChangeShapes Go.WideShapes Go.ChangeAt Go.RowKit
set_option linter.unusedVariables false
set_option linter.unusedSimpArgs false

theorem same_rows {w : World} {A : Option Addr} {n c : Nat} {xs : List Int} {B : Option Addr} {m d : Nat} {ys : List Int} (hA : RowIn w A n c xs) (hB : RowIn w B m d ys) (he : xs = ys) (hn : n ≤ 1000000) :
    Calls Tryd.prog 11 #[.slice A n c, .slice B m d] w fun e w' => e = .returned (.bool true) ∧ Still w w' := by
  subst he
  have h := same_any A B n m c d xs xs w hA.len hB.len hA.ints hB.ints (by omega) (by have := hA.len; have := hB.len; omega)
  rw [decide_eq_true rfl] at h
  exact h
theorem RowIn.lit (w : World) (t : TypeId) (ys : List Int) (n : Nat) (hn : ys.length = n) (hm : n ≤ 1000) : RowIn (w.alloc (.cells (ys.map (Value.int .i32)).toArray t)) (some ⟨w.heap.size, 0, none⟩) n n ys :=
  ⟨hn, Nat.le_refl _, by unfold maxLen; omega, (fun h => by cases h), by rw [World.size_alloc]; exact Ints.lit w t .i32 ys⟩
theorem below_new (w : World) (o : Obj) : Below w.heap.size w (w.alloc o) := (Below.refl _ _).alloc (Nat.le_refl _) o
end Go.Proofs.YtdmcidljjfogjaaDoor
