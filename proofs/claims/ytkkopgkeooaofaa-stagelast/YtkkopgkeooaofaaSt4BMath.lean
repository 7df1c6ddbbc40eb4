/- The mathematics of StageBlocks: so many copies of one block. -/
import Derived.Test.YtkkopgkeooaofaaSt4Awake
namespace Go.Proofs.Ytkkopgkeooaofaa
set_option linter.unusedVariables false

def ent (i x : Int) : Int × Int := (256 * (7 * i + 3) + x % 256, 1 + x % 9)
/-- the entries of i copies -/
def ents (vs : List Int) (i : Nat) : List (Int × Int) := (List.range i).flatMap fun (t : Nat) => vs.map (ent t)
theorem ents_zero (vs : List Int) : ents vs 0 = [] := rfl
theorem ents_succ (vs : List Int) (i : Nat) : ents vs (i + 1) = ents vs i ++ vs.map (ent i) := by simp [ents, List.range_succ, List.flatMap_append]
theorem ents_len (vs : List Int) : ∀ i, (ents vs i).length = i * vs.length
  | 0 => by simp [ents_zero]
  | i + 1 => by rw [ents_succ, List.length_append, ents_len vs i, List.length_map, Nat.add_mul]; omega
theorem ent_fit (i : Nat) (x : Int) (hi : i < 40) : (Lit.int .i32 (ent i x).1).wf = true ∧ (Lit.int .i64 (ent i x).2).wf = true := by
  unfold ent
  exact ⟨WalkArith.wf_i32 (by dsimp only; omega), WalkArith.wf_i64 (by dsimp only; omega)⟩
theorem ents_fit (vs : List Int) : ∀ i, i ≤ 40 → FitE (ents vs i)
  | 0, _ => fun e he => by cases he
  | i + 1, h => fun e he => by
    rw [ents_succ] at he
    rcases List.mem_append.1 he with he | he
    · exact ents_fit vs i (by omega) e he
    · obtain ⟨x, _, rfl⟩ := List.mem_map.1 he
      exact ent_fit i x (by omega)
def setAll (vs : List Int) (b : List Int) : List Int := vs.foldl (fun b x => b.set (x % 256).toNat (1 + x % 9)) b
theorem setAll_snoc (vs : List Int) (x : Int) (b : List Int) : setAll (vs ++ [x]) b = (setAll vs b).set (x % 256).toNat (1 + x % 9) := by simp [setAll, List.foldl_append]
theorem setAll_len (b : List Int) (vs : List Int) : (setAll vs b).length = b.length := by
  refine snoc_ind (p := fun vs => (setAll vs b).length = b.length) rfl (fun vs x ih => ?_) vs
  rw [setAll_snoc, List.length_set, ih]
theorem blk_row (p : List (Int × Int)) (i : Nat) (hi : i < 40) (vs : List Int) : ∀ j : Int, blk (tab (p ++ vs.map (ent i))) j = if j = 7 * (i : Int) + 3 then setAll vs (blk (tab p) j) else blk (tab p) j := by
  refine snoc_ind (p := fun vs => ∀ j : Int, blk (tab (p ++ vs.map (ent i))) j = if j = 7 * (i : Int) + 3 then setAll vs (blk (tab p) j) else blk (tab p) j) (fun j => ?_) (fun vs x ih j => ?_) vs
  · simp [setAll]
  · rw [List.map_append, ← List.append_assoc]
    have hp : isPl (256 * (7 * (i : Int) + 3) + x % 256) = true := isPl_iff.2 (by omega)
    have : (List.map (ent i) [x]) = [(256 * (7 * (i : Int) + 3) + x % 256, 1 + x % 9)] := rfl
    rw [this, tab_place hp, ih j, setAll_snoc]
    have h1 : (256 * (7 * (i : Int) + 3) + x % 256) / 256 = 7 * (i : Int) + 3 := by omega
    have h2 : (256 * (7 * (i : Int) + 3) + x % 256) % 256 = x % 256 := by omega
    rw [h1, h2]
    split <;> rfl
def hit (k : Nat) (j : Int) : Prop := (j - 3) % 7 = 0 ∧ 3 ≤ j ∧ j < 7 * k + 3
instance (k : Nat) (j : Int) : Decidable (hit k j) := by unfold hit; infer_instance
theorem blk_ents (vs : List Int) : ∀ k, k ≤ 40 → ∀ j : Int, blk (tab (ents vs k)) j = if hit k j then setAll vs zblk else zblk
  | 0, _, j => by
    rw [ents_zero, tab_nil, blk_zero, if_neg (by unfold hit; omega)]
  | k + 1, hk, j => by
    rw [ents_succ, blk_row _ k (by omega), blk_ents vs k (by omega) j]
    by_cases e : j = 7 * (k : Int) + 3
    · rw [if_pos e, if_neg (by unfold hit; omega), if_pos (by unfold hit; omega)]
    · rw [if_neg e]
      by_cases h : hit k j
      · rw [if_pos h, if_pos (by unfold hit at *; omega)]
      · rw [if_neg h, if_neg (by unfold hit at *; omega)]
theorem setAll_small (vs : List Int) : ∀ j, (setAll vs zblk).getD j 0 ≤ 9 := by
  refine snoc_ind (p := fun vs => ∀ j, (setAll vs zblk).getD j 0 ≤ 9) (fun j => ?_) (fun vs x ih j => ?_) vs
  · show zblk.getD j 0 ≤ 9
    rw [List.getD_eq_getElem?_getD, zblk_get]; split <;> simp
  · rw [setAll_snoc, List.getD_eq_getElem?_getD, List.getElem?_set]
    split
    · split
      · simp only [Option.getD_some]; omega
      · simp
    · have := ih j; rwa [List.getD_eq_getElem?_getD] at this
theorem setAll_ne {vs : List Int} (h : vs ≠ []) : setAll vs zblk ≠ zblk := by
  obtain ⟨r, x, rfl⟩ : ∃ r x, vs = r ++ [x] := ⟨vs.dropLast, vs.getLast h, (List.dropLast_concat_getLast h).symm⟩
  rw [setAll_snoc]
  intro e
  have := congrArg (·[(x % 256).toNat]?) e
  simp only [List.getElem?_set, setAll_len, zblk_len, zblk_get, show (x % 256).toNat < 256 by omega, if_true] at this
  have := Option.some.inj this
  omega
def oblk : List Int := zblk.set 255 77
theorem oblk_ne : oblk ≠ zblk := set_ne_zblk (by omega) (by omega)
theorem oblk_ne' (vs : List Int) : oblk ≠ setAll vs zblk := by
  intro e
  have h := setAll_small vs 255
  rw [← e, List.getD_eq_getElem?_getD] at h
  unfold oblk at h
  rw [List.getElem?_set, if_pos rfl, zblk_len, if_pos (by omega)] at h
  simp at h
/-- all that StageBlocks builds -/
def bents (vs : List Int) (k : Nat) (o : Bool) : List (Int × Int) := if o then ents vs k ++ [(1114111, 77)] else ents vs k
def bwant (vs : List Int) (o : Bool) : Nat := (if vs = [] then 1 else 2) + (if o then 1 else 0)
theorem bents_len (vs : List Int) (k : Nat) (o : Bool) (hv : vs.length ≤ 10) (hk : k ≤ 40) : (bents vs k o).length ≤ 401 := by
  have : k * vs.length ≤ 40 * 10 := Nat.mul_le_mul hk hv
  unfold bents; split
  · rw [List.length_append, ents_len]; simp only [List.length_cons, List.length_nil]; omega
  · rw [ents_len]; omega
theorem bents_fit (vs : List Int) (k : Nat) (hk : k ≤ 40) (o : Bool) : FitE (bents vs k o) := by
  unfold bents; split
  · intro e he
    rcases List.mem_append.1 he with he | he
    · exact ents_fit vs k hk e he
    · simp only [List.mem_singleton] at he; subst he; decide
  · exact ents_fit vs k hk
theorem blk_bents (vs : List Int) (k : Nat) (hk : k ≤ 40) (o : Bool) (j : Int) : blk (tab (bents vs k o)) j = if j = 4351 ∧ o = true then oblk else if hit k j then setAll vs zblk else zblk := by
  unfold bents
  cases o with
  | false => simp only [Bool.false_eq_true, and_false, if_false]; exact blk_ents vs k hk j
  | true =>
    simp only [and_true, if_true]
    have hp : isPl 1114111 = true := by decide
    rw [tab_place hp, blk_ents vs k hk j]
    have h1 : (1114111 : Int) / 256 = 4351 := by decide
    have h2 : ((1114111 : Int) % 256).toNat = 255 := by decide
    rw [h1, h2]
    by_cases e : j = 4351
    · rw [if_pos e, if_pos e, if_neg (by unfold hit; omega)]; rfl
    · rw [if_neg e, if_neg e]
theorem bents_count {vs : List Int} {k : Nat} (hk : k ≤ 40) (hk1 : 1 ≤ k) {o : Bool} {U : List (List Int)} (hd : Dist (tab (bents vs k o)) U) : U.length = bwant vs o := by
  have hb := blk_bents vs k hk o
  have h0 : blk (tab (bents vs k o)) ((0 : Nat) : Int) = zblk := by rw [hb, if_neg (by omega), if_neg (by unfold hit; omega)]
  have h3 : blk (tab (bents vs k o)) ((3 : Nat) : Int) = setAll vs zblk := by rw [hb, if_neg (by omega), if_pos (by unfold hit; omega)]
  by_cases hv : vs = []
  · subst hv
    have hz : setAll [] zblk = zblk := rfl
    cases o with
    | false =>
      refine hd.len (V := [zblk]) ⟨by simp, fun i _ => ?_, fun u hu => ?_⟩
      · rw [hb, hz]; simp
      · simp only [List.mem_singleton] at hu; exact ⟨0, by omega, by rw [h0, hu]⟩
    | true =>
      have h4 : blk (tab (bents [] k true)) ((4351 : Nat) : Int) = oblk := by rw [hb, if_pos ⟨rfl, rfl⟩]
      refine hd.len (V := [zblk, oblk]) ⟨?_, fun i _ => ?_, fun u hu => ?_⟩
      · simp only [List.nodup_cons, List.mem_singleton, List.not_mem_nil, not_false_eq_true, List.nodup_nil, and_true]
        exact fun e => oblk_ne e.symm
      · rw [hb, hz]; split
        · simp
        · simp
      · simp only [List.mem_cons, List.not_mem_nil, or_false] at hu
        rcases hu with rfl | rfl
        · exact ⟨0, by omega, h0.symm⟩
        · exact ⟨4351, by omega, h4.symm⟩
  · have hne := setAll_ne hv
    have hw : bwant vs o = 2 + (if o then 1 else 0) := by unfold bwant; rw [if_neg hv]
    rw [hw]
    cases o with
    | false =>
      refine hd.len (V := [zblk, setAll vs zblk]) ⟨?_, fun i _ => ?_, fun u hu => ?_⟩
      · simp only [List.nodup_cons, List.mem_singleton, List.not_mem_nil, not_false_eq_true, List.nodup_nil, and_true]
        exact fun e => hne e.symm
      · rw [hb, if_neg (by simp)]; split <;> simp
      · simp only [List.mem_cons, List.not_mem_nil, or_false] at hu
        rcases hu with rfl | rfl
        · exact ⟨0, by omega, h0.symm⟩
        · exact ⟨3, by omega, h3.symm⟩
    | true =>
      have h4 : blk (tab (bents vs k true)) ((4351 : Nat) : Int) = oblk := by rw [hb, if_pos ⟨rfl, rfl⟩]
      refine hd.len (V := [zblk, setAll vs zblk, oblk]) ⟨?_, fun i _ => ?_, fun u hu => ?_⟩
      · simp only [List.nodup_cons, List.mem_cons, List.not_mem_nil, not_false_eq_true, List.nodup_nil, and_true, not_or, or_false]
        exact ⟨⟨fun e => hne e.symm, fun e => oblk_ne e.symm⟩, fun e => oblk_ne' vs e.symm⟩
      · rw [hb]; split
        · simp
        · split <;> simp
      · simp only [List.mem_cons, List.not_mem_nil, or_false] at hu
        rcases hu with rfl | rfl | rfl
        · exact ⟨0, by omega, h0.symm⟩
        · exact ⟨3, by omega, h3.symm⟩
        · exact ⟨4351, by omega, h4.symm⟩
end Go.Proofs.Ytkkopgkeooaofaa
