/- The mathematics of tables in two stages: what entries say of each place, the blocks of 256 places, how many unlike ones there are. No program in it. -/
namespace Go.Proofs.Ytmphfdnpnhlpjaa

/-- turned at one key -/
def upd {κ ν : Type} [DecidableEq κ] (f : κ → ν) (k : κ) (v : ν) : κ → ν := fun x => if x = k then v else f x
/-- one key more, if it is not there -/
def kput {κ : Type} [DecidableEq κ] (ks : List κ) (k : κ) : List κ := if k ∈ ks then ks else ks ++ [k]

theorem kput_mem {κ : Type} [DecidableEq κ] {ks : List κ} {k x : κ} : x ∈ kput ks k ↔ x ∈ ks ∨ x = k := by
  unfold kput; split
  · rename_i h; exact ⟨.inl, fun h' => h'.elim id (fun e => e ▸ h)⟩
  · simp
theorem kput_nodup {κ : Type} [DecidableEq κ] {ks : List κ} (h : ks.Nodup) (k : κ) : (kput ks k).Nodup := by
  unfold kput; split
  · exact h
  · rename_i hn
    exact List.nodup_append.2 ⟨h, by simp, fun a ha c hc e => by simp at hc; exact hn (hc ▸ e ▸ ha)⟩
theorem kput_len {κ : Type} [DecidableEq κ] (ks : List κ) (k : κ) : (kput ks k).length ≤ ks.length + 1 := by
  unfold kput; split <;> simp

/-- no row without repeats is longer than one that has all of it -/
theorem nodup_le {α : Type} [DecidableEq α] : ∀ (l m : List α), l.Nodup → (∀ x ∈ l, x ∈ m) → l.length ≤ m.length
  | [], _, _, _ => Nat.zero_le _
  | x :: r, m, hn, hs => by
    obtain ⟨h1, h2⟩ := List.nodup_cons.1 hn
    have hx := hs x (by simp)
    have hr : ∀ y ∈ r, y ∈ m.erase x := fun y hy => (List.mem_erase_of_ne (fun (e : y = x) => h1 (e ▸ hy))).2 (hs y (by simp [hy]))
    have := nodup_le r (m.erase x) h2 hr
    rw [List.length_erase_of_mem hx] at this
    have hp : 0 < m.length := List.length_pos_of_mem hx
    simp only [List.length_cons]
    omega

/-! ### what entries say -/
def isPl (c : Int) : Bool := decide (0 ≤ c ∧ c ≤ 1114111)
theorem isPl_iff {c : Int} : isPl c = true ↔ 0 ≤ c ∧ c ≤ 1114111 := by simp [isPl]
theorem isPl_no {c : Int} : isPl c = false ↔ ¬ (0 ≤ c ∧ c ≤ 1114111) := by simp [isPl]
def tstep (f : Int → Int) (e : Int × Int) : Int → Int := if isPl e.1 then upd f e.1 e.2 else f
/-- what a table of these entries has -/
def tab (l : List (Int × Int)) : Int → Int := l.foldl tstep (fun _ => 0)
theorem tab_nil : tab [] = fun _ => 0 := rfl
theorem tab_snoc (l : List (Int × Int)) (e : Int × Int) : tab (l ++ [e]) = tstep (tab l) e := by simp [tab, List.foldl_append]
theorem snoc_ind {α : Type} {p : List α → Prop} (h0 : p []) (hs : ∀ l x, p l → p (l ++ [x])) (l : List α) : p l := by
  have : ∀ r : List α, p r.reverse := fun r => by
    induction r with
    | nil => exact h0
    | cons x r ih => rw [List.reverse_cons]; exact hs _ _ ih
  have h := this l.reverse
  rwa [List.reverse_reverse] at h
/-- at no such place, and where no entry is, there is nothing -/
theorem tab_out (l : List (Int × Int)) : ∀ c, (isPl c = false ∨ c ∉ l.map (·.1)) → tab l c = 0 := by
  refine snoc_ind (p := fun l => ∀ c, (isPl c = false ∨ c ∉ l.map (·.1)) → tab l c = 0) (fun _ _ => rfl) (fun l e ih c hc => ?_) l
  rw [tab_snoc]
  have hc' : isPl c = false ∨ c ∉ l.map (·.1) := hc.imp id (fun h hm => h (by simp only [List.map_append, List.mem_append]; exact .inl hm))
  unfold tstep
  split
  · rename_i hp
    unfold upd
    rw [if_neg, ih c hc']
    intro e1
    rcases hc with h | h
    · rw [e1, hp] at h; cases h
    · exact h (by simp [e1])
  · exact ih c hc'
/-- what fits stays within -/
theorem tab_fits {p : Int → Prop} (h0 : p 0) (l : List (Int × Int)) : (∀ e ∈ l, p e.2) → ∀ c, p (tab l c) := by
  refine snoc_ind (p := fun l => (∀ e ∈ l, p e.2) → ∀ c, p (tab l c)) (fun _ _ => h0) (fun l e ih h c => ?_) l
  have ih' := ih (fun x hx => h x (by simp [hx]))
  rw [tab_snoc]
  unfold tstep upd
  split
  · dsimp only
    split
    · exact h e (by simp)
    · exact ih' c
  · exact ih' c

/-! ### blocks -/
def blk (f : Int → Int) (i : Int) : List Int := (List.range 256).map fun (j : Nat) => f (256 * i + (j : Int))
def zblk : List Int := List.replicate 256 0
theorem blk_len (f : Int → Int) (i : Int) : (blk f i).length = 256 := by simp [blk]
theorem zblk_len : zblk.length = 256 := List.length_replicate
theorem blk_get (f : Int → Int) (i : Int) (j : Nat) : (blk f i)[j]? = if j < 256 then some (f (256 * i + (j : Int))) else none := by
  unfold blk
  rw [List.getElem?_map]
  by_cases h : j < 256
  · rw [if_pos h, List.getElem?_range h]; rfl
  · rw [if_neg h, List.getElem?_eq_none (by simpa using h)]; rfl
theorem blk_at (f : Int → Int) (i : Int) (j : Nat) (h : j < 256) : (blk f i).getD j 0 = f (256 * i + (j : Int)) := by
  rw [List.getD_eq_getElem?_getD, blk_get, if_pos h]; rfl
theorem blk_zero (i : Int) : blk (fun _ => 0) i = zblk := by
  apply List.ext_getElem?; intro j
  rw [blk_get]
  unfold zblk
  rw [List.getElem?_replicate]
theorem blk_congr {f g : Int → Int} {i : Int} (h : ∀ j : Nat, j < 256 → f (256 * i + (j : Int)) = g (256 * i + (j : Int))) : blk f i = blk g i := by
  apply List.ext_getElem?; intro j
  rw [blk_get, blk_get]
  split
  · rename_i hj; rw [h j hj]
  · rfl
theorem blk_fits {p : Int → Prop} {f : Int → Int} (h : ∀ c, p (f c)) (i : Int) : ∀ x ∈ blk f i, p x := by
  intro x hx
  unfold blk at hx
  obtain ⟨j, _, rfl⟩ := List.mem_map.1 hx
  exact h _
theorem blk_upd (f : Int → Int) (c v i : Int) : blk (upd f c v) i = if i = c / 256 then (blk f i).set (c % 256).toNat v else blk f i := by
  split
  · rename_i hi
    apply List.ext_getElem?; intro j
    rw [blk_get, List.getElem?_set, blk_get, blk_len]
    by_cases hj : j < 256
    · rw [if_pos hj, if_pos hj]
      by_cases hij : (c % 256).toNat = j
      · rw [if_pos hij, if_pos (by omega)]
        unfold upd; rw [if_pos (by omega)]
      · rw [if_neg hij]
        unfold upd; rw [if_neg (by omega)]
    · rw [if_neg hj, if_neg hj, if_neg (by omega)]
  · rename_i hi
    apply blk_congr
    intro j hj
    unfold upd; rw [if_neg (by omega)]

/-! ### the keys that gather has -/
def gstep (ks : List Int) (e : Int × Int) : List Int := if isPl e.1 then kput ks (e.1 / 256) else ks
def gks (l : List (Int × Int)) : List Int := l.foldl gstep []
theorem gks_snoc (l : List (Int × Int)) (e : Int × Int) : gks (l ++ [e]) = gstep (gks l) e := by simp [gks, List.foldl_append]
theorem gks_nodup (l : List (Int × Int)) : (gks l).Nodup := by
  refine snoc_ind (p := fun l => (gks l).Nodup) List.nodup_nil (fun l e ih => ?_) l
  rw [gks_snoc]; unfold gstep; split
  · exact kput_nodup ih _
  · exact ih
theorem gks_bd (l : List (Int × Int)) : ∀ k ∈ gks l, 0 ≤ k ∧ k < 4352 := by
  refine snoc_ind (p := fun l => ∀ k ∈ gks l, 0 ≤ k ∧ k < 4352) (by intro k hk; cases hk) (fun l e ih => ?_) l
  rw [gks_snoc]; unfold gstep; split
  · rename_i h
    have := isPl_iff.1 h
    intro k hk
    rcases kput_mem.1 hk with hk | rfl
    · exact ih k hk
    · omega
  · exact ih
theorem gks_len (l : List (Int × Int)) : (gks l).length ≤ l.length := by
  refine snoc_ind (p := fun l => (gks l).length ≤ l.length) (Nat.zero_le _) (fun l e ih => ?_) l
  rw [gks_snoc, List.length_append]; unfold gstep; split
  · have := kput_len (gks l) (e.1 / 256); simp only [List.length_cons, List.length_nil]; omega
  · simp only [List.length_cons, List.length_nil]; omega
theorem gks_empty (l : List (Int × Int)) : ∀ i, i ∉ gks l → blk (tab l) i = zblk := by
  refine snoc_ind (p := fun l => ∀ i, i ∉ gks l → blk (tab l) i = zblk) (fun i _ => blk_zero i) (fun l e ih i hi => ?_) l
  rw [gks_snoc] at hi
  rw [tab_snoc]
  unfold gstep at hi
  unfold tstep
  split
  · rename_i h
    rw [if_pos h] at hi
    rw [blk_upd, if_neg (fun e => hi (kput_mem.2 (.inr e)))]
    exact ih i (fun h' => hi (kput_mem.2 (.inl h')))
  · rename_i h
    rw [if_neg h] at hi
    exact ih i hi

/-! ### the unlike blocks, one by one -/
def ustart (ks : List Int) : List (List Int) := if ks.length < 4352 then [zblk] else []
def ustep (f : Int → Int) (ks : List Int) (U : List (List Int)) (i : Nat) : List (List Int) := if (i : Int) ∈ ks then kput U (blk f i) else U
def uall (f : Int → Int) (ks : List Int) (n : Nat) : List (List Int) := (List.range n).foldl (ustep f ks) (ustart ks)
theorem uall_zero (f : Int → Int) (ks : List Int) : uall f ks 0 = ustart ks := rfl
theorem uall_succ (f : Int → Int) (ks : List Int) (n : Nat) : uall f ks (n + 1) = ustep f ks (uall f ks n) n := by
  simp [uall, List.range_succ, List.foldl_append]
theorem uall_len (f : Int → Int) (ks : List Int) : ∀ n, (uall f ks n).length ≤ n + 1
  | 0 => by rw [uall_zero]; unfold ustart; split <;> simp
  | n + 1 => by
    have ih := uall_len f ks n
    rw [uall_succ]; unfold ustep; split
    · have := kput_len (uall f ks n) (blk f n); omega
    · omega
theorem uall_nodup (f : Int → Int) (ks : List Int) : ∀ n, (uall f ks n).Nodup
  | 0 => by rw [uall_zero]; unfold ustart; split <;> simp
  | n + 1 => by
    rw [uall_succ]; unfold ustep; split
    · exact kput_nodup (uall_nodup f ks n) _
    · exact uall_nodup f ks n
theorem uall_block (f : Int → Int) (ks : List Int) : ∀ n, ∀ u ∈ uall f ks n, u = zblk ∨ ∃ i, u = blk f i
  | 0 => by
    rw [uall_zero]; unfold ustart; split
    · intro u hu; simp at hu; exact .inl hu
    · intro u hu; cases hu
  | n + 1 => by
    rw [uall_succ]; unfold ustep; split
    · intro u hu
      rcases kput_mem.1 hu with hu | rfl
      · exact uall_block f ks n u hu
      · exact .inr ⟨n, rfl⟩
    · exact uall_block f ks n
/-- where it is -/
def pos {α : Type} [DecidableEq α] : List α → α → Nat
  | [], _ => 0
  | y :: r, x => if x = y then 0 else pos r x + 1
theorem pos_app {α : Type} [DecidableEq α] {x : α} : ∀ (U V : List α), x ∈ U → pos (U ++ V) x = pos U x
  | [], _, h => by cases h
  | y :: r, V, h => by
    rw [List.cons_append]; unfold pos
    split
    · rfl
    · rename_i hn
      rw [pos_app r V ((List.mem_cons.1 h).resolve_left hn)]
theorem pos_last {α : Type} [DecidableEq α] {x : α} : ∀ (U : List α), x ∉ U → pos (U ++ [x]) x = U.length
  | [], _ => by simp [pos]
  | y :: r, h => by
    rw [List.cons_append]; unfold pos
    rw [if_neg (fun e => h (by simp [e])), pos_last r (fun hm => h (by simp [hm]))]
    rfl
theorem pos_get {α : Type} [DecidableEq α] {x : α} : ∀ (U : List α), x ∈ U → U[pos U x]? = some x
  | [], h => by cases h
  | y :: r, h => by
    unfold pos
    split
    · rename_i e; rw [e]; rfl
    · rename_i hn
      rw [List.getElem?_cons_succ]
      exact pos_get r ((List.mem_cons.1 h).resolve_left hn)
theorem pos_lt {α : Type} [DecidableEq α] {x : α} {U : List α} (h : x ∈ U) : pos U x < U.length := (List.getElem?_eq_some_iff.1 (pos_get U h)).1
theorem pos_kput {α : Type} [DecidableEq α] {U : List α} {x y : α} (h : x ∈ U) : pos (kput U y) x = pos U x := by
  unfold kput; split
  · rfl
  · exact pos_app U _ h

/-- what a table has found: the unlike blocks, and of each block where it is among them -/
structure Dist (f : Int → Int) (U : List (List Int)) : Prop where
  nodup : U.Nodup
  all : ∀ i : Nat, i < 4352 → blk f i ∈ U
  some : ∀ u ∈ U, ∃ i : Nat, i < 4352 ∧ u = blk f i
theorem Dist.len {f : Int → Int} {U V : List (List Int)} (h : Dist f U) (k : Dist f V) : U.length = V.length :=
  Nat.le_antisymm (nodup_le U V h.nodup (fun u hu => by obtain ⟨i, hi, rfl⟩ := h.some u hu; exact k.all i hi)) (nodup_le V U k.nodup (fun u hu => by obtain ⟨i, hi, rfl⟩ := k.some u hu; exact h.all i hi))

theorem ks_room {ks : List Int} (hn : ks.Nodup) (hb : ∀ k ∈ ks, 0 ≤ k ∧ k < 4352) {i : Nat} (hi : i < 4352) (h : (i : Int) ∉ ks) : ks.length < 4352 := by
  have := nodup_le ((i : Int) :: ks) ((List.range 4352).map (fun (n : Nat) => (n : Int))) (List.nodup_cons.2 ⟨h, hn⟩) (fun x hx => by
    refine List.mem_map.2 ⟨x.toNat, List.mem_range.2 ?_, ?_⟩
    · rcases List.mem_cons.1 hx with rfl | hx
      · omega
      · have := hb x hx; omega
    · rcases List.mem_cons.1 hx with rfl | hx
      · omega
      · have := hb x hx; omega)
  simp only [List.length_cons, List.length_map, List.length_range] at this
  omega
theorem ks_some {ks : List Int} (h : ks.length < 4352) : ∃ i : Nat, i < 4352 ∧ (i : Int) ∉ ks := by
  apply Classical.byContradiction
  intro hn
  have hall : ∀ x ∈ (List.range 4352).map (fun (n : Nat) => (n : Int)), x ∈ ks := fun x hx => by
    obtain ⟨i, hi, rfl⟩ := List.mem_map.1 hx
    apply Classical.byContradiction
    intro hni
    exact hn ⟨i, List.mem_range.1 hi, hni⟩
  have := nodup_le _ ks (List.Pairwise.map _ (fun a b hab e => hab (Int.ofNat.inj e)) List.nodup_range) hall
  simp only [List.length_map, List.length_range] at this
  omega
theorem zblk_in {f : Int → Int} {ks : List Int} (h : ks.length < 4352) : ∀ n, zblk ∈ uall f ks n ∧ pos (uall f ks n) zblk = 0
  | 0 => by rw [uall_zero]; unfold ustart; rw [if_pos h]; exact ⟨by simp, by simp [pos]⟩
  | n + 1 => by
    obtain ⟨h1, h2⟩ := zblk_in (f := f) h n
    rw [uall_succ]; unfold ustep; split
    · exact ⟨kput_mem.2 (.inl h1), by rw [pos_kput h1, h2]⟩
    · exact ⟨h1, h2⟩
/-- each block has been found, at its number -/
theorem uall_has {f : Int → Int} {ks : List Int} (hn : ks.Nodup) (hb : ∀ k ∈ ks, 0 ≤ k ∧ k < 4352) (he : ∀ i, i ∉ ks → blk f i = zblk) : ∀ n, n ≤ 4352 → ∀ i : Nat, i < n → blk f i ∈ uall f ks n
  | 0, _, i, hi => absurd hi (by omega)
  | n + 1, hle, i, hi => by
    rw [uall_succ]; unfold ustep
    by_cases h : i < n
    · have := uall_has hn hb he n (by omega) i h
      split
      · exact kput_mem.2 (.inl this)
      · exact this
    · obtain rfl : i = n := by omega
      split
      · exact kput_mem.2 (.inr rfl)
      · rename_i hk
        rw [he _ hk]
        exact (zblk_in (ks_room hn hb (by omega) hk) _).1
theorem uall_dist {f : Int → Int} {ks : List Int} (hn : ks.Nodup) (hb : ∀ k ∈ ks, 0 ≤ k ∧ k < 4352) (he : ∀ i, i ∉ ks → blk f i = zblk) : Dist f (uall f ks 4352) := by
  refine ⟨uall_nodup f ks 4352, uall_has hn hb he 4352 (Nat.le_refl _), ?_⟩
  have : ∀ n, n ≤ 4352 → ∀ u ∈ uall f ks n, ∃ i : Nat, i < 4352 ∧ u = blk f i := by
    intro n
    induction n with
    | zero =>
      intro _ u hu
      rw [uall_zero] at hu; unfold ustart at hu; split at hu
      · rename_i h
        simp at hu
        obtain ⟨i, hi, hk⟩ := ks_some h
        exact ⟨i, hi, by rw [he _ hk]; exact hu⟩
      · cases hu
    | succ n ih =>
      intro hle u hu
      rw [uall_succ] at hu; unfold ustep at hu; split at hu
      · rcases kput_mem.1 hu with hu | rfl
        · exact ih (by omega) u hu
        · exact ⟨n, by omega, rfl⟩
      · exact ih (by omega) u hu
  exact this 4352 (Nat.le_refl _)

/-! ### the document's way to count -/
def rstep (f : Int → Int) (m : Int → List Int) (e : Int × Int) : Int → List Int := if isPl e.1 then upd m (e.1 / 256) ((m (e.1 / 256)).set (e.1 % 256).toNat (f e.1)) else m
def rof (f : Int → Int) (l : List (Int × Int)) : Int → List Int := l.foldl (rstep f) (fun _ => zblk)
theorem rof_snoc (f : Int → Int) (l : List (Int × Int)) (e : Int × Int) : rof f (l ++ [e]) = rstep f (rof f l) e := by simp [rof, List.foldl_append]
def seen (f : Int → Int) (l : List (Int × Int)) (c : Int) : Int := if isPl c = true ∧ c ∈ l.map (·.1) then f c else 0
theorem rof_seen (f : Int → Int) (l : List (Int × Int)) : ∀ i, rof f l i = blk (seen f l) i := by
  refine snoc_ind (p := fun l => ∀ i, rof f l i = blk (seen f l) i) (fun i => ?_) (fun l e ih i => ?_) l
  · refine (blk_zero i).symm.trans (congrArg (fun g => blk g i) ?_)
    funext c; unfold seen; rw [if_neg (by simp)]
  · rw [rof_snoc]
    have hs : seen f (l ++ [e]) = if isPl e.1 then upd (seen f l) e.1 (f e.1) else seen f l := by
      funext c
      by_cases hp : isPl e.1 = true
      · rw [if_pos hp]
        unfold seen upd
        by_cases hc : c = e.1
        · subst hc; rw [if_pos ⟨hp, by simp⟩, if_pos rfl]
        · rw [if_neg hc]
          have : (c ∈ (l ++ [e]).map (·.1)) ↔ c ∈ l.map (·.1) := by simp [hc]
          simp only [this]
      · rw [if_neg hp]
        unfold seen
        by_cases hc : c = e.1
        · subst hc; rw [if_neg (fun h => hp h.1), if_neg (fun h => hp h.1)]
        · have : (c ∈ (l ++ [e]).map (·.1)) ↔ c ∈ l.map (·.1) := by simp [hc]
          simp only [this]
    unfold rstep
    rw [hs]
    split
    · rename_i hp
      rw [blk_upd]
      unfold upd
      split
      · rename_i hi; rw [ih, hi]
      · exact ih i
    · exact ih i
theorem seen_all (l : List (Int × Int)) : seen (tab l) l = tab l := by
  funext c
  unfold seen
  split
  · rfl
  · rename_i h
    exact (tab_out l c (by
      by_cases hp : isPl c = true
      · exact .inr (fun hm => h ⟨hp, hm⟩)
      · exact .inl (by simpa using hp))).symm
theorem rof_all (l : List (Int × Int)) (i : Int) : rof (tab l) l i = blk (tab l) i := by rw [rof_seen, seen_all]
/-- its kinds -/
def kinds (f : Int → Int) (n : Nat) : List (List Int) := (List.range n).foldl (fun K (i : Nat) => kput K (blk f i)) []
theorem kinds_succ (f : Int → Int) (n : Nat) : kinds f (n + 1) = kput (kinds f n) (blk f n) := by simp [kinds, List.range_succ, List.foldl_append]
theorem kinds_dist (f : Int → Int) : Dist f (kinds f 4352) := by
  have h : ∀ n, (kinds f n).Nodup ∧ (∀ i : Nat, i < n → blk f i ∈ kinds f n) ∧ ∀ u ∈ kinds f n, ∃ i : Nat, i < n ∧ u = blk f i := by
    intro n
    induction n with
    | zero => exact ⟨List.nodup_nil, fun i hi => absurd hi (by omega), fun u hu => by cases hu⟩
    | succ n ih =>
      obtain ⟨h1, h2, h3⟩ := ih
      rw [kinds_succ]
      refine ⟨kput_nodup h1 _, fun i hi => kput_mem.2 ?_, fun u hu => ?_⟩
      · by_cases h : i < n
        · exact .inl (h2 i h)
        · obtain rfl : i = n := by omega
          exact .inr rfl
      · rcases kput_mem.1 hu with hu | rfl
        · obtain ⟨i, hi, e⟩ := h3 u hu; exact ⟨i, by omega, e⟩
        · exact ⟨n, by omega, rfl⟩
  exact ⟨(h 4352).1, (h 4352).2.1, (h 4352).2.2⟩
/-- the keys that the document's table has -/
def rks (l : List (Int × Int)) : List Int := l.foldl (fun ks e => if isPl e.1 then kput ks e.1 else ks) []
theorem rks_snoc (l : List (Int × Int)) (e : Int × Int) : rks (l ++ [e]) = if isPl e.1 then kput (rks l) e.1 else rks l := by simp [rks, List.foldl_append]
theorem rks_iff (l : List (Int × Int)) : ∀ c, c ∈ rks l ↔ isPl c = true ∧ c ∈ l.map (·.1) := by
  refine snoc_ind (p := fun l => ∀ c, c ∈ rks l ↔ isPl c = true ∧ c ∈ l.map (·.1)) (fun c => by simp [rks]) (fun l e ih c => ?_) l
  rw [rks_snoc]
  split
  · rename_i hp
    rw [kput_mem, ih c]
    constructor
    · rintro (⟨h1, h2⟩ | rfl)
      · exact ⟨h1, by simp only [List.map_append, List.mem_append]; exact .inl h2⟩
      · exact ⟨hp, by simp⟩
    · rintro ⟨h1, h2⟩
      simp only [List.map_append, List.mem_append, List.map_cons, List.map_nil, List.mem_singleton] at h2
      exact h2.imp (fun h => ⟨h1, h⟩) id
  · rename_i hp
    rw [ih c]
    constructor
    · rintro ⟨h1, h2⟩
      exact ⟨h1, by simp only [List.map_append, List.mem_append]; exact .inl h2⟩
    · rintro ⟨h1, h2⟩
      simp only [List.map_append, List.mem_append, List.map_cons, List.map_nil, List.mem_singleton] at h2
      rcases h2 with h2 | rfl
      · exact ⟨h1, h2⟩
      · exact absurd h1 hp
theorem rks_out (l : List (Int × Int)) (c : Int) (h : c ∉ rks l) : tab l c = 0 := tab_out l c (by
  by_cases hp : isPl c = true
  · exact .inr (fun hm => h ((rks_iff l c).2 ⟨hp, hm⟩))
  · exact .inl (by simpa using hp))
end Go.Proofs.Ytmphfdnpnhlpjaa
