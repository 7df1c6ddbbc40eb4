/- Joined of: Mem, St4Math, Map4, Still, St4Get, Any, St4Add, St4Gath, St4Build. -/
import Derived.WalkKit
import Derived.ProofKit
import Derived.OpenShut
import Derived.WalkLawsBesides
import Derived.Below
import Derived.Laws.OwnMore
import Derived.Laws.Rows
import Derived.Laws.ResultCell
import Derived.Deep.Draws
import Derived.Lib.Hide
import Derived.Maps.Own
import Derived.Maps.OwnOps
import Derived.Maps.OwnSet
import Derived.DeepKeys4
import Derived.BigQuiet
import Derived.Test.YtdmcidljjfogjaaDoorRows
import Derived.Orders
import Derived.RegionTactic
import Derived.Deep.RegionHeld
import Derived.Maps.AppendAt
import Derived.OwnWalk
import Derived.Great.BuildSlice
import Derived.Great.FillDense
import Derived.Deep.MidRow
import Derived.StillTailTactics
/- Words for memory that these proofs share: a slice that reads as a row of numbers, a block known whole, what stays as it was. -/
namespace Go.Proofs.YtdmcidljjfogjaaDoor
open Go.RowKit

/-- block g is just these cells -/
def Blk (w : World) (g : Nat) (t : TypeId) (cs : Array Value) : Prop := w.heap[g]? = some (.cells cs t (0, 0))
theorem Blk.lt {w : World} {g : Nat} {t : TypeId} {cs : Array Value} (h : Blk w g t cs) : g < w.heap.size := by
  apply Classical.byContradiction; intro hn
  unfold Blk at h; rw [Array.getElem?_eq_none (by omega)] at h; cases h
theorem Blk.cell {w : World} {g : Nat} {t : TypeId} {cs : Array Value} (h : Blk w g t cs) (i : Nat) : w.cell? ⟨g, i, none⟩ = cs[i]? := cell_of_row w g i cs t (0, 0) h
theorem Blk.frozen {w : World} {g : Nat} {t : TypeId} {cs : Array Value} (h : Blk w g t cs) (i : Nat) : w.frozen? ⟨g, i, none⟩ = false := by
  unfold Blk at h; simp [World.frozen?, h]
theorem Blk.below {w w' : World} {g : Nat} {t : TypeId} {cs : Array Value} {B : Nat} (h : Blk w g t cs) (hb : Below B w w') (hg : g < B) : Blk w' g t cs := (hb.block g hg).trans h
theorem Blk.new (w : World) (t : TypeId) (cs : Array Value) : Blk (w.alloc (.cells cs t)) w.heap.size t cs := heap_alloc_new w _

theorem Blk.set {w : World} {g : Nat} {t : TypeId} {cs : Array Value} (h : Blk w g t cs) (i : Nat) (u : Value) : Blk (w.setCell ⟨g, i, none⟩ u) g t (cs.setIfInBounds i u) := by
  unfold Blk at h ⊢; simp [World.setCell, Array.getElem?_modify, h]
theorem Blk.alloc {w : World} {g : Nat} {t : TypeId} {cs : Array Value} (h : Blk w g t cs) (o : Obj) : Blk (w.alloc o) g t cs := (Below.heap_alloc w o g h.lt).trans h
theorem Blk.far {w : World} {g : Nat} {t : TypeId} {cs : Array Value} (h : Blk w g t cs) {p : Addr} (hp : g ≠ p.block) (u : Value) : Blk (w.setCell p u) g t cs := (Below.heap_setCell w p u g hp).trans h
theorem Blk.drewN {w : World} {g : Nat} {t : TypeId} {cs : Array Value} (h : Blk w g t cs) (n : Nat) : Blk (w.drewN n) g t cs := h
theorem Blk.drew {w : World} {g : Nat} {t : TypeId} {cs : Array Value} (h : Blk w g t cs) : Blk w.drew g t cs := h
/-- a struct in a block of its own, and one more result -/
theorem results_blk {P : Program} {fn : Func} {p u : Tmp} {ty : TypeId} (h : fn.results = #[.cell p ty, .tmp u]) (tmps : Array Value) (w : World) (g : Nat) (t : TypeId) (cs : Array Value) (d : TypeDesc)
    (hp : tmps.getD p undef = .pointer (some ⟨g, 0, none⟩)) (hg : Blk w g t cs) (hu : P.underlying ty = some d) (hd : (match d with | .struct _ | .array _ _ => true | _ => false) = true) (hi : (P.info? ty).map (·.size) = some cs.size) :
    (results fn tmps).run P w = .ok (.tuple #[.agg cs, tmps.getD u undef]) w := by
  rw [results_cell_tmp h, hp]
  simp [asAddr, run_loadVar_row w g t ty cs (0, 0) d hg hu hd hi, Result.andThen]

/-- but for block g all that was there is as it was -/
def But (g : Nat) (w w' : World) : Prop := w.grownBy w' (some g)
theorem But.refl (g : Nat) (w : World) : But g w w := ⟨rfl, rfl, rfl, Nat.le_refl _, fun _ _ _ => rfl⟩
theorem But.trans {g : Nat} {a b c : World} (h : But g a b) (k : But g b c) : But g a c :=
  ⟨k.os.trans h.os, k.tape.trans h.tape, k.output.trans h.output, Nat.le_trans h.size k.size, fun i hi hn => (k.block i (Nat.lt_of_lt_of_le hi h.size) hn).trans (h.block i hi hn)⟩
theorem But.set {g : Nat} {a b : World} (h : But g a b) (i : Nat) (u : Value) : But g a (b.setCell ⟨g, i, none⟩ u) :=
  ⟨h.os, h.tape, h.output, by have := h.size; simpa [World.setCell] using this, fun k hk hn => (Below.heap_setCell b ⟨g, i, none⟩ u k (fun e => hn (by rw [e]))).trans (h.block k hk hn)⟩
theorem But.of_below {g : Nat} {a b : World} (h : Below a.heap.size a b) : But g a b := ⟨h.os, h.tape, h.output, h.size, fun i hi _ => h.block i hi⟩
theorem But.below {g B : Nat} {a b : World} (h : But g a b) (hB : B ≤ g) (hs : B ≤ a.heap.size) : Below B a b :=
  ⟨h.os, h.tape, h.output, h.size, fun i hi => h.block i (by omega) (fun e => by injection e; omega)⟩
theorem But.blk {g g' : Nat} {a b : World} {t : TypeId} {cs : Array Value} (h : But g a b) (hk : Blk a g' t cs) (hne : g' ≠ g) : Blk b g' t cs :=
  (h.block g' hk.lt (fun e => by injection e with e; exact hne e)).trans hk
theorem But.cell {g : Nat} {a b : World} (h : But g a b) {p : Addr} (hp : p.block < a.heap.size) (hne : p.block ≠ g) : b.cell? p = a.cell? p :=
  World.cell?_of_block (h.block p.block hp (fun e => by injection e with e; exact hne e))

/-- a slice of one-cell numbers of kind k reads as xs; it lies below block B -/
def Ints (w : World) (B : Nat) (k : IntKind) (A : Option Addr) (xs : List Int) : Prop :=
  xs = [] ∨ ∃ b o, A = some ⟨b, o, none⟩ ∧ b < B ∧ ∀ j, j < xs.length → w.cell? ⟨b, o + j, none⟩ = some (.int k (xs.getD j 0))
theorem Ints.nil (w : World) (B : Nat) (k : IntKind) (A : Option Addr) : Ints w B k A [] := .inl rfl
theorem Ints.at {w : World} {B : Nat} {k : IntKind} {A : Option Addr} {xs : List Int} (h : Ints w B k A xs) (hp : 0 < xs.length) :
    ∃ b o, A = some ⟨b, o, none⟩ ∧ b < B ∧ ∀ j, j < xs.length → w.cell? ⟨b, o + j, none⟩ = some (.int k (xs.getD j 0)) := by
  rcases h with h | h
  · subst h; simp at hp
  · exact h
theorem Ints.below {w w' : World} {B B' : Nat} {k : IntKind} {A : Option Addr} {xs : List Int} (h : Ints w B k A xs) (hb : Below B' w w') (hB : B ≤ B') : Ints w' B k A xs := by
  rcases h with h | ⟨b, o, e, hl, hc⟩
  · exact .inl h
  · exact .inr ⟨b, o, e, hl, fun j hj => (hb.cell (p := ⟨b, o + j, none⟩) (by simpa using Nat.lt_of_lt_of_le hl hB)).trans (hc j hj)⟩
theorem Ints.more {w : World} {B B' : Nat} {k : IntKind} {A : Option Addr} {xs : List Int} (h : Ints w B k A xs) (hB : B ≤ B') : Ints w B' k A xs := by
  rcases h with h | ⟨b, o, e, hl, hc⟩
  · exact .inl h
  · exact .inr ⟨b, o, e, by omega, hc⟩
theorem Ints.take {w : World} {B : Nat} {k : IntKind} {A : Option Addr} {xs : List Int} (h : Ints w B k A xs) (n : Nat) : Ints w B k A (xs.take n) := by
  rcases h with h | ⟨b, o, e, hl, hc⟩
  · subst h; exact .inl (by simp)
  · refine .inr ⟨b, o, e, hl, fun j hj => ?_⟩
    rw [List.length_take] at hj
    rw [hc j (by omega)]
    simp only [List.getD_eq_getElem?_getD, List.getElem?_take]
    rw [if_pos (by omega)]
theorem Ints.drop {w : World} {B : Nat} {k : IntKind} {b o : Nat} {xs : List Int} (h : Ints w B k (some ⟨b, o, none⟩) xs) (n : Nat) : Ints w B k (some ⟨b, o + n, none⟩) (xs.drop n) := by
  rcases h with h | ⟨b', o', e, hl, hc⟩
  · subst h; exact .inl (by simp)
  · injection e with e; injection e with e1 e2; subst e1 e2
    refine .inr ⟨_, _, rfl, hl, fun j hj => ?_⟩
    rw [List.length_drop] at hj
    have := hc (n + j) (by omega)
    rw [← Nat.add_assoc] at this
    rw [this]
    simp only [List.getD_eq_getElem?_getD, List.getElem?_drop]
/-- from a row of the call's own -/
theorem Ints.own {w : World} {base : Nat} {e : TypeId} {k : IntKind} {A : Option Addr} {n c : Nat} {xs : List Int} (h : w.ownsRow base e 1 (.slice A n c) n (xs.map (Value.int k))) : Ints w w.heap.size k A xs := by
  rcases h.2 with ⟨e1, e2⟩ | ⟨g, cap, cur, hv, hb, hh, hnc, hm, hcs, ht⟩
  · have hl := h.1; rw [e2] at hl; simp at hl; exact .inl hl
  · injection hv with hA
    refine .inr ⟨g, 0, hA, ?_, fun j hj => ?_⟩
    · apply Classical.byContradiction; intro hn
      rw [Array.getElem?_eq_none (by omega)] at hh; cases hh
    · rw [cell_of_row w g (0 + j) cur e (0, 0) hh]
      have hj' : (xs.map (Value.int k))[j]? = some (.int k (xs.getD j 0)) := by simp [List.getElem?_map, List.getD_eq_getElem?_getD, List.getElem?_eq_getElem hj]
      rw [← ht, List.getElem?_take] at hj'
      split at hj'
      · simpa using hj'
      · cases hj'
theorem own_len {w : World} {base : Nat} {e : TypeId} {v : Value} {n : Nat} {xs : List Value} (h : w.ownsRow base e 1 v n xs) : xs.length = n := by simpa using h.1
theorem own_form {w : World} {base : Nat} {e : TypeId} {v : Value} {n : Nat} {xs : List Value} (h : w.ownsRow base e 1 v n xs) : ∃ A c, v = .slice A n c ∧ n ≤ c ∧ c ≤ maxLen := by
  rcases h.2 with ⟨e1, e2⟩ | ⟨g, cap, cur, hv, hb, hh, hnc, hm, hcs, ht⟩
  · exact ⟨none, 0, by rw [e1, e2], by omega, by simp [maxLen]⟩
  · exact ⟨_, cap, hv, hnc, hm⟩
theorem own_below {w w' : World} {base B : Nat} {e : TypeId} {v : Value} {n : Nat} {xs : List Value} (h : w.ownsRow base e 1 v n xs) (hb : Below B w w') (hB : w.heap.size ≤ B) : w'.ownsRow base e 1 v n xs :=
  h.kept (row := none) ⟨hb.os, hb.tape, hb.output, hb.size, fun i hi _ => hb.block i (by omega)⟩ (by
    cases hv : v.ownBlock with
    | none => exact .inl rfl
    | some g => exact .inr (by simp))
theorem below_drewN' {B : Nat} {a w : World} (h : Below B a w) (n : Nat) : Below B a (w.drewN n) := ⟨h.os, h.tape, h.output, h.size, h.block⟩
end Go.Proofs.YtdmcidljjfogjaaDoor

/- The mathematics of tables in two stages: what entries say of each place, the blocks of 256 places, how many unlike ones there are. No program in it. -/
namespace Go.Proofs.YtdmcidljjfogjaaDoor

/-- turned at one key -/
def upd {κ ν : Type} [DecidableEq κ] (f : κ → ν) (k : κ) (v : ν) : κ → ν := fun x => if x = k then v else f x
/-- one key more, if it is not there -/
def kput {κ : Type} [DecidableEq κ] (ks : List κ) (k : κ) : List κ := if k ∈ ks then ks else ks ++ [k]

theorem kput_mem {κ : Type} [DecidableEq κ] {ks : List κ} {k x : κ} : x ∈ kput ks k ↔ x ∈ ks ∨ x = k := by
  unfold kput; split
  · rename_i h; exact ⟨.inl, fun h' => h'.elim id (fun e => e ▸ h)⟩
  · simp
theorem kput_nodup {κ : Type} [DecidableEq κ] {ks : List κ} (h : ks.Nodup) (k : κ) : (kput ks k).Nodup := by
  unfold kput; split
  · exact h
  · rename_i hn
    exact List.nodup_append.2 ⟨h, by simp, fun a ha c hc e => by simp at hc; exact hn (hc ▸ e ▸ ha)⟩
theorem kput_len {κ : Type} [DecidableEq κ] (ks : List κ) (k : κ) : (kput ks k).length ≤ ks.length + 1 := by
  unfold kput; split <;> simp

/-- no row without repeats is longer than one that has all of it -/
theorem nodup_le {α : Type} [DecidableEq α] : ∀ (l m : List α), l.Nodup → (∀ x ∈ l, x ∈ m) → l.length ≤ m.length
  | [], _, _, _ => Nat.zero_le _
  | x :: r, m, hn, hs => by
    obtain ⟨h1, h2⟩ := List.nodup_cons.1 hn
    have hx := hs x (by simp)
    have hr : ∀ y ∈ r, y ∈ m.erase x := fun y hy => (List.mem_erase_of_ne (fun (e : y = x) => h1 (e ▸ hy))).2 (hs y (by simp [hy]))
    have := nodup_le r (m.erase x) h2 hr
    rw [List.length_erase_of_mem hx] at this
    have hp : 0 < m.length := List.length_pos_of_mem hx
    simp only [List.length_cons]
    omega

/-! ### what entries say -/
def isPl (c : Int) : Bool := decide (0 ≤ c ∧ c ≤ 1114111)
theorem isPl_iff {c : Int} : isPl c = true ↔ 0 ≤ c ∧ c ≤ 1114111 := by simp [isPl]
theorem isPl_no {c : Int} : isPl c = false ↔ ¬ (0 ≤ c ∧ c ≤ 1114111) := by simp [isPl]
def tstep (f : Int → Int) (e : Int × Int) : Int → Int := if isPl e.1 then upd f e.1 e.2 else f
/-- what a table of these entries has -/
def tab (l : List (Int × Int)) : Int → Int := l.foldl tstep (fun _ => 0)
theorem tab_nil : tab [] = fun _ => 0 := rfl
theorem tab_snoc (l : List (Int × Int)) (e : Int × Int) : tab (l ++ [e]) = tstep (tab l) e := by simp [tab, List.foldl_append]
theorem snoc_ind {α : Type} {p : List α → Prop} (h0 : p []) (hs : ∀ l x, p l → p (l ++ [x])) (l : List α) : p l := by
  have : ∀ r : List α, p r.reverse := fun r => by
    induction r with
    | nil => exact h0
    | cons x r ih => rw [List.reverse_cons]; exact hs _ _ ih
  have h := this l.reverse
  rwa [List.reverse_reverse] at h
/-- at no such place, and where no entry is, there is nothing -/
theorem tab_out (l : List (Int × Int)) : ∀ c, (isPl c = false ∨ c ∉ l.map (·.1)) → tab l c = 0 := by
  refine snoc_ind (p := fun l => ∀ c, (isPl c = false ∨ c ∉ l.map (·.1)) → tab l c = 0) (fun _ _ => rfl) (fun l e ih c hc => ?_) l
  rw [tab_snoc]
  have hc' : isPl c = false ∨ c ∉ l.map (·.1) := hc.imp id (fun h hm => h (by simp only [List.map_append, List.mem_append]; exact .inl hm))
  unfold tstep
  split
  · rename_i hp
    unfold upd
    rw [if_neg, ih c hc']
    intro e1
    rcases hc with h | h
    · rw [e1, hp] at h; cases h
    · exact h (by simp [e1])
  · exact ih c hc'
/-- what fits stays within -/
theorem tab_fits {p : Int → Prop} (h0 : p 0) (l : List (Int × Int)) : (∀ e ∈ l, p e.2) → ∀ c, p (tab l c) := by
  refine snoc_ind (p := fun l => (∀ e ∈ l, p e.2) → ∀ c, p (tab l c)) (fun _ _ => h0) (fun l e ih h c => ?_) l
  have ih' := ih (fun x hx => h x (by simp [hx]))
  rw [tab_snoc]
  unfold tstep upd
  split
  · dsimp only
    split
    · exact h e (by simp)
    · exact ih' c
  · exact ih' c

/-! ### blocks -/
def blk (f : Int → Int) (i : Int) : List Int := (List.range 256).map fun (j : Nat) => f (256 * i + (j : Int))
def zblk : List Int := List.replicate 256 0
theorem blk_len (f : Int → Int) (i : Int) : (blk f i).length = 256 := by simp [blk]
theorem zblk_len : zblk.length = 256 := List.length_replicate
theorem blk_get (f : Int → Int) (i : Int) (j : Nat) : (blk f i)[j]? = if j < 256 then some (f (256 * i + (j : Int))) else none := by
  unfold blk
  rw [List.getElem?_map]
  by_cases h : j < 256
  · rw [if_pos h, List.getElem?_range h]; rfl
  · rw [if_neg h, List.getElem?_eq_none (by simpa using h)]; rfl
theorem blk_at (f : Int → Int) (i : Int) (j : Nat) (h : j < 256) : (blk f i).getD j 0 = f (256 * i + (j : Int)) := by
  rw [List.getD_eq_getElem?_getD, blk_get, if_pos h]; rfl
theorem blk_zero (i : Int) : blk (fun _ => 0) i = zblk := by
  apply List.ext_getElem?; intro j
  rw [blk_get]
  unfold zblk
  rw [List.getElem?_replicate]
theorem blk_congr {f g : Int → Int} {i : Int} (h : ∀ j : Nat, j < 256 → f (256 * i + (j : Int)) = g (256 * i + (j : Int))) : blk f i = blk g i := by
  apply List.ext_getElem?; intro j
  rw [blk_get, blk_get]
  split
  · rename_i hj; rw [h j hj]
  · rfl
theorem blk_fits {p : Int → Prop} {f : Int → Int} (h : ∀ c, p (f c)) (i : Int) : ∀ x ∈ blk f i, p x := by
  intro x hx
  unfold blk at hx
  obtain ⟨j, _, rfl⟩ := List.mem_map.1 hx
  exact h _
theorem blk_upd (f : Int → Int) (c v i : Int) : blk (upd f c v) i = if i = c / 256 then (blk f i).set (c % 256).toNat v else blk f i := by
  split
  · rename_i hi
    apply List.ext_getElem?; intro j
    rw [blk_get, List.getElem?_set, blk_get, blk_len]
    by_cases hj : j < 256
    · rw [if_pos hj, if_pos hj]
      by_cases hij : (c % 256).toNat = j
      · rw [if_pos hij, if_pos (by omega)]
        unfold upd; rw [if_pos (by omega)]
      · rw [if_neg hij]
        unfold upd; rw [if_neg (by omega)]
    · rw [if_neg hj, if_neg hj, if_neg (by omega)]
  · rename_i hi
    apply blk_congr
    intro j hj
    unfold upd; rw [if_neg (by omega)]

/-! ### the keys that gather has -/
def gstep (ks : List Int) (e : Int × Int) : List Int := if isPl e.1 then kput ks (e.1 / 256) else ks
def gks (l : List (Int × Int)) : List Int := l.foldl gstep []
theorem gks_snoc (l : List (Int × Int)) (e : Int × Int) : gks (l ++ [e]) = gstep (gks l) e := by simp [gks, List.foldl_append]
theorem gks_nodup (l : List (Int × Int)) : (gks l).Nodup := by
  refine snoc_ind (p := fun l => (gks l).Nodup) List.nodup_nil (fun l e ih => ?_) l
  rw [gks_snoc]; unfold gstep; split
  · exact kput_nodup ih _
  · exact ih
theorem gks_bd (l : List (Int × Int)) : ∀ k ∈ gks l, 0 ≤ k ∧ k < 4352 := by
  refine snoc_ind (p := fun l => ∀ k ∈ gks l, 0 ≤ k ∧ k < 4352) (by intro k hk; cases hk) (fun l e ih => ?_) l
  rw [gks_snoc]; unfold gstep; split
  · rename_i h
    have := isPl_iff.1 h
    intro k hk
    rcases kput_mem.1 hk with hk | rfl
    · exact ih k hk
    · omega
  · exact ih
theorem gks_len (l : List (Int × Int)) : (gks l).length ≤ l.length := by
  refine snoc_ind (p := fun l => (gks l).length ≤ l.length) (Nat.zero_le _) (fun l e ih => ?_) l
  rw [gks_snoc, List.length_append]; unfold gstep; split
  · have := kput_len (gks l) (e.1 / 256); simp only [List.length_cons, List.length_nil]; omega
  · simp only [List.length_cons, List.length_nil]; omega
theorem gks_empty (l : List (Int × Int)) : ∀ i, i ∉ gks l → blk (tab l) i = zblk := by
  refine snoc_ind (p := fun l => ∀ i, i ∉ gks l → blk (tab l) i = zblk) (fun i _ => blk_zero i) (fun l e ih i hi => ?_) l
  rw [gks_snoc] at hi
  rw [tab_snoc]
  unfold gstep at hi
  unfold tstep
  split
  · rename_i h
    rw [if_pos h] at hi
    rw [blk_upd, if_neg (fun e => hi (kput_mem.2 (.inr e)))]
    exact ih i (fun h' => hi (kput_mem.2 (.inl h')))
  · rename_i h
    rw [if_neg h] at hi
    exact ih i hi

/-! ### the unlike blocks, one by one -/
def ustart (ks : List Int) : List (List Int) := if ks.length < 4352 then [zblk] else []
def ustep (f : Int → Int) (ks : List Int) (U : List (List Int)) (i : Nat) : List (List Int) := if (i : Int) ∈ ks then kput U (blk f i) else U
def uall (f : Int → Int) (ks : List Int) (n : Nat) : List (List Int) := (List.range n).foldl (ustep f ks) (ustart ks)
theorem uall_zero (f : Int → Int) (ks : List Int) : uall f ks 0 = ustart ks := rfl
theorem uall_succ (f : Int → Int) (ks : List Int) (n : Nat) : uall f ks (n + 1) = ustep f ks (uall f ks n) n := by
  simp [uall, List.range_succ, List.foldl_append]
theorem uall_len (f : Int → Int) (ks : List Int) : ∀ n, (uall f ks n).length ≤ n + 1
  | 0 => by rw [uall_zero]; unfold ustart; split <;> simp
  | n + 1 => by
    have ih := uall_len f ks n
    rw [uall_succ]; unfold ustep; split
    · have := kput_len (uall f ks n) (blk f n); omega
    · omega
theorem uall_nodup (f : Int → Int) (ks : List Int) : ∀ n, (uall f ks n).Nodup
  | 0 => by rw [uall_zero]; unfold ustart; split <;> simp
  | n + 1 => by
    rw [uall_succ]; unfold ustep; split
    · exact kput_nodup (uall_nodup f ks n) _
    · exact uall_nodup f ks n
theorem uall_block (f : Int → Int) (ks : List Int) : ∀ n, ∀ u ∈ uall f ks n, u = zblk ∨ ∃ i, u = blk f i
  | 0 => by
    rw [uall_zero]; unfold ustart; split
    · intro u hu; simp at hu; exact .inl hu
    · intro u hu; cases hu
  | n + 1 => by
    rw [uall_succ]; unfold ustep; split
    · intro u hu
      rcases kput_mem.1 hu with hu | rfl
      · exact uall_block f ks n u hu
      · exact .inr ⟨n, rfl⟩
    · exact uall_block f ks n
/-- where it is -/
def pos {α : Type} [DecidableEq α] : List α → α → Nat
  | [], _ => 0
  | y :: r, x => if x = y then 0 else pos r x + 1
theorem pos_app {α : Type} [DecidableEq α] {x : α} : ∀ (U V : List α), x ∈ U → pos (U ++ V) x = pos U x
  | [], _, h => by cases h
  | y :: r, V, h => by
    rw [List.cons_append]; unfold pos
    split
    · rfl
    · rename_i hn
      rw [pos_app r V ((List.mem_cons.1 h).resolve_left hn)]
theorem pos_last {α : Type} [DecidableEq α] {x : α} : ∀ (U : List α), x ∉ U → pos (U ++ [x]) x = U.length
  | [], _ => by simp [pos]
  | y :: r, h => by
    rw [List.cons_append]; unfold pos
    rw [if_neg (fun e => h (by simp [e])), pos_last r (fun hm => h (by simp [hm]))]
    rfl
theorem pos_get {α : Type} [DecidableEq α] {x : α} : ∀ (U : List α), x ∈ U → U[pos U x]? = some x
  | [], h => by cases h
  | y :: r, h => by
    unfold pos
    split
    · rename_i e; rw [e]; rfl
    · rename_i hn
      rw [List.getElem?_cons_succ]
      exact pos_get r ((List.mem_cons.1 h).resolve_left hn)
theorem pos_lt {α : Type} [DecidableEq α] {x : α} {U : List α} (h : x ∈ U) : pos U x < U.length := (List.getElem?_eq_some_iff.1 (pos_get U h)).1
theorem pos_kput {α : Type} [DecidableEq α] {U : List α} {x y : α} (h : x ∈ U) : pos (kput U y) x = pos U x := by
  unfold kput; split
  · rfl
  · exact pos_app U _ h

/-- what a table has found: the unlike blocks, and of each block where it is among them -/
structure Dist (f : Int → Int) (U : List (List Int)) : Prop where
  nodup : U.Nodup
  all : ∀ i : Nat, i < 4352 → blk f i ∈ U
  some : ∀ u ∈ U, ∃ i : Nat, i < 4352 ∧ u = blk f i
theorem Dist.len {f : Int → Int} {U V : List (List Int)} (h : Dist f U) (k : Dist f V) : U.length = V.length :=
  Nat.le_antisymm (nodup_le U V h.nodup (fun u hu => by obtain ⟨i, hi, rfl⟩ := h.some u hu; exact k.all i hi)) (nodup_le V U k.nodup (fun u hu => by obtain ⟨i, hi, rfl⟩ := k.some u hu; exact h.all i hi))

theorem ks_room {ks : List Int} (hn : ks.Nodup) (hb : ∀ k ∈ ks, 0 ≤ k ∧ k < 4352) {i : Nat} (hi : i < 4352) (h : (i : Int) ∉ ks) : ks.length < 4352 := by
  have := nodup_le ((i : Int) :: ks) ((List.range 4352).map (fun (n : Nat) => (n : Int))) (List.nodup_cons.2 ⟨h, hn⟩) (fun x hx => by
    refine List.mem_map.2 ⟨x.toNat, List.mem_range.2 ?_, ?_⟩
    · rcases List.mem_cons.1 hx with rfl | hx
      · omega
      · have := hb x hx; omega
    · rcases List.mem_cons.1 hx with rfl | hx
      · omega
      · have := hb x hx; omega)
  simp only [List.length_cons, List.length_map, List.length_range] at this
  omega
theorem ks_some {ks : List Int} (h : ks.length < 4352) : ∃ i : Nat, i < 4352 ∧ (i : Int) ∉ ks := by
  apply Classical.byContradiction
  intro hn
  have hall : ∀ x ∈ (List.range 4352).map (fun (n : Nat) => (n : Int)), x ∈ ks := fun x hx => by
    obtain ⟨i, hi, rfl⟩ := List.mem_map.1 hx
    apply Classical.byContradiction
    intro hni
    exact hn ⟨i, List.mem_range.1 hi, hni⟩
  have := nodup_le _ ks (List.Pairwise.map _ (fun a b hab e => hab (Int.ofNat.inj e)) List.nodup_range) hall
  simp only [List.length_map, List.length_range] at this
  omega
theorem zblk_in {f : Int → Int} {ks : List Int} (h : ks.length < 4352) : ∀ n, zblk ∈ uall f ks n ∧ pos (uall f ks n) zblk = 0
  | 0 => by rw [uall_zero]; unfold ustart; rw [if_pos h]; exact ⟨by simp, by simp [pos]⟩
  | n + 1 => by
    obtain ⟨h1, h2⟩ := zblk_in (f := f) h n
    rw [uall_succ]; unfold ustep; split
    · exact ⟨kput_mem.2 (.inl h1), by rw [pos_kput h1, h2]⟩
    · exact ⟨h1, h2⟩
/-- each block has been found, at its number -/
theorem uall_has {f : Int → Int} {ks : List Int} (hn : ks.Nodup) (hb : ∀ k ∈ ks, 0 ≤ k ∧ k < 4352) (he : ∀ i, i ∉ ks → blk f i = zblk) : ∀ n, n ≤ 4352 → ∀ i : Nat, i < n → blk f i ∈ uall f ks n
  | 0, _, i, hi => absurd hi (by omega)
  | n + 1, hle, i, hi => by
    rw [uall_succ]; unfold ustep
    by_cases h : i < n
    · have := uall_has hn hb he n (by omega) i h
      split
      · exact kput_mem.2 (.inl this)
      · exact this
    · obtain rfl : i = n := by omega
      split
      · exact kput_mem.2 (.inr rfl)
      · rename_i hk
        rw [he _ hk]
        exact (zblk_in (ks_room hn hb (by omega) hk) _).1
theorem uall_dist {f : Int → Int} {ks : List Int} (hn : ks.Nodup) (hb : ∀ k ∈ ks, 0 ≤ k ∧ k < 4352) (he : ∀ i, i ∉ ks → blk f i = zblk) : Dist f (uall f ks 4352) := by
  refine ⟨uall_nodup f ks 4352, uall_has hn hb he 4352 (Nat.le_refl _), ?_⟩
  have : ∀ n, n ≤ 4352 → ∀ u ∈ uall f ks n, ∃ i : Nat, i < 4352 ∧ u = blk f i := by
    intro n
    induction n with
    | zero =>
      intro _ u hu
      rw [uall_zero] at hu; unfold ustart at hu; split at hu
      · rename_i h
        simp at hu
        obtain ⟨i, hi, hk⟩ := ks_some h
        exact ⟨i, hi, by rw [he _ hk]; exact hu⟩
      · cases hu
    | succ n ih =>
      intro hle u hu
      rw [uall_succ] at hu; unfold ustep at hu; split at hu
      · rcases kput_mem.1 hu with hu | rfl
        · exact ih (by omega) u hu
        · exact ⟨n, by omega, rfl⟩
      · exact ih (by omega) u hu
  exact this 4352 (Nat.le_refl _)

/-! ### the document's way to count -/
def rstep (f : Int → Int) (m : Int → List Int) (e : Int × Int) : Int → List Int := if isPl e.1 then upd m (e.1 / 256) ((m (e.1 / 256)).set (e.1 % 256).toNat (f e.1)) else m
def rof (f : Int → Int) (l : List (Int × Int)) : Int → List Int := l.foldl (rstep f) (fun _ => zblk)
theorem rof_snoc (f : Int → Int) (l : List (Int × Int)) (e : Int × Int) : rof f (l ++ [e]) = rstep f (rof f l) e := by simp [rof, List.foldl_append]
def seen (f : Int → Int) (l : List (Int × Int)) (c : Int) : Int := if isPl c = true ∧ c ∈ l.map (·.1) then f c else 0
theorem rof_seen (f : Int → Int) (l : List (Int × Int)) : ∀ i, rof f l i = blk (seen f l) i := by
  refine snoc_ind (p := fun l => ∀ i, rof f l i = blk (seen f l) i) (fun i => ?_) (fun l e ih i => ?_) l
  · refine (blk_zero i).symm.trans (congrArg (fun g => blk g i) ?_)
    funext c; unfold seen; rw [if_neg (by simp)]
  · rw [rof_snoc]
    have hs : seen f (l ++ [e]) = if isPl e.1 then upd (seen f l) e.1 (f e.1) else seen f l := by
      funext c
      by_cases hp : isPl e.1 = true
      · rw [if_pos hp]
        unfold seen upd
        by_cases hc : c = e.1
        · subst hc; rw [if_pos ⟨hp, by simp⟩, if_pos rfl]
        · rw [if_neg hc]
          have : (c ∈ (l ++ [e]).map (·.1)) ↔ c ∈ l.map (·.1) := by simp [hc]
          simp only [this]
      · rw [if_neg hp]
        unfold seen
        by_cases hc : c = e.1
        · subst hc; rw [if_neg (fun h => hp h.1), if_neg (fun h => hp h.1)]
        · have : (c ∈ (l ++ [e]).map (·.1)) ↔ c ∈ l.map (·.1) := by simp [hc]
          simp only [this]
    unfold rstep
    rw [hs]
    split
    · rename_i hp
      rw [blk_upd]
      unfold upd
      split
      · rename_i hi; rw [ih, hi]
      · exact ih i
    · exact ih i
theorem seen_all (l : List (Int × Int)) : seen (tab l) l = tab l := by
  funext c
  unfold seen
  split
  · rfl
  · rename_i h
    exact (tab_out l c (by
      by_cases hp : isPl c = true
      · exact .inr (fun hm => h ⟨hp, hm⟩)
      · exact .inl (by simpa using hp))).symm
theorem rof_all (l : List (Int × Int)) (i : Int) : rof (tab l) l i = blk (tab l) i := by rw [rof_seen, seen_all]
/-- its kinds -/
def kinds (f : Int → Int) (n : Nat) : List (List Int) := (List.range n).foldl (fun K (i : Nat) => kput K (blk f i)) []
theorem kinds_succ (f : Int → Int) (n : Nat) : kinds f (n + 1) = kput (kinds f n) (blk f n) := by simp [kinds, List.range_succ, List.foldl_append]
theorem kinds_dist (f : Int → Int) : Dist f (kinds f 4352) := by
  have h : ∀ n, (kinds f n).Nodup ∧ (∀ i : Nat, i < n → blk f i ∈ kinds f n) ∧ ∀ u ∈ kinds f n, ∃ i : Nat, i < n ∧ u = blk f i := by
    intro n
    induction n with
    | zero => exact ⟨List.nodup_nil, fun i hi => absurd hi (by omega), fun u hu => by cases hu⟩
    | succ n ih =>
      obtain ⟨h1, h2, h3⟩ := ih
      rw [kinds_succ]
      refine ⟨kput_nodup h1 _, fun i hi => kput_mem.2 ?_, fun u hu => ?_⟩
      · by_cases h : i < n
        · exact .inl (h2 i h)
        · obtain rfl : i = n := by omega
          exact .inr rfl
      · rcases kput_mem.1 hu with hu | rfl
        · obtain ⟨i, hi, e⟩ := h3 u hu; exact ⟨i, by omega, e⟩
        · exact ⟨n, by omega, rfl⟩
  exact ⟨(h 4352).1, (h 4352).2.1, (h 4352).2.2⟩
/-- the keys that the document's table has -/
def rks (l : List (Int × Int)) : List Int := l.foldl (fun ks e => if isPl e.1 then kput ks e.1 else ks) []
theorem rks_snoc (l : List (Int × Int)) (e : Int × Int) : rks (l ++ [e]) = if isPl e.1 then kput (rks l) e.1 else rks l := by simp [rks, List.foldl_append]
theorem rks_iff (l : List (Int × Int)) : ∀ c, c ∈ rks l ↔ isPl c = true ∧ c ∈ l.map (·.1) := by
  refine snoc_ind (p := fun l => ∀ c, c ∈ rks l ↔ isPl c = true ∧ c ∈ l.map (·.1)) (fun c => by simp [rks]) (fun l e ih c => ?_) l
  rw [rks_snoc]
  split
  · rename_i hp
    rw [kput_mem, ih c]
    constructor
    · rintro (⟨h1, h2⟩ | rfl)
      · exact ⟨h1, by simp only [List.map_append, List.mem_append]; exact .inl h2⟩
      · exact ⟨hp, by simp⟩
    · rintro ⟨h1, h2⟩
      simp only [List.map_append, List.mem_append, List.map_cons, List.map_nil, List.mem_singleton] at h2
      exact h2.imp (fun h => ⟨h1, h⟩) id
  · rename_i hp
    rw [ih c]
    constructor
    · rintro ⟨h1, h2⟩
      exact ⟨h1, by simp only [List.map_append, List.mem_append]; exact .inl h2⟩
    · rintro ⟨h1, h2⟩
      simp only [List.map_append, List.mem_append, List.map_cons, List.map_nil, List.mem_singleton] at h2
      rcases h2 with h2 | rfl
      · exact ⟨h1, h2⟩
      · exact absurd h1 hp
theorem rks_out (l : List (Int × Int)) (c : Int) (h : c ∉ rks l) : tab l c = 0 := tab_out l c (by
  by_cases hp : isPl c = true
  · exact .inr (fun hm => h ((rks_iff l c).2 ⟨hp, hm⟩))
  · exact .inl (by simpa using hp))
end Go.Proofs.YtdmcidljjfogjaaDoor

/- A map of the call's own by its keys, in the order in which they came, and what lies at each: whatever the key's type that has the library's law (numbers, arrays of numbers). -/
namespace Go.Proofs.YtdmcidljjfogjaaDoor
open Go.RowKit Go.Maps Go.ChangeMaps
set_option linter.unusedSectionVars false

/-- keys of a type of ours as values: the library's law, each is a key, unlike ones are unlike -/
structure Kv (P : Program) (kt : TypeId) {κ : Type} (kv : κ → Value) (D : κ → Prop) : Prop where
  law : Keyed P kt
  key : ∀ k, D k → ∃ l, keyOf P kt (kv k) = some l
  inj : ∀ a b, D a → D b → kv a = kv b → a = b

/-- block b is a map: these keys, once each, and what lies at each -/
def MapIs (w : World) (b : Nat) {κ ν : Type} (kv : κ → Value) (vv : ν → Value) (D : κ → Prop) (ks : List κ) (f : κ → ν) : Prop :=
  ∃ es clock, w.heap[b]? = some (.map es clock) ∧ es.toList.map (fun e => (e.key, e.val)) = ks.map (fun k => (kv k, vv (f k))) ∧ ks.Nodup ∧ ∀ k ∈ ks, D k

theorem MapIs.lt {w : World} {b : Nat} {κ ν : Type} {kv : κ → Value} {vv : ν → Value} {D : κ → Prop} {ks : List κ} {f : κ → ν} (h : MapIs w b kv vv D ks f) : b < w.heap.size := by
  obtain ⟨es, clock, hb, _⟩ := h
  exact (Array.getElem?_eq_some_iff.1 hb).1
theorem MapIs.block {w w' : World} {b : Nat} {κ ν : Type} {kv : κ → Value} {vv : ν → Value} {D : κ → Prop} {ks : List κ} {f : κ → ν} (h : MapIs w b kv vv D ks f) (hb : w'.heap[b]? = w.heap[b]?) : MapIs w' b kv vv D ks f := by
  obtain ⟨es, clock, h1, h2⟩ := h
  exact ⟨es, clock, hb.trans h1, h2⟩
theorem MapIs.below {w w' : World} {b B : Nat} {κ ν : Type} {kv : κ → Value} {vv : ν → Value} {D : κ → Prop} {ks : List κ} {f : κ → ν} (h : MapIs w b kv vv D ks f) (hb : Below B w w') (hB : b < B) : MapIs w' b kv vv D ks f := h.block (hb.block b hB)
theorem MapIs.alloc {w : World} {b : Nat} {κ ν : Type} {kv : κ → Value} {vv : ν → Value} {D : κ → Prop} {ks : List κ} {f : κ → ν} (h : MapIs w b kv vv D ks f) (o : Obj) : MapIs (w.alloc o) b kv vv D ks f := h.block (Below.heap_alloc w o b h.lt)
theorem MapIs.far {w : World} {b : Nat} {κ ν : Type} {kv : κ → Value} {vv : ν → Value} {D : κ → Prop} {ks : List κ} {f : κ → ν} (h : MapIs w b kv vv D ks f) {p : Addr} (hp : b ≠ p.block) (u : Value) : MapIs (w.setCell p u) b kv vv D ks f := h.block (Below.heap_setCell w p u b hp)
theorem MapIs.drew {w : World} {b : Nat} {κ ν : Type} {kv : κ → Value} {vv : ν → Value} {D : κ → Prop} {ks : List κ} {f : κ → ν} (h : MapIs w b kv vv D ks f) : MapIs w.drew b kv vv D ks f := h
theorem MapIs.made (w : World) {κ ν : Type} (kv : κ → Value) (vv : ν → Value) (D : κ → Prop) (f : κ → ν) : MapIs (w.alloc (.map #[] 0)) w.heap.size kv vv D [] f :=
  ⟨#[], 0, heap_alloc_new w _, by simp, List.nodup_nil, by simp⟩
theorem MapIs.congr {w : World} {b : Nat} {κ ν : Type} {kv : κ → Value} {vv : ν → Value} {D : κ → Prop} {ks : List κ} {f g : κ → ν} (h : MapIs w b kv vv D ks f) (hg : ∀ k ∈ ks, f k = g k) : MapIs w b kv vv D ks g := by
  obtain ⟨es, clock, h1, h2, h3⟩ := h
  exact ⟨es, clock, h1, by rw [h2]; exact List.map_congr_left (fun k hk => by rw [hg k hk]), h3⟩

section
variable {P : Program} {kt et t : TypeId} {κ ν : Type} [DecidableEq κ] {kv : κ → Value} {vv : ν → Value} {D : κ → Prop} {ks : List κ} {f : κ → ν} {w : World} {b : Nat}

theorem map_get {es : Array MapEntry} {j : Nat} {e : MapEntry} (h2 : es.toList.map (fun e => (e.key, e.val)) = ks.map (fun k => (kv k, vv (f k)))) (he : es.toList[j]? = some e) : ∃ k, ks[j]? = some k ∧ e.key = kv k ∧ e.val = vv (f k) := by
  have h := congrArg (·[j]?) h2
  simp only [List.getElem?_map, he, Option.map_some] at h
  cases hk : ks[j]? with
  | none => rw [hk] at h; cases h
  | some k =>
    rw [hk] at h
    simp only [Option.map_some, Option.some.injEq, Prod.mk.injEq] at h
    exact ⟨k, rfl, h.1, h.2⟩

/-- where a key is -/
theorem map_find (K : Kv P kt kv D) {es : Array MapEntry} (h2 : es.toList.map (fun e => (e.key, e.val)) = ks.map (fun k => (kv k, vv (f k)))) (hD : ∀ k ∈ ks, D k) (k : κ) (hk : D k) (w : World) :
    ((Instr.findKey kt (kv k) es.toList).run P w = .ok none w ∧ k ∉ ks) ∨ ∃ j e, (Instr.findKey kt (kv k) es.toList).run P w = .ok (some (j, vv (f k))) w ∧ es[j]? = some e ∧ e.key = kv k ∧ ks[j]? = some k := by
  obtain ⟨l, hl⟩ := K.key k hk
  have hks : ∀ e ∈ es.toList, ∃ l, keyOf P kt e.key = some l := fun e he => by
    obtain ⟨j, hj, rfl⟩ := List.getElem_of_mem he
    obtain ⟨k', h1, h3, _⟩ := map_get h2 (List.getElem?_eq_getElem hj)
    rw [h3]; exact K.key k' (hD k' (List.mem_of_getElem? h1))
  rcases K.law.find w hl es.toList hks with ⟨h1, h3⟩ | ⟨j, e, h1, h3, h4⟩
  · refine .inl ⟨h1, fun hin => ?_⟩
    obtain ⟨j, hj, hjk⟩ := List.getElem_of_mem hin
    have hlen : es.toList.length = ks.length := by simpa using congrArg List.length h2
    have hj' : j < es.toList.length := by omega
    obtain ⟨k', g1, g2, _⟩ := map_get h2 (List.getElem?_eq_getElem hj')
    rw [List.getElem?_eq_getElem hj, hjk] at g1
    obtain rfl := Option.some.inj g1
    exact h3 _ (List.getElem_mem hj') g2
  · obtain ⟨k', g1, g2, g3⟩ := map_get h2 h3
    obtain rfl : k' = k := K.inj _ _ (hD k' (List.mem_of_getElem? g1)) hk (g2.symm.trans h4)
    rw [g3] at h1
    exact .inr ⟨j, e, h1, by simpa using h3, h4, g1⟩

/-- m[k], and v, ok := m[k] -/
theorem MapIs.look (h : MapIs w b kv vv D ks f) (K : Kv P kt kv D) (ht : P.underlying t = some (.map kt et)) {z : Value} (hz : (zeroValue et).run P w = .ok z w) (k : κ) (hk : D k) (c : Bool) :
    (Instr.lookup t (.map (some b)) (kv k) c).run P w = .ok (if c then .tuple #[if k ∈ ks then vv (f k) else z, .bool (decide (k ∈ ks))] else if k ∈ ks then vv (f k) else z) w := by
  obtain ⟨es, clock, hb, h2, h3, hD⟩ := h
  obtain ⟨l, hl⟩ := K.key k hk
  rcases map_find K h2 hD k hk w with ⟨h1, hn⟩ | ⟨j, e, h1, _, _, hj⟩
  · rw [if_neg hn]
    cases c <;> simp [Instr.lookup, run_underlying ht, MapKept.run_getObj_map hb, K.law.check w _ hl, h1, hz, Result.andThen, hn]
  · have hin : k ∈ ks := List.mem_of_getElem? hj
    rw [if_pos hin]
    cases c <;> simp [Instr.lookup, run_underlying ht, MapKept.run_getObj_map hb, K.law.check w _ hl, h1, Result.andThen, hin]

/-- m[k] = v -/
theorem MapIs.store (h : MapIs w b kv vv D ks f) (K : Kv P kt kv D) (ht : P.underlying t = some (.map kt et)) (k : κ) (hk : D k) (v : ν) :
    ∃ w', (Instr.mapUpdate t (.map (some b)) (kv k) (vv v)).run P w = .ok () w' ∧ MapIs w' b kv vv D (kput ks k) (upd f k v) ∧ But b w w' := by
  obtain ⟨es, clock, hb, h2, h3, hD⟩ := h
  obtain ⟨l, hl⟩ := K.key k hk
  have hbut : ∀ o, But b w (setBlock w b o) := fun o => ⟨rfl, rfl, rfl, by simp [setBlock], fun i _ hi => heap_setBlock_other hb _ (fun e => hi (by rw [e]))⟩
  rcases map_find K h2 hD k hk w with ⟨h1, hn⟩ | ⟨j, e, h1, he, hke, hj⟩
  · refine ⟨setBlock w b (.map (es.push ⟨kv k, vv v, clock⟩) (clock + 1)), ?_, ⟨_, _, heap_setBlock_same hb _, ?_, ?_, ?_⟩, hbut _⟩
    · simp [Instr.mapUpdate, run_underlying ht, MapKept.run_getObj_map hb, K.law.check w false hl, h1, MapKept.run_setObj_map _ hb, Result.andThen, setBlock]
    · have hc : ks.map (fun x => (kv x, vv (upd f k v x))) = ks.map (fun x => (kv x, vv (f x))) := List.map_congr_left (fun x hx => by
        have : x ≠ k := fun e => hn (e ▸ hx)
        simp [upd, this])
      rw [kput, if_neg hn, List.map_append, hc, ← h2]
      simp [upd]
    · rw [kput, if_neg hn]
      exact List.nodup_append.2 ⟨h3, by simp, fun a ha c hc e => by simp at hc; exact hn (hc ▸ e ▸ ha)⟩
    · rw [kput, if_neg hn]
      intro x hx
      rcases List.mem_append.1 hx with hx | hx
      · exact hD x hx
      · simp at hx; exact hx ▸ hk
  · have hin : k ∈ ks := List.mem_of_getElem? hj
    have hjl : j < ks.length := (List.getElem?_eq_some_iff.1 hj).1
    refine ⟨setBlock w b (.map (es.modify j fun e => { e with key := kv k, val := vv v }) clock), ?_, ⟨_, _, heap_setBlock_same hb _, ?_, by rw [kput, if_pos hin]; exact h3, by rw [kput, if_pos hin]; exact hD⟩, hbut _⟩
    · simp [Instr.mapUpdate, run_underlying ht, MapKept.run_getObj_map hb, K.law.check w false hl, h1, he, hke, K.law.stays w hl, MapKept.run_setObj_map _ hb, Result.andThen, setBlock]
    · rw [kput, if_pos hin]
      apply List.ext_getElem?
      intro i
      have h := congrArg (·[i]?) h2
      simp only [List.getElem?_map, Array.toList_modify, List.getElem?_modify] at h ⊢
      by_cases hij : j = i
      · subst hij
        have he' : es.toList[j]? = some e := by simpa using he
        simp [he', hj, upd]
      · simp only [if_neg hij, Option.map_eq_map, Option.map_id'] 
        rw [h]
        cases hi : ks[i]? with
        | none => rfl
        | some x =>
          have : x ≠ k := fun e => by
            subst e
            have hil : i < ks.length := (List.getElem?_eq_some_iff.1 hi).1
            rw [List.getElem?_eq_getElem hjl] at hj
            rw [List.getElem?_eq_getElem hil] at hi
            exact hij ((List.getElem_inj h3).1 ((Option.some.inj hj).trans (Option.some.inj hi).symm))
          simp [upd, this]

theorem MapIs.len (h : MapIs w b kv vv D ks f) (ht : P.underlying t = some (.map kt et)) (ty : TypeId) : (Builtin.len_ #[t] ty #[.map (some b)]).run P w = .ok (.int .i64 ks.length) w := by
  obtain ⟨es, clock, hb, h2, _⟩ := h
  have hlen : es.size = ks.length := by simpa using congrArg List.length h2
  simp [Builtin.len_, run_underlying ht, MapKept.run_getObj_map hb, goInt, Result.andThen, hlen]

variable {ops : Array Oper} {rest : List Oper} {o : Oper} {a : Act} {Q : Exit → Act → World → Prop}

theorem wpList_mlook (hg : o.guard = none) (m x : Operand) (t : TypeId) (c : Bool) (hop : o.op = Op.lookup t m x c) (kt et : TypeId) (K : Kv P kt kv D) (ht : P.underlying t = some (.map kt et)) {z : Value} (hz : (zeroValue et).run P w = .ok z w)
    (b : Nat) (hm : a.eval m = .map (some b)) (h : MapIs w b kv vv D ks f) (k : κ) (hx : a.eval x = kv k) (hk : D k) (v : Value)
    (hv : (if c then .tuple #[if k ∈ ks then vv (f k) else z, .bool (decide (k ∈ ks))] else if k ∈ ks then vv (f k) else z) = v)
    (hK : wpList P ops Q rest (a.put o.dst v) w) : wpList P ops Q (o :: rest) a w := by
  subst hv
  refine wpList_plain hg fun K' hK' => ?_
  unfold Oper.wp
  simp only [execOp, hop, hm, hx, Sem.run_bind, h.look K ht hz k hk c, Result.andThen_ok]
  exact hK' _ _ hK

theorem wpList_mput (hg : o.guard = none) (m x y : Operand) (t : TypeId) (hop : o.op = Op.mapUpdate t m x y) (kt et : TypeId) (K : Kv P kt kv D) (ht : P.underlying t = some (.map kt et))
    (b : Nat) (hm : a.eval m = .map (some b)) (h : MapIs w b kv vv D ks f) (k : κ) (hx : a.eval x = kv k) (hk : D k) (v : ν) (hv : a.eval y = vv v)
    (hK : ∀ w', MapIs w' b kv vv D (kput ks k) (upd f k v) → But b w w' → wpList P ops Q rest (a.put o.dst undef) w') : wpList P ops Q (o :: rest) a w := by
  refine wpList_plain hg fun K' hK' => ?_
  obtain ⟨w', hrun, r1, r2⟩ := h.store K ht k hk v
  unfold Oper.wp
  simp only [execOp, hop, hm, hx, hv, Sem.run_bind, hrun, Result.andThen_ok]
  exact hK' _ _ (hK w' r1 r2)

theorem wpList_mlen (hg : o.guard = none) (m : Operand) (t : TypeId) (hop : o.op = Op.call { callee := Callee.builtin Builtin.len, args := #[m], argTypes := #[t] }) (kt et : TypeId) (ht : P.underlying t = some (.map kt et))
    (b : Nat) (hm : a.eval m = .map (some b)) (h : MapIs w b kv vv D ks f) (hK : wpList P ops Q rest (a.put o.dst (.int .i64 ks.length)) w) : wpList P ops Q (o :: rest) a w := by
  refine wpList_plain hg fun K' hK' => ?_
  unfold Oper.wp
  simp only [execOp, hop, resolve, invoke, builtin, Sem.run_bind, Sem.run_pure, Result.andThen_ok, List.map_toArray, List.map_cons, List.map_nil, hm, h.len ht o.type]
  exact hK' _ _ hK
end

/-! ### numbers as keys -/
theorem int_kv {P : Program} {kt : TypeId} {q : IntKind} (hu : P.underlying kt = some (.int q)) : Kv P kt (Value.int q) (fun k => (Lit.int q k).wf = true) :=
  ⟨int_keyed hu, fun _ hk => ⟨_, keyOf_int_mk hu hk⟩, fun _ _ _ _ h => by injection h⟩

/-! ### arrays of numbers as keys -/
def arrV (q : IntKind) (b : List Int) : Value := .agg (b.map (Value.int q)).toArray
theorem ints_inj {q : IntKind} : ∀ {a b : List Int}, a.map (Value.int q) = b.map (Value.int q) → a = b
  | [], [], _ => rfl
  | [], _ :: _, h => by cases h
  | _ :: _, [], h => by cases h
  | x :: r, y :: s, h => by
    simp only [List.map_cons, List.cons.injEq, Value.int.injEq, true_and] at h
    rw [h.1, ints_inj h.2]
theorem arrV_inj {q : IntKind} {a b : List Int} (h : arrV q a = arrV q b) : a = b := by
  unfold arrV at h
  injection h with h
  exact ints_inj (by simpa using congrArg Array.toList h)
theorem mapM_some {α β : Type} {g : α → Option β} {h : α → β} : ∀ (l : List α), (∀ x ∈ l, g x = some (h x)) → l.mapM g = some (l.map h)
  | [], _ => rfl
  | x :: r, hs => by
    rw [List.mapM_cons, hs x (by simp), mapM_some r (fun y hy => hs y (by simp [hy]))]
    rfl
theorem arr_lits {P : Program} {kt e : TypeId} {q : IntKind} {n : Nat} (hrow : kt < P.types.size) (hu : P.underlying kt = some (.array n e)) (hue : P.underlying e = some (.int q)) (hce : P.cellsOf e = 1) (hct : P.cellsOf kt = n)
    (b : List Int) (hb : b.length = n) (hw : ∀ x ∈ b, (Lit.int q x).wf = true) : P.keyLits (P.types.size + 1) kt (arrV q b).cells.toList = some ((List.range n).map (fun i => [Lit.int q (b.getD i 0)])).flatten := by
  have hc : (arrV q b).cells.toList = b.map (Value.int q) := by simp [arrV, Value.cells]
  rw [hc]
  unfold Program.keyLits
  simp only [hu]
  rw [if_pos (by simp [hb, hct]), mapM_some (h := fun i => [Lit.int q (b.getD i 0)])]
  · rfl
  · intro i hi
    have hi' : i < b.length := by rw [hb]; exact List.mem_range.1 hi
    have : ((b.map (Value.int q)).drop (i * P.cellsOf e)).take (P.cellsOf e) = [.int q (b.getD i 0)] := by
      rw [hce, Nat.mul_one, List.drop_eq_getElem_cons (by simpa using hi')]
      simp [List.getD_eq_getElem?_getD, List.getElem?_eq_getElem hi']
    rw [this]
    obtain ⟨m, hm⟩ : ∃ m, P.types.size = m + 1 := ⟨P.types.size - 1, by have : 0 < P.types.size := Nat.lt_of_le_of_lt (Nat.zero_le kt) hrow; omega⟩
    rw [hm]
    unfold Program.keyLits
    simp only [hue]
    rw [if_pos ⟨trivial, by rw [List.getD_eq_getElem?_getD, List.getElem?_eq_getElem hi']; exact hw _ (List.getElem_mem hi')⟩]
theorem arr_kv {P : Program} {kt e : TypeId} {q : IntKind} {n : Nat} (hl : laidOutB P = true) (hrow : kt < P.types.size) (hts : P.types.size + 2 ≤ 10000) (hu : P.underlying kt = some (.array n e)) (hue : P.underlying e = some (.int q)) (hce : P.cellsOf e = 1) (hct : P.cellsOf kt = n)
    (hkt : P.keyType kt = true) : Kv P kt (arrV q) (fun b => b.length = n ∧ ∀ x ∈ b, (Lit.int q x).wf = true) := by
  refine ⟨Keyed.of_law (deep_law_laid hl (m := P.types.size + 1) (by omega) hrow hkt (by rw [hu])), fun b ⟨hb, hw⟩ => ?_, fun _ _ _ _ h => arrV_inj h⟩
  have hf : (arrV q b).formed P kt = true := by simp [arrV, Value.formed, hu, hct, hb]
  have hls := arr_lits hrow hu hue hce hct b hb hw
  exact ⟨.string (keyBytes ((List.range n).map (fun i => [Lit.int q (b.getD i 0)])).flatten), by
    unfold keyOf
    simp only [hu, hkt, hf, hls, Bool.and_self, if_true, Option.map_some]⟩
end Go.Proofs.YtdmcidljjfogjaaDoor

/- What only draws an order; a quiet call within a region. -/
namespace Go.Proofs.YtdmcidljjfogjaaDoor
open Go.RowKit

/-- only draws -/
def Still (w w' : World) : Prop := ∃ m, w' = w.drewN m
theorem Still.refl (w : World) : Still w w := ⟨0, rfl⟩
theorem Still.drewN {w w' : World} (h : Still w w') (n : Nat) : Still w (w'.drewN n) := by
  obtain ⟨m, rfl⟩ := h
  exact ⟨m + n, by rw [World.drewN_drewN]⟩
theorem Still.cell {w w' : World} (h : Still w w') (a : Addr) : w'.cell? a = w.cell? a := by obtain ⟨m, rfl⟩ := h; rfl
theorem Still.below {w w' : World} (h : Still w w') : Below w.heap.size w w' := by obtain ⟨m, rfl⟩ := h; exact below_drewN' (Below.refl _ _) m
theorem quiet_left' {P : Program} {f : FuncId} {args : Array Value} {w : World} {n : Nat} {v : Value}
    (h : Calls P f args (w.drewN n) fun e w' => e = .returned v ∧ w.drewN n = w') : Calls P f args (w.drewN n) fun e w'' => e = .returned v ∧ ∃ m, w'' = w.drewN m :=
  h.mono fun _ _ ⟨he, hm⟩ => ⟨he, n, hm.symm⟩
theorem Still.trans {a b c : World} (h : Still a b) (k : Still b c) : Still a c := by
  obtain ⟨m, rfl⟩ := h
  obtain ⟨n, rfl⟩ := k
  exact ⟨m + n, by rw [World.drewN_drewN]⟩
theorem Still.lower {w w' : World} (h : Still w w') (B : Nat) : Below B w w' := by obtain ⟨m, rfl⟩ := h; exact below_drewN' (Below.refl _ _) m
end Go.Proofs.YtdmcidljjfogjaaDoor

/- Package stage: isPlace, Get and Blocks by contracts; what a table is in memory. -/
namespace Go.Proofs.YtdmcidljjfogjaaDoor
open Go.ChangeShapes Go.WideShapes Go.ChangeAt Go.RowKit
set_option linter.unusedVariables false

theorem isPlace_any (c : Int) (w : World) : Calls Tryd.prog 82 #[.int .i32 c] w fun e w' => e = .returned (.bool (isPl c)) ∧ w = w' := by
  by_cases h : 0 ≤ c
  · by_cases h2 : c ≤ 1114111
    · rw [isPl_iff.2 ⟨h, h2⟩]
      go_enter Tryd.func82, Tryd.ntmps82
      go_wp2
      go_ret
      exact ⟨rfl, rfl⟩
    · rw [isPl_no.2 (fun k => h2 k.2)]
      go_enter Tryd.func82, Tryd.ntmps82
      go_wp2
      go_ret
      exact ⟨rfl, rfl⟩
  · rw [isPl_no.2 (fun k => h k.1)]
    go_enter Tryd.func82, Tryd.ntmps82
    go_wp2
    go_ret
    exact ⟨rfl, rfl⟩

/-- block g is a table that has f, with n unlike blocks -/
def TabAt (w : World) (B g : Nat) (f : Int → Int) (n : Nat) : Prop :=
  g < B ∧ ∃ (a cap : Nat) (N : Nat → Nat), a < B ∧ n ≤ 4353 ∧ n ≤ cap ∧ w.cell? ⟨g, 4352, none⟩ = some (.slice (some ⟨a, 0, none⟩) n cap) ∧
    ∀ i, i < 4352 → N i < n ∧ w.cell? ⟨g, i, none⟩ = some (.int .u16 (N i)) ∧ ∀ j, j < 256 → w.cell? ⟨a, N i * 256 + j, none⟩ = some (.int .i64 (f (256 * (i : Int) + (j : Int))))
theorem TabAt.below {w w' : World} {B B' g : Nat} {f : Int → Int} {n : Nat} (h : TabAt w B g f n) (hb : Below B' w w') (hB : B ≤ B') : TabAt w' B g f n := by
  obtain ⟨hg, a, cap, N, ha, h1, h2, h3, h4⟩ := h
  refine ⟨hg, a, cap, N, ha, h1, h2, (hb.cell (p := ⟨g, 4352, none⟩) (show g < B' by omega)).trans h3, fun i hi => ?_⟩
  obtain ⟨k1, k2, k3⟩ := h4 i hi
  exact ⟨k1, (hb.cell (p := ⟨g, i, none⟩) (show g < B' by omega)).trans k2, fun j hj => (hb.cell (p := ⟨a, N i * 256 + j, none⟩) (show a < B' by omega)).trans (k3 j hj)⟩
theorem TabAt.more {w : World} {B B' g : Nat} {f : Int → Int} {n : Nat} (h : TabAt w B g f n) (hB : B ≤ B') : TabAt w B' g f n := by
  obtain ⟨hg, a, cap, N, ha, h1⟩ := h
  exact ⟨by omega, a, cap, N, by omega, h1⟩
theorem TabAt.still {w w' : World} {B g : Nat} {f : Int → Int} {n : Nat} (h : TabAt w B g f n) (hs : Still w w') : TabAt w' B g f n := h.below (hs.lower B) (Nat.le_refl _)

set_option maxHeartbeats 1000000 in
theorem get_in (c : Nat) (f : Int → Int) (g B n : Nat) (w : World) (hc : c ≤ 1114111) (ht : TabAt w B g f n) :
    Calls Tryd.prog 65 #[.pointer (some ⟨g, 0, none⟩), .int .i32 c] w fun e w' => e = .returned (.int .i64 (f c)) ∧ Still w w' := by
  obtain ⟨hg, a, cap, N, ha, h1, h2, h3, h4⟩ := ht
  obtain ⟨k1, k2, k3⟩ := h4 (c / 256) (by omega)
  have k4 := k3 (c % 256) (by omega)
  clear k3 h4
  have e1 : 256 * ((c / 256 : Nat) : Int) + ((c % 256 : Nat) : Int) = (c : Int) := by omega
  rw [e1] at k4
  clear e1
  have HP : Hid (∀ w, Calls Tryd.prog 82 #[.int .i32 c] w fun e w' => e = .returned (.bool true) ∧ w = w') := Lib.hid fun w => by
    have := isPlace_any c w
    rwa [isPl_iff.2 ⟨by omega, by omega⟩] at this
  generalize N (c / 256) = m at k1 k2 k4
  go_enter Tryd.func65, Tryd.ntmps65
  go_wp2_with fail
  with_reducible refine (HP.out _).mono ?_
  rintro e w' ⟨rfl, rfl⟩
  go_wp2_with fail
  go_quiet (fail)
  go_wp2
  go_ret
  exact ⟨rfl, _, rfl⟩

/-- what a table that was built has at whatever number -/
theorem get_any (c : Int) (f : Int → Int) (g B n : Nat) (w : World) (hf : ∀ c, isPl c = false → f c = 0) (ht : TabAt w B g f n) :
    Calls Tryd.prog 65 #[.pointer (some ⟨g, 0, none⟩), .int .i32 c] w fun e w' => e = .returned (.int .i64 (f c)) ∧ Still w w' := by
  by_cases h : isPl c = true
  · obtain ⟨h0, h1⟩ := isPl_iff.1 h
    obtain ⟨k, rfl⟩ := Int.eq_ofNat_of_zero_le h0
    exact get_in k f g B n w (by omega) ht
  · have h' : isPl c = false := by simpa using h
    rw [hf c h']
    have HP : Hid (∀ w, Calls Tryd.prog 82 #[.int .i32 c] w fun e w' => e = .returned (.bool false) ∧ w = w') := Lib.hid fun w => by
      have := isPlace_any c w
      rwa [h'] at this
    clear hf h h'
    go_enter Tryd.func65, Tryd.ntmps65
    go_wp2_with fail
    with_reducible refine (HP.out _).mono ?_
    rintro e w' ⟨rfl, rfl⟩
    go_wp2
    go_ret
    exact ⟨rfl, Still.refl _⟩
end Go.Proofs.YtdmcidljjfogjaaDoor

/- A region that draws its order, walked by hand: what yields the same in whatever world is taken first; what is left comes up alone, or each that may come up is walked. The laws beneath are the library's (Orders). -/
namespace Go.Proofs.YtdmcidljjfogjaaDoor
open Go.RowKit
section
variable {P : Program} {ops : Array Oper} {Q : Exit → Act → World → Prop} {md : Region.Mode}
theorem wpA_take (i d : Nat) {oi : Oper} {v : Value} {fuel : Nat} {listed : Array Bool} {a : Act} {w : World} (hi : ops[i]? = some oi) (hd : oi.dst = some d)
    (hs : Region.noSelect ops = true) (hf : Region.free md ops listed i = true) (hr : (Region.ready md ops listed).contains i = true)
    (hQ : ∀ c a w, Q (.panic c) (a.put (some d) v) w → Q (.panic c) a w) (hy : Yields P ops oi v a)
    (h : wpAny P md ops Q fuel (listed.setIfInBounds i true) (a.put (some d) v) w) : wpAny P md ops Q (fuel + 1) listed a w :=
  wpAny_take hi hs hf hr (by rw [hd]; exact hQ) hy (by rw [hd]; exact h)
/-- it comes up alone -/
theorem wpA_one (i : Nat) {o : Oper} {fuel : Nat} {listed : Array Bool} {a : Act} {w : World} (hr : Region.ready md ops listed = [i]) (ho : ops[i]? = some o)
    (h : ∀ K' : Act → World → Prop, Shut (∀ a' w', wpAny P md ops Q fuel (listed.setIfInBounds i true) a' w' → K' a' w') → if Region.wanted o (yielded ops a.tmps) = true then Oper.wp P o a w K' Q else K' (a.put o.dst undef) w) :
    wpAny P md ops Q (fuel + 1) listed a w :=
  wpAny_all hr (by simp) fun j hj => by
    obtain rfl : j = i := by simpa using hj
    exact wpOp_step ho h
/-- one of two comes up -/
theorem wpA_two (i j : Nat) {o o' : Oper} {fuel : Nat} {listed : Array Bool} {a : Act} {w : World} (hr : Region.ready md ops listed = [i, j]) (ho : ops[i]? = some o) (ho' : ops[j]? = some o')
    (h : ∀ K' : Act → World → Prop, Shut (∀ a' w', wpAny P md ops Q fuel (listed.setIfInBounds i true) a' w' → K' a' w') → if Region.wanted o (yielded ops a.tmps) = true then Oper.wp P o a w K' Q else K' (a.put o.dst undef) w)
    (h' : ∀ K' : Act → World → Prop, Shut (∀ a' w', wpAny P md ops Q fuel (listed.setIfInBounds j true) a' w' → K' a' w') → if Region.wanted o' (yielded ops a.tmps) = true then Oper.wp P o' a w K' Q else K' (a.put o'.dst undef) w) :
    wpAny P md ops Q (fuel + 1) listed a w :=
  wpAny_all hr (by simp) fun k hk => by
    rcases List.mem_cons.1 hk with rfl | hk
    · exact wpOp_step ho h
    · obtain rfl : k = j := by simpa using hk
      exact wpOp_step ho' h'
theorem wpA_done {listed : Array Bool} {a : Act} {w : World} (hr : Region.ready md ops listed = []) (h : Q .normal a w) (fuel : Nat) : wpAny P md ops Q fuel listed a w := wpAny_done hr h fuel
theorem wp_region_A {id : Nat} {a : Act} {w : World} (hm : P.follows .mixedOrders = true)
    (h : wpAny P .any ops Q ops.size (Array.replicate ops.size false) a w.drew) : (Code.region id ops true).wp P Q a w := wp_region_any hm h
theorem wpA_if {c : Bool} {p q : Prop} (h : c = true) (hp : p) : if c = true then p else q := by rw [if_pos h]; exact hp

/-- append of a row onto a row of the call's own, whatever the elements' size -/
theorem wpO_append {o : Oper} {a : Act} {w : World} {K : Act → World → Prop} (s x : Operand) (t : TypeId)
    (ho : o.op = .call { callee := .builtin .append, args := #[s, x], argTypes := #[t, t] })
    (base : Nat) (e : TypeId) (z : Value) (size bytes : Nat) (ht : P.underlying t = some (.slice e)) (hi : (P.info? e).map (fun i => (i.zero, i.size, i.bytes)) = some (some z, size, bytes)) (hzs : z.cells.size = size) (hsz : 0 < size)
    (v : Value) (n : Nat) (xs : List Value) (hs : a.eval s = v) (hown : w.ownsRow base e size v n xs)
    (ad : Addr) (m c : Nat) (news : List Value) (hx : a.eval x = .slice (some ad) m c) (hl : news.length = m * size) (hnews : ∀ j u, news[j]? = some u → w.cell? (ad.add j) = some u) (h1 : ∀ u ∈ news, u.oneCell' = true)
    (h63 : n + m ≤ maxLen) (hbytes : (n + m) * bytes ≤ 140737488355328) (hbase : base ≤ w.heap.size)
    (h : ∀ v' w', w'.ownsRow base e size v' (n + m) (xs ++ news) → w.grownBy w' v.ownBlock → (v'.ownBlock = v.ownBlock ∨ v'.ownBlock = some w.heap.size) → K (a.put o.dst v') w') : o.wp P a w K Q := by
  obtain ⟨i, hi0, hz, hsi, hby⟩ := info_parts hi
  obtain ⟨v', w', hr, h2, h3, _, h5⟩ := run_append_own_at (P := P) w base t o.type e i z size bytes ht hi0 hz hsi hby hzs hsz v n xs hown ad m c news hl hnews h1 h63 hbytes hbase
  unfold Oper.wp execOp
  simp only [ho, resolve, invoke, builtin, Sem.run_bind, Sem.run_pure, Result.andThen_ok, List.map_toArray, List.map_cons, List.map_nil, hs, hx, hr]
  exact h v' w' h2 h3 h5

/-- a literal of elements that are aggregates, each place written -/
theorem wpO_lit {o : Oper} {a : Act} {w : World} {K : Act → World → Prop} (t e : TypeId) (len : Nat) (parts : Array (Nat × Operand)) (ho : o.op = .buildSlice t len parts) (z : Value) (size bytes : Nat)
    (ht : P.underlying t = some (.slice e)) (hi : (P.info? e).map (fun i => (i.zero, i.size, i.bytes)) = some (some z, size, bytes)) (hsz : 0 < size) (hlen : 0 < len) (hsmall : len * size ≤ 2 ^ 24)
    (vs : List Value) (hp : (parts.map fun (i, x) => (i, a.eval x)).toList = (vs.zipIdx 0).map fun x => (x.2, x.1)) (hvs : ∀ v ∈ vs, v.cells.size = size) (hvl : vs.length = len) (cells : Array Value) (hc : (vs.flatMap fun v => v.cells.toList).toArray = cells)
    (h : K (a.put o.dst (.slice (some ⟨w.heap.size, 0, none⟩) len len)) (w.alloc (.cells cells e))) : o.wp P a w K Q := by
  subst hc
  obtain ⟨i, hi0, hz, hsi, hby⟩ := info_parts hi
  refine wp_buildSlice t e len parts ho _ i z ht hi0 hz (by rw [hsi]; omega) (by rw [hsi]; exact Nat.ne_of_gt (Nat.mul_pos hlen hsz)) ?_ h
  rw [hp, hsi]
  exact Great.fill_whole hsz vs _ hvs (by simp [hvl])
end
end Go.Proofs.YtdmcidljjfogjaaDoor

/- Package stage: add by its contract: where a block is among the unlike ones; one more if it is new. -/
namespace Go.Proofs.YtdmcidljjfogjaaDoor
set_option maxRecDepth 100000
open Go.ChangeShapes Go.WideShapes Go.ChangeAt Go.RowKit
set_option linter.unusedVariables false
set_option linter.unusedSimpArgs false

/-- a block as a value, and what blocks are keys -/
abbrev BD (b : List Int) : Prop := b.length = 256 ∧ ∀ x ∈ b, (Lit.int .i64 x).wf = true
def bV (b : List Int) : Value := arrV .i64 b
def u16V (n : Nat) : Value := .int .u16 n
theorem laidOut4 : laidOutB Tryd.prog = true := by kernel_rfl
theorem ts4 : Tryd.prog.types.size + 2 ≤ 10000 := of_decide_eq_true (by kernel_rfl)
theorem bkv : Kv Tryd.prog 116 bV BD := arr_kv laidOut4 (of_decide_eq_true (by kernel_rfl)) ts4 Tryd.underlying116 Tryd.underlying3 (by kernel_rfl) (by kernel_rfl) (by kernel_rfl)
theorem zero_u16 (w : World) : (zeroValue 109).run Tryd.prog w = .ok (.int .u16 0) w := by kernel_rfl
theorem info_blk : (Tryd.prog.info? 116).map (·.size) = some 256 := by kernel_rfl
def zvals : List Value := List.replicate 256 (Value.int .i64 0)
theorem zvals_size : (Value.agg zvals.toArray).cells.size = 256 := List.length_replicate
theorem info_blk' : (Tryd.prog.info? 116).map (fun i => (i.zero, i.size, i.bytes)) = some (some (.agg zvals.toArray), 256, 2048) := by kernel_rfl

/-- the cells of blocks, one behind the other -/
def flat (U : List (List Int)) : List Value := (U.flatten).map (Value.int .i64)
theorem flat_app (U V : List (List Int)) : flat (U ++ V) = flat U ++ flat V := by simp [flat]

/-- what has been found so far: the map of all blocks that are there, the numbers, the unlike blocks -/
structure Found (w : World) (B : Nat) (U : List (List Int)) (N : List Value) : Prop where
  known : MapIs w B bV u16V BD U (pos U)
  tab : ∃ v, Blk w (B + 1) 113 (N.toArray.push v) ∧ w.ownsRow (B + 2) 116 256 v U.length (flat U)
  len : N.length = 4352

def AddPost (w : World) (B : Nat) (U : List (List Int)) (N : List Value) (b : List Int) (e : Ending) (w' : World) : Prop :=
  e = .returned (u16V (pos (kput U b) b)) ∧ Found w' B (kput U b) N ∧ Below B w w'

theorem own_form' {w : World} {base s : Nat} {e : TypeId} {v : Value} {n : Nat} {xs : List Value} (h : w.ownsRow base e s v n xs) : ∃ A c, v = .slice A n c ∧ n ≤ c ∧ c ≤ maxLen := by
  rcases h.2 with ⟨e1, e2⟩ | ⟨g, cap, cur, hv, hb, hh, hnc, hm, hcs, ht⟩
  · exact ⟨none, 0, by rw [e1, e2], by omega, by simp [maxLen]⟩
  · exact ⟨_, cap, hv, hnc, hm⟩

theorem cells_new (w : World) (t : TypeId) (vs : List Value) : ∀ j u, vs[j]? = some u → (w.alloc (.cells vs.toArray t)).cell? ((⟨w.heap.size, 0, none⟩ : Addr).add j) = some u := by
  intro j u hj
  have hadd : (⟨w.heap.size, 0, none⟩ : Addr).add j = ⟨w.heap.size, j, none⟩ := by unfold Addr.add; split <;> simp_all
  rw [hadd, (Blk.new w t vs.toArray).cell]
  simpa using hj
theorem own_ne {w : World} {base e s n : Nat} {v : Value} {xs : List Value} (h : w.ownsRow base e s v n xs) {g : Nat} (hg : g < base) : some g ≠ v.ownBlock := by
  intro e
  have := (h.lt g e.symm).1
  omega
theorem own_kept {w w' : World} {base e s n : Nat} {v : Value} {xs : List Value} (h : w.ownsRow base e s v n xs) {g : Nat} (hg : g < base) (hb : But g w w') : w'.ownsRow base e s v n xs :=
  World.ownsRow.kept h hb (.inr (fun e => own_ne h hg e.symm))
theorem kput_new {α : Type} [DecidableEq α] {U : List α} {b : α} (h : b ∉ U) : kput U b = U ++ [b] := by unfold kput; rw [if_neg h]
theorem pos_upd {α : Type} [DecidableEq α] {U : List α} {b : α} (h : b ∉ U) : ∀ k ∈ kput U b, upd (pos U) b U.length k = pos (kput U b) k := by
  intro k hk
  rw [kput_new h] at hk ⊢
  unfold upd
  split
  · rename_i e; subst e; exact (pos_last U h).symm
  · rename_i e
    rcases List.mem_append.1 hk with hk | hk
    · exact (pos_app U _ hk).symm
    · simp at hk; exact absurd hk e
/-- what add leaves -/
theorem add_facts (w w2 w3 : World) (B : Nat) (U : List (List Int)) (N : List Value) (b : List Int) (A : Option Addr) (cap : Nat) (v3 : Value) (hlt : B < w.heap.size) (HB : Hid (b.length = 256)) (HI : Hid ¬ b ∈ U) (HN : Hid (N.length = 4352)) (HBW : Hid (Below B w w2))
    (K2 : Hid (Blk w2 (B + 1) 113 (N.toArray.push (Value.slice A U.length cap)))) (K3 : Hid (w2.ownsRow (B + 2) 116 256 (.slice A U.length cap) U.length (flat U))) (K4 : Hid (MapIs w2 B bV u16V BD (kput U b) (upd (pos U) b U.length)))
    (ho3 : w3.ownsRow (B + 2) 116 256 v3 (U.length + 1) (flat U ++ b.map (Value.int .i64))) (hg3 : (w2.alloc (.cells (b.map (Value.int .i64)).toArray 116)).grownBy w3 (Value.slice A U.length cap).ownBlock) :
    w3.cell? ⟨B + 1, 4352, none⟩ = some (.slice A U.length cap) ∧ w3.frozen? ⟨B + 1, 4352, none⟩ = false ∧
      Hid (pos (kput U b) b = U.length ∧ Found (w3.setCell ⟨B + 1, 4352, none⟩ v3) B (kput U b) N ∧ Below B w (w3.setCell ⟨B + 1, 4352, none⟩ v3)) := by
  have ka := K2.out.alloc (.cells (b.map (Value.int .i64)).toArray 116)
  have hn1 : some (B + 1) ≠ (Value.slice A U.length cap).ownBlock := own_ne K3.out (by omega)
  have hn0 : some B ≠ (Value.slice A U.length cap).ownBlock := own_ne K3.out (by omega)
  have k3 : Blk w3 (B + 1) 113 (N.toArray.push (Value.slice A U.length cap)) := (hg3.block (B + 1) ka.lt hn1).trans ka
  have km := K4.out.alloc (.cells (b.map (Value.int .i64)).toArray 116)
  have km3 : MapIs w3 B bV u16V BD (kput U b) (upd (pos U) b U.length) := km.block (hg3.block B km.lt hn0)
  refine ⟨by rw [k3.cell, Array.getElem?_push, if_pos (by simp [HN.out])], k3.frozen _, Lib.hid ⟨?_, ⟨?_, ?_, HN.out⟩, ?_⟩⟩
  · rw [kput_new HI.out]; exact pos_last U HI.out
  · exact (km3.far (by simp) v3).congr (pos_upd HI.out)
  · refine ⟨v3, ?_, ?_⟩
    · have := k3.set 4352 v3
      have e : (N.toArray.push (Value.slice A U.length cap)).setIfInBounds 4352 v3 = N.toArray.push v3 := by
        apply Array.ext_getElem?
        intro i
        rw [Array.getElem?_setIfInBounds, Array.getElem?_push, Array.getElem?_push]
        have : N.toArray.size = 4352 := by simp [HN.out]
        rw [this, Array.size_push, this]
        by_cases hi : i = 4352
        · subst hi; simp
        · rw [if_neg (fun h => hi h.symm), if_neg hi, if_neg hi]
      rw [e] at this
      exact this
    · rw [kput_new HI.out, flat_app, List.length_append]
      have e2 : flat [b] = b.map (Value.int .i64) := by simp [flat]
      rw [e2]
      exact own_kept ho3 (g := B + 1) (by omega) ((But.refl _ _).set _ _)
  · have h1 : Below B w (w2.alloc (.cells (b.map (Value.int .i64)).toArray 116)) := HBW.out.alloc (by have := HBW.out.size; omega) _
    have h2 : Below B w w3 := h1.grown hg3 (by have := h1.size; omega) (fun g hv => by have := (K3.out.lt g hv).1; omega)
    exact h2.setCell (by simp) _

set_option maxHeartbeats 1000000 in
theorem add_old (w : World) (B : Nat) (U : List (List Int)) (N : List Value) (b : List Int) (hF : Found w B U N) (hb : BD b) (hin : b ∈ U) :
    Calls Tryd.prog 64 #[.pointer (some ⟨B + 1, 0, none⟩), bV b, .map (some B)] w (AddPost w B U N b) := by
  have hlt := hF.known.lt
  have hb2 : Below B w (w.alloc (.cells (b.map (Value.int .i64)).toArray 116)) := (Below.refl _ _).alloc (by omega) _
  have HB := Lib.hid hb.1
  have HL := Lib.hid (Blk.new w 116 (b.map (Value.int .i64)).toArray)
  have HM := Lib.hid (hF.known.alloc (.cells (b.map (Value.int .i64)).toArray 116))
  have HF := Lib.hid hF
  have HD := Lib.hid hb
  have HI := Lib.hid hin
  clear hF hb hin
  unfold bV arrV
  go_enter Tryd.func64, Tryd.ntmps64
  go_wp2_with (first
    | (refine wpList_load_row rfl 116 _ rfl w.heap.size rfl 116 (b.map (Value.int .i64)).toArray (0, 0) _ HL.out Tryd.underlying116 rfl (by rw [info_blk]; simp [HB.out]) ?_)
    | (at_lookup; refine wpList_mlook rfl _ _ 108 true rfl 116 109 bkv Tryd.underlying108 (zero_u16 _) B rfl HM.out b rfl HD.out (.tuple #[u16V (pos U b), .bool true]) (by simp [HI.out]) ?_))
  go_ret
  have hk : kput U b = U := by unfold kput; rw [if_pos HI.out]
  unfold AddPost
  rw [hk]
  refine ⟨rfl, ⟨HM.out, ?_, HF.out.len⟩, hb2⟩
  obtain ⟨v, h1, h2⟩ := HF.out.tab
  exact ⟨v, h1.alloc _, h2.alloc _⟩

set_option maxHeartbeats 1000000 in
theorem add_new (w : World) (B : Nat) (U : List (List Int)) (N : List Value) (b : List Int) (hF : Found w B U N) (hb : BD b) (hin : b ∉ U) (hU : U.length ≤ 4353) :
    Calls Tryd.prog 64 #[.pointer (some ⟨B + 1, 0, none⟩), bV b, .map (some B)] w (AddPost w B U N b) := by
  have hlt := hF.known.lt
  have hb2 : Below B w (w.alloc (.cells (b.map (Value.int .i64)).toArray 116)) := (Below.refl _ _).alloc (by omega) _
  have HB := Lib.hid hb.1
  have HL := Lib.hid (Blk.new w 116 (b.map (Value.int .i64)).toArray)
  have HM := Lib.hid (hF.known.alloc (.cells (b.map (Value.int .i64)).toArray 116))
  obtain ⟨v, ht, ho⟩ := hF.tab
  have hlen := hF.len
  obtain ⟨A, cap, hv, hc1, hc2⟩ := own_form' ho
  subst hv
  have hl1 := ht.lt
  have c0 : (w.alloc (.cells (b.map (Value.int .i64)).toArray 116)).cell? ⟨B + 1, 4352, none⟩ = some (.slice A U.length cap) := by
    rw [(ht.alloc _).cell, Array.getElem?_push, if_pos (by simp [hlen])]
  have HF := Lib.hid hF
  have HT := Lib.hid (ht.alloc (.cells (b.map (Value.int .i64)).toArray 116))
  have HO := Lib.hid (ho.alloc (.cells (b.map (Value.int .i64)).toArray 116))
  have HD := Lib.hid hb
  have HI := Lib.hid hin
  have HN := Lib.hid hlen
  clear hF hb hin ht ho hlen
  unfold bV arrV
  go_enter Tryd.func64, Tryd.ntmps64
  go_wp2_with (first
    | (refine wpList_load_row rfl 116 _ rfl w.heap.size rfl 116 (b.map (Value.int .i64)).toArray (0, 0) _ HL.out Tryd.underlying116 rfl (by rw [info_blk]; simp [HB.out]) ?_)
    | (at_lookup; refine wpList_mlook rfl _ _ 108 true rfl 116 109 bkv Tryd.underlying108 (zero_u16 _) B rfl HM.out b rfl HD.out (.tuple #[.int .u16 0, .bool false]) (by simp [HI.out]) ?_)
    | (at_mapUpdate; refine wpList_mput rfl _ _ _ 108 rfl 116 109 bkv Tryd.underlying108 B rfl HM.out b rfl HD.out U.length rfl ?_; intro w1 hm1 hb1))
  simp only [Act.put]
  have K1 := Lib.hid (hb1.blk HL.out (by omega)).drew
  have K2 := Lib.hid (hb1.blk HT.out (by omega)).drew
  have K3 := Lib.hid (World.ownsRow.kept HO.out hb1 (by
    cases hv : Value.ownBlock (Value.slice A U.length cap) with
    | none => exact .inl rfl
    | some g => exact .inr (by
        have := (HO.out.lt g hv).1
        intro e; injection e with e; omega)))
  have K4 := Lib.hid hm1.drew
  have hsz := hb1.size
  have hbw : Below B w w1.drew := ((Below.trans hb2 (hb1.below (Nat.le_refl _) (by simp; omega))).drew)
  have hsw : w.heap.size + 1 ≤ w1.drew.heap.size := by simpa using hsz
  have c1 : w1.drew.cell? ⟨B + 1, 4352, none⟩ = some (.slice A U.length cap) := by
    rw [K2.out.cell, Array.getElem?_push, if_pos (by simp [HN.out])]
  have f1 : w1.drew.frozen? ⟨B + 1, 4352, none⟩ = false := K2.out.frozen _
  have HBW := Lib.hid hbw
  have K3 : Hid (w1.drew.ownsRow (B + 2) 116 256 (.slice A U.length cap) U.length (flat U)) := K3
  clear hbw hb1 hb2 c0 HL HT HO HM hm1 hsz
  refine wp_region_A (by kernel_rfl) ?_
  generalize w1.drew = w2 at *
  refine wpA_take 0 26 (v := ?v0) rfl rfl (by kernel_rfl) (by kernel_rfl) (by kernel_rfl) (fun _ _ _ h => h) (Or.inl ⟨by rfl, ?y0⟩) ?r0
  case y0 => (intro W; go_simp; try with_reducible rfl)
  simp only [Act.put, List.setIfInBounds_toArray, List.set_cons_zero, List.set_cons_succ]
  refine wpA_take 1 27 (v := ?v1) rfl rfl (by kernel_rfl) (by kernel_rfl) (by kernel_rfl) (fun _ _ _ h => h) (Or.inl ⟨by rfl, ?y1⟩) ?r1
  case y1 => (intro W; go_simp; try with_reducible rfl)
  simp only [Act.put, List.setIfInBounds_toArray, List.set_cons_zero, List.set_cons_succ]
  refine wpA_take 2 28 (v := ?v2) rfl rfl (by kernel_rfl) (by kernel_rfl) (by kernel_rfl) (fun _ _ _ h => h) (Or.inl ⟨by rfl, ?y2⟩) ?r2
  case y2 => (intro W; go_simp; try with_reducible rfl)
  simp only [Act.put, List.setIfInBounds_toArray, List.set_cons_zero, List.set_cons_succ]
  refine wpA_take 3 29 (v := ?v3) rfl rfl (by kernel_rfl) (by kernel_rfl) (by kernel_rfl) (fun _ _ _ h => h) (Or.inl ⟨by rfl, ?y3⟩) ?r3
  case y3 => (intro W; go_simp; try with_reducible rfl)
  simp only [Act.put, List.setIfInBounds_toArray, List.set_cons_zero, List.set_cons_succ]
  have c2 : (w2.alloc (.cells (b.map (Value.int .i64)).toArray 116)).cell? ⟨B + 1, 4352, none⟩ = some (.slice A U.length cap) :=
    (World.cell?_alloc_lt _ _ _ (by show B + 1 < _; omega)).trans c1
  refine wpA_two 4 5 (by kernel_rfl) rfl rfl (fun K hK => ?_) (fun K hK => ?_)
  · go_simp
    refine hK.out _ _ ?_
    clear hK K
    try simp only [Act.put, List.setIfInBounds_toArray, List.set_cons_zero, List.set_cons_succ]
    refine wpA_one 5 (by kernel_rfl) rfl (fun K hK => ?_)
    refine wpA_if (by rfl) ?_
    refine wp_load_row 116 _ rfl w.heap.size rfl 116 (b.map (Value.int .i64)).toArray (0, 0) _ K1.out Tryd.underlying116 rfl (by rw [info_blk]; simp [HB.out]) ?_
    refine hK.out _ _ ?_
    clear hK K
    try simp only [Act.put, List.setIfInBounds_toArray, List.set_cons_zero, List.set_cons_succ]
    refine wpA_one 6 (by kernel_rfl) rfl (fun K hK => ?_)
    refine wpA_if (by rfl) ?_
    refine wpO_lit 111 116 1 _ rfl (.agg zvals.toArray) 256 2048 Tryd.underlying111 info_blk' (by decide) (by decide) (by decide) [.agg (b.map (Value.int .i64)).toArray] (by simp [Act.eval]) (by simp [Value.cells, HB.out]) rfl (b.map (Value.int .i64)).toArray (by simp [Value.cells]) ?_
    refine hK.out _ _ ?_
    clear hK K
    try simp only [Act.put, List.setIfInBounds_toArray, List.set_cons_zero, List.set_cons_succ]
    refine wpA_one 7 (by kernel_rfl) rfl (fun K hK => ?_)
    refine wpA_if (by rfl) ?_
    refine wpO_append _ _ 111 rfl (B + 2) 116 (.agg zvals.toArray) 256 2048 Tryd.underlying111 info_blk' zvals_size (by decide) _ U.length (flat U) rfl (K3.out.alloc _) ⟨w2.heap.size, 0, none⟩ 1 1 (b.map (Value.int .i64)) rfl (by simp [HB.out]) (cells_new w2 _ _) (ints_oneCell _ _) (by simp only [maxLen]; omega) (by omega) (by simp; omega) ?_
    intro v3 w3 ho3 hg3 hloc; obtain ⟨A3, cap3, rfl, hq1, hq2⟩ := own_form' ho3; clear hloc
    refine hK.out _ _ ?_
    clear hK K
    try simp only [Act.put, List.setIfInBounds_toArray, List.set_cons_zero, List.set_cons_succ]
    obtain ⟨c3, f3, HP⟩ := add_facts w w2 w3 B U N b A cap _ hlt HB HI HN HBW K2 K3 K4 ho3 hg3
    refine wpA_take 8 34 (v := ?v8a) rfl rfl (by kernel_rfl) (by kernel_rfl) (by kernel_rfl) (fun _ _ _ h => h) (Or.inl ⟨by rfl, ?y8a⟩) ?r8a
    case y8a => (intro W; go_simp; try with_reducible rfl)
    simp only [Act.put, List.setIfInBounds_toArray, List.set_cons_zero, List.set_cons_succ]
    refine wpA_take 9 35 (v := ?v9a) rfl rfl (by kernel_rfl) (by kernel_rfl) (by kernel_rfl) (fun _ _ _ h => h) (Or.inl ⟨by rfl, ?y9a⟩) ?r9a
    case y9a => (intro W; go_simp; try with_reducible rfl)
    simp only [Act.put, List.setIfInBounds_toArray, List.set_cons_zero, List.set_cons_succ]
    refine wpA_one 10 (by kernel_rfl) rfl (fun K hK => ?_)
    go_simp
    refine hK.out _ _ ?_
    clear hK K
    try simp only [Act.put, List.setIfInBounds_toArray, List.set_cons_zero, List.set_cons_succ]
    refine wpA_done (by kernel_rfl) ?_ _
    go_wp2
    go_ret
    exact ⟨by rw [HP.out.1]; rfl, HP.out.2⟩
  · refine wpA_if (by rfl) ?_
    refine wp_load_row 116 _ rfl w.heap.size rfl 116 (b.map (Value.int .i64)).toArray (0, 0) _ K1.out Tryd.underlying116 rfl (by rw [info_blk]; simp [HB.out]) ?_
    refine hK.out _ _ ?_
    clear hK K
    try simp only [Act.put, List.setIfInBounds_toArray, List.set_cons_zero, List.set_cons_succ]
    refine wpA_two 4 6 (by kernel_rfl) rfl rfl (fun K hK => ?_) (fun K hK => ?_)
    · go_simp
      refine hK.out _ _ ?_
      clear hK K
      try simp only [Act.put, List.setIfInBounds_toArray, List.set_cons_zero, List.set_cons_succ]
      refine wpA_one 6 (by kernel_rfl) rfl (fun K hK => ?_)
      refine wpA_if (by rfl) ?_
      refine wpO_lit 111 116 1 _ rfl (.agg zvals.toArray) 256 2048 Tryd.underlying111 info_blk' (by decide) (by decide) (by decide) [.agg (b.map (Value.int .i64)).toArray] (by simp [Act.eval]) (by simp [Value.cells, HB.out]) rfl (b.map (Value.int .i64)).toArray (by simp [Value.cells]) ?_
      refine hK.out _ _ ?_
      clear hK K
      try simp only [Act.put, List.setIfInBounds_toArray, List.set_cons_zero, List.set_cons_succ]
      refine wpA_one 7 (by kernel_rfl) rfl (fun K hK => ?_)
      refine wpA_if (by rfl) ?_
      refine wpO_append _ _ 111 rfl (B + 2) 116 (.agg zvals.toArray) 256 2048 Tryd.underlying111 info_blk' zvals_size (by decide) _ U.length (flat U) rfl (K3.out.alloc _) ⟨w2.heap.size, 0, none⟩ 1 1 (b.map (Value.int .i64)) rfl (by simp [HB.out]) (cells_new w2 _ _) (ints_oneCell _ _) (by simp only [maxLen]; omega) (by omega) (by simp; omega) ?_
      intro v3 w3 ho3 hg3 hloc; obtain ⟨A3, cap3, rfl, hq1, hq2⟩ := own_form' ho3; clear hloc
      refine hK.out _ _ ?_
      clear hK K
      try simp only [Act.put, List.setIfInBounds_toArray, List.set_cons_zero, List.set_cons_succ]
      obtain ⟨c3, f3, HP⟩ := add_facts w w2 w3 B U N b A cap _ hlt HB HI HN HBW K2 K3 K4 ho3 hg3
      refine wpA_take 8 34 (v := ?v8b) rfl rfl (by kernel_rfl) (by kernel_rfl) (by kernel_rfl) (fun _ _ _ h => h) (Or.inl ⟨by rfl, ?y8b⟩) ?r8b
      case y8b => (intro W; go_simp; try with_reducible rfl)
      simp only [Act.put, List.setIfInBounds_toArray, List.set_cons_zero, List.set_cons_succ]
      refine wpA_take 9 35 (v := ?v9b) rfl rfl (by kernel_rfl) (by kernel_rfl) (by kernel_rfl) (fun _ _ _ h => h) (Or.inl ⟨by rfl, ?y9b⟩) ?r9b
      case y9b => (intro W; go_simp; try with_reducible rfl)
      simp only [Act.put, List.setIfInBounds_toArray, List.set_cons_zero, List.set_cons_succ]
      refine wpA_one 10 (by kernel_rfl) rfl (fun K hK => ?_)
      go_simp
      refine hK.out _ _ ?_
      clear hK K
      try simp only [Act.put, List.setIfInBounds_toArray, List.set_cons_zero, List.set_cons_succ]
      refine wpA_done (by kernel_rfl) ?_ _
      go_wp2
      go_ret
      exact ⟨by rw [HP.out.1]; rfl, HP.out.2⟩
    · refine wpA_if (by rfl) ?_
      refine wpO_lit 111 116 1 _ rfl (.agg zvals.toArray) 256 2048 Tryd.underlying111 info_blk' (by decide) (by decide) (by decide) [.agg (b.map (Value.int .i64)).toArray] (by simp [Act.eval]) (by simp [Value.cells, HB.out]) rfl (b.map (Value.int .i64)).toArray (by simp [Value.cells]) ?_
      refine hK.out _ _ ?_
      clear hK K
      try simp only [Act.put, List.setIfInBounds_toArray, List.set_cons_zero, List.set_cons_succ]
      refine wpA_one 4 (by kernel_rfl) rfl (fun K hK => ?_)
      go_simp
      refine hK.out _ _ ?_
      clear hK K
      try simp only [Act.put, List.setIfInBounds_toArray, List.set_cons_zero, List.set_cons_succ]
      refine wpA_one 7 (by kernel_rfl) rfl (fun K hK => ?_)
      refine wpA_if (by rfl) ?_
      refine wpO_append _ _ 111 rfl (B + 2) 116 (.agg zvals.toArray) 256 2048 Tryd.underlying111 info_blk' zvals_size (by decide) _ U.length (flat U) rfl (K3.out.alloc _) ⟨w2.heap.size, 0, none⟩ 1 1 (b.map (Value.int .i64)) rfl (by simp [HB.out]) (cells_new w2 _ _) (ints_oneCell _ _) (by simp only [maxLen]; omega) (by omega) (by simp; omega) ?_
      intro v3 w3 ho3 hg3 hloc; obtain ⟨A3, cap3, rfl, hq1, hq2⟩ := own_form' ho3; clear hloc
      refine hK.out _ _ ?_
      clear hK K
      try simp only [Act.put, List.setIfInBounds_toArray, List.set_cons_zero, List.set_cons_succ]
      obtain ⟨c3, f3, HP⟩ := add_facts w w2 w3 B U N b A cap _ hlt HB HI HN HBW K2 K3 K4 ho3 hg3
      refine wpA_take 8 34 (v := ?v8c) rfl rfl (by kernel_rfl) (by kernel_rfl) (by kernel_rfl) (fun _ _ _ h => h) (Or.inl ⟨by rfl, ?y8c⟩) ?r8c
      case y8c => (intro W; go_simp; try with_reducible rfl)
      simp only [Act.put, List.setIfInBounds_toArray, List.set_cons_zero, List.set_cons_succ]
      refine wpA_take 9 35 (v := ?v9c) rfl rfl (by kernel_rfl) (by kernel_rfl) (by kernel_rfl) (fun _ _ _ h => h) (Or.inl ⟨by rfl, ?y9c⟩) ?r9c
      case y9c => (intro W; go_simp; try with_reducible rfl)
      simp only [Act.put, List.setIfInBounds_toArray, List.set_cons_zero, List.set_cons_succ]
      refine wpA_one 10 (by kernel_rfl) rfl (fun K hK => ?_)
      go_simp
      refine hK.out _ _ ?_
      clear hK K
      try simp only [Act.put, List.setIfInBounds_toArray, List.set_cons_zero, List.set_cons_succ]
      refine wpA_done (by kernel_rfl) ?_ _
      go_wp2
      go_ret
      exact ⟨by rw [HP.out.1]; rfl, HP.out.2⟩
/-- add, whatever the block -/
theorem add_any (w : World) (B : Nat) (U : List (List Int)) (N : List Value) (b : List Int) (hF : Found w B U N) (hb : BD b) (hU : U.length ≤ 4353) :
    Calls Tryd.prog 64 #[.pointer (some ⟨B + 1, 0, none⟩), bV b, .map (some B)] w (AddPost w B U N b) := by
  by_cases h : b ∈ U
  · exact add_old w B U N b hF hb h
  · exact add_new w B U N b hF hb h hU
end Go.Proofs.YtdmcidljjfogjaaDoor

/- Package stage: gather by its contract: the blocks that entries name, by their numbers. -/
namespace Go.Proofs.YtdmcidljjfogjaaDoor
set_option maxRecDepth 100000
open Go.ChangeShapes Go.WideShapes Go.ChangeAt Go.RowKit
set_option linter.unusedVariables false
set_option linter.unusedSimpArgs false

/-- a row of entries: it lies below block B -/
def Ents (w : World) (B : Nat) (A : Option Addr) (l : List (Int × Int)) : Prop :=
  l = [] ∨ ∃ b o, A = some ⟨b, o, none⟩ ∧ b < B ∧ ∀ j, j < l.length → w.cell? ⟨b, o + j * 2, none⟩ = some (.int .i32 (l.getD j (0, 0)).1) ∧ w.cell? ⟨b, o + j * 2 + 1, none⟩ = some (.int .i64 (l.getD j (0, 0)).2)
theorem Ents.at {w : World} {B : Nat} {A : Option Addr} {l : List (Int × Int)} (h : Ents w B A l) (hp : 0 < l.length) :
    ∃ b o, A = some ⟨b, o, none⟩ ∧ b < B ∧ ∀ j, j < l.length → w.cell? ⟨b, o + j * 2, none⟩ = some (.int .i32 (l.getD j (0, 0)).1) ∧ w.cell? ⟨b, o + j * 2 + 1, none⟩ = some (.int .i64 (l.getD j (0, 0)).2) := by
  rcases h with h | h
  · subst h; simp at hp
  · exact h
theorem Ents.below {w w' : World} {B B' : Nat} {A : Option Addr} {l : List (Int × Int)} (h : Ents w B A l) (hb : Below B' w w') (hB : B ≤ B') : Ents w' B A l := by
  rcases h with h | ⟨b, o, e, hl, hc⟩
  · exact .inl h
  · exact .inr ⟨b, o, e, hl, fun j hj => ⟨(hb.cell (p := ⟨b, o + j * 2, none⟩) (show b < B' by omega)).trans (hc j hj).1, (hb.cell (p := ⟨b, o + j * 2 + 1, none⟩) (show b < B' by omega)).trans (hc j hj).2⟩⟩
theorem Ents.more {w : World} {B B' : Nat} {A : Option Addr} {l : List (Int × Int)} (h : Ents w B A l) (hB : B ≤ B') : Ents w B' A l := by
  rcases h with h | ⟨b, o, e, hl, hc⟩
  · exact .inl h
  · exact .inr ⟨b, o, e, by omega, hc⟩
/-- entries as cells -/
def entsV (l : List (Int × Int)) : List Value := l.flatMap fun e => [.int .i32 e.1, .int .i64 e.2]
theorem entsV_len (l : List (Int × Int)) : (entsV l).length = l.length * 2 := by
  induction l with
  | nil => rfl
  | cons e r ih => unfold entsV at *; rw [List.flatMap_cons, List.length_append, ih, List.length_cons]; simp; omega
theorem entsV_app (a b : List (Int × Int)) : entsV (a ++ b) = entsV a ++ entsV b := by unfold entsV; rw [List.flatMap_append]
theorem entsV_at : ∀ (l : List (Int × Int)) (j : Nat), j < l.length → (entsV l)[j * 2]? = some (.int .i32 (l.getD j (0, 0)).1) ∧ (entsV l)[j * 2 + 1]? = some (.int .i64 (l.getD j (0, 0)).2)
  | [], j, h => by simp at h
  | e :: r, 0, _ => by simp [entsV]
  | e :: r, j + 1, h => by
    have ih := entsV_at r j (by simpa using h)
    have e1 : entsV (e :: r) = .int .i32 e.1 :: .int .i64 e.2 :: entsV r := by simp [entsV]
    have e2 : (j + 1) * 2 = j * 2 + 1 + 1 := by omega
    rw [e1, e2, List.getElem?_cons_succ, List.getElem?_cons_succ, List.getElem?_cons_succ, List.getElem?_cons_succ, List.getD_cons_succ]
    exact ih
theorem entsV_one (l : List (Int × Int)) : ∀ u ∈ entsV l, u.oneCell' = true := by
  intro u hu
  unfold entsV at hu
  obtain ⟨e, _, he⟩ := List.mem_flatMap.1 hu
  simp only [List.mem_cons, List.not_mem_nil, or_false] at he
  rcases he with rfl | rfl <;> rfl
theorem Ents.blk {w : World} {g : Nat} {t : TypeId} {l : List (Int × Int)} (h : Blk w g t (entsV l).toArray) {B : Nat} (hB : g < B) : Ents w B (some ⟨g, 0, none⟩) l := by
  refine .inr ⟨g, 0, rfl, hB, fun j hj => ?_⟩
  obtain ⟨h1, h2⟩ := entsV_at l j hj
  rw [h.cell, h.cell, Nat.zero_add]
  exact ⟨by simpa using h1, by simpa using h2⟩
theorem Ents.own {w : World} {base : Nat} {e : TypeId} {A : Option Addr} {n c : Nat} {l : List (Int × Int)} (h : w.ownsRow base e 2 (.slice A n c) n (entsV l)) : Ents w w.heap.size A l := by
  rcases h.2 with ⟨e1, e2⟩ | ⟨g, cap, cur, hv, hb, hh, hnc, hm, hcs, ht⟩
  · have hl := h.1; rw [e2, entsV_len] at hl; exact .inl (List.eq_nil_of_length_eq_zero (by omega))
  · injection hv with hA
    have hgl : g < w.heap.size := (Array.getElem?_eq_some_iff.1 hh).1
    have hcell : ∀ j u, (entsV l)[j]? = some u → w.cell? ⟨g, j, none⟩ = some u := fun j u hu => by
      rw [cell_of_row w g j cur e (0, 0) hh]
      rw [← ht, List.getElem?_take] at hu
      split at hu
      · simpa using hu
      · cases hu
    refine .inr ⟨g, 0, hA, hgl, fun j hj => ?_⟩
    obtain ⟨h1, h2⟩ := entsV_at l j hj
    rw [Nat.zero_add]
    exact ⟨hcell _ _ h1, hcell _ _ h2⟩
/-- their numbers are numbers of their kinds -/
def FitE (l : List (Int × Int)) : Prop := ∀ e ∈ l, (Lit.int .i32 e.1).wf = true ∧ (Lit.int .i64 e.2).wf = true

abbrev D32 (k : Int) : Prop := (Lit.int .i32 k).wf = true
def ptrV (g : Nat) : Value := .pointer (some ⟨g, 0, none⟩)
theorem kv32 : Kv Tryd.prog 21 (Value.int .i32) D32 := int_kv Tryd.underlying21
theorem zero_ptr (w : World) : (zeroValue 117).run Tryd.prog w = .ok (.pointer none) w := by kernel_rfl
theorem zero_blk (w : World) : (zeroValue 116).run Tryd.prog w = .ok (.agg zvals.toArray) w := by kernel_rfl
theorem built_blk : Tryd.prog.built 116 [] = some zvals.toArray := by kernel_rfl
theorem zvals_at (j : Nat) (h : j < 256) : zvals.toArray[j]? = some (.int .i64 0) := by
  rw [List.getElem?_toArray]; unfold zvals; rw [List.getElem?_replicate, if_pos h]
theorem zvals_eq : zvals = zblk.map (Value.int .i64) := by unfold zvals zblk; rw [List.map_replicate]

/-- the blocks that these entries name -/
structure GRel (w : World) (p : List (Int × Int)) (wr : World) (g : Int → Nat) : Prop where
  below : Below w.heap.size w wr
  map : MapIs wr w.heap.size (Value.int .i32) ptrV D32 (gks p) g
  blks : ∀ k ∈ gks p, w.heap.size < g k ∧ Blk wr (g k) 116 ((blk (tab p) k).map (Value.int .i64)).toArray
  apart : ∀ a ∈ gks p, ∀ b ∈ gks p, g a = g b → a = b
def GRel' (w : World) (p : List (Int × Int)) (wr : World) : Prop := ∃ g, GRel w p wr g
def GPost (w : World) (l : List (Int × Int)) (e : Ending) (w' : World) : Prop := e = .returned (.map (some w.heap.size)) ∧ GRel' w l w'

theorem tab_place {p : List (Int × Int)} {c v : Int} (hp : isPl c = true) (k : Int) : blk (tab (p ++ [(c, v)])) k = if k = c / 256 then (blk (tab p) k).set (c % 256).toNat v else blk (tab p) k := by
  rw [tab_snoc]
  have : tstep (tab p) (c, v) = upd (tab p) c v := by unfold tstep; rw [if_pos hp]
  rw [this, blk_upd]
theorem gks_place {p : List (Int × Int)} {c v : Int} (hp : isPl c = true) : gks (p ++ [(c, v)]) = kput (gks p) (c / 256) := by
  rw [gks_snoc]; unfold gstep; rw [if_pos hp]
theorem g_none {w wr W : World} {g : Int → Nat} {p : List (Int × Int)} {c v : Int} (HG : GRel w p wr g) (hp : isPl c = false) (hW : Below wr.heap.size wr W) : GRel w (p ++ [(c, v)]) W g := by
  have h1 : gks (p ++ [(c, v)]) = gks p := by rw [gks_snoc]; unfold gstep; rw [if_neg (by simp [hp])]
  have h2 : tab (p ++ [(c, v)]) = tab p := by rw [tab_snoc]; unfold tstep; rw [if_neg (by simp [hp])]
  have hs := HG.below.size
  refine ⟨HG.below.trans (hW.mono hs), ?_, ?_, ?_⟩
  · rw [h1]; exact HG.map.below hW HG.map.lt
  · rw [h1, h2]; exact fun k hk => ⟨(HG.blks k hk).1, (HG.blks k hk).2.below hW (HG.blks k hk).2.lt⟩
  · rw [h1]; exact HG.apart
theorem set_vals (l : List Int) (i : Nat) (v : Int) : (l.map (Value.int .i64)).toArray.setIfInBounds i (.int .i64 v) = ((l.set i v).map (Value.int .i64)).toArray := by simp [List.map_set]
theorem g_old {w wr W : World} {g : Int → Nat} {p : List (Int × Int)} {c v : Int} (HG : GRel w p wr g) (hp : isPl c = true) (hin : c / 256 ∈ gks p) (hW : Below wr.heap.size wr W) :
    GRel w (p ++ [(c, v)]) (W.setCell ⟨g (c / 256), (c % 256).toNat, none⟩ (.int .i64 v)) g := by
  have hs := HG.below.size
  obtain ⟨hb0, hb1⟩ := HG.blks _ hin
  have h1 : gks (p ++ [(c, v)]) = gks p := by rw [gks_place hp]; unfold kput; rw [if_pos hin]
  refine ⟨(HG.below.trans (hW.mono hs)).setCell (by show _ ≤ g (c / 256); omega) _, ?_, ?_, ?_⟩
  · rw [h1]; exact (HG.map.below hW HG.map.lt).far (show w.heap.size ≠ g (c / 256) by omega) _
  · rw [h1]
    intro k hk
    obtain ⟨hk0, hk1⟩ := HG.blks k hk
    refine ⟨hk0, ?_⟩
    rw [tab_place hp]
    split
    · rename_i e
      subst e
      rw [← set_vals]
      exact (hk1.below hW hk1.lt).set _ _
    · rename_i e
      exact (hk1.below hW hk1.lt).far (show g k ≠ g (c / 256) from fun h => e (HG.apart _ hk _ hin h)) _
  · rw [h1]; exact HG.apart
theorem g_new {w wr W W2 : World} {g : Int → Nat} {p : List (Int × Int)} {c v : Int} {β : Nat} (HG : GRel w p wr g) (hp : isPl c = true) (hin : c / 256 ∉ gks p) (hW : Below wr.heap.size wr W) (hβ : wr.heap.size ≤ β) (hB : Blk W β 116 zvals.toArray)
    (hm : MapIs W2 w.heap.size (Value.int .i32) ptrV D32 (kput (gks p) (c / 256)) (upd g (c / 256) β)) (hbut : But w.heap.size W W2) :
    GRel w (p ++ [(c, v)]) (W2.setCell ⟨β, (c % 256).toNat, none⟩ (.int .i64 v)) (upd g (c / 256) β) := by
  have hs := HG.below.size
  have hml := HG.map.lt
  have hWs := hW.size
  have hne : ∀ k ∈ gks p, k ≠ c / 256 := fun k hk e => hin (e ▸ hk)
  have hgl : ∀ k ∈ gks p, g k < wr.heap.size := fun k hk => (HG.blks k hk).2.lt
  refine ⟨?_, ?_, ?_, ?_⟩
  · exact ((HG.below.trans (hW.mono hs)).trans (hbut.below (Nat.le_refl _) (by omega))).setCell (by show _ ≤ β; omega) _
  · rw [gks_place hp]; exact hm.far (show w.heap.size ≠ β by omega) _
  · rw [gks_place hp]
    intro k hk
    rw [tab_place hp]
    by_cases e : k = c / 256
    · subst e
      rw [if_pos rfl]
      unfold upd
      rw [if_pos rfl, gks_empty p _ hin, ← set_vals, ← zvals_eq]
      exact ⟨by omega, (hbut.blk hB (by omega)).set _ _⟩
    · rw [if_neg e]
      unfold upd
      rw [if_neg e]
      have hk' : k ∈ gks p := (kput_mem.1 hk).resolve_right e
      obtain ⟨hk0, hk1⟩ := HG.blks k hk'
      exact ⟨hk0, (hbut.blk (hk1.below hW hk1.lt) (by omega)).far (show g k ≠ β by have := hk1.lt; omega) _⟩
  · rw [gks_place hp]
    intro a ha b hb
    unfold upd
    split
    · rename_i ea
      split
      · rename_i eb; intro _; rw [ea, eb]
      · rename_i eb
        have := hgl b ((kput_mem.1 hb).resolve_right eb)
        intro h; omega
    · rename_i ea
      have hga := hgl a ((kput_mem.1 ha).resolve_right ea)
      split
      · intro h; omega
      · rename_i eb
        exact HG.apart a ((kput_mem.1 ha).resolve_right ea) b ((kput_mem.1 hb).resolve_right eb)

theorem gdrew {w W : World} {p : List (Int × Int)} {g : Int → Nat} {a : Addr} {u : Value} (h : GRel w p (W.setCell a u) g) : GRel w p (W.drew.setCell a u) g := ⟨h.below.drew, h.map, h.blks, h.apart⟩
set_option maxHeartbeats 1000000 in
theorem gather_any (w : World) (A : Option Addr) (n cap : Nat) (l : List (Int × Int)) (hn : l.length = n) (hm : n ≤ 1099511627776) (hE : Ents w w.heap.size A l) (hf : FitE l) :
    Calls Tryd.prog 63 #[.slice A n cap] w (GPost w l) := by
  have hmm := @run_makeMap Tryd.prog
  have HN := Lib.hid hn
  have HE := Lib.hid hE
  have HF := Lib.hid hf
  clear hn hE hf
  go_enter Tryd.func63, Tryd.ntmps63
  go_wp2_with fail
  go_loopw [11] (fun i wr => ∃ k : Nat, k ≤ n ∧ i = .int .i64 k ∧ GRel' w (l.take k) wr) (fun i _ => n - (intOf i).toNat)
  case atStart => exact ⟨0, by omega, rfl, fun _ => 0, (Below.refl _ _).alloc (Nat.le_refl _) _, MapIs.made _ _ _ _ _, fun k hk => (by cases hk), fun a ha => (by cases ha)⟩
  case round =>
    obtain ⟨k, hk, rfl, hR⟩ := hrel
    by_cases hlt : k < n
    · have HR := Lib.hid hR
      clear hR hmm
      obtain ⟨b, o, rfl, hbl, hc⟩ := HE.out.at (by rw [HN.out]; omega)
      obtain ⟨c0, c1⟩ := hc k (by rw [HN.out]; omega)
      clear hc
      obtain ⟨g, HG⟩ := HR.out
      have c0 : wr.cell? ⟨b, o + k * 2, none⟩ = _ := (HG.below.cell (p := ⟨b, o + k * 2, none⟩) hbl).trans c0
      have c1 : wr.cell? ⟨b, o + k * 2 + 1, none⟩ = _ := (HG.below.cell (p := ⟨b, o + k * 2 + 1, none⟩) hbl).trans c1
      have HT : Hid (l.take (k + 1) = l.take k ++ [l.getD k (0, 0)]) := Lib.hid (by
        rw [List.take_succ_eq_append_getElem (by rw [HN.out]; omega), List.getD_eq_getElem?_getD, List.getElem?_eq_getElem (by rw [HN.out]; omega)]; rfl)
      have HW : Hid (D32 ((l.getD k (0, 0)).1)) := Lib.hid (HF.out _ (by rw [List.getD_eq_getElem?_getD, List.getElem?_eq_getElem (by rw [HN.out]; omega)]; exact List.getElem_mem _)).1
      generalize l.getD k (0, 0) = e at c0 c1 HT HW
      obtain ⟨c, v⟩ := e
      dsimp only at c0 c1 HW
      have hg0 := HG.below.size
      have hgm := HG.map.lt
      have HGM := Lib.hid (HG.map.alloc (.cells #[.int .i32 c, .int .i64 v] 89))
      have HG := Lib.hid HG
      have hWW : Below wr.heap.size wr (wr.alloc (.cells #[.int .i32 c, .int .i64 v] 89)) := (Below.refl _ _).alloc (Nat.le_refl _) _
      have HWW := Lib.hid hWW
      clear hWW
      by_cases hp : isPl c = true
      · have HP : Hid (∀ w, Calls Tryd.prog 82 #[.int .i32 c] w fun e w' => e = .returned (.bool true) ∧ w = w') := Lib.hid fun w => by
          have := isPlace_any c w
          rwa [hp] at this
        have HPL := Lib.hid hp
        obtain ⟨hp0, hp1⟩ := isPl_iff.1 hp
        have HK : Hid (D32 (c / 256)) := Lib.hid (WalkArith.wf_i32 (by omega))
        clear hp
        by_cases hin : c / 256 ∈ gks (l.take k)
        · have HI := Lib.hid hin
          obtain ⟨hb0, hb1⟩ := HG.out.blks _ hin
          have hb1 := hb1.below HWW.out hb1.lt
          have hbl1 : g (c / 256) < wr.heap.size := (HG.out.blks _ hin).2.lt
          have x0 : (wr.alloc (.cells #[.int .i32 c, .int .i64 v] 89)).cell? ⟨g (c / 256), (c % 256).toNat, none⟩ = some (.int .i64 ((blk (tab (l.take k)) (c / 256)).getD (c % 256).toNat 0)) := by
            rw [hb1.cell, blk_at _ _ _ (by omega)]
            simp [blk_get, show (c % 256).toNat < 256 by omega]
          have x1 : (wr.alloc (.cells #[.int .i32 c, .int .i64 v] 89)).frozen? ⟨g (c / 256), (c % 256).toNat, none⟩ = false := hb1.frozen _
          have X0 := Lib.hid x0
          have X1 := Lib.hid x1
          have HQ := Lib.hid (g_old (v := v) HG.out HPL.out HI.out (HWW.out.drew))
          generalize hgk : g (c / 256) = gk at *
          have HGK := Lib.hid hgk
          clear hb1 hin hgk x0 x1
          go_wp2_with fail
          with_reducible refine (HP.out _).mono ?_
          rintro e w' ⟨rfl, rfl⟩
          go_wp2_with (at_lookup; refine wpList_mlook rfl _ _ 106 true rfl 21 117 kv32 Tryd.underlying106 (zero_ptr _) w.heap.size rfl HGM.out (c / 256) rfl HK.out (.tuple #[.pointer (some ⟨gk, 0, none⟩), .bool true]) (by simp [HI.out, ptrV, HGK.out]) ?_)
          refine wp_region_still_tail 8 (by kernel_rfl) (by kernel_rfl) ?_
          simp only [List.take_succ_cons, List.take_zero, List.drop_succ_cons, List.drop_zero]
          generalize hW1 : ({ wr.alloc (.cells #[.int .i32 c, .int .i64 v] 89) with drawn := (wr.alloc (.cells #[.int .i32 c, .int .i64 v] 89)).drawn + 1 } : World) = W1
          have e0 : W1.cell? ⟨wr.heap.size, 0, none⟩ = some (.int .i32 c) := by rw [← hW1]; exact (Blk.new wr 89 #[.int .i32 c, .int .i64 v]).cell 0
          have e1 : W1.cell? ⟨wr.heap.size, 1, none⟩ = some (.int .i64 v) := by rw [← hW1]; exact (Blk.new wr 89 #[.int .i32 c, .int .i64 v]).cell 1
          have x0 : W1.cell? ⟨gk, (c % 256).toNat, none⟩ = some (.int .i64 ((blk (tab (l.take k)) (c / 256)).getD (c % 256).toNat 0)) := by rw [← hW1]; exact X0.out
          have x1 : W1.frozen? ⟨gk, (c % 256).toNat, none⟩ = false := by rw [← hW1]; exact X1.out
          have HQ : GRel w (List.take k l ++ [(c, v)]) (W1.setCell ⟨gk, (c % 256).toNat, none⟩ (.int .i64 v)) g := by rw [← hW1]; exact HQ.out
          clear hW1
          have hmod : c.tmod 256 = c % 256 := Int.tmod_eq_emod_of_nonneg hp0
          have hm0 : 0 ≤ c % 256 := by omega
          have hm1 : c % 256 < 256 := by omega
          repeat still_step
          refine wpStill_nil ?_
          go_wp2
          go_roundw
          case rel => exact ⟨k + 1, by omega, by go_num, _, by rw [HT.out]; exact HQ⟩
          case measure => simp [intOf]; omega
        · have HI := Lib.hid hin
          have KE := Lib.hid ((Blk.new wr 89 #[.int .i32 c, .int .i64 v]).alloc (.cells zvals.toArray 116))
          have KZ := Lib.hid (Blk.new (wr.alloc (.cells #[.int .i32 c, .int .i64 v] 89)) 116 zvals.toArray)
          have HWZ := Lib.hid (HWW.out.alloc (by simp) (.cells zvals.toArray 116))
          have HGM2 := Lib.hid (HGM.out.alloc (.cells zvals.toArray 116))
          have hsz2 : (wr.alloc (.cells #[.int .i32 c, .int .i64 v] 89)).heap.size = wr.heap.size + 1 := by simp
          have hzb := zero_blk
          clear hin
          go_wp2_with fail
          with_reducible refine (HP.out _).mono ?_
          rintro e w' ⟨rfl, rfl⟩
          go_wp2_with (first
            | (at_lookup; refine wpList_mlook rfl _ _ 106 true rfl 21 117 kv32 Tryd.underlying106 (zero_ptr _) w.heap.size rfl HGM.out (c / 256) rfl HK.out (.tuple #[.pointer none, .bool false]) (by simp [HI.out]) ?_)
            | (at_mapUpdate; refine wpList_mput rfl _ _ _ 106 rfl 21 117 kv32 Tryd.underlying106 w.heap.size rfl HGM2.out (c / 256) rfl HK.out (wr.heap.size + 1) rfl ?_; intro w2 hm2 hb2))
          simp only [Act.put]
          clear hzb
          have KE2 := Lib.hid (hb2.blk KE.out (by simp; omega))
          have KZ2 : Hid (Blk w2 (wr.heap.size + 1) 116 zvals.toArray) := Lib.hid (by have := hb2.blk KZ.out (by simp; omega); rwa [hsz2] at this)
          have HQ := Lib.hid (g_new (v := v) (β := wr.heap.size + 1) HG.out HPL.out HI.out HWZ.out (by omega) (by have := KZ.out; rwa [hsz2] at this) hm2 hb2)
          refine wp_region_still_tail 8 (by kernel_rfl) (by kernel_rfl) ?_
          simp only [List.take_succ_cons, List.take_zero, List.drop_succ_cons, List.drop_zero]
          generalize hW1 : ({ w2 with drawn := w2.drawn + 1 } : World) = W1
          have e0 : W1.cell? ⟨wr.heap.size, 0, none⟩ = some (.int .i32 c) := by rw [← hW1]; exact KE2.out.cell 0
          have e1 : W1.cell? ⟨wr.heap.size, 1, none⟩ = some (.int .i64 v) := by rw [← hW1]; exact KE2.out.cell 1
          have x0 : W1.cell? ⟨wr.heap.size + 1, (c % 256).toNat, none⟩ = some (.int .i64 0) := by
            rw [← hW1]
            refine (KZ2.out.drew.cell _).trans ?_
            exact zvals_at _ (by omega)
          have x1 : W1.frozen? ⟨wr.heap.size + 1, (c % 256).toNat, none⟩ = false := by rw [← hW1]; exact KZ2.out.drew.frozen _
          have HQ : GRel' w (List.take k l ++ [(c, v)]) (W1.setCell ⟨wr.heap.size + 1, (c % 256).toNat, none⟩ (.int .i64 v)) := by rw [← hW1]; exact ⟨_, gdrew HQ.out⟩
          clear hW1
          have hmod : c.tmod 256 = c % 256 := Int.tmod_eq_emod_of_nonneg hp0
          have hm0 : 0 ≤ c % 256 := by omega
          have hm1 : c % 256 < 256 := by omega
          repeat still_step
          refine wpStill_nil ?_
          go_wp2
          go_roundw
          case rel => exact ⟨k + 1, by omega, by go_num, by rw [HT.out]; exact HQ⟩
          case measure => simp [intOf]; omega
      · have hp' : isPl c = false := by simpa using hp
        have HP : Hid (∀ w, Calls Tryd.prog 82 #[.int .i32 c] w fun e w' => e = .returned (.bool false) ∧ w = w') := Lib.hid fun w => by
          have := isPlace_any c w
          rwa [hp'] at this
        have HQ := Lib.hid (g_none (v := v) HG.out hp' HWW.out)
        clear hp hp'
        go_wp2_with fail
        with_reducible refine (HP.out _).mono ?_
        rintro e w' ⟨rfl, rfl⟩
        go_wp2
        go_roundw
        case rel => exact ⟨k + 1, by omega, by go_num, _, by rw [HT.out]; exact HQ.out⟩
        case measure => simp [intOf]; omega
    · have hkk : k = n := by omega
      subst hkk
      have HR : Hid (GRel' w l wr) := Lib.hid (by have := hR; rwa [List.take_of_length_le (by rw [HN.out]; omega)] at this)
      clear hR hmm
      have hlt' : ¬ (k : Int) < k := by omega
      go_wp2
      go_ret
      exact ⟨rfl, HR.out⟩
end Go.Proofs.YtdmcidljjfogjaaDoor

/- Package stage: Build by its contract: a table that has what the entries say. -/
namespace Go.Proofs.YtdmcidljjfogjaaDoor
set_option maxRecDepth 100000
open Go.ChangeShapes Go.WideShapes Go.ChangeAt Go.RowKit
set_option linter.unusedVariables false
set_option linter.unusedSimpArgs false

def tvals : List Value := List.replicate 4352 (Value.int .u16 0) ++ [.slice none 0 0]
theorem zero_tab (w : World) : (zeroValue 113).run Tryd.prog w = .ok (.agg tvals.toArray) w := by kernel_rfl
def U4 (l : List (Int × Int)) (k : Nat) : List (List Int) := uall (tab l) (gks l) k
/-- the numbers after k rounds -/
def N4 (l : List (Int × Int)) (k : Nat) : List Value := (List.range 4352).map fun (i : Nat) => if i < k then u16V (pos (U4 l 4352) (blk (tab l) i)) else u16V 0
theorem N4_len (l : List (Int × Int)) (k : Nat) : (N4 l k).length = 4352 := by unfold N4; rw [List.length_map, List.length_range]
theorem N4_get (l : List (Int × Int)) (k i : Nat) : (N4 l k)[i]? = if i < 4352 then some (if i < k then u16V (pos (U4 l 4352) (blk (tab l) i)) else u16V 0) else none := by
  unfold N4
  rw [List.getElem?_map]
  by_cases h : i < 4352
  · rw [if_pos h, List.getElem?_range h]; rfl
  · rw [if_neg h, List.getElem?_eq_none (by rw [List.length_range]; omega)]; rfl
theorem N4_zero (l : List (Int × Int)) : N4 l 0 = List.replicate 4352 (Value.int .u16 0) := by
  apply List.ext_getElem?; intro i
  rw [N4_get, List.getElem?_replicate]
  by_cases h : i < 4352
  · rw [if_pos h, if_pos h, if_neg (by omega)]; rfl
  · rw [if_neg h, if_neg h]
theorem pos_grow {f : Int → Int} {ks : List Int} {x : List Int} : ∀ (m n : Nat), x ∈ uall f ks n → pos (uall f ks (n + m)) x = pos (uall f ks n) x ∧ x ∈ uall f ks (n + m)
  | 0, _, h => ⟨rfl, h⟩
  | m + 1, n, h => by
    obtain ⟨h1, h2⟩ := pos_grow m n h
    rw [← Nat.add_assoc, uall_succ]; unfold ustep; split
    · exact ⟨by rw [pos_kput h2, h1], kput_mem.2 (.inl h2)⟩
    · exact ⟨h1, h2⟩
theorem U4_pos {l : List (Int × Int)} {x : List Int} {k : Nat} (hk : k ≤ 4352) (h : x ∈ U4 l k) : pos (U4 l k) x = pos (U4 l 4352) x := by
  have := (pos_grow (f := tab l) (ks := gks l) (x := x) (4352 - k) k h).1
  rw [Nat.add_sub_cancel' hk] at this
  exact this.symm
theorem N4_set (l : List (Int × Int)) (k : Nat) (hk : k < 4352) : (N4 l k).set k (u16V (pos (U4 l 4352) (blk (tab l) k))) = N4 l (k + 1) := by
  apply List.ext_getElem?; intro i
  rw [List.getElem?_set, N4_get, N4_get, N4_len]
  by_cases h : k = i
  · subst h; rw [if_pos rfl, if_pos hk, if_pos hk, if_pos (by omega)]
  · rw [if_neg h]
    by_cases h2 : i < 4352
    · rw [if_pos h2, if_pos h2]
      by_cases h3 : i < k
      · rw [if_pos h3, if_pos (by omega)]
      · rw [if_neg h3, if_neg (by omega)]
    · rw [if_neg h2, if_neg h2]
theorem N4_stay (l : List (Int × Int)) (k : Nat) (hk : k < 4352) (h : (k : Int) ∉ gks l) : N4 l (k + 1) = N4 l k := by
  rw [← N4_set l k hk]
  apply List.ext_getElem?; intro i
  rw [List.getElem?_set, N4_get, N4_len]
  by_cases e : k = i
  · subst e
    rw [if_pos rfl, if_pos hk, if_pos hk, if_neg (by omega), gks_empty l _ h]
    have := (zblk_in (f := tab l) (ks_room (gks_nodup l) (gks_bd l) hk h) 4352).2
    unfold U4; rw [this]
  · rw [if_neg e]
theorem found_set {w : World} {B : Nat} {U : List (List Int)} {N : List Value} (h : Found w B U N) (k : Nat) (hk : k < 4352) (u : Value) : Found (w.setCell ⟨B + 1, k, none⟩ u) B U (N.set k u) := by
  obtain ⟨v, h1, h2⟩ := h.tab
  refine ⟨h.known.far (by simp) u, ⟨v, ?_, own_kept h2 (g := B + 1) (by omega) ((But.refl _ _).set _ _)⟩, by rw [List.length_set]; exact h.len⟩
  have := h1.set k u
  have e : (N.toArray.push v).setIfInBounds k u = (N.set k u).toArray.push v := by
    apply Array.ext_getElem?
    intro i
    have hs : N.toArray.size = 4352 := by simp [h.len]
    have hs' : (N.set k u).toArray.size = 4352 := by simp [h.len]
    rw [Array.getElem?_setIfInBounds, Array.getElem?_push, Array.getElem?_push, hs, hs', Array.size_push, hs]
    by_cases hi : k = i
    · subst hi
      rw [if_pos rfl, if_pos (by omega), if_neg (by omega)]
      simp [h.len, hk]
    · rw [if_neg hi]
      split
      · rfl
      · simp [List.getElem?_set, hi]
  rw [e] at this
  exact this
theorem found_drew {w : World} {B : Nat} {U : List (List Int)} {N : List Value} (h : Found w B U N) : Found w.drew B U N := ⟨h.known, h.tab, h.len⟩
theorem blkBD {l : List (Int × Int)} (hf : FitE l) (k : Int) : BD (blk (tab l) k) := ⟨blk_len _ _, blk_fits (tab_fits (by decide) l (fun e he => (hf e he).2)) k⟩
theorem zBD : BD zblk := ⟨zblk_len, fun x hx => by unfold zblk at hx; rw [List.eq_of_mem_replicate hx]; decide⟩
theorem flat_at : ∀ (U : List (List Int)) (m j : Nat) (u : List Int), (∀ u ∈ U, u.length = 256) → U[m]? = some u → j < 256 → U.flatten[m * 256 + j]? = u[j]?
  | [], m, _, _, _, h, _ => by simp at h
  | x :: r, 0, j, u, hl, h, hj => by
    simp only [List.getElem?_cons_zero, Option.some.injEq] at h
    subst h
    rw [List.flatten_cons, Nat.zero_mul, Nat.zero_add, List.getElem?_append_left (by rw [hl x (by simp)]; exact hj)]
  | x :: r, m + 1, j, u, hl, h, hj => by
    simp only [List.getElem?_cons_succ] at h
    have hx : x.length = 256 := hl x (by simp)
    rw [List.flatten_cons, List.getElem?_append_right (by rw [hx, Nat.add_mul]; omega), hx]
    have : (m + 1) * 256 + j - 256 = m * 256 + j := by omega
    rw [this]
    exact flat_at r m j u (fun y hy => hl y (by simp [hy])) h hj
theorem U4_len256 (l : List (Int × Int)) (k : Nat) : ∀ u ∈ U4 l k, u.length = 256 := fun u hu => by
  rcases uall_block (tab l) (gks l) k u hu with rfl | ⟨i, rfl⟩
  · exact zblk_len
  · exact blk_len _ _
theorem U4_dist (l : List (Int × Int)) : Dist (tab l) (U4 l 4352) := uall_dist (gks_nodup l) (gks_bd l) (gks_empty l)
/-- what Found is when all is done -/
theorem found_tab {w : World} {B : Nat} {l : List (Int × Int)} (h : Found w B (U4 l 4352) (N4 l 4352)) : TabAt w w.heap.size (B + 1) (tab l) (U4 l 4352).length := by
  obtain ⟨v, h1, h2⟩ := h.tab
  have hd := U4_dist l
  have h0 := hd.all 0 (by omega)
  have hpos : 0 < (U4 l 4352).length := List.length_pos_of_mem h0
  rcases h2.2 with ⟨_, e2⟩ | ⟨g, cap, cur, hv, hb, hh, hnc, hm, hcs, ht⟩
  · omega
  · have hgl : g < w.heap.size := (h2.lt g (by rw [hv]; rfl)).2
    refine ⟨h1.lt, g, cap, fun i => pos (U4 l 4352) (blk (tab l) i), hgl, uall_len (tab l) (gks l) 4352, hnc, ?_, fun i hi => ⟨pos_lt (hd.all i hi), ?_, fun j hj => ?_⟩⟩
    · rw [h1.cell, Array.getElem?_push, if_pos (by simp [N4_len]), hv]
    · rw [h1.cell, Array.getElem?_push, if_neg (by simp [N4_len]; omega), List.getElem?_toArray, N4_get, if_pos hi, if_pos hi]; rfl
    · have hc := h2.cells (g := g) (by rw [hv]; rfl) (pos (U4 l 4352) (blk (tab l) i) * 256 + j) (.int .i64 (tab l (256 * (i : Int) + (j : Int)))) (by
        unfold flat
        rw [List.getElem?_map, flat_at _ _ _ _ (U4_len256 l 4352) (pos_get _ (hd.all i hi)) hj, blk_get, if_pos hj]; rfl)
      have ha : (⟨g, 0, none⟩ : Addr).add (pos (U4 l 4352) (blk (tab l) i) * 256 + j) = ⟨g, pos (U4 l 4352) (blk (tab l) i) * 256 + j, none⟩ := by unfold Addr.add; split <;> simp_all
      rwa [ha] at hc
/-- where it begins -/
theorem found_start (w1 : World) (l : List (Int × Int)) : Found ((w1.alloc (.map #[] 0)).alloc (.cells tvals.toArray 113)) w1.heap.size [] (N4 l 0) := by
  refine ⟨((MapIs.made w1 bV u16V BD (pos [])).alloc _), ⟨.slice none 0 0, ?_, World.ownsRow_nil _ _ _ _⟩, N4_len l 0⟩
  have := Blk.new (w1.alloc (.map #[] 0)) 113 tvals.toArray
  have e : (N4 l 0).toArray.push (.slice none 0 0) = tvals.toArray := by
    rw [N4_zero]; unfold tvals
    rw [List.push_toArray]
  rw [e]
  simpa using this

def BuildPost (w : World) (l : List (Int × Int)) (e : Ending) (w' : World) : Prop :=
  ∃ (g : Nat) (U : List (List Int)), e = .returned (.pointer (some ⟨g, 0, none⟩)) ∧ Dist (tab l) U ∧ TabAt w' w'.heap.size g (tab l) U.length ∧ Below w.heap.size w w'
structure BRel (w1 : World) (l : List (Int × Int)) (k : Nat) (wr : World) : Prop where
  found : Found wr w1.heap.size (U4 l k) (N4 l k)
  below : Below w1.heap.size w1 wr
theorem U4_in {l : List (Int × Int)} {k : Nat} (h : (k : Int) ∈ gks l) : U4 l (k + 1) = kput (U4 l k) (blk (tab l) k) := by unfold U4; rw [uall_succ]; unfold ustep; rw [if_pos h]
theorem U4_out {l : List (Int × Int)} {k : Nat} (h : (k : Int) ∉ gks l) : U4 l (k + 1) = U4 l k := by unfold U4; rw [uall_succ]; unfold ustep; rw [if_neg h]
theorem b_in {w1 wr w3 : World} {l : List (Int × Int)} {k : Nat} (hR : BRel w1 l k wr) (hk : k < 4352) (hin : (k : Int) ∈ gks l) (hF : Found w3 w1.heap.size (kput (U4 l k) (blk (tab l) k)) (N4 l k)) (hb : Below w1.heap.size wr w3) :
    w3.cell? ⟨w1.heap.size + 1, k, none⟩ = some (.int .u16 0) ∧ w3.frozen? ⟨w1.heap.size + 1, k, none⟩ = false ∧
      Hid (BRel w1 l (k + 1) (w3.setCell ⟨w1.heap.size + 1, k, none⟩ (.int .u16 (pos (kput (U4 l k) (blk (tab l) k)) (blk (tab l) k))))) := by
  obtain ⟨v, h1, h2⟩ := hF.tab
  refine ⟨?_, h1.frozen _, Lib.hid ⟨?_, ?_⟩⟩
  · rw [h1.cell, Array.getElem?_push, if_neg (by simp [N4_len]; omega), List.getElem?_toArray, N4_get, if_pos hk, if_neg (by omega)]; rfl
  · have := found_set hF k hk (.int .u16 (pos (kput (U4 l k) (blk (tab l) k)) (blk (tab l) k)))
    rw [← U4_in hin] at this ⊢
    rw [U4_pos (by omega) (by rw [U4_in hin]; exact kput_mem.2 (.inr rfl))] at this ⊢
    rw [← N4_set l k hk]
    exact this
  · exact (hR.below.trans hb).setCell (by show _ ≤ _ + 1; omega) _
theorem b_out {w1 wr : World} {l : List (Int × Int)} {k : Nat} (hR : BRel w1 l k wr) (hk : k < 4352) (hin : (k : Int) ∉ gks l) : BRel w1 l (k + 1) wr :=
  ⟨by rw [U4_out hin, N4_stay l k hk hin]; exact hR.found, hR.below⟩
theorem b_end {w w1 wr : World} {l : List (Int × Int)} {g : Int → Nat} (hG : GRel w l w1 g) (hR : BRel w1 l 4352 wr) : BuildPost w l (.returned (.pointer (some ⟨w1.heap.size + 1, 0, none⟩))) wr :=
  ⟨_, _, rfl, U4_dist l, found_tab hR.found, hG.below.trans (hR.below.mono hG.below.size)⟩

set_option maxRecDepth 100000 in
set_option maxHeartbeats 2000000 in
theorem build_any (w : World) (A : Option Addr) (n cap : Nat) (l : List (Int × Int)) (hn : l.length = n) (hm : n ≤ 1099511627776) (hE : Ents w w.heap.size A l) (hf : FitE l) :
    Calls Tryd.prog 49 #[.slice A n cap] w (BuildPost w l) := by
  have HG := Lib.hid (gather_any w A n cap l hn hm hE hf)
  have HF := Lib.hid hf
  clear hn hE hf
  have hmm := @run_makeMap Tryd.prog
  have hzb := zero_blk
  have hzt := zero_tab
  go_enter Tryd.func49, Tryd.ntmps49
  go_wp2_with fail
  with_reducible refine HG.out.mono ?_
  rintro e w1 ⟨rfl, g, hG⟩
  have HGR := Lib.hid hG
  have HM := Lib.hid ((hG.map.alloc (.map #[] 0)).alloc (.cells tvals.toArray 113))
  have hs1 := hG.below.size
  have HS := Lib.hid (found_start w1 l)
  have HSB : Hid (Below w1.heap.size w1 ((w1.alloc (.map #[] 0)).alloc (.cells tvals.toArray 113))) := Lib.hid (((Below.refl _ _).alloc (Nat.le_refl _) _).alloc (by simp) _)
  clear hG HG
  by_cases hks : (gks l).length < 4352
  · have HU : Hid (U4 l 0 = [zblk]) := Lib.hid (by unfold U4; rw [uall_zero]; unfold ustart; rw [if_pos hks])
    have hd : decide ((gks l).length < 4352) = true := by simpa using hks
    have hd' : decide (((gks l).length : Int) < 4352) = true := by simp; omega
    clear hks
    go_wp2_with (at_len; refine wpList_mlen rfl _ 106 rfl 21 117 Tryd.underlying106 w.heap.size rfl HM.out ?_)
    have HADD : Hid (Calls Tryd.prog 64 #[.pointer (some ⟨w1.heap.size + 1, 0, none⟩), .agg zvals.toArray, .map (some w1.heap.size)] ((w1.alloc (.map #[] 0)).alloc (.cells tvals.toArray 113)) (AddPost ((w1.alloc (.map #[] 0)).alloc (.cells tvals.toArray 113)) w1.heap.size [] (N4 l 0) zblk)) := Lib.hid (by
      rw [zvals_eq]; exact add_any _ _ _ _ _ HS.out zBD (by simp))
    with_reducible refine HADD.out.mono ?_
    rintro e w2 ⟨rfl, hF2, hb2⟩
    have HF2 : Hid (Found w2 w1.heap.size (U4 l 0) (N4 l 0)) := Lib.hid (by rw [HU.out]; exact hF2)
    have HB2 := Lib.hid (HSB.out.trans hb2)
    clear hF2 hb2 HADD HU
    generalize u16V (pos (kput [] zblk) zblk) = uu
    go_wp2_with fail
    go_loopw [21] (fun i wr => ∃ k : Nat, k ≤ 4352 ∧ i = .int .i64 k ∧ BRel w1 l k wr) (fun i _ => 4352 - (intOf i).toNat)
    case atStart => exact ⟨0, by omega, rfl, HF2.out, HB2.out⟩
    case round =>
      obtain ⟨k, hk, rfl, hR⟩ := hrel
      have HR := Lib.hid hR
      clear hR HF2 HB2 HS HSB HM
      have HM : Hid (MapIs wr w.heap.size (Value.int .i32) ptrV D32 (gks l) g) := Lib.hid (HGR.out.map.below HR.out.below HGR.out.map.lt)
      have hsw := HR.out.below.size
      have hgm := HGR.out.map.lt
      by_cases hlt : k < 4352
      · have HK : Hid (D32 (k : Int)) := Lib.hid (WalkArith.wf_i32 (by omega))
        by_cases hin : (k : Int) ∈ gks l
        · have HI := Lib.hid hin
          obtain ⟨hg1, hg2⟩ := HGR.out.blks _ hin
          have hg3 := hg2.lt
          have HB3 : Hid (Blk wr (g k) 116 ((blk (tab l) k).map (Value.int .i64)).toArray) := Lib.hid (hg2.below HR.out.below hg3)
          have HUL : Hid ((U4 l k).length ≤ 4353) := Lib.hid (by have := uall_len (tab l) (gks l) k; unfold U4; omega)
          have HA : Hid (∀ W, Found W w1.heap.size (U4 l k) (N4 l k) → Calls Tryd.prog 64 #[.pointer (some ⟨w1.heap.size + 1, 0, none⟩), .agg ((blk (tab l) k).map (Value.int .i64)).toArray, .map (some w1.heap.size)] W (AddPost W w1.heap.size (U4 l k) (N4 l k) (blk (tab l) k))) :=
            Lib.hid fun W hW => add_any W w1.heap.size (U4 l k) (N4 l k) (blk (tab l) k) hW (blkBD HF.out k) HUL.out
          generalize hgk : g k = gk at *
          have HGK := Lib.hid hgk
          clear hgk hin hg2 hmm hzb hzt
          go_wp2_with (at_lookup; refine wpList_mlook rfl _ _ 106 true rfl 21 117 kv32 Tryd.underlying106 (zero_ptr _) w.heap.size rfl HM.out (k : Int) rfl HK.out (.tuple #[.pointer (some ⟨gk, 0, none⟩), .bool true]) (by simp [HI.out, ptrV, HGK.out]) ?_)
          refine wp_region_A (by kernel_rfl) ?_
          refine wpA_take 0 32 (v := ?v0a) rfl rfl (by kernel_rfl) (by kernel_rfl) (by kernel_rfl) (fun _ _ _ h => h) (Or.inl ⟨by rfl, ?y0a⟩) ?r0a
          case y0a => (intro W; go_simp; try with_reducible rfl)
          simp only [Act.put, List.setIfInBounds_toArray, List.set_cons_zero, List.set_cons_succ]
          refine wpA_take 1 33 (v := ?v1a) rfl rfl (by kernel_rfl) (by kernel_rfl) (by kernel_rfl) (fun _ _ _ h => h) (Or.inl ⟨by rfl, ?y1a⟩) ?r1a
          case y1a => (intro W; go_simp; try with_reducible rfl)
          simp only [Act.put, List.setIfInBounds_toArray, List.set_cons_zero, List.set_cons_succ]
          refine wpA_take 2 34 (v := ?v2a) rfl rfl (by kernel_rfl) (by kernel_rfl) (by kernel_rfl) (fun _ _ _ h => h) (Or.inl ⟨by rfl, ?y2a⟩) ?r2a
          case y2a => (intro W; go_simp; try with_reducible rfl)
          simp only [Act.put, List.setIfInBounds_toArray, List.set_cons_zero, List.set_cons_succ]
          refine wpA_take 3 35 (v := ?v3a) rfl rfl (by kernel_rfl) (by kernel_rfl) (by kernel_rfl) (fun _ _ _ h => h) (Or.inl ⟨by rfl, ?y3a⟩) ?r3a
          case y3a => (intro W; go_simp; try with_reducible rfl)
          simp only [Act.put, List.setIfInBounds_toArray, List.set_cons_zero, List.set_cons_succ]
          refine wpA_take 4 36 (v := ?v4a) rfl rfl (by kernel_rfl) (by kernel_rfl) (by kernel_rfl) (fun _ _ _ h => h) (Or.inl ⟨by rfl, ?y4a⟩) ?r4a
          case y4a => (intro W; go_simp; try with_reducible rfl)
          simp only [Act.put, List.setIfInBounds_toArray, List.set_cons_zero, List.set_cons_succ]
          refine wpA_take 6 38 (v := ?v6a) rfl rfl (by kernel_rfl) (by kernel_rfl) (by kernel_rfl) (fun _ _ _ h => h) (Or.inl ⟨by rfl, ?y6a⟩) ?r6a
          case y6a => (intro W; go_simp; try with_reducible rfl)
          simp only [Act.put, List.setIfInBounds_toArray, List.set_cons_zero, List.set_cons_succ]
          refine wpA_take 8 40 (v := ?v8a) rfl rfl (by kernel_rfl) (by kernel_rfl) (by kernel_rfl) (fun _ _ _ h => h) (Or.inl ⟨by rfl, ?y8a⟩) ?r8a
          case y8a => (intro W; go_simp; try with_reducible rfl)
          simp only [Act.put, List.setIfInBounds_toArray, List.set_cons_zero, List.set_cons_succ]
          refine wpA_take 9 41 (v := ?v9a) rfl rfl (by kernel_rfl) (by kernel_rfl) (by kernel_rfl) (fun _ _ _ h => h) (Or.inl ⟨by rfl, ?y9a⟩) ?r9a
          case y9a => (intro W; go_simp; try with_reducible rfl)
          simp only [Act.put, List.setIfInBounds_toArray, List.set_cons_zero, List.set_cons_succ]
          refine wpA_one 5 (by kernel_rfl) rfl (fun K hK => ?_)
          refine wpA_if (by rfl) ?_
          refine wp_load_row 116 _ rfl gk rfl 116 ((blk (tab l) k).map (Value.int .i64)).toArray (0, 0) _ HB3.out.drew Tryd.underlying116 rfl (by rw [info_blk]; simp [blk_len]) ?_
          refine hK.out _ _ ?_
          clear hK K
          try simp only [Act.put, List.setIfInBounds_toArray, List.set_cons_zero, List.set_cons_succ]
          refine wpA_one 7 (by kernel_rfl) rfl (fun K hK => ?_)
          go_simp
          with_reducible refine (HA.out _ (found_drew HR.out.found)).mono ?_
          rintro e w3 ⟨rfl, hF3, hb3⟩
          refine hK.out _ _ ?_
          clear hK K
          try simp only [Act.put, List.setIfInBounds_toArray, List.set_cons_zero, List.set_cons_succ]
          obtain ⟨c3, f3, HQ⟩ := b_in (w3 := w3) HR.out hlt HI.out hF3 ((Below.refl _ _).drew.trans hb3)
          have HF3 := Lib.hid hF3
          clear hF3 hb3
          unfold u16V
          generalize pos (kput (U4 l k) (blk (tab l) k)) (blk (tab l) k) = m at *
          refine wpA_take 10 42 (v := ?v10a) rfl rfl (by kernel_rfl) (by kernel_rfl) (by kernel_rfl) (fun _ _ _ h => h) (Or.inl ⟨by rfl, ?y10a⟩) ?r10a
          case y10a => (intro W; go_simp; try with_reducible rfl)
          simp only [Act.put, List.setIfInBounds_toArray, List.set_cons_zero, List.set_cons_succ]
          refine wpA_one 11 (by kernel_rfl) rfl (fun K hK => ?_)
          go_simp
          refine hK.out _ _ ?_
          clear hK K
          try simp only [Act.put, List.setIfInBounds_toArray, List.set_cons_zero, List.set_cons_succ]
          refine wpA_done (by kernel_rfl) ?_ _
          go_wp2
          go_roundw
          case rel => exact ⟨k + 1, by omega, by go_num, HQ.out⟩
          case measure => simp [intOf]; omega
        · have HI := Lib.hid hin
          have HQ := Lib.hid (b_out HR.out hlt hin)
          clear hin hmm hzb hzt
          go_wp2_with (at_lookup; refine wpList_mlook rfl _ _ 106 true rfl 21 117 kv32 Tryd.underlying106 (zero_ptr _) w.heap.size rfl HM.out (k : Int) rfl HK.out (.tuple #[.pointer none, .bool false]) (by simp [HI.out]) ?_)
          go_roundw
          case rel => exact ⟨k + 1, by omega, by go_num, HQ.out⟩
          case measure => simp [intOf]; omega
      · have hkk : k = 4352 := by omega
        subst hkk
        have HQ := Lib.hid (b_end HGR.out HR.out)
        clear hmm hzb hzt
        go_wp2
        go_ret
        exact HQ.out
  · have HF2 : Hid (Found ((w1.alloc (.map #[] 0)).alloc (.cells tvals.toArray 113)) w1.heap.size (U4 l 0) (N4 l 0)) := Lib.hid (by
      have : U4 l 0 = [] := by unfold U4; rw [uall_zero]; unfold ustart; rw [if_neg hks]
      rw [this]; exact HS.out)
    have HB2 := HSB
    have hd : decide ((gks l).length < 4352) = false := by simpa using hks
    have hd' : decide (((gks l).length : Int) < 4352) = false := by simp; omega
    clear hks
    go_wp2_with (at_len; refine wpList_mlen rfl _ 106 rfl 21 117 Tryd.underlying106 w.heap.size rfl HM.out ?_)
    go_loopw [21] (fun i wr => ∃ k : Nat, k ≤ 4352 ∧ i = .int .i64 k ∧ BRel w1 l k wr) (fun i _ => 4352 - (intOf i).toNat)
    case atStart => exact ⟨0, by omega, rfl, HF2.out, HB2.out⟩
    case round =>
      obtain ⟨k, hk, rfl, hR⟩ := hrel
      have HR := Lib.hid hR
      clear hR HF2 HB2 HS HSB HM
      have HM : Hid (MapIs wr w.heap.size (Value.int .i32) ptrV D32 (gks l) g) := Lib.hid (HGR.out.map.below HR.out.below HGR.out.map.lt)
      have hsw := HR.out.below.size
      have hgm := HGR.out.map.lt
      by_cases hlt : k < 4352
      · have HK : Hid (D32 (k : Int)) := Lib.hid (WalkArith.wf_i32 (by omega))
        by_cases hin : (k : Int) ∈ gks l
        · have HI := Lib.hid hin
          obtain ⟨hg1, hg2⟩ := HGR.out.blks _ hin
          have hg3 := hg2.lt
          have HB3 : Hid (Blk wr (g k) 116 ((blk (tab l) k).map (Value.int .i64)).toArray) := Lib.hid (hg2.below HR.out.below hg3)
          have HUL : Hid ((U4 l k).length ≤ 4353) := Lib.hid (by have := uall_len (tab l) (gks l) k; unfold U4; omega)
          have HA : Hid (∀ W, Found W w1.heap.size (U4 l k) (N4 l k) → Calls Tryd.prog 64 #[.pointer (some ⟨w1.heap.size + 1, 0, none⟩), .agg ((blk (tab l) k).map (Value.int .i64)).toArray, .map (some w1.heap.size)] W (AddPost W w1.heap.size (U4 l k) (N4 l k) (blk (tab l) k))) :=
            Lib.hid fun W hW => add_any W w1.heap.size (U4 l k) (N4 l k) (blk (tab l) k) hW (blkBD HF.out k) HUL.out
          generalize hgk : g k = gk at *
          have HGK := Lib.hid hgk
          clear hgk hin hg2 hmm hzb hzt
          go_wp2_with (at_lookup; refine wpList_mlook rfl _ _ 106 true rfl 21 117 kv32 Tryd.underlying106 (zero_ptr _) w.heap.size rfl HM.out (k : Int) rfl HK.out (.tuple #[.pointer (some ⟨gk, 0, none⟩), .bool true]) (by simp [HI.out, ptrV, HGK.out]) ?_)
          refine wp_region_A (by kernel_rfl) ?_
          refine wpA_take 0 32 (v := ?w0a) rfl rfl (by kernel_rfl) (by kernel_rfl) (by kernel_rfl) (fun _ _ _ h => h) (Or.inl ⟨by rfl, ?z0a⟩) ?s0a
          case z0a => (intro W; go_simp; try with_reducible rfl)
          simp only [Act.put, List.setIfInBounds_toArray, List.set_cons_zero, List.set_cons_succ]
          refine wpA_take 1 33 (v := ?w1a) rfl rfl (by kernel_rfl) (by kernel_rfl) (by kernel_rfl) (fun _ _ _ h => h) (Or.inl ⟨by rfl, ?z1a⟩) ?s1a
          case z1a => (intro W; go_simp; try with_reducible rfl)
          simp only [Act.put, List.setIfInBounds_toArray, List.set_cons_zero, List.set_cons_succ]
          refine wpA_take 2 34 (v := ?w2a) rfl rfl (by kernel_rfl) (by kernel_rfl) (by kernel_rfl) (fun _ _ _ h => h) (Or.inl ⟨by rfl, ?z2a⟩) ?s2a
          case z2a => (intro W; go_simp; try with_reducible rfl)
          simp only [Act.put, List.setIfInBounds_toArray, List.set_cons_zero, List.set_cons_succ]
          refine wpA_take 3 35 (v := ?w3a) rfl rfl (by kernel_rfl) (by kernel_rfl) (by kernel_rfl) (fun _ _ _ h => h) (Or.inl ⟨by rfl, ?z3a⟩) ?s3a
          case z3a => (intro W; go_simp; try with_reducible rfl)
          simp only [Act.put, List.setIfInBounds_toArray, List.set_cons_zero, List.set_cons_succ]
          refine wpA_take 4 36 (v := ?w4a) rfl rfl (by kernel_rfl) (by kernel_rfl) (by kernel_rfl) (fun _ _ _ h => h) (Or.inl ⟨by rfl, ?z4a⟩) ?s4a
          case z4a => (intro W; go_simp; try with_reducible rfl)
          simp only [Act.put, List.setIfInBounds_toArray, List.set_cons_zero, List.set_cons_succ]
          refine wpA_take 6 38 (v := ?w6a) rfl rfl (by kernel_rfl) (by kernel_rfl) (by kernel_rfl) (fun _ _ _ h => h) (Or.inl ⟨by rfl, ?z6a⟩) ?s6a
          case z6a => (intro W; go_simp; try with_reducible rfl)
          simp only [Act.put, List.setIfInBounds_toArray, List.set_cons_zero, List.set_cons_succ]
          refine wpA_take 8 40 (v := ?w8a) rfl rfl (by kernel_rfl) (by kernel_rfl) (by kernel_rfl) (fun _ _ _ h => h) (Or.inl ⟨by rfl, ?z8a⟩) ?s8a
          case z8a => (intro W; go_simp; try with_reducible rfl)
          simp only [Act.put, List.setIfInBounds_toArray, List.set_cons_zero, List.set_cons_succ]
          refine wpA_take 9 41 (v := ?w9a) rfl rfl (by kernel_rfl) (by kernel_rfl) (by kernel_rfl) (fun _ _ _ h => h) (Or.inl ⟨by rfl, ?z9a⟩) ?s9a
          case z9a => (intro W; go_simp; try with_reducible rfl)
          simp only [Act.put, List.setIfInBounds_toArray, List.set_cons_zero, List.set_cons_succ]
          refine wpA_one 5 (by kernel_rfl) rfl (fun K hK => ?_)
          refine wpA_if (by rfl) ?_
          refine wp_load_row 116 _ rfl gk rfl 116 ((blk (tab l) k).map (Value.int .i64)).toArray (0, 0) _ HB3.out.drew Tryd.underlying116 rfl (by rw [info_blk]; simp [blk_len]) ?_
          refine hK.out _ _ ?_
          clear hK K
          try simp only [Act.put, List.setIfInBounds_toArray, List.set_cons_zero, List.set_cons_succ]
          refine wpA_one 7 (by kernel_rfl) rfl (fun K hK => ?_)
          go_simp
          with_reducible refine (HA.out _ (found_drew HR.out.found)).mono ?_
          rintro e w3 ⟨rfl, hF3, hb3⟩
          refine hK.out _ _ ?_
          clear hK K
          try simp only [Act.put, List.setIfInBounds_toArray, List.set_cons_zero, List.set_cons_succ]
          obtain ⟨c3, f3, HQ⟩ := b_in (w3 := w3) HR.out hlt HI.out hF3 ((Below.refl _ _).drew.trans hb3)
          have HF3 := Lib.hid hF3
          clear hF3 hb3
          unfold u16V
          generalize pos (kput (U4 l k) (blk (tab l) k)) (blk (tab l) k) = m at *
          refine wpA_take 10 42 (v := ?w10a) rfl rfl (by kernel_rfl) (by kernel_rfl) (by kernel_rfl) (fun _ _ _ h => h) (Or.inl ⟨by rfl, ?z10a⟩) ?s10a
          case z10a => (intro W; go_simp; try with_reducible rfl)
          simp only [Act.put, List.setIfInBounds_toArray, List.set_cons_zero, List.set_cons_succ]
          refine wpA_one 11 (by kernel_rfl) rfl (fun K hK => ?_)
          go_simp
          refine hK.out _ _ ?_
          clear hK K
          try simp only [Act.put, List.setIfInBounds_toArray, List.set_cons_zero, List.set_cons_succ]
          refine wpA_done (by kernel_rfl) ?_ _
          go_wp2
          go_roundw
          case rel => exact ⟨k + 1, by omega, by go_num, HQ.out⟩
          case measure => simp [intOf]; omega
        · have HI := Lib.hid hin
          have HQ := Lib.hid (b_out HR.out hlt hin)
          clear hin hmm hzb hzt
          go_wp2_with (at_lookup; refine wpList_mlook rfl _ _ 106 true rfl 21 117 kv32 Tryd.underlying106 (zero_ptr _) w.heap.size rfl HM.out (k : Int) rfl HK.out (.tuple #[.pointer none, .bool false]) (by simp [HI.out]) ?_)
          go_roundw
          case rel => exact ⟨k + 1, by omega, by go_num, HQ.out⟩
          case measure => simp [intOf]; omega
      · have hkk : k = 4352 := by omega
        subst hkk
        have HQ := Lib.hid (b_end HGR.out HR.out)
        clear hmm hzb hzt
        go_wp2
        go_ret
        exact HQ.out
end Go.Proofs.YtdmcidljjfogjaaDoor
