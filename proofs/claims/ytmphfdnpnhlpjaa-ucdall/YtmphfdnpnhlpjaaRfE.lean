/- A loop over an iterator that keeps cells of its own between two rounds (one block, made when it is called): a law for that. B: the heap's size where the loop begins; the block for deferred calls is B, the loop's record B + 1, the iterator's own block B + 2. -/
import Derived.Test.YtmphfdnpnhlpjaaMem
import Derived.RangeFuncNested
import Derived.RangeFuncBound
namespace Go.Proofs.Ytmphfdnpnhlpjaa
open Go.RowKit

/-- these blocks lie as they lay -/
def Kept (L : List Nat) (W W' : World) : Prop := ∀ k ∈ L, W'.heap[k]? = W.heap[k]?
theorem Kept.refl (L : List Nat) (W : World) : Kept L W W := fun _ _ => rfl
theorem Kept.trans {L : List Nat} {A B C : World} (h : Kept L A B) (k : Kept L B C) : Kept L A C := fun i hi => (k i hi).trans (h i hi)
theorem Kept.sub {L M : List Nat} {A B : World} (h : Kept L A B) (hs : ∀ k ∈ M, k ∈ L) : Kept M A B := fun i hi => h i (hs i hi)
theorem Kept.put {L : List Nat} (W : World) {l : Nat} (o : Obj) (h : l ∉ L) : Kept L W (W.putObj l o) := fun _ hk => World.putObj_heap_other (fun e => h (e ▸ hk))
/-- turning one of the three blocks from B on, or making new ones, does it no harm -/
def Firm {β : Type} (B : Nat) (I : β → World → Prop) : Prop := ∀ r, B ≤ r → r < B + 3 → ∀ s W W', I s W → But r W W' → I s W'
theorem but_put (W : World) (l : Nat) (o : Obj) : But l W (W.putObj l o) := grownBy_putObj' W l o
theorem but_alloc (W : World) (r : Nat) (o : Obj) : But r W (W.alloc o) := But.of_below ((Below.refl _ W).alloc (Nat.le_refl _) o)

section
variable {F : Fence} {n : Nat} {P : Program}

/-- what such an iterator does, called where the heap's size is B + 2 -/
def SeqE {α : Type} (F : Fence) (n : Nat) (P : Program) (g : Nat) (lb : Array Value) (encs : α → Array Value) (L : List Nat) (S Sp : List α → Prop) (Ei : Obj → Prop) (B : Nat) (W1 : World) : Prop :=
  ∀ (l : Nat) (J Jx : List α → World → Prop), (∀ s W W', J s W → But (B + 2) W W' → J s W') → (∀ s W W', Jx s W → But (B + 2) W W' → Jx s W') →
    (∀ pre x W, J pre W → Sp (pre ++ [x]) → (∃ o, W.heap[B + 2]? = some o ∧ Ei o) → YieldAt F (n - 1) P l (encs x) W fun e W' =>
      (e = .returned (.bool true) ∧ J (pre ++ [x]) W' ∧ Kept ((B + 2) :: L) W W') ∨ (e = .returned (.bool false) ∧ Jx (pre ++ [x]) W')) →
    J [] W1 →
    CallsIn F n P g (#[.func (.yield l) #[] #[]] ++ lb) W1 fun e W' => (∃ v, e = .returned v) ∧ ((∃ xs, S xs ∧ J xs W') ∨ (∃ pre, Sp pre ∧ Jx pre W'))

/-- how the body of a round may be left -/
def postE {α : Type} (B : Nat) (L : List Nat) (I : List α → World → Prop) (Ix : Code → List α → World → Prop) (xs : List α) (W : World) : Exit → Act → World → Prop
  | .normal, _, W' => Kept (B :: (B + 1) :: (B + 2) :: L) W W' ∧ I xs W'
  | .ret, _, W' => Kept (B :: (B + 1) :: (B + 2) :: L) W W' ∧ Ix .ret xs W'
  | .exit id, _, W' => Kept (B :: (B + 1) :: (B + 2) :: L) W W' ∧ Ix (.exit id) xs W'
  | .goto t, _, W' => Kept (B :: (B + 1) :: (B + 2) :: L) W W' ∧ Ix (.goto t) xs W'
  | .panic _, _, _ => False
  | .outgrown, _, _ => False

theorem wpIn_rangeFuncE {α : Type} {g : Operand} {ps : Array Tmp} {assign body : Code} {Q : Exit → Act → World → Prop} {a : Act} {w : World}
    (hro : F.round = none) (h1 : 1 ≤ n) {gf : Nat} {lb : Array Value} (hg : a.eval g = .func (.func gf) #[] lb) (hFg : F.fn gf) (eg : ∀ args w, (callFunc gf args).run P w = .ok (.enter gf args) w)
    {encs : α → Array Value} {L : List Nat} {S Sp : List α → Prop} {Ei : Obj → Prop} (B : Nat) (hB : w.heap.size = B) (hL : ∀ k ∈ L, k < B)
    (hseq : ∀ W1 : World, W1.heap.size = B + 2 → Below B w W1 → SeqE F (n - 1) P gf lb encs L S Sp Ei B W1) (hps : ∀ x, (encs x).size = ps.size)
    (I : List α → World → Prop) (Ix : Code → List α → World → Prop) (hI : Firm B I) (hIx : ∀ c, Firm B (Ix c)) (h0 : I [] w) (Ax : α → Act → World → Prop) (hAx : ∀ x a', Firm B (fun (_ : Unit) W => Ax x a' W))
    (hassign : ∀ (l : Nat) (pre : List α) (x : α) (W : World) (K : Act → World → Prop), I pre W → B + 3 ≤ W.heap.size → (∀ a' W', Kept (B :: (B + 1) :: (B + 2) :: L) W W' → I pre W' → Ax x a' W' → K a' W') →
      assign.wpIn (F.inRound l) (n - 1 - 1) P (Exit.then K (fun _ _ _ => False)) { tmps := (ps.zip (encs x)).foldl (fun t (p, v) => t.setIfInBounds p v) a.tmps, defers := [] } W)
    (hbody : ∀ (l : Nat) (pre : List α) (x : α) (a' : Act) (W : World), I pre W → Ax x a' W → Sp (pre ++ [x]) → W.heap[B]? = some (.deferred (some [])) → (∃ r, W.heap[B + 1]? = some (.loop r)) → (∃ o, W.heap[B + 2]? = some o ∧ Ei o) → body.wpIn (F.inRound l) (n - 1 - 1) P (postE B L I Ix (pre ++ [x]) W) a' W)
    (hdone : ∀ (xs : List α) (W : World), S xs → I xs W → W.heap[B]? = some (.deferred (some [])) → Q .normal { a with defers := { target := .collected B, args := #[] } :: a.defers } W)
    (hstop : ∀ (c : Code) (pre : List α) (W : World), Sp pre → Ix c pre W → W.heap[B]? = some (.deferred (some [])) → c.wpIn F n P Q { a with defers := { target := .collected B, args := #[] } :: a.defers } W) :
    (Code.rangeFunc g ps assign body).wpIn F n P Q a w := by
  subst hB
  refine wpIn_rangeFunc ?_
  intro fn hfn
  rw [hro]
  -- the loop's record, by its state and its pending jump
  obtain ⟨rc, hrc⟩ : ∃ rc : LoopState → Option Code → Loop, rc = fun st pe => { state := st, pending := pe, fn, tmps := a.tmps, params := ps, assign, body, defers := w.heap.size } := ⟨_, rfl⟩
  obtain ⟨W1, hW1⟩ : ∃ W1, (w.alloc (.deferred (some []))).alloc (.loop (rc .ready none)) = W1 := ⟨_, rfl⟩
  have hsz1 : W1.heap.size = w.heap.size + 2 := by rw [← hW1]; simp
  have hL1 : W1.heap[w.heap.size + 1]? = some (.loop (rc .ready none)) := by
    rw [← hW1]; have := World.alloc_heap_new (w.alloc (.deferred (some []))) (.loop (rc .ready none)); rwa [World.size_alloc] at this
  have hK1 : W1.heap[w.heap.size]? = some (.deferred (some [])) := by
    rw [← hW1]; exact (Below.heap_alloc _ _ _ (by simp)).trans (World.alloc_heap_new w _)
  have hI1 : I [] W1 := by
    rw [← hW1]
    exact hI w.heap.size (Nat.le_refl _) (by omega) _ _ _ (hI w.heap.size (Nat.le_refl _) (by omega) _ _ _ h0 (but_alloc _ _ _)) (but_alloc _ _ _)
  have hb1 : Below w.heap.size w W1 := by rw [← hW1]; exact ((Below.refl _ w).alloc (Nat.le_refl _) _).alloc (by simp) _
  refine ⟨w.heap.size + 1, [{ target := .collected w.heap.size, args := #[] }], W1, { target := .fn (.func gf) lb, args := #[.func (.yield (w.heap.size + 1)) #[] #[]] }, W1, gf,
    #[.func (.yield (w.heap.size + 1)) #[] #[]] ++ lb, W1, ?_, ?_, ?_, ?_, fun _ => h1, ?_⟩
  · rw [← hW1, hrc]; exact run_enterLoop_outer _ _ _ _ _
  · simp only [resolve, hg]
    simp [go_sem]
  · intro f' hf'; simp [Target.leads] at hf'; subst hf'; exact hFg
  · simp [invoke, go_sem, eg]
  have hblk : ∀ (A C : World) (k : Nat) (o : Obj), But (w.heap.size + 2) A C → k ≠ w.heap.size + 2 → A.heap[k]? = some o → C.heap[k]? = some o := fun A C k o hb hk h =>
    (hb.block k (Array.getElem?_eq_some_iff.1 h).1 (fun e => hk (by cases e; rfl))).trans h
  refine (hseq W1 hsz1 hb1 (w.heap.size + 1)
    (fun pre W => I pre W ∧ W.heap[w.heap.size + 1]? = some (.loop (rc .ready none)) ∧ W.heap[w.heap.size]? = some (.deferred (some [])))
    (fun pre W => ∃ c, Ix c pre W ∧ W.heap[w.heap.size + 1]? = some (.loop (rc .done (some c))) ∧ W.heap[w.heap.size]? = some (.deferred (some [])))
    (fun s A C hs hb => ⟨hI (w.heap.size + 2) (by omega) (by omega) s A C hs.1 hb, hblk A C _ _ hb (by omega) hs.2.1, hblk A C _ _ hb (by omega) hs.2.2⟩)
    (fun s A C hs hb => by
      obtain ⟨c, hc, hl, hk⟩ := hs
      exact ⟨c, hIx c (w.heap.size + 2) (by omega) (by omega) s A C hc hb, hblk A C _ _ hb (by omega) hl, hblk A C _ _ hb (by omega) hk⟩)
    ?_ ⟨hI1, hL1, hK1⟩).mono ?_
  · -- one round
    rintro pre x W ⟨hi, hl, hk⟩ hlen hz3
    have hy := run_yield (P := P) (args := encs x) hl (by rw [hrc]; exact hps x)
    rw [hrc] at hy
    refine ⟨fn, _, assign, body, hy, roundIn_of_wpIn hfn (hassign _ pre x W _ hi (by obtain ⟨o, ho, _⟩ := hz3; have := (Array.getElem?_eq_some_iff.1 ho).1; omega) ?_)⟩
    clear hy
    intro a' Wa hka hia hax
    have hla : Wa.heap[w.heap.size + 1]? = some (.loop (rc .ready none)) := (hka _ (by simp)).trans hl
    have hkk : Wa.heap[w.heap.size]? = some (.deferred (some [])) := (hka _ (by simp)).trans hk
    have hlt : w.heap.size + 1 < Wa.heap.size := (Array.getElem?_eq_some_iff.1 hla).1
    refine ⟨_, run_beginRound hla (by rw [hrc]), ?_⟩
    have hnot : w.heap.size + 1 ∉ (w.heap.size + 2) :: L := by
      intro h
      rcases List.mem_cons.1 h with e | e
      · omega
      · have := hL _ e; omega
    have hl2 : (Wa.putObj (w.heap.size + 1) (.loop { rc .ready none with state := .busy })).heap[w.heap.size + 1]? = some (.loop { rc .ready none with state := .busy }) := World.putObj_heap_same hlt
    have hk2 : (Wa.putObj (w.heap.size + 1) (.loop { rc .ready none with state := .busy })).heap[w.heap.size]? = some (.deferred (some [])) := (World.putObj_heap_other (by omega)).trans hkk
    have hz5 : ∃ o, (Wa.putObj (w.heap.size + 1) (.loop { rc .ready none with state := .busy })).heap[w.heap.size + 2]? = some o ∧ Ei o := by
      obtain ⟨o, ho, he⟩ := hz3
      exact ⟨o, (World.putObj_heap_other (by omega)).trans ((hka _ (by simp)).trans ho), he⟩
    have kp1 : Kept ((w.heap.size + 2) :: L) W (Wa.putObj (w.heap.size + 1) (.loop { rc .ready none with state := .busy })) := (hka.sub (by simp; intro _ hk; exact .inr (.inr (.inr hk)))).trans (Kept.put _ _ hnot)
    refine wpIn_mono (hbody _ pre x a' _ (hI (w.heap.size + 1) (by omega) (by omega) _ _ _ hia (but_put _ _ _)) (hAx x a' (w.heap.size + 1) (by omega) (by omega) () _ _ hax (but_put _ _ _)) hlen hk2 ⟨_, hl2⟩ hz5) ?_
    have fin : ∀ (jump : Option Code) (W3 : World), Kept (w.heap.size :: (w.heap.size + 1) :: (w.heap.size + 2) :: L) (Wa.putObj (w.heap.size + 1) (.loop { rc .ready none with state := .busy })) W3 →
        (Instr.endRound (w.heap.size + 1) jump).run P W3 = .ok (.bool jump.isNone) (W3.putObj (w.heap.size + 1) (.loop (rc (if jump.isNone then .ready else .done) jump))) ∧
        (W3.putObj (w.heap.size + 1) (.loop (rc (if jump.isNone then .ready else .done) jump))).heap[w.heap.size + 1]? = some (.loop (rc (if jump.isNone then .ready else .done) jump)) ∧
        (W3.putObj (w.heap.size + 1) (.loop (rc (if jump.isNone then .ready else .done) jump))).heap[w.heap.size]? = some (.deferred (some [])) := fun jump W3 hk3 => by
      have hl3 := (hk3 (w.heap.size + 1) (by simp)).trans hl2
      have := run_endRound (P := P) jump hl3
      rw [hrc] at this ⊢
      exact ⟨this, World.putObj_heap_same (Array.getElem?_eq_some_iff.1 hl3).1, (World.putObj_heap_other (by omega)).trans ((hk3 w.heap.size (by simp)).trans hk2)⟩
    rintro e a3 W3 hp
    cases e with
    | normal =>
      obtain ⟨hk3, hi3⟩ := hp
      obtain ⟨hr, hl4, hk4⟩ := fin none W3 hk3
      exact ⟨_, _, hr, .inl ⟨rfl, ⟨hI (w.heap.size + 1) (by omega) (by omega) _ _ _ hi3 (but_put _ _ _), hl4, hk4⟩, (kp1.trans (hk3.sub (by simp; intro _ hk; exact .inr (.inr (.inr hk))))).trans (Kept.put _ _ hnot)⟩⟩
    | ret =>
      obtain ⟨hk3, hi3⟩ := hp
      obtain ⟨hr, hl4, hk4⟩ := fin (some .ret) W3 hk3
      exact ⟨_, _, hr, .inr ⟨rfl, .ret, hIx _ (w.heap.size + 1) (by omega) (by omega) _ _ _ hi3 (but_put _ _ _), hl4, hk4⟩⟩
    | exit id =>
      obtain ⟨hk3, hi3⟩ := hp
      obtain ⟨hr, hl4, hk4⟩ := fin (some (.exit id)) W3 hk3
      exact ⟨_, _, hr, .inr ⟨rfl, .exit id, hIx _ (w.heap.size + 1) (by omega) (by omega) _ _ _ hi3 (but_put _ _ _), hl4, hk4⟩⟩
    | goto t =>
      obtain ⟨hk3, hi3⟩ := hp
      obtain ⟨hr, hl4, hk4⟩ := fin (some (.goto t)) W3 hk3
      exact ⟨_, _, hr, .inr ⟨rfl, .goto t, hIx _ (w.heap.size + 1) (by omega) (by omega) _ _ _ hi3 (but_put _ _ _), hl4, hk4⟩⟩
    | panic ch => exact hp.elim
    | outgrown => exact hp.elim
  · -- behind the iterator
    rintro e W2 ⟨⟨v, rfl⟩, (⟨xs, hS, hi, hl, hk⟩ | ⟨pre, hSp, c, hi, hl, hk⟩)⟩
    · exact ⟨none, _, by have := run_endLoop (P := P) hl (by rw [hrc]; simp); rw [hrc] at this; exact this, hdone xs _ hS (hI (w.heap.size + 1) (by omega) (by omega) _ _ _ hi (but_put _ _ _)) ((World.putObj_heap_other (by omega)).trans hk)⟩
    · exact ⟨some c, _, by have := run_endLoop (P := P) hl (by rw [hrc]; simp); rw [hrc] at this; exact this, hstop c pre _ hSp (hIx c (w.heap.size + 1) (by omega) (by omega) _ _ _ hi (but_put _ _ _)) ((World.putObj_heap_other (by omega)).trans hk)⟩
end
end Go.Proofs.Ytmphfdnpnhlpjaa
