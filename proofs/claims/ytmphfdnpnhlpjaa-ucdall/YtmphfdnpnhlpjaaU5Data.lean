/- Layer 5: what comes of the entries: classes, pairs, singles, seconds, what is joined. No program in it. -/
import Derived.Test.YtmphfdnpnhlpjaaU5Math
namespace Go.Proofs.Ytmphfdnpnhlpjaa

def castE (l : List (Nat × Nat)) : List (Int × Int) := l.map fun e => ((e.1 : Int), (e.2 : Int))
theorem castE_app (l m : List (Nat × Nat)) : castE (l ++ m) = castE l ++ castE m := List.map_append
theorem castE_len (l : List (Nat × Nat)) : (castE l).length = l.length := List.length_map _
/-- so many places in a row -/
def run5 : Nat → Nat → Nat → List (Nat × Nat)
  | _, 0, _ => []
  | c, m + 1, v => (c, v) :: run5 (c + 1) m v
theorem run5_snoc : ∀ (m c v : Nat), run5 c (m + 1) v = run5 c m v ++ [(c + m, v)]
  | 0, _, _ => rfl
  | m + 1, c, v => by
    show (c, v) :: run5 (c + 1) (m + 1) v = (c, v) :: (run5 (c + 1) m v ++ [(c + (m + 1), v)])
    rw [run5_snoc m (c + 1) v, show c + 1 + m = c + (m + 1) by omega]
theorem run5_len : ∀ (m c v : Nat), (run5 c m v).length = m
  | 0, _, _ => rfl
  | m + 1, c, v => by
    show (run5 (c + 1) m v).length + 1 = m + 1
    rw [run5_len m]
/-- a pair: its place, the two, left out or not -/
structure Pr5 where
  c : Nat
  x : Nat
  y : Nat
  o : Bool

/-! ### by the entries -/
def clsE : Nat → List Ent → List (Nat × Nat)
  | _, [] => []
  | a, e :: r => run5 (a + e.n0) e.n1 e.n2 ++ clsE (a + e.n0 + e.n1) r
def endC : Nat → List Ent → Nat
  | a, [] => a
  | a, e :: r => endC (a + e.n0 + e.n1) r
def prE : Nat → List Ent → List Pr5
  | _, [] => []
  | a, e :: r => ⟨a + e.n0, e.n1, e.n2, e.o⟩ :: prE (a + e.n0) r
def endP : Nat → List Ent → Nat
  | a, [] => a
  | a, e :: r => endP (a + e.n0) r
def sgE : Nat → List Ent → List (Nat × Nat)
  | _, [] => []
  | a, e :: r => (a + e.n0, e.n1) :: sgE (a + e.n0) r
theorem clsE_snoc (e : Ent) : ∀ (p : List Ent) (a : Nat), clsE a (p ++ [e]) = clsE a p ++ run5 (endC a p + e.n0) e.n1 e.n2
  | [], a => by show run5 (a + e.n0) e.n1 e.n2 ++ [] = _; simp [clsE, endC]
  | x :: r, a => by
    show run5 (a + x.n0) x.n1 x.n2 ++ clsE (a + x.n0 + x.n1) (r ++ [e]) = (run5 (a + x.n0) x.n1 x.n2 ++ clsE (a + x.n0 + x.n1) r) ++ _
    rw [clsE_snoc e r, List.append_assoc]; rfl
theorem endC_snoc (e : Ent) : ∀ (p : List Ent) (a : Nat), endC a (p ++ [e]) = endC a p + e.n0 + e.n1
  | [], _ => rfl
  | x :: r, a => endC_snoc e r (a + x.n0 + x.n1)
theorem prE_snoc (e : Ent) : ∀ (p : List Ent) (a : Nat), prE a (p ++ [e]) = prE a p ++ [⟨endP a p + e.n0, e.n1, e.n2, e.o⟩]
  | [], _ => rfl
  | x :: r, a => by
    show _ :: prE (a + x.n0) (r ++ [e]) = _ :: (prE (a + x.n0) r ++ _)
    rw [prE_snoc e r]; rfl
theorem endP_snoc (e : Ent) : ∀ (p : List Ent) (a : Nat), endP a (p ++ [e]) = endP a p + e.n0
  | [], _ => rfl
  | x :: r, a => endP_snoc e r (a + x.n0)
theorem sgE_snoc (e : Ent) : ∀ (p : List Ent) (a : Nat), sgE a (p ++ [e]) = sgE a p ++ [(endP a p + e.n0, e.n1)]
  | [], _ => rfl
  | x :: r, a => by
    show _ :: sgE (a + x.n0) (r ++ [e]) = _ :: (sgE (a + x.n0) r ++ _)
    rw [sgE_snoc e r]; rfl
theorem endC_le : ∀ (p : List Ent) (a : Nat), a ≤ endC a p
  | [], _ => Nat.le_refl _
  | x :: r, a => by have := endC_le r (a + x.n0 + x.n1); show a ≤ endC _ r; omega
theorem endP_le : ∀ (p : List Ent) (a : Nat), a ≤ endP a p
  | [], _ => Nat.le_refl _
  | x :: r, a => by have := endP_le r (a + x.n0); show a ≤ endP _ r; omega
theorem endC_app (q : List Ent) : ∀ (p : List Ent) (a : Nat), endC a (p ++ q) = endC (endC a p) q
  | [], _ => rfl
  | x :: r, a => endC_app q r (a + x.n0 + x.n1)
theorem endP_app (q : List Ent) : ∀ (p : List Ent) (a : Nat), endP a (p ++ q) = endP (endP a p) q
  | [], _ => rfl
  | x :: r, a => endP_app q r (a + x.n0)
theorem endC_pre {p q : List Ent} (h : p <+: q) (a : Nat) : endC a p ≤ endC a q := by
  obtain ⟨r, rfl⟩ := h
  rw [endC_app]; exact endC_le _ _
theorem endP_pre {p q : List Ent} (h : p <+: q) (a : Nat) : endP a p ≤ endP a q := by
  obtain ⟨r, rfl⟩ := h
  rw [endP_app]; exact endP_le _ _
theorem clsE_len : ∀ (p : List Ent) (a : Nat), a + (clsE a p).length ≤ endC a p
  | [], _ => Nat.le_refl _
  | x :: r, a => by
    have := clsE_len r (a + x.n0 + x.n1)
    show a + (run5 (a + x.n0) x.n1 x.n2 ++ clsE (a + x.n0 + x.n1) r).length ≤ endC (a + x.n0 + x.n1) r
    rw [List.length_append, run5_len]
    omega
theorem prE_len : ∀ (p : List Ent) (a : Nat), (prE a p).length = p.length
  | [], _ => rfl
  | x :: r, a => by show (prE (a + x.n0) r).length + 1 = _; rw [prE_len r]; rfl
theorem sgE_len : ∀ (p : List Ent) (a : Nat), (sgE a p).length = p.length
  | [], _ => rfl
  | x :: r, a => by show (sgE (a + x.n0) r).length + 1 = _; rw [sgE_len r]; rfl

/-! ### by the pairs -/
def prI : Nat → List Pr5 → List (Nat × Nat)
  | _, [] => []
  | k, p :: r => (p.c, k + 1) :: prI (k + 1) r
theorem prI_snoc (p : Pr5) : ∀ (P : List Pr5) (k : Nat), prI k (P ++ [p]) = prI k P ++ [(p.c, k + P.length + 1)]
  | [], _ => rfl
  | x :: r, k => by
    show _ :: prI (k + 1) (r ++ [p]) = _ :: (prI (k + 1) r ++ _)
    rw [prI_snoc p r, show k + 1 + r.length + 1 = k + (r.length + 1) + 1 by omega]; rfl
theorem prI_len : ∀ (P : List Pr5) (k : Nat), (prI k P).length = P.length
  | [], _ => rfl
  | x :: r, k => by show (prI (k + 1) r).length + 1 = _; rw [prI_len r]; rfl
def scL : List Pr5 → List (Nat × Nat)
  | [] => []
  | p :: r => bif p.o then scL r else (p.y, 1) :: scL r
theorem scL_app (Q : List Pr5) : ∀ P : List Pr5, scL (P ++ Q) = scL P ++ scL Q
  | [] => rfl
  | p :: r => by
    show (bif p.o then scL (r ++ Q) else (p.y, 1) :: scL (r ++ Q)) = (bif p.o then scL r else (p.y, 1) :: scL r) ++ scL Q
    rw [scL_app Q r]; cases p.o <;> rfl
theorem scL_len : ∀ P : List Pr5, (scL P).length ≤ P.length
  | [] => Nat.le_refl _
  | p :: r => by
    have := scL_len r
    show (bif p.o then scL r else (p.y, 1) :: scL r).length ≤ r.length + 1
    cases p.o <;> simp only [cond_true, cond_false, List.length_cons] <;> omega
def outs : List Pr5 → Nat
  | [] => 0
  | p :: r => bif p.o then outs r + 1 else outs r
theorem outs_app (Q : List Pr5) : ∀ P : List Pr5, outs (P ++ Q) = outs P + outs Q
  | [] => by show outs Q = 0 + outs Q; omega
  | p :: r => by
    show (bif p.o then outs (r ++ Q) + 1 else outs (r ++ Q)) = (bif p.o then outs r + 1 else outs r) + outs Q
    rw [outs_app Q r]; cases p.o <;> simp only [cond_true, cond_false] <;> omega
theorem outs_len : ∀ P : List Pr5, outs P ≤ P.length
  | [] => Nat.le_refl _
  | p :: r => by
    have := outs_len r
    show (bif p.o then outs r + 1 else outs r) ≤ r.length + 1
    cases p.o <;> simp only [cond_true, cond_false] <;> omega
def key5 (p : Pr5) : List Int := [(p.x : Int), (p.y : Int)]
/-- the keys that are joined, and what each is -/
def jstep (s : List (List Int) × (List Int → Int)) (p : Pr5) : List (List Int) × (List Int → Int) := bif p.o then s else (kput s.1 (key5 p), upd s.2 (key5 p) p.c)
def jst (P : List Pr5) : List (List Int) × (List Int → Int) := P.foldl jstep ([], fun _ => 0)
theorem jst_snoc (P : List Pr5) (p : Pr5) : jst (P ++ [p]) = jstep (jst P) p := by simp [jst, List.foldl_append]
end Go.Proofs.Ytmphfdnpnhlpjaa
