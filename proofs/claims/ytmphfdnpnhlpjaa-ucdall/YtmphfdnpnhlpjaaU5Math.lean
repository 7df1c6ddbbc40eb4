/- Layer 5: the texts, byte by byte, as the program and as the document read them; what comes of their entries. No program in it. -/
import Derived.Test.YtmphfdnpnhlpjaaSt4Math
namespace Go.Proofs.Ytmphfdnpnhlpjaa

/-! ### entries, as the program reads them -/
structure Ent where
  n0 : Nat
  n1 : Nat
  n2 : Nat
  l : Nat
  o : Bool
def zeroE : Ent := ⟨0, 0, 0, 0, false⟩
def Ent.isZ (e : Ent) : Bool := Nat.beq e.n0 0 && (Nat.beq e.n1 0 && (Nat.beq e.n2 0 && (Nat.beq e.l 0 && !e.o)))
theorem isZ_iff {e : Ent} : e.isZ = true ↔ e = zeroE := by
  constructor
  · intro h
    obtain ⟨a, b, c, l, o⟩ := e
    simp only [Ent.isZ, Bool.and_eq_true, Nat.beq_eq, Bool.not_eq_true'] at h
    obtain ⟨rfl, rfl, rfl, rfl, rfl⟩ := h
    rfl
  · rintro rfl; rfl
def Ent.nth (e : Ent) : Nat → Nat
  | 0 => e.n0
  | 1 => e.n1
  | _ => e.n2
def Ent.put (e : Ent) (i v : Nat) : Ent := match i with
  | 0 => ⟨v, e.n1, e.n2, e.l, e.o⟩
  | 1 => ⟨e.n0, v, e.n2, e.l, e.o⟩
  | _ => ⟨e.n0, e.n1, v, e.l, e.o⟩
/-- what a digit counts -/
def dgt (b : Nat) : Nat := bif Nat.ble 97 b then b - 97 + 10 else b - 48
def isSep (b : Nat) : Bool := Nat.beq b 44 || Nat.beq b 10
def estep (e : Ent) (b : Nat) : Ent :=
  bif isSep b then zeroE else bif Nat.beq b 32 then ⟨e.n0, e.n1, e.n2, e.l + 1, e.o⟩ else bif Nat.beq b 33 then ⟨e.n0, e.n1, e.n2, e.l, true⟩ else e.put e.l (16 * e.nth e.l + dgt b)
/-- what is begun behind these bytes -/
def cur (bs : List Nat) (e : Ent) : Ent := bs.foldl estep e
/-- what has ended in these bytes -/
def ems : List Nat → Ent → List Ent
  | [], _ => []
  | b :: r, e => bif isSep b then e :: ems r zeroE else ems r (estep e b)
theorem ems_snoc (b : Nat) : ∀ (p : List Nat) (e : Ent), ems (p ++ [b]) e = ems p e ++ (bif isSep b then [cur p e] else [])
  | [], e => by
    show (bif isSep b then e :: ems [] zeroE else ems [] (estep e b)) = _
    cases isSep b <;> rfl
  | x :: r, e => by
    show (bif isSep x then e :: ems (r ++ [b]) zeroE else ems (r ++ [b]) (estep e x)) = (bif isSep x then e :: ems r zeroE else ems r (estep e x)) ++ _
    cases h : isSep x
    · simp only [cond_false]
      rw [ems_snoc b r (estep e x)]; rfl
    · simp only [cond_true]
      rw [ems_snoc b r zeroE]
      have : cur (x :: r) e = cur r zeroE := by
        show cur r (estep e x) = _
        unfold estep; rw [h]; rfl
      rw [this]; rfl
theorem cur_snoc (b : Nat) (p : List Nat) (e : Ent) : cur (p ++ [b]) e = estep (cur p e) b := by unfold cur; rw [List.foldl_append]; rfl
theorem estep_l (e : Ent) (b : Nat) : (estep e b).l ≤ e.l + 1 := by
  unfold estep
  cases isSep b
  · cases Nat.beq b 32
    · cases Nat.beq b 33
      · simp only [cond_false]
        unfold Ent.put
        split <;> simp
      · simp
    · simp
  · simp [zeroE]
theorem cur_l : ∀ (p : List Nat) (e : Ent), (cur p e).l ≤ e.l + p.length
  | [], e => Nat.le_refl _
  | b :: r, e => by
    have h1 := cur_l r (estep e b)
    have h2 := estep_l e b
    show (cur r (estep e b)).l ≤ _
    simp only [List.length_cons]
    omega
theorem ems_app (q : List Nat) : ∀ (p : List Nat) (e : Ent), ems (p ++ q) e = ems p e ++ ems q (cur p e)
  | [], _ => rfl
  | x :: r, e => by
    show (bif isSep x then e :: ems (r ++ q) zeroE else ems (r ++ q) (estep e x)) = (bif isSep x then e :: ems r zeroE else ems r (estep e x)) ++ _
    cases h : isSep x
    · simp only [cond_false]
      rw [ems_app q r (estep e x)]; rfl
    · simp only [cond_true]
      rw [ems_app q r zeroE]
      have : cur (x :: r) e = cur r zeroE := by
        show cur r (estep e x) = _
        unfold estep; rw [h]; rfl
      rw [this]; rfl
/-- all that the iterator tells -/
def ents (bs : List Nat) : List Ent := ems bs zeroE ++ [cur bs zeroE]

theorem ems_take_pre (bs : List Nat) (k : Nat) : ems (bs.take k) zeroE <+: ems bs zeroE := by
  have := ems_app (bs.drop k) (bs.take k) zeroE
  rw [List.take_append_drop] at this
  exact ⟨_, this.symm⟩
theorem ems_pre (bs : List Nat) (k : Nat) : ems (bs.take k) zeroE <+: ents bs := (ems_take_pre bs k).trans ⟨_, rfl⟩
theorem ems_lt (bs : List Nat) (k : Nat) : (ems (bs.take k) zeroE).length < (ents bs).length := by
  have := (ems_take_pre bs k).length_le
  unfold ents
  rw [List.length_append]
  simp only [List.length_cons, List.length_nil]
  omega
def isDig (b : Nat) : Bool := (Nat.ble 48 b && Nat.ble b 57) || (Nat.ble 97 b && Nat.ble b 102)
/-- this byte can be taken -/
def okE (e : Ent) (b : Nat) : Bool := isSep b || (Nat.beq b 32 || (Nat.beq b 33 || (Nat.ble e.l 2 && (isDig b && Nat.ble (e.nth e.l) 100000000))))
def okAll : List Nat → Ent → Bool
  | [], _ => true
  | b :: r, e => okE e b && okAll r (estep e b)
theorem okAll_at : ∀ (bs : List Nat) (e : Ent), okAll bs e = true → ∀ k, k < bs.length → okE (cur (bs.take k) e) (bs.getD k 0) = true
  | [], _, _, k, hk => by simp at hk
  | b :: r, e, h, 0, _ => by
    simp only [okAll, Bool.and_eq_true] at h
    exact h.1
  | b :: r, e, h, k + 1, hk => by
    simp only [okAll, Bool.and_eq_true] at h
    exact okAll_at r (estep e b) h.2 k (by simpa using hk)

/-! ### rows, as the document reads them -/
structure RSt where
  n : Nat
  i : Bool
  row : List Int
def rdig (b : Nat) : Bool := isDig b
/-- the row behind this byte, which is no digit: before it is laid down -/
def rrow (s : RSt) (b : Nat) : List Int := (bif s.i then s.row ++ [(s.n : Int)] else s.row) ++ (bif Nat.beq b 33 then [-1] else [])
def rlays (s : RSt) (b : Nat) : Bool := isSep b && !(rrow s b).isEmpty
def rstep5 (s : RSt) (b : Nat) : RSt := bif rdig b then ⟨16 * s.n + dgt b, true, s.row⟩ else ⟨0, false, bif rlays s b then [] else rrow s b⟩
def rcur (bs : List Nat) (s : RSt) : RSt := bs.foldl rstep5 s
def rems : List Nat → RSt → List (List Int)
  | [], _ => []
  | b :: r, s => bif !rdig b && rlays s b then rrow s b :: rems r (rstep5 s b) else rems r (rstep5 s b)
theorem rcur_snoc (b : Nat) (p : List Nat) (s : RSt) : rcur (p ++ [b]) s = rstep5 (rcur p s) b := by unfold rcur; rw [List.foldl_append]; rfl
theorem rems_snoc (b : Nat) : ∀ (p : List Nat) (s : RSt), rems (p ++ [b]) s = rems p s ++ (bif !rdig b && rlays (rcur p s) b then [rrow (rcur p s) b] else [])
  | [], s => by
    show (bif !rdig b && rlays s b then rrow s b :: rems [] (rstep5 s b) else rems [] (rstep5 s b)) = [] ++ (bif !rdig b && rlays s b then [rrow s b] else [])
    cases (!rdig b && rlays s b) <;> rfl
  | x :: r, s => by
    show (bif !rdig x && rlays s x then rrow s x :: rems (r ++ [b]) (rstep5 s x) else rems (r ++ [b]) (rstep5 s x)) = (bif !rdig x && rlays s x then rrow s x :: rems r (rstep5 s x) else rems r (rstep5 s x)) ++ (bif !rdig b && rlays (rcur r (rstep5 s x)) b then [rrow (rcur r (rstep5 s x)) b] else [])
    rw [rems_snoc b r (rstep5 s x)]
    cases (!rdig x && rlays s x) <;> rfl
def rzero : RSt := ⟨0, false, []⟩
/-- the rows of a text: a byte of 10 behind it -/
def rowsOf (bs : List Nat) : List (List Int) := rems (bs ++ [10]) rzero
/-- numbers stay small -/
def rokE (s : RSt) (b : Nat) : Bool := !rdig b || Nat.ble s.n 100000000
def rokAll : List Nat → RSt → Bool
  | [], _ => true
  | b :: r, s => rokE s b && rokAll r (rstep5 s b)
theorem rokAll_at : ∀ (bs : List Nat) (s : RSt), rokAll bs s = true → ∀ k, k < bs.length → rokE (rcur (bs.take k) s) (bs.getD k 0) = true
  | [], _, _, k, hk => by simp at hk
  | b :: r, s, h, 0, _ => by
    simp only [rokAll, Bool.and_eq_true] at h
    exact h.1
  | b :: r, s, h, k + 1, hk => by
    simp only [rokAll, Bool.and_eq_true] at h
    exact rokAll_at r (rstep5 s b) h.2 k (by simpa using hk)
def eqI : Int → Int → Bool
  | .ofNat a, .ofNat b => Nat.beq a b
  | .negSucc a, .negSucc b => Nat.beq a b
  | _, _ => false
theorem eqI_eq {a b : Int} (h : eqI a b = true) : a = b := by
  cases a <;> cases b <;> simp_all [eqI]
def eqR : List Int → List Int → Bool
  | [], [] => true
  | a :: r, b :: s => eqI a b && eqR r s
  | _, _ => false
theorem eqR_eq : ∀ {a b : List Int}, eqR a b = true → a = b
  | [], [], _ => rfl
  | [], _ :: _, h => by cases h
  | _ :: _, [], h => by cases h
  | a :: r, b :: s, h => by
    simp only [eqR, Bool.and_eq_true] at h
    rw [eqI_eq h.1, eqR_eq h.2]
def eqL : List (List Int) → List (List Int) → Bool
  | [], [] => true
  | a :: r, b :: s => eqR a b && eqL r s
  | _, _ => false
theorem eqL_eq : ∀ {a b : List (List Int)}, eqL a b = true → a = b
  | [], [], _ => rfl
  | [], _ :: _, h => by cases h
  | _ :: _, [], h => by cases h
  | a :: r, b :: s, h => by
    simp only [eqL, Bool.and_eq_true] at h
    rw [eqR_eq h.1, eqL_eq h.2]
def row3 (e : Ent) : List Int := [(e.n0 : Int), (e.n1 : Int), (e.n2 : Int)]
def row4 (e : Ent) : List Int := bif e.o then [(e.n0 : Int), (e.n1 : Int), (e.n2 : Int), -1] else [(e.n0 : Int), (e.n1 : Int), (e.n2 : Int)]
def row2 (e : Ent) : List Int := [(e.n0 : Int), (e.n1 : Int)]
end Go.Proofs.Ytmphfdnpnhlpjaa
