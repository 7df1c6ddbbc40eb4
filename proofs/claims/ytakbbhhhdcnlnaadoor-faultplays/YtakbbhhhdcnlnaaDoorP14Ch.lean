/- Errors of package fault as they lie in memory: a row of links, each in a block of its own. -/
import Derived.Test.YtakbbhhhdcnlnaaDoorMem
import Derived.Test.YtakbbhhhdcnlnaaDoorG14Pr
import Derived.Test.YtakbbhhhdcnlnaaDoorRows
import Derived.WalkKit
import Derived.ProofKit
import Derived.LaidEql
import Derived.Stop.Asserts
import Derived.RowKitTokens
namespace Go.Proofs.YtakbbhhhdcnlnaaDoor
set_option maxRecDepth 100000
open Go.ChangeShapes Go.WideShapes Go.ChangeAt Go.RowKit
set_option linter.unusedVariables false
set_option linter.unusedSimpArgs false

/-- a link: of Wrap's (with its block and words), of Input's, of New's, the code itself -/
inductive Lay where
  | wr (b : Nat) (s : ByteArray)
  | inp (b : Nat) (n : Int)
  | pl (b : Nat) (c a : Int)
  | re (c : Int)
def tyL : Lay → TypeId
  | .wr _ _ => 52
  | .inp _ _ => 55
  | .pl _ _ _ => 48
  | .re _ => 49
def ptr (b : Nat) : Value := .pointer (some ⟨b, 0, none⟩)
def dyn : Lay → Value
  | .wr b _ => ptr b
  | .inp b _ => ptr b
  | .pl b _ _ => ptr b
  | .re c => .int .i64 c
/-- the error that a row of links is -/
def hdV : List Lay → Value
  | [] => .nilIface
  | x :: _ => .iface (tyL x) (dyn x)
def Lies (w : World) : List Lay → Prop
  | [] => True
  | .wr b s :: l => Blk w b 54 #[hdV l, .string s] ∧ Lies w l
  | .inp b n :: l => Blk w b 57 #[hdV l, .int .i64 n] ∧ Lies w l
  | .pl b c a :: l => Blk w b 51 #[.int .i64 c, .int .i64 a] ∧ l = [.re c]
  | .re c :: l => l = []
theorem Lies.mono {w w' : World} (h : ∀ g t cs, (t = 54 ∨ t = 57 ∨ t = 51) → Blk w g t cs → Blk w' g t cs) : ∀ {L : List Lay}, Lies w L → Lies w' L
  | [], _ => trivial
  | .wr b s :: l, hL => ⟨h _ _ _ (.inl rfl) hL.1, Lies.mono h hL.2⟩
  | .inp b n :: l, hL => ⟨h _ _ _ (.inr (.inl rfl)) hL.1, Lies.mono h hL.2⟩
  | .pl b c a :: l, hL => ⟨h _ _ _ (.inr (.inr rfl)) hL.1, hL.2⟩
  | .re c :: l, hL => hL
theorem Lies.go {w w' : World} {L : List Lay} (hL : Lies w L) (h : Below w.heap.size w w') : Lies w' L := hL.mono fun g t cs _ hb => hb.below h hb.lt
/-- but for a block that is of none of the links' types -/
theorem Lies.but {w w' : World} {L : List Lay} {g : Nat} {t : TypeId} {cs : Array Value} (hL : Lies w L) (h : But g w w') (hg : Blk w g t cs) (ht : t ≠ 54 ∧ t ≠ 57 ∧ t ≠ 51) : Lies w' L := hL.mono fun k u ds hu hk => h.blk hk (by
  rintro rfl
  unfold Blk at hg hk
  rw [hg] at hk
  injection hk with hk
  injection hk with h1 h2
  rcases hu with rfl | rfl | rfl
  · exact ht.1 h2
  · exact ht.2.1 h2
  · exact ht.2.2 h2)
theorem Lies.tail {w : World} {L : List Lay} (h : Lies w L) : Lies w L.tail := by
  match L, h with
  | [], _ => trivial
  | .wr b s :: l, h => exact h.2
  | .inp b n :: l, h => exact h.2
  | .pl b c a :: l, h => rw [List.tail_cons, h.2]; exact rfl
  | .re c :: l, h => rw [List.tail_cons, h]; exact trivial
/-- the first of New's, the first of Input's -/
def fP : List Lay → Option Nat
  | [] => none
  | .pl b _ _ :: _ => some b
  | .wr _ _ :: l => fP l
  | .inp _ _ :: l => fP l
  | .re _ :: l => fP l
def fT : List Lay → Option Nat
  | [] => none
  | .inp b _ :: _ => some b
  | .wr _ _ :: l => fT l
  | .pl _ _ _ :: l => fT l
  | .re _ :: l => fT l
def inN : List Lay → Int
  | [] => 0
  | .inp _ n :: _ => n
  | .wr _ _ :: l => inN l
  | .pl _ _ _ :: l => inN l
  | .re _ :: l => inN l
def ptrO : Option Nat → Value
  | none => .pointer none
  | some b => ptr b
/-- an error: what was wrapped around it and told of it, what New made, its code -/
def Ec (F : List Lay) (b : Nat) (c a : Int) : List Lay := F ++ [.pl b c a, .re c]
def isF : Lay → Prop
  | .wr _ _ => True
  | .inp _ _ => True
  | _ => False
theorem Ec.cons (x : Lay) (F : List Lay) (b : Nat) (c a : Int) : Ec (x :: F) b c a = x :: Ec F b c a := rfl
theorem Ec.ne (F : List Lay) (b : Nat) (c a : Int) : ∃ x l, Ec F b c a = x :: l := by
  cases F with
  | nil => exact ⟨_, _, rfl⟩
  | cons x F => exact ⟨_, _, rfl⟩
theorem fP_ec {F : List Lay} (hF : ∀ x ∈ F, isF x) (b : Nat) (c a : Int) : fP (Ec F b c a) = some b := by
  induction F with
  | nil => rfl
  | cons x F ih =>
    have h1 := ih fun y hy => hF y (List.mem_cons_of_mem _ hy)
    have h2 := hF x List.mem_cons_self
    rw [Ec.cons]
    cases x with
    | wr b s => exact h1
    | inp b n => exact h1
    | pl _ _ _ => exact h2.elim
    | re _ => exact h2.elim
/-- what the first of Input's holds -/
theorem fT_blk {w : World} : ∀ {L : List Lay}, Lies w L → ∀ {g : Nat}, fT L = some g → ∃ v, Blk w g 57 #[v, .int .i64 (inN L)]
  | [], _, _, h => by cases h
  | .wr b s :: l, hL, _, h => fT_blk (L := l) hL.2 h
  | .inp b n :: l, hL, _, h => by cases h; exact ⟨_, hL.1⟩
  | .pl b c a :: l, hL, _, h => by obtain ⟨_, rfl⟩ := hL; cases h
  | .re c :: l, hL, _, h => by obtain rfl : l = [] := hL; cases h
theorem inN_none {w : World} : ∀ {L : List Lay}, Lies w L → fT L = none → inN L = 0
  | [], _, _ => rfl
  | .wr b s :: l, hL, h => inN_none (L := l) hL.2 h
  | .inp b n :: l, hL, h => by cases h
  | .pl b c a :: l, hL, _ => by obtain ⟨_, rfl⟩ := hL; rfl
  | .re c :: l, hL, _ => by obtain rfl : l = [] := hL; rfl
theorem pl_blk {w : World} {F : List Lay} (hF : ∀ x ∈ F, isF x) {b : Nat} {c a : Int} (h : Lies w (Ec F b c a)) : Lies w [.pl b c a, .re c] := by
  induction F with
  | nil => exact h
  | cons x F ih =>
    have h2 := hF x List.mem_cons_self
    refine ih (fun y hy => hF y (List.mem_cons_of_mem _ hy)) ?_
    rw [Ec.cons] at h
    exact h.tail

/-! nil or not -/
theorem iface26 : ∃ ms, Tryd.prog.underlying 26 = some (.interface ms) := by
  have h : (match Tryd.prog.underlying 26 with | some (.interface _) => true | _ => false) = true := by kernel_rfl
  revert h
  cases Tryd.prog.underlying 26 with
  | none => intro h; cases h
  | some d => cases d <;> intro h <;> first | exact ⟨_, rfl⟩ | cases h
theorem hd_eql (L : List Lay) (w : World) : (binOp .eql 26 (hdV L) .nilIface).run Tryd.prog w = .ok (.bool L.isEmpty) w := by
  cases L with
  | nil => rfl
  | cons x l => cases x <;> rfl
theorem hd_neq (L : List Lay) (w : World) : (binOp .neq 26 (hdV L) .nilIface).run Tryd.prog w = .ok (.bool (!L.isEmpty)) w := by
  cases L with
  | nil => rfl
  | cons x l => cases x <;> rfl
theorem hd_form {L : List Lay} (h : L ≠ []) : ∃ t u, hdV L = .iface t u := by
  cases L with
  | nil => exact absurd rfl h
  | cons x l => exact ⟨_, _, rfl⟩
theorem hd_eqG (L : List Lay) (t : TypeId) (x : Operand) (w : World) : (eqGuard .eql t x (.const .nilIface) (hdV L) .nilIface).run Tryd.prog w = .ok () w := by
  cases L with
  | nil => simp [eqGuard, hdV]
  | cons x l => simp [eqGuard, hdV]
theorem hd_neG (L : List Lay) (t : TypeId) (x : Operand) (w : World) : (eqGuard .neq t x (.const .nilIface) (hdV L) .nilIface).run Tryd.prog w = .ok () w := by
  cases L with
  | nil => simp [eqGuard, hdV]
  | cons x l => simp [eqGuard, hdV]
end Go.Proofs.YtakbbhhhdcnlnaaDoor
