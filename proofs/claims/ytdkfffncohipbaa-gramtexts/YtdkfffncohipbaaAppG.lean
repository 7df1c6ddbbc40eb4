/- append under a guard that lets it by. -/
import Derived.Test.YtdkfffncohipbaaApp
namespace Go.Proofs.Ytdkfffncohipbaa
open Go.RowKit

/-- the same where the operation bears a guard that lets it by -/
theorem wpList_app_g {P : Program} {w : World} {ops : Array Oper} {rest : List Oper} {o : Oper} {a : Act} {Q : Exit → Act → World → Prop} (hgd : Region.wanted o (yielded ops a.tmps) = true) (s x : Operand) (t : TypeId)
    (ho : o.op = .call { callee := .builtin .append, args := #[s, x], argTypes := #[t, t] })
    (base : Nat) (e : TypeId) (k : IntKind) (bytes : Nat) (ht : P.underlying t = some (.slice e)) (hi : (P.info? e).map (fun i => (i.zero, i.size, i.bytes)) = some (some (.int k 0), 1, bytes)) (h8 : bytes ≤ 8)
    (v : Value) (xs : List Int) (hs : a.eval s = v) (hown : Own w base e k v xs) (B : Nat) (A : Option Addr) (c : Nat) (ys : List Int) (hx : a.eval x = .slice A ys.length c) (hA : A = none → c = 0) (hr : Ints w B k A ys)
    (hlen : xs.length + ys.length ≤ 1099511627776) (hbase : base ≤ w.heap.size)
    (h : ∀ v' w', Own w' base e k v' (xs ++ ys) → w.grownBy w' v.ownBlock → wpList P ops Q rest (a.put o.dst v') w') : wpList P ops Q (o :: rest) a w :=
  wpList_step fun K hK => by
    rw [if_pos hgd]
    exact wp_app s x t ho base e k bytes ht hi h8 v xs hs hown B A c ys hx hA hr hlen hbase fun v' w' h2 h3 => hK _ _ (h v' w' h2 h3)

/-- the source's length by another name -/
theorem wpList_app_n {P : Program} {w : World} {ops : Array Oper} {rest : List Oper} {o : Oper} {a : Act} {Q : Exit → Act → World → Prop} (hgd : Region.wanted o (yielded ops a.tmps) = true) (s x : Operand) (t : TypeId)
    (ho : o.op = .call { callee := .builtin .append, args := #[s, x], argTypes := #[t, t] })
    (base : Nat) (e : TypeId) (k : IntKind) (bytes : Nat) (ht : P.underlying t = some (.slice e)) (hi : (P.info? e).map (fun i => (i.zero, i.size, i.bytes)) = some (some (.int k 0), 1, bytes)) (h8 : bytes ≤ 8)
    (v : Value) (xs : List Int) (hs : a.eval s = v) (hown : Own w base e k v xs) (B : Nat) (A : Option Addr) (m c : Nat) (ys : List Int) (hm : ys.length = m) (hx : a.eval x = .slice A m c) (hA : A = none → c = 0) (hr : Ints w B k A ys)
    (hlen : xs.length + m ≤ 1099511627776) (hbase : base ≤ w.heap.size)
    (h : ∀ v' w', Own w' base e k v' (xs ++ ys) → w.grownBy w' v.ownBlock → wpList P ops Q rest (a.put o.dst v') w') : wpList P ops Q (o :: rest) a w := by
  subst hm
  exact wpList_app_g hgd s x t ho base e k bytes ht hi h8 v xs hs hown B A c ys hx hA hr hlen hbase h

/-- a literal without a cell -/
theorem own_empty (w : World) (base : Nat) (t : TypeId) (k : IntKind) (hb : base ≤ w.heap.size) : Own (w.alloc (.cells #[] t)) base t k (.slice (some ⟨w.heap.size, 0, none⟩) 0 0) [] := by
  exact World.ownsRow_lit (size := 1) (e := t) w #[] 0 hb (by simp [maxLen]) (by simp)
end Go.Proofs.Ytdkfffncohipbaa
