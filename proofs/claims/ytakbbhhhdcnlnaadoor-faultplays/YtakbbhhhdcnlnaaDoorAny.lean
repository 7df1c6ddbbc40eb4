/- A region that draws its order, walked by hand: what yields the same in whatever world is taken first; what is left comes up alone, or each that may come up is walked. The laws beneath are the library's (Orders). -/
import Derived.Test.YtakbbhhhdcnlnaaDoorMem
import Derived.Orders
import Derived.RegionTactic
import Derived.Deep.RegionHeld
import Derived.Maps.AppendAt
import Derived.OwnWalk
import Derived.Great.BuildSlice
import Derived.Great.FillDense
namespace Go.Proofs.YtakbbhhhdcnlnaaDoor
open Go.RowKit
section
variable {P : Program} {ops : Array Oper} {Q : Exit → Act → World → Prop} {md : Region.Mode}
theorem wpA_take (i d : Nat) {oi : Oper} {v : Value} {fuel : Nat} {listed : Array Bool} {a : Act} {w : World} (hi : ops[i]? = some oi) (hd : oi.dst = some d)
    (hs : Region.noSelect ops = true) (hf : Region.free md ops listed i = true) (hr : (Region.ready md ops listed).contains i = true)
    (hQ : ∀ c a w, Q (.panic c) (a.put (some d) v) w → Q (.panic c) a w) (hy : Yields P ops oi v a)
    (h : wpAny P md ops Q fuel (listed.setIfInBounds i true) (a.put (some d) v) w) : wpAny P md ops Q (fuel + 1) listed a w :=
  wpAny_take hi hs hf hr (by rw [hd]; exact hQ) hy (by rw [hd]; exact h)
/-- it comes up alone -/
theorem wpA_one (i : Nat) {o : Oper} {fuel : Nat} {listed : Array Bool} {a : Act} {w : World} (hr : Region.ready md ops listed = [i]) (ho : ops[i]? = some o)
    (h : ∀ K' : Act → World → Prop, Shut (∀ a' w', wpAny P md ops Q fuel (listed.setIfInBounds i true) a' w' → K' a' w') → if Region.wanted o (yielded ops a.tmps) = true then Oper.wp P o a w K' Q else K' (a.put o.dst undef) w) :
    wpAny P md ops Q (fuel + 1) listed a w :=
  wpAny_all hr (by simp) fun j hj => by
    obtain rfl : j = i := by simpa using hj
    exact wpOp_step ho h
/-- one of two comes up -/
theorem wpA_two (i j : Nat) {o o' : Oper} {fuel : Nat} {listed : Array Bool} {a : Act} {w : World} (hr : Region.ready md ops listed = [i, j]) (ho : ops[i]? = some o) (ho' : ops[j]? = some o')
    (h : ∀ K' : Act → World → Prop, Shut (∀ a' w', wpAny P md ops Q fuel (listed.setIfInBounds i true) a' w' → K' a' w') → if Region.wanted o (yielded ops a.tmps) = true then Oper.wp P o a w K' Q else K' (a.put o.dst undef) w)
    (h' : ∀ K' : Act → World → Prop, Shut (∀ a' w', wpAny P md ops Q fuel (listed.setIfInBounds j true) a' w' → K' a' w') → if Region.wanted o' (yielded ops a.tmps) = true then Oper.wp P o' a w K' Q else K' (a.put o'.dst undef) w) :
    wpAny P md ops Q (fuel + 1) listed a w :=
  wpAny_all hr (by simp) fun k hk => by
    rcases List.mem_cons.1 hk with rfl | hk
    · exact wpOp_step ho h
    · obtain rfl : k = j := by simpa using hk
      exact wpOp_step ho' h'
theorem wpA_done {listed : Array Bool} {a : Act} {w : World} (hr : Region.ready md ops listed = []) (h : Q .normal a w) (fuel : Nat) : wpAny P md ops Q fuel listed a w := wpAny_done hr h fuel
theorem wp_region_A {id : Nat} {a : Act} {w : World} (hm : P.follows .mixedOrders = true)
    (h : wpAny P .any ops Q ops.size (Array.replicate ops.size false) a w.drew) : (Code.region id ops true).wp P Q a w := wp_region_any hm h
theorem wpA_if {c : Bool} {p q : Prop} (h : c = true) (hp : p) : if c = true then p else q := by rw [if_pos h]; exact hp

/-- append of a row onto a row of the call's own, whatever the elements' size -/
theorem wpO_append {o : Oper} {a : Act} {w : World} {K : Act → World → Prop} (s x : Operand) (t : TypeId)
    (ho : o.op = .call { callee := .builtin .append, args := #[s, x], argTypes := #[t, t] })
    (base : Nat) (e : TypeId) (z : Value) (size bytes : Nat) (ht : P.underlying t = some (.slice e)) (hi : (P.info? e).map (fun i => (i.zero, i.size, i.bytes)) = some (some z, size, bytes)) (hzs : z.cells.size = size) (hsz : 0 < size)
    (v : Value) (n : Nat) (xs : List Value) (hs : a.eval s = v) (hown : w.ownsRow base e size v n xs)
    (ad : Addr) (m c : Nat) (news : List Value) (hx : a.eval x = .slice (some ad) m c) (hl : news.length = m * size) (hnews : ∀ j u, news[j]? = some u → w.cell? (ad.add j) = some u) (h1 : ∀ u ∈ news, u.oneCell' = true)
    (h63 : n + m ≤ maxLen) (hbytes : (n + m) * bytes ≤ 140737488355328) (hbase : base ≤ w.heap.size)
    (h : ∀ v' w', w'.ownsRow base e size v' (n + m) (xs ++ news) → w.grownBy w' v.ownBlock → (v'.ownBlock = v.ownBlock ∨ v'.ownBlock = some w.heap.size) → K (a.put o.dst v') w') : o.wp P a w K Q := by
  obtain ⟨i, hi0, hz, hsi, hby⟩ := info_parts hi
  obtain ⟨v', w', hr, h2, h3, _, h5⟩ := run_append_own_at (P := P) w base t o.type e i z size bytes ht hi0 hz hsi hby hzs hsz v n xs hown ad m c news hl hnews h1 h63 hbytes hbase
  unfold Oper.wp execOp
  simp only [ho, resolve, invoke, builtin, Sem.run_bind, Sem.run_pure, Result.andThen_ok, List.map_toArray, List.map_cons, List.map_nil, hs, hx, hr]
  exact h v' w' h2 h3 h5

/-- a literal of elements that are aggregates, each place written -/
theorem wpO_lit {o : Oper} {a : Act} {w : World} {K : Act → World → Prop} (t e : TypeId) (len : Nat) (parts : Array (Nat × Operand)) (ho : o.op = .buildSlice t len parts) (z : Value) (size bytes : Nat)
    (ht : P.underlying t = some (.slice e)) (hi : (P.info? e).map (fun i => (i.zero, i.size, i.bytes)) = some (some z, size, bytes)) (hsz : 0 < size) (hlen : 0 < len) (hsmall : len * size ≤ 2 ^ 24)
    (vs : List Value) (hp : (parts.map fun (i, x) => (i, a.eval x)).toList = (vs.zipIdx 0).map fun x => (x.2, x.1)) (hvs : ∀ v ∈ vs, v.cells.size = size) (hvl : vs.length = len) (cells : Array Value) (hc : (vs.flatMap fun v => v.cells.toList).toArray = cells)
    (h : K (a.put o.dst (.slice (some ⟨w.heap.size, 0, none⟩) len len)) (w.alloc (.cells cells e))) : o.wp P a w K Q := by
  subst hc
  obtain ⟨i, hi0, hz, hsi, hby⟩ := info_parts hi
  refine wp_buildSlice t e len parts ho _ i z ht hi0 hz (by rw [hsi]; omega) (by rw [hsi]; exact Nat.ne_of_gt (Nat.mul_pos hlen hsz)) ?_ h
  rw [hp, hsi]
  exact Great.fill_whole hsz vs _ hvs (by simp [hvl])
end
end Go.Proofs.YtakbbhhhdcnlnaaDoor
