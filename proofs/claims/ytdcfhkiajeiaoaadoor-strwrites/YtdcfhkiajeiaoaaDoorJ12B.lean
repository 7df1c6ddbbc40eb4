/- Joined of: App, Row, U8AllD, U8AppT, U8Inj, U8TextB, U8Path. -/
import Derived.Test.YtdcfhkiajeiaoaaDoorJ12A
import Derived.Maps.AppendAt
import Derived.OwnWalk
import Derived.Test.YtdcfhkiajeiaoaaDoorProg
import Derived.Laws.BytesArg
import Derived.Lib.Strings
/- append of a row of numbers, nil or not, onto a row of the call's own. -/
namespace Go.Proofs.YtdcfhkiajeiaoaaDoor
open Go.RowKit

abbrev Own (w : World) (base : Nat) (e : TypeId) (k : IntKind) (v : Value) (xs : List Int) : Prop := w.ownsRow base e 1 v xs.length (xs.map (Value.int k))

theorem app_run {P : Program} (w : World) (base : Nat) (t ty e : TypeId) (k : IntKind) (bytes : Nat) (ht : P.underlying t = some (.slice e)) (hi : (P.info? e).map (fun i => (i.zero, i.size, i.bytes)) = some (some (.int k 0), 1, bytes)) (h8 : bytes ≤ 8)
    (v : Value) (xs : List Int) (hown : Own w base e k v xs) (B : Nat) (A : Option Addr) (c : Nat) (ys : List Int) (hA : A = none → c = 0) (hr : Ints w B k A ys) (hlen : xs.length + ys.length ≤ 1099511627776) (hbase : base ≤ w.heap.size) :
    ∃ v' w', (Builtin.append_ #[t, t] ty #[v, .slice A ys.length c]).run P w = .ok v' w' ∧ Own w' base e k v' (xs ++ ys) ∧ w.grownBy w' v.ownBlock := by
  obtain ⟨i, hi0, hz, hsz, hby⟩ := info_parts hi
  have hb8 : (xs.length + ys.length) * bytes ≤ 140737488355328 := by
    have := Nat.mul_le_mul hlen h8
    omega
  cases A with
  | none =>
    have hy : ys = [] := by
      rcases hr with h | ⟨b, o, e, _⟩
      · exact h
      · cases e
    subst hy
    rw [hA rfl]
    exact ⟨v, w, run_append_owned_none w base t ty e i 1 ht hi0 v xs.length _ hown, by rw [List.append_nil]; exact hown, World.grownBy.refl w _⟩
  | some ad =>
    have hn : ∀ j u, (ys.map (Value.int k))[j]? = some u → w.cell? (ad.add j) = some u := by
      intro j u hu
      rcases hr with h | ⟨b, o, e, _, hc⟩
      · subst h; simp at hu
      · injection e with e
        subst e
        have hj : j < ys.length := by
          apply Classical.byContradiction; intro hn
          rw [List.getElem?_eq_none (by simp; omega)] at hu; cases hu
        have ha : (⟨b, o, none⟩ : Addr).add j = ⟨b, o + j, none⟩ := by unfold Addr.add; split <;> simp_all
        rw [ha, hc j hj, ← hu]
        simp [List.getElem?_map, List.getD_eq_getElem?_getD, List.getElem?_eq_getElem hj]
    obtain ⟨v', w', hrun, h2, h3, _, _⟩ := run_append_own_at (P := P) w base t ty e i (.int k 0) 1 bytes ht hi0 hz hsz hby rfl (by omega) v xs.length _ hown ad ys.length c (ys.map (Value.int k)) (by simp) hn (ints_oneCell k ys)
      (by simp only [maxLen]; omega) hb8 hbase
    exact ⟨v', w', hrun, by
      have : (xs ++ ys).length = xs.length + ys.length := by simp
      rw [Own, this, List.map_append]; exact h2, h3⟩

theorem own_grown_below {w w' : World} {base : Nat} {e : TypeId} {k : IntKind} {v : Value} {xs : List Int} (hown : Own w base e k v xs) (hg : w.grownBy w' v.ownBlock) (hbase : base ≤ w.heap.size) : Below base w w' :=
  (Below.refl base w).grown hg hbase fun g hv => (hown.lt g hv).1

theorem wp_app {P : Program} {w : World} {o : Oper} {a : Act} {K : Act → World → Prop} {Q : Exit → Act → World → Prop} (s x : Operand) (t : TypeId)
    (ho : o.op = .call { callee := .builtin .append, args := #[s, x], argTypes := #[t, t] })
    (base : Nat) (e : TypeId) (k : IntKind) (bytes : Nat) (ht : P.underlying t = some (.slice e)) (hi : (P.info? e).map (fun i => (i.zero, i.size, i.bytes)) = some (some (.int k 0), 1, bytes)) (h8 : bytes ≤ 8)
    (v : Value) (xs : List Int) (hs : a.eval s = v) (hown : Own w base e k v xs) (B : Nat) (A : Option Addr) (c : Nat) (ys : List Int) (hx : a.eval x = .slice A ys.length c) (hA : A = none → c = 0) (hr : Ints w B k A ys)
    (hlen : xs.length + ys.length ≤ 1099511627776) (hbase : base ≤ w.heap.size)
    (h : ∀ v' w', Own w' base e k v' (xs ++ ys) → w.grownBy w' v.ownBlock → K (a.put o.dst v') w') : o.wp P a w K Q := by
  obtain ⟨v', w', hrun, h2, h3⟩ := app_run (P := P) w base t o.type e k bytes ht hi h8 v xs hown B A c ys hA hr hlen hbase
  unfold Oper.wp execOp
  simp only [ho, resolve, invoke, builtin, Sem.run_bind, Sem.run_pure, Result.andThen_ok, List.map_toArray, List.map_cons, List.map_nil, hs, hx, hrun]
  exact h v' w' h2 h3

theorem wpList_app {P : Program} {w : World} {ops : Array Oper} {rest : List Oper} {o : Oper} {a : Act} {Q : Exit → Act → World → Prop} (hgd : o.guard = none) (s x : Operand) (t : TypeId)
    (ho : o.op = .call { callee := .builtin .append, args := #[s, x], argTypes := #[t, t] })
    (base : Nat) (e : TypeId) (k : IntKind) (bytes : Nat) (ht : P.underlying t = some (.slice e)) (hi : (P.info? e).map (fun i => (i.zero, i.size, i.bytes)) = some (some (.int k 0), 1, bytes)) (h8 : bytes ≤ 8)
    (v : Value) (xs : List Int) (hs : a.eval s = v) (hown : Own w base e k v xs) (B : Nat) (A : Option Addr) (c : Nat) (ys : List Int) (hx : a.eval x = .slice A ys.length c) (hA : A = none → c = 0) (hr : Ints w B k A ys)
    (hlen : xs.length + ys.length ≤ 1099511627776) (hbase : base ≤ w.heap.size)
    (h : ∀ v' w', Own w' base e k v' (xs ++ ys) → w.grownBy w' v.ownBlock → wpList P ops Q rest (a.put o.dst v') w') : wpList P ops Q (o :: rest) a w :=
  wpList_plain hgd fun _ hK => wp_app s x t ho base e k bytes ht hi h8 v xs hs hown B A c ys hx hA hr hlen hbase fun v' w' h2 h3 => hK _ _ (h v' w' h2 h3)

/-- a row that a literal has just laid -/
theorem Ints.lit (w : World) (t : TypeId) (k : IntKind) (ys : List Int) : Ints (w.alloc (.cells (ys.map (Value.int k)).toArray t)) (w.heap.size + 1) k (some ⟨w.heap.size, 0, none⟩) ys := by
  refine .inr ⟨_, _, rfl, by omega, fun j hj => ?_⟩
  rw [Nat.zero_add, (Blk.new w t (ys.map (Value.int k)).toArray).cell j]
  simp [List.getD_eq_getElem?_getD, List.getElem?_eq_getElem hj]
end Go.Proofs.YtdcfhkiajeiaoaaDoor

/- Rows of runes of a call's own, as contracts tell of them; what they have in common. -/
namespace Go.Proofs.YtdcfhkiajeiaoaaDoor
open Go.RowKit
set_option linter.unusedVariables false

/-- a row of the call's own, these numbers -/
def RowRes (t : TypeId) (k : IntKind) (w : World) (zs : List Int) (e : Ending) (w' : World) : Prop :=
  ∃ v, e = .returned v ∧ Own w' w.heap.size t k v zs ∧ Below w.heap.size w w'
theorem info_i32 : (Tryd.prog.info? 21).map (fun i => (i.zero, i.size, i.bytes)) = some (some (.int .i32 0), 1, 4) := by kernel_rfl
theorem own_lit (w : World) (base : Nat) (t : TypeId) (k : IntKind) (ys : List Int) (hb : base ≤ w.heap.size) (hm : ys.length ≤ maxLen) :
    Own (w.alloc (.cells (ys.map (Value.int k)).toArray t)) base t k (.slice (some ⟨w.heap.size, 0, none⟩) ys.length ys.length) ys := by
  have := World.ownsRow_lit (size := 1) (e := t) w (ys.map (Value.int k)).toArray ys.length hb hm (by simp)
  simpa using this
theorem own_nil {w : World} {base : Nat} {t : TypeId} {k : IntKind} {A : Option Addr} {n c : Nat} {xs : List Int} (h : w.ownsRow base t 1 (.slice A n c) n (xs.map (Value.int k))) : A = none → c = 0 := by
  rcases h.2 with ⟨e1, e2⟩ | ⟨g, cap, cur, hv, _⟩
  · injection e1 with e1 e2 e3; intro _; exact e3
  · injection hv with e1 e2 e3; intro h; rw [h] at e1; cases e1
theorem Ints.litAt (w : World) (t : TypeId) (k : IntKind) (ys : List Int) {g : Nat} (hg : w.heap.size = g) : Ints (w.alloc (.cells (ys.map (Value.int k)).toArray t)) (g + 1) k (some ⟨g, 0, none⟩) ys := by
  subst hg; exact Ints.lit w t k ys
/-- a row, told by its cells -/
def RowSl (k : IntKind) (w : World) (zs : List Int) (e : Ending) (w' : World) : Prop :=
  ∃ A c, e = .returned (.slice A zs.length c) ∧ Ints w' w'.heap.size k A zs ∧ (zs.length ≤ c ∧ c ≤ maxLen) ∧ Below w.heap.size w w'
theorem RowRes.sl {t : TypeId} {k : IntKind} {w w' : World} {zs : List Int} {e : Ending} (h : RowRes t k w zs e w') : RowSl k w zs e w' := by
  obtain ⟨v, rfl, hO, hb⟩ := h
  obtain ⟨A, c, rfl, hc, hcm⟩ := own_form hO
  exact ⟨A, c, rfl, Ints.own hO, ⟨hc, hcm⟩, hb⟩
theorem Ints.go {w w' : World} {k : IntKind} {A : Option Addr} {xs : List Int} (h : Ints w w.heap.size k A xs) (hb : Below w.heap.size w w') : Ints w' w'.heap.size k A xs := (h.below hb (Nat.le_refl _)).more hb.size
theorem take_snoc (l : List Int) (k : Nat) (hk : k < l.length) : l.take (k + 1) = l.take k ++ [l.getD k 0] := by
  rw [List.take_succ_eq_append_getElem hk]
  simp [List.getD_eq_getElem?_getD, List.getElem?_eq_getElem hk]
end Go.Proofs.YtdcfhkiajeiaoaaDoor

/- What utf8.All hands back; utf8.First by a letter. -/
namespace Go.Proofs.YtdcfhkiajeiaoaaDoor
set_option maxRecDepth 100000
open Go.ChangeShapes Go.WideShapes Go.ChangeAt Go.RowKit
set_option linter.unusedVariables false

theorem info_u8 : (Tryd.prog.info? 5).map (fun i => (i.zero, i.size, i.bytes)) = some (some (.int .u8 0), 1, 1) := by kernel_rfl

/-- what All hands back: a row of the call's own, how many bytes, whether all -/
def AllRes (w : World) (xs : List Int) (e : Ending) (w' : World) : Prop :=
  ∃ v, e = .returned (.tuple #[v, .int .i64 ((allS xs).2.1 : Int), .bool (allS xs).2.2]) ∧ Own w' w.heap.size 21 .i32 v (allS xs).1 ∧ Below w.heap.size w w'
def AllLoop (w : World) (xs : List Int) (s5 s6 : Value) (w1 : World) : Prop :=
  ∃ (n : Nat) (l : List Int), s6 = .int .i64 n ∧ AllAt xs n l ∧ Own w1 w.heap.size 21 .i32 s5 l ∧ Below w.heap.size w w1

theorem first_n (A : Option Addr) (n cap : Nat) (xs : List Int) (w : World) (hn : xs.length = n) (hT : Tab w) (hI : Ints w w.heap.size .u8 A xs) (hB : Bts xs) (hm : n ≤ maxLen) :
    Calls Tryd.prog 58 #[.slice A n cap] w fun e w' => e = .returned (.tuple #[.int .i32 (fC xs), .int .i64 (fN xs : Int), .bool (fOk xs)]) ∧ Below w.heap.size w w' := by
  subst hn; exact first_any A cap xs w hT hI hB hm

end Go.Proofs.YtdcfhkiajeiaoaaDoor

/- Contracts of utf8.tail, appendTo. -/
namespace Go.Proofs.YtdcfhkiajeiaoaaDoor
set_option maxRecDepth 100000
open Go.ChangeShapes Go.WideShapes Go.ChangeAt Go.RowKit
set_option linter.unusedVariables false

theorem mask63 (x : Int) (h₀ : 0 ≤ x) (h₁ : x < 2147483648) : bits .and .i32 x 63 = x % 64 :=
  bits_mask .i32 31 (by decide) wraps_i32 6 (by decide) x h₀ (by omega)
theorem utail_any (c : Int) (w : World) (h0 : 0 ≤ c) (h1 : c < 2147483648) : Calls Tryd.prog 88 #[.int .i32 c] w fun e w' => e = .returned (.int .u8 (128 + c % 64)) ∧ w = w' := by
  have hm := mask63 c h0 h1
  have hb : 0 ≤ c % 64 ∧ c % 64 < 64 := by omega
  have ho := u8_or128 (c % 64) hb.1 hb.2
  go_enter Tryd.func88, Tryd.ntmps88
  go_wp2
  go_ret
  exact ⟨rfl, rfl⟩

def AppRes (base : Nat) (xs : List Int) (c : Int) (w : World) (e : Ending) (w' : World) : Prop :=
  ∃ v', e = .returned v' ∧ Own w' base 5 .u8 v' (xs ++ byt c) ∧ Below base w w'

set_option maxHeartbeats 1000000 in
theorem appendTo_any (base : Nat) (v : Value) (xs : List Int) (c : Int) (w : World) (hO : Own w base 5 .u8 v xs) (hm : xs.length ≤ 1048576) (hbase : base ≤ w.heap.size) :
    Calls Tryd.prog 85 #[v, .int .i32 c] w (AppRes base xs c w) := by
  have HO := Lib.hid hO
  clear hO
  cases hi : isB c with
  | false =>
    have HE : Hid (byt c = []) := by simp [Hid, byt, hi]
    go_enter Tryd.func85, Tryd.ntmps85
    go_wp2_with fail
    with_reducible refine (is_any _ _).mono ?_
    rintro e w' ⟨rfl, rfl⟩
    go_wp2
    go_ret
    exact ⟨v, rfl, by rw [HE.out, List.append_nil]; exact HO.out, Below.refl _ _⟩
  | true =>
    have hc := of_decide_eq_true hi
    have hc0 : 0 ≤ c := by omega
    have hc1 : c ≤ 1114111 := by omega
    by_cases h1 : c < 128
    · have HE : Hid (byt c = [c]) := by simp [Hid, byt, hi, h1]
      clear hc
      go_enter Tryd.func85, Tryd.ntmps85
      go_wp2_with fail
      with_reducible refine (is_any _ _).mono ?_
      rintro e w' ⟨rfl, rfl⟩
      go_wp2_with (first
          | (at_builtin; refine wpList_app rfl (.tmp 13) (.tmp 16) 22 rfl base 5 .u8 1 Tryd.underlying22 info_u8 (by omega) v xs rfl (HO.out.alloc _) _ _ 1 [c] rfl (fun h => by cases h) (Ints.lit w 5 .u8 [c]) (by simp; omega) (by simp; omega) ?_; intro v3 w3 hO3 hg3))
      go_ret
      exact ⟨v3, rfl, by rw [HE.out]; exact hO3, ((Below.refl _ _).alloc hbase _).trans (own_grown_below (HO.out.alloc _) hg3 (by simp; omega))⟩
    · by_cases h2 : c < 2048
      · have HE : Hid (byt c = [192 + c / 64, 128 + c % 64]) := by simp [Hid, byt, hi, h1, h2]
        clear hc
        have ho := u8_or192 (c / 64) (by omega) (by omega)
        go_enter Tryd.func85, Tryd.ntmps85
        go_wp2_with fail
        with_reducible refine (is_any _ _).mono ?_
        rintro e w' ⟨rfl, rfl⟩
        go_wp2_with (first
          | (go_at_call 88; ((with_reducible refine (utail_any _ _ (by omega) (by omega)).mono ?_); rintro e w' ⟨rfl, rfl⟩))
          | (at_builtin; refine wpList_app rfl (.tmp 21) (.tmp 28) 22 rfl base 5 .u8 1 Tryd.underlying22 info_u8 (by omega) v xs rfl (HO.out.alloc _) _ _ 2 [192 + c / 64, 128 + c % 64] rfl (fun h => by cases h) (Ints.lit w 5 .u8 [192 + c / 64, 128 + c % 64]) (by simp; omega) (by simp; omega) ?_; intro v3 w3 hO3 hg3))
        go_ret
        exact ⟨v3, rfl, by rw [HE.out]; exact hO3, ((Below.refl _ _).alloc hbase _).trans (own_grown_below (HO.out.alloc _) hg3 (by simp; omega))⟩
      · by_cases h3 : c < 65536
        · have HE : Hid (byt c = [224 + c / 4096, 128 + c / 64 % 64, 128 + c % 64]) := by simp [Hid, byt, hi, h1, h2, h3]
          clear hc
          have ho := u8_or224 (c / 4096) (by omega) (by omega)
          go_enter Tryd.func85, Tryd.ntmps85
          go_wp2_with fail
          with_reducible refine (is_any _ _).mono ?_
          rintro e w' ⟨rfl, rfl⟩
          go_wp2_with (first
            | (go_at_call 88; ((with_reducible refine (utail_any _ _ (by omega) (by omega)).mono ?_); rintro e w' ⟨rfl, rfl⟩))
            | (at_builtin; refine wpList_app rfl (.tmp 33) (.tmp 43) 22 rfl base 5 .u8 1 Tryd.underlying22 info_u8 (by omega) v xs rfl (HO.out.alloc _) _ _ 3 [224 + c / 4096, 128 + c / 64 % 64, 128 + c % 64] rfl (fun h => by cases h) (Ints.lit w 5 .u8 [224 + c / 4096, 128 + c / 64 % 64, 128 + c % 64]) (by simp; omega) (by simp; omega) ?_; intro v3 w3 hO3 hg3))
          go_ret
          exact ⟨v3, rfl, by rw [HE.out]; exact hO3, ((Below.refl _ _).alloc hbase _).trans (own_grown_below (HO.out.alloc _) hg3 (by simp; omega))⟩
        · have HE : Hid (byt c = [240 + c / 262144, 128 + c / 4096 % 64, 128 + c / 64 % 64, 128 + c % 64]) := by simp [Hid, byt, hi, h1, h2, h3]
          clear hc
          have ho := u8_or240 (c / 262144) (by omega) (by omega)
          go_enter Tryd.func85, Tryd.ntmps85
          go_wp2_with fail
          with_reducible refine (is_any _ _).mono ?_
          rintro e w' ⟨rfl, rfl⟩
          go_wp2_with (first
            | (go_at_call 88; ((with_reducible refine (utail_any _ _ (by omega) (by omega)).mono ?_); rintro e w' ⟨rfl, rfl⟩))
            | (at_builtin; refine wpList_app rfl (.tmp 45) (.tmp 58) 22 rfl base 5 .u8 1 Tryd.underlying22 info_u8 (by omega) v xs rfl (HO.out.alloc _) _ _ 4 [240 + c / 262144, 128 + c / 4096 % 64, 128 + c / 64 % 64, 128 + c % 64] rfl (fun h => by cases h) (Ints.lit w 5 .u8 [240 + c / 262144, 128 + c / 4096 % 64, 128 + c / 64 % 64, 128 + c % 64]) (by simp; omega) (by simp; omega) ?_; intro v3 w3 hO3 hg3))
          go_ret
          exact ⟨v3, rfl, by rw [HE.out]; exact hO3, ((Below.refl _ _).alloc hbase _).trans (own_grown_below (HO.out.alloc _) hg3 (by simp; omega))⟩

theorem byt_len (c : Int) : (byt c).length ≤ 4 := by
  unfold byt; (repeat' split) <;> simp
theorem txt_snoc (xs : List Int) (k : Nat) (hk : k < xs.length) : txt (xs.take (k + 1)) = txt (xs.take k) ++ byt (xs.getD k 0) := by
  rw [← take_getD xs k hk]; simp [txt]
theorem txt_len (xs : List Int) : (txt xs).length ≤ 4 * xs.length := by
  induction xs with
  | nil => simp [txt]
  | cons a r ih => have := byt_len a; simp only [txt, List.flatMap_cons, List.length_append, List.length_cons] at *; omega

def TextLoop (w : World) (xs : List Int) (s3 s8 : Value) (w1 : World) : Prop :=
  ∃ k : Nat, k ≤ xs.length ∧ s8 = .int .i64 k ∧ Own w1 w.heap.size 5 .u8 s3 (txt (xs.take k)) ∧ Below w.heap.size w w1
end Go.Proofs.YtdcfhkiajeiaoaaDoor

/- Plain mathematics: the bytes of a scalar tell the scalar, whatever follows. -/
namespace Go.Proofs.YtdcfhkiajeiaoaaDoor
set_option maxRecDepth 100000
set_option linter.unusedVariables false

theorem lng_is1 {a : Int} (h : a < 128) : lng a = 1 := by unfold lng; rw [if_pos h]
theorem lng_is2 {a : Int} (h : 194 ≤ a) (g : a ≤ 223) : lng a = 2 := by unfold lng; (repeat' split) <;> omega
theorem lng_is3 {a : Int} (h : 224 ≤ a) (g : a ≤ 239) : lng a = 3 := by unfold lng; (repeat' split) <;> omega
theorem lng_is4 {a : Int} (h : 240 ≤ a) (g : a ≤ 244) : lng a = 4 := by unfold lng; (repeat' split) <;> omega
theorem mk_is2 {a : Int} (h : 194 ≤ a) (g : a ≤ 223) : mkT a = 192 := by unfold mkT; (repeat' split) <;> omega
theorem mk_is3 {a : Int} (h : 224 ≤ a) (g : a ≤ 239) : mkT a = 224 := by unfold mkT; (repeat' split) <;> omega
theorem mk_is4 {a : Int} (h : 240 ≤ a) (g : a ≤ 244) : mkT a = 240 := by unfold mkT; (repeat' split) <;> omega
theorem sec_is {a x : Int} (h : lo2 a ≤ x) (g : x ≤ hi2 a) : secB a x = true := decide_eq_true ⟨h, g⟩
theorem tl_is {x : Int} (h : 128 ≤ x) (g : x ≤ 191) : tlB x = true := decide_eq_true ⟨h, g⟩
/-- a scalar's bytes: whole at the last one, begun ahead of it, and they tell it -/
structure Scal (b : List Int) (c : Int) : Prop where
  pos : 1 ≤ b.length
  whole : how b = 2
  begun : ∀ j, 1 ≤ j → j < b.length → how (b.take j) = 1
  tells : ubits b = c
  bts : Bts b
theorem scal_byt {c : Int} (h : isB c = true) : Scal (byt c) c := by
  have hc := of_decide_eq_true h
  by_cases h1 : c < 128
  · have e : byt c = [c] := by simp [byt, h, h1]
    rw [e]
    have hl := lng_is1 h1
    have hm := (row_zero h1).2
    exact ⟨by simp, by simp [how, hl], fun j a b => by simp at b; omega, by show c - mkT c = c; omega, fun x hx => by simp at hx; subst hx; omega⟩
  by_cases h2 : c < 2048
  · have e : byt c = [192 + c / 64, 128 + c % 64] := by simp [byt, h, h1, h2]
    rw [e]
    have hl := lng_is2 (a := 192 + c / 64) (by omega) (by omega)
    have hm := mk_is2 (a := 192 + c / 64) (by omega) (by omega)
    have hs : secB (192 + c / 64) (128 + c % 64) = true := sec_is (by unfold lo2; (repeat' split) <;> omega) (by unfold hi2; (repeat' split) <;> omega)
    refine ⟨by simp, by simp [how, hl, hs], fun j a b => ?_, ?_, fun x hx => ?_⟩
    · obtain rfl : j = 1 := by simp at b; omega
      simp [how, hl]
    · show (192 + c / 64 - mkT (192 + c / 64)) * 64 + (128 + c % 64 - 128) = c
      rw [hm]; omega
    · simp at hx; omega
  by_cases h3 : c < 65536
  · have e : byt c = [224 + c / 4096, 128 + c / 64 % 64, 128 + c % 64] := by simp [byt, h, h1, h2, h3]
    rw [e]
    have hl := lng_is3 (a := 224 + c / 4096) (by omega) (by omega)
    have hm := mk_is3 (a := 224 + c / 4096) (by omega) (by omega)
    have hs : secB (224 + c / 4096) (128 + c / 64 % 64) = true := sec_is (by unfold lo2; (repeat' split) <;> omega) (by unfold hi2; (repeat' split) <;> omega)
    have ht : tlB (128 + c % 64) = true := tl_is (by omega) (by omega)
    refine ⟨by simp, by simp [how, hl, hs, ht], fun j a b => ?_, ?_, fun x hx => ?_⟩
    · have : j = 1 ∨ j = 2 := by simp at b; omega
      rcases this with rfl | rfl
      · simp [how, hl]
      · simp [how, hl, hs]
    · show ((224 + c / 4096 - mkT (224 + c / 4096)) * 64 + (128 + c / 64 % 64 - 128)) * 64 + (128 + c % 64 - 128) = c
      rw [hm]; omega
    · simp at hx; omega
  · have e : byt c = [240 + c / 262144, 128 + c / 4096 % 64, 128 + c / 64 % 64, 128 + c % 64] := by simp [byt, h, h1, h2, h3]
    rw [e]
    have hl := lng_is4 (a := 240 + c / 262144) (by omega) (by omega)
    have hm := mk_is4 (a := 240 + c / 262144) (by omega) (by omega)
    have hs : secB (240 + c / 262144) (128 + c / 4096 % 64) = true := sec_is (by unfold lo2; (repeat' split) <;> omega) (by unfold hi2; (repeat' split) <;> omega)
    have ht : tlB (128 + c / 64 % 64) = true := tl_is (by omega) (by omega)
    have ht2 : tlB (128 + c % 64) = true := tl_is (by omega) (by omega)
    refine ⟨by simp, by simp [how, hl, hs, ht, ht2], fun j a b => ?_, ?_, fun x hx => ?_⟩
    · have : j = 1 ∨ j = 2 ∨ j = 3 := by simp at b; omega
      rcases this with rfl | rfl | rfl
      · simp [how, hl]
      · simp [how, hl, hs]
      · simp [how, hl, hs, ht]
    · show (((240 + c / 262144 - mkT (240 + c / 262144)) * 64 + (128 + c / 4096 % 64 - 128)) * 64 + (128 + c / 64 % 64 - 128)) * 64 + (128 + c % 64 - 128) = c
      rw [hm]; omega
    · simp at hx; omega
theorem first_byt {c : Int} (h : isB c = true) (r : List Int) : fOk (byt c ++ r) = true ∧ fN (byt c ++ r) = (byt c).length ∧ fC (byt c ++ r) = c := by
  have hs := scal_byt h
  obtain ⟨n, hn⟩ : ∃ n, (byt c).length = n + 1 := ⟨(byt c).length - 1, by have := hs.pos; omega⟩
  have ht : (byt c ++ r).take (n + 1) = byt c := by rw [← hn]; simp
  have := first_yes (b := byt c ++ r) (k := n) (by simp; omega) (fun j a b => by
    rw [List.take_append_of_le_length (by omega)]; exact hs.begun j a (by omega)) (by rw [ht]; exact hs.whole)
  rw [ht, hs.tells, ← hn] at this
  exact this
theorem byt_pre {c d : Int} (hc : isB c = true) (hd : isB d = true) (h : (byt d).take (byt c).length = byt c) : c = d := by
  have h1 := (first_byt hc ((byt d).drop (byt c).length)).2.2
  have e : byt c ++ (byt d).drop (byt c).length = byt d := by
    have := List.take_append_drop (byt c).length (byt d)
    rw [h] at this; exact this
  rw [e] at h1
  have h2 := (first_byt hd []).2.2
  rw [List.append_nil] at h2
  rw [← h1, h2]
theorem u8_inj {m n : Int} (h0 : 0 ≤ m) (h1 : m ≤ 255) (g0 : 0 ≤ n) (g1 : n ≤ 255) (h : UInt8.ofNat m.toNat = UInt8.ofNat n.toNat) : m = n := by
  have := congrArg UInt8.toNat h
  simp at this
  omega
theorem map_inj {xs ys : List Int} (hx : Bts xs) (hy : Bts ys) (h : xs.map (fun n => UInt8.ofNat n.toNat) = ys.map (fun n => UInt8.ofNat n.toNat)) : xs = ys := by
  induction xs generalizing ys with
  | nil => cases ys with
    | nil => rfl
    | cons b ys => simp at h
  | cons a xs ih => cases ys with
    | nil => simp at h
    | cons b ys =>
      simp only [List.map_cons, List.cons.injEq] at h
      have ha := hx a (by simp)
      have hb := hy b (by simp)
      rw [u8_inj ha.1 ha.2 hb.1 hb.2 h.1, ih (fun x h => hx x (by simp [h])) (fun x h => hy x (by simp [h])) h.2]
/-- the strings of two scalars' bytes, the second cut to the first's length -/
theorem str_pre {c d : Int} (hc : isB c = true) (hd : isB d = true) (hle : (strOfNums (byt c)).size ≤ (strOfNums (byt d)).size) :
    ((strOfNums (byt c)).toList == ((strOfNums (byt d)).extract 0 (strOfNums (byt c)).size).toList) = (c == d) := by
  rw [Bool.eq_iff_iff, beq_iff_eq, beq_iff_eq, Lib.toList_data, Lib.extract_toList, strOfNums_data, strOfNums_data, strOfNums_size]
  simp only [List.drop_zero, Nat.sub_zero]
  rw [← List.map_take]
  constructor
  · intro h
    have := map_inj (scal_byt hc).bts ((scal_byt hd).bts.take _) h
    exact byt_pre hc hd this.symm
  · rintro rfl
    rw [List.take_length]
end Go.Proofs.YtdcfhkiajeiaoaaDoor

/- Contract of utf8.Bytes. -/
namespace Go.Proofs.YtdcfhkiajeiaoaaDoor
set_option maxRecDepth 100000
open Go.ChangeShapes Go.WideShapes Go.ChangeAt Go.RowKit
set_option linter.unusedVariables false

theorem bytes_any (c : Int) (w : World) : Calls Tryd.prog 79 #[.int .i32 c] w (RowRes 5 .u8 w (byt c)) := by
  go_enter Tryd.func79, Tryd.ntmps79
  go_wp2_with fail
  with_reducible refine (appendTo_any w.heap.size _ [] c w (World.ownsRow_nil _ _ _ _) (by simp) (Nat.le_refl _)).mono ?_
  rintro e w' ⟨v', rfl, hO, hb⟩
  go_wp2
  go_ret
  exact ⟨v', rfl, hO, hb⟩
end Go.Proofs.YtdcfhkiajeiaoaaDoor

/- Plain mathematics: bytes read scalar by scalar; what is begun can be brought to its end. -/
namespace Go.Proofs.YtdcfhkiajeiaoaaDoor
set_option maxRecDepth 100000
set_option linter.unusedVariables false

theorem fOk_spec {u : List Int} (h : fOk u = true) : fk u < u.length ∧ how (u.take (fk u + 1)) = 2 ∧ fN u = fk u + 1 ∧ fC u = ubits (u.take (fk u + 1)) := by
  have h' := of_decide_eq_true h
  exact ⟨h'.1, h'.2, by unfold fN; rw [h]; rfl, by unfold fC; rw [h]; rfl⟩
/-- what is read of the beginning is read of the whole, whatever stands behind it -/
theorem first_same {u v : List Int} (h : fOk u = true) (hv : v.take (fN u) = u.take (fN u)) (hl : fN u ≤ v.length) : fOk v = true ∧ fN v = fN u ∧ fC v = fC u := by
  obtain ⟨h1, h2, h3, h4⟩ := fOk_spec h
  have hs := (fk_spec u).2.1
  have ht : ∀ j, j ≤ fk u + 1 → v.take j = u.take j := fun j hj => by
    have := congrArg (List.take j) hv
    rw [List.take_take, List.take_take, Nat.min_eq_left (by omega)] at this
    exact this
  have := first_yes (b := v) (k := fk u) (by omega) (fun j a b => by rw [ht j (by omega)]; exact hs j a b) (by rw [ht _ (Nat.le_refl _)]; exact h2)
  rw [ht _ (Nat.le_refl _), ← h4, ← h3] at this
  exact this
inductive Path (b : List Int) : Nat → List Int → Prop
  | nil : Path b 0 []
  | step {n : Nat} {l : List Int} : Path b n l → n < b.length → fOk (b.drop n) = true → Path b (n + fN (b.drop n)) (l ++ [fC (b.drop n)])
theorem Path.at {b : List Int} {n : Nat} {l : List Int} (h : Path b n l) : AllAt b n l := by
  induction h with
  | nil => exact AllAt.start b
  | step _ hn ho ih => exact ih.step hn ho
theorem Path.le {b : List Int} {n : Nat} {l : List Int} (h : Path b n l) : n ≤ b.length := h.at.1
theorem Path.app {p : List Int} (t : List Int) {n : Nat} {l : List Int} (h : Path p n l) : Path (p ++ t) n l := by
  induction h with
  | nil => exact .nil
  | @step n l hp hn ho ih =>
    have hd : (p ++ t).drop n = p.drop n ++ t := List.drop_append_of_le_length (by omega)
    have hle := fN_le (p.drop n)
    obtain ⟨f1, f2, f3⟩ := first_same (v := p.drop n ++ t) ho (List.take_append_of_le_length hle) (by rw [List.length_append]; omega)
    have := Path.step ih (by rw [List.length_append]; omega) (by rw [hd]; exact f1)
    rw [hd, f2, f3] at this
    exact this
theorem Path.cut {b : List Int} {n : Nat} {l : List Int} (h : Path b n l) : ∀ m, n ≤ m → m ≤ b.length → Path (b.take m) n l := by
  induction h with
  | nil => intro m _ _; exact .nil
  | @step n l hp hn ho ih =>
    intro m hm hb
    have hpos := fN_pos ho
    have hd : (b.take m).drop n = (b.drop n).take (m - n) := by rw [List.drop_take]
    have hle := fN_le (b.drop n)
    rw [List.length_drop] at hle
    obtain ⟨f1, f2, f3⟩ := first_same (v := (b.drop n).take (m - n)) ho (by rw [List.take_take, Nat.min_eq_left (by omega)]) (by rw [List.length_take, List.length_drop]; omega)
    have := Path.step (ih m (by omega) hb) (by rw [List.length_take]; omega) (by rw [hd]; exact f1)
    rw [hd, f2, f3] at this
    exact this
/-- what All tells, by paths -/
theorem path_go (b : List Int) : ∀ (f n : Nat) (l : List Int), b.length - n < f → Path b n l →
    ((allA b f n l).2.2 = true ∧ Path b b.length (allA b f n l).1 ∧ (allA b f n l).2.1 = b.length) ∨
    ((allA b f n l).2.2 = false ∧ ∃ n' l', Path b n' l' ∧ n' < b.length ∧ fOk (b.drop n') = false ∧ (allA b f n l).2.1 = n' + fN (b.drop n'))
  | 0, n, l, hf, hp => by omega
  | f + 1, n, l, hf, hp => by
    have hle := hp.le
    rw [allA]
    by_cases hn : n < b.length
    · rw [if_pos hn]
      cases ho : fOk (b.drop n) with
      | true =>
        simp only [if_true]
        have hpos := fN_pos ho
        exact path_go b f _ _ (by omega) (hp.step hn ho)
      | false => exact .inr ⟨rfl, n, l, hp, hn, ho, rfl⟩
    · rw [if_neg hn]
      obtain rfl : n = b.length := by omega
      exact .inl ⟨rfl, hp, rfl⟩
theorem path_all (b : List Int) : ((allS b).2.2 = true ∧ Path b b.length (allS b).1 ∧ (allS b).2.1 = b.length) ∨
    ((allS b).2.2 = false ∧ ∃ n' l', Path b n' l' ∧ n' < b.length ∧ fOk (b.drop n') = false ∧ (allS b).2.1 = n' + fN (b.drop n')) :=
  path_go b _ 0 [] (by omega) .nil
theorem path_whole {b l : List Int} (h : Path b b.length l) : allS b = (l, b.length, true) := h.at.done (Nat.le_refl _)
theorem path_stuck {p t l : List Int} (h : Path p p.length l) (ht : 0 < t.length) (ho : fOk t = false) : allS (p ++ t) = ([], p.length + fN t, false) := by
  have hd : (p ++ t).drop p.length = t := by simp
  have := (h.app t).at.fail (by rw [List.length_append]; omega) (by rw [hd]; exact ho)
  rw [hd] at this; exact this
theorem path_more {p t l : List Int} (h : Path p p.length l) (hb : ∀ j, 1 ≤ j → j < t.length → how (t.take j) = 1) (hw : how t = 2) : Path (p ++ t) (p ++ t).length (l ++ [ubits t]) := by
  obtain ⟨n, hn⟩ : ∃ n, t.length = n + 1 := ⟨t.length - 1, by have := (how_len (l := t) (by rw [hw]; decide)).1; omega⟩
  have htt : t.take (n + 1) = t := by rw [← hn]; exact List.take_length
  obtain ⟨f1, f2, f3⟩ := first_yes (b := t) (k := n) (by omega) (fun j a b => hb j a (by omega)) (by rw [htt]; exact hw)
  have hd : (p ++ t).drop p.length = t := by simp
  have := (h.app t).step (by rw [List.length_append]; omega) (by rw [hd]; exact f1)
  rw [hd, f2, f3, htt, ← hn] at this
  rw [List.length_append]; exact this
/-- each beginning of what is begun is begun -/
theorem how_pre {t : List Int} (h : how t = 1 ∨ how t = 2) : ∀ j, 1 ≤ j → j < t.length → how (t.take j) = 1 := by
  have h0 : how t ≠ 0 := by rcases h with h | h <;> rw [h] <;> decide
  intro j h1 h2
  match t, h0 with
  | [], h0 => simp at h2
  | [a], h0 => simp at h2; omega
  | [a, b], h0 =>
    have hh : (if 2 ≤ lng a ∧ secB a b = true then (if lng a = 2 then (2 : Int) else 1) else 0) ≠ 0 := h0
    have c : 2 ≤ lng a ∧ secB a b = true := by
      apply Classical.byContradiction; intro hn; rw [if_neg hn] at hh; exact hh rfl
    obtain rfl : j = 1 := by simp at h2; omega
    show (if lng a = 1 then (2 : Int) else if 1 < lng a then 1 else 0) = 1
    rw [if_neg (by omega), if_pos (by omega)]
  | [a, b, d], h0 =>
    have hh : (if 3 ≤ lng a ∧ secB a b = true ∧ tlB d = true then (if lng a = 3 then (2 : Int) else 1) else 0) ≠ 0 := h0
    have c : 3 ≤ lng a ∧ secB a b = true ∧ tlB d = true := by
      apply Classical.byContradiction; intro hn; rw [if_neg hn] at hh; exact hh rfl
    have : j = 1 ∨ j = 2 := by simp at h2; omega
    rcases this with rfl | rfl
    · show (if lng a = 1 then (2 : Int) else if 1 < lng a then 1 else 0) = 1
      rw [if_neg (by omega), if_pos (by omega)]
    · show (if 2 ≤ lng a ∧ secB a b = true then (if lng a = 2 then (2 : Int) else 1) else 0) = 1
      rw [if_pos ⟨by omega, c.2.1⟩, if_neg (by omega)]
  | [a, b, d, e], h0 =>
    have hh : (if 4 ≤ lng a ∧ secB a b = true ∧ tlB d = true ∧ tlB e = true then (2 : Int) else 0) ≠ 0 := h0
    have c : 4 ≤ lng a ∧ secB a b = true ∧ tlB d = true ∧ tlB e = true := by
      apply Classical.byContradiction; intro hn; rw [if_neg hn] at hh; exact hh rfl
    have : j = 1 ∨ j = 2 ∨ j = 3 := by simp at h2; omega
    rcases this with rfl | rfl | rfl
    · show (if lng a = 1 then (2 : Int) else if 1 < lng a then 1 else 0) = 1
      rw [if_neg (by omega), if_pos (by omega)]
    · show (if 2 ≤ lng a ∧ secB a b = true then (if lng a = 2 then (2 : Int) else 1) else 0) = 1
      rw [if_pos ⟨by omega, c.2.1⟩, if_neg (by omega)]
    · show (if 3 ≤ lng a ∧ secB a b = true ∧ tlB d = true then (if lng a = 3 then (2 : Int) else 1) else 0) = 1
      rw [if_pos ⟨by omega, c.2.1, c.2.2.1⟩, if_neg (by omega)]
  | _ :: _ :: _ :: _ :: _ :: _, h0 => simp [how] at h0
theorem begun_first {t : List Int} (h : how t = 1) : fOk t = false ∧ fN t = t.length ∧ fC t = 0 :=
  first_no (Nat.le_refl _) (fun j a b => by
    rcases Nat.lt_or_ge j t.length with hj | hj
    · exact how_pre (.inl h) j a hj
    · rw [List.take_of_length_le hj]; exact h) (.inl rfl)
/-- bytes that are scalars' but for what is begun at their end; so many more may be wanted -/
structure Good (s : List Int) (more : Nat) : Prop where
  ex : ∃ p t l, s = p ++ t ∧ Path p p.length l ∧ ((t = [] ∧ True) ∨ (how t = 1 ∧ lng (t.getD 0 0) ≤ t.length + more))
/-- which bytes may stand behind it -/
def begB (s : List Int) : Bool := decide ((allS s).2.1 = s.length)
theorem good_whole {s : List Int} {m : Nat} (h : Good s m) : (allS s).2.2 = true ∨
    ((allS s).2.2 = false ∧ 0 < m ∧ (∃ y, 128 ≤ y ∧ y ≤ 191 ∧ begB (s ++ [y]) = true) ∧ ∀ y, begB (s ++ [y]) = true → Good (s ++ [y]) (m - 1)) := by
  obtain ⟨p, t, l, rfl, hp, ht⟩ := h.ex
  rcases ht with ⟨rfl, _⟩ | ⟨ht, hl⟩
  · rw [List.append_nil, path_whole hp]; exact .inl rfl
  · obtain ⟨f1, f2, f3⟩ := begun_first ht
    have hlen := how_len1 ht
    have hs := path_stuck hp (by omega) f1
    rw [hs]
    refine .inr ⟨rfl, ?_, ?_, ?_⟩
    · -- what is begun is shorter than its scalar
      match t, ht, hl with
      | [a], ht, hl =>
        have hh : (if lng a = 1 then (2 : Int) else if 1 < lng a then 1 else 0) = 1 := ht
        have : 2 ≤ lng a := by revert hh; (repeat' split) <;> omega
        have hl : lng a ≤ (1 : Nat) + m := hl
        omega
      | [a, b], ht, hl =>
        have hh : (if 2 ≤ lng a ∧ secB a b = true then (if lng a = 2 then (2 : Int) else 1) else 0) = 1 := ht
        have : 3 ≤ lng a := by revert hh; (repeat' split) <;> omega
        have hl : lng a ≤ (2 : Nat) + m := hl
        omega
      | [a, b, c], ht, hl =>
        have hh : (if 3 ≤ lng a ∧ secB a b = true ∧ tlB c = true then (if lng a = 3 then (2 : Int) else 1) else 0) = 1 := ht
        have : 4 ≤ lng a := by revert hh; (repeat' split) <;> omega
        have hl : lng a ≤ (3 : Nat) + m := hl
        omega
      | [], ht, _ => simp [how] at ht
      | _ :: _ :: _ :: _ :: _, ht, _ => have := (how_len1 ht).2; simp at this
    · obtain ⟨y, y0, y1, hy⟩ : ∃ y, 128 ≤ y ∧ y ≤ 191 ∧ how (t ++ [y]) ≠ 0 := by
        match t, ht with
        | [a], ht =>
          have hh : (if lng a = 1 then (2 : Int) else if 1 < lng a then 1 else 0) = 1 := ht
          have h2 : 2 ≤ lng a := by revert hh; (repeat' split) <;> omega
          have e1 : 128 ≤ lo2 a ∧ lo2 a ≤ hi2 a ∧ hi2 a ≤ 191 := by unfold lo2 hi2; (repeat' split) <;> omega
          refine ⟨lo2 a, by omega, by omega, ?_⟩
          have hs : secB a (lo2 a) = true := sec_is (Int.le_refl _) e1.2.1
          show (if 2 ≤ lng a ∧ secB a (lo2 a) = true then (if lng a = 2 then (2 : Int) else 1) else 0) ≠ 0
          rw [if_pos ⟨h2, hs⟩]; split <;> decide
        | [a, b], ht =>
          have hh : (if 2 ≤ lng a ∧ secB a b = true then (if lng a = 2 then (2 : Int) else 1) else 0) = 1 := ht
          have c : 2 ≤ lng a ∧ secB a b = true := by
            apply Classical.byContradiction; intro hn; rw [if_neg hn] at hh; cases hh
          have h3 : 3 ≤ lng a := by rw [if_pos c] at hh; revert hh; split <;> omega
          refine ⟨128, by omega, by omega, ?_⟩
          show (if 3 ≤ lng a ∧ secB a b = true ∧ tlB 128 = true then (if lng a = 3 then (2 : Int) else 1) else 0) ≠ 0
          rw [if_pos ⟨h3, c.2, by decide⟩]; split <;> decide
        | [a, b, d], ht =>
          have hh : (if 3 ≤ lng a ∧ secB a b = true ∧ tlB d = true then (if lng a = 3 then (2 : Int) else 1) else 0) = 1 := ht
          have c : 3 ≤ lng a ∧ secB a b = true ∧ tlB d = true := by
            apply Classical.byContradiction; intro hn; rw [if_neg hn] at hh; cases hh
          have h3 : 4 ≤ lng a := by rw [if_pos c] at hh; revert hh; split <;> omega
          refine ⟨128, by omega, by omega, ?_⟩
          show (if 4 ≤ lng a ∧ secB a b = true ∧ tlB d = true ∧ tlB 128 = true then (2 : Int) else 0) ≠ 0
          rw [if_pos ⟨h3, c.2.1, c.2.2, by decide⟩]; decide
        | [], ht => simp [how] at ht
        | _ :: _ :: _ :: _ :: _, ht => have := (how_len1 ht).2; simp at this
      refine ⟨y, y0, y1, ?_⟩
      unfold begB
      rw [List.append_assoc]
      rcases how_cases (t ++ [y]) with h0 | h1 | h2
      · exact absurd h0 hy
      · obtain ⟨g1, g2, g3⟩ := begun_first h1
        rw [path_stuck hp (by simp) g1]
        exact decide_eq_true (by simp only [g2, List.length_append])
      · rw [path_whole (path_more hp (how_pre (.inr h2)) h2)]
        exact decide_eq_true rfl
    · intro y hy
      have hy' := of_decide_eq_true hy
      rw [List.append_assoc] at hy' ⊢
      rcases how_cases (t ++ [y]) with h0 | h1 | h2
      · exfalso
        have g := first_no (b := t ++ [y]) (k := t.length) (by simp) (fun j a b => by
          rw [List.take_append_of_le_length b]
          rcases Nat.lt_or_ge j t.length with hj | hj
          · exact how_pre (.inl ht) j a hj
          · rw [List.take_of_length_le hj]; exact ht) (.inr (by rw [List.take_of_length_le (by simp)]; exact h0))
        rw [path_stuck hp (by simp) g.1, g.2.1] at hy'
        simp at hy'
      · refine ⟨p, t ++ [y], l, rfl, hp, .inr ⟨h1, ?_⟩⟩
        have e : (t ++ [y]).getD 0 0 = t.getD 0 0 := by
          match t, hlen with
          | [], h => simp at h
          | a :: r, _ => rfl
        rw [e, List.length_append]
        simp only [List.length_cons, List.length_nil]
        omega
      · exact ⟨p ++ (t ++ [y]), [], _, by rw [List.append_nil], path_more hp (how_pre (.inr h2)) h2, .inl ⟨rfl, trivial⟩⟩
theorem good_start (b : List Int) : Good (b.take (allS b).2.1) 3 := by
  rcases path_all b with ⟨_, hp, hn⟩ | ⟨_, n, l, hp, hlt, ho, hn⟩
  · rw [hn, List.take_length]
    exact ⟨b, [], _, by rw [List.append_nil], hp, .inl ⟨rfl, trivial⟩⟩
  · have hk : fN (b.drop n) = fk (b.drop n) := by unfold fN; rw [ho]; rfl
    have hsp := fk_spec (b.drop n)
    have hp' : Path (b.take n) (b.take n).length l := by
      rw [List.length_take, Nat.min_eq_left (by omega)]; exact hp.cut n (Nat.le_refl _) (by omega)
    have e : b.take (n + fk (b.drop n)) = b.take n ++ (b.drop n).take (fk (b.drop n)) := List.take_add
    rw [hn, hk, e]
    refine ⟨_, _, l, rfl, hp', ?_⟩
    rcases Nat.eq_zero_or_pos (fk (b.drop n)) with h0 | h0
    · left; rw [h0]; exact ⟨rfl, trivial⟩
    · right
      refine ⟨hsp.2.1 _ h0 (Nat.le_refl _), ?_⟩
      have := (lng_le (((b.drop n).take (fk (b.drop n))).getD 0 0)).2
      rw [List.length_take, Nat.min_eq_left hsp.1]
      omega
/-- with one byte more none can -/
theorem none_more (b more : List Int) (ho : (allS b).2.2 = false) (hn : (allS b).2.1 < b.length) : (allS (b.take ((allS b).2.1 + 1) ++ more)).2.2 = false := by
  rcases path_all b with ⟨h, _⟩ | ⟨_, n, l, hp, hlt, hof, hN⟩
  · rw [ho] at h; cases h
  · have hk : fN (b.drop n) = fk (b.drop n) := by unfold fN; rw [hof]; rfl
    have hsp := fk_spec (b.drop n)
    have hp' : Path (b.take n) (b.take n).length l := by
      rw [List.length_take, Nat.min_eq_left (by omega)]; exact hp.cut n (Nat.le_refl _) (by omega)
    rw [hN, hk] at hn ⊢
    have e : b.take (n + fk (b.drop n) + 1) = b.take n ++ (b.drop n).take (fk (b.drop n) + 1) := by rw [Nat.add_assoc]; exact List.take_add
    rw [e, List.append_assoc]
    generalize hu : b.drop n = u at *
    have hul : fk u < u.length := by rw [← hu, List.length_drop, hu]; omega
    have h0 : how (u.take (fk u + 1)) = 0 := by
      rcases how_cases (u.take (fk u + 1)) with h | h | h
      · exact h
      · rcases hsp.2.2 with h' | h'
        · omega
        · exact absurd h h'
      · exfalso
        have : fOk u = true := decide_eq_true ⟨hul, h⟩
        rw [this] at hof; cases hof
    have g := first_no (b := u.take (fk u + 1) ++ more) (k := fk u) (by rw [List.length_append, List.length_take]; omega) (fun j a c => by
      rw [List.take_append_of_le_length (by rw [List.length_take]; omega), List.take_take, Nat.min_eq_left (by omega)]
      exact hsp.2.1 j a c) (.inr (by
      rw [List.take_append_of_le_length (by rw [List.length_take]; omega), List.take_take, Nat.min_self]
      exact h0))
    rw [path_stuck hp' (by rw [List.length_append, List.length_take]; omega) g.1]
theorem allS_le (b : List Int) : (allS b).2.1 ≤ b.length ∧ ((allS b).2.2 = true → (allS b).2.1 = b.length) := by
  rcases path_all b with ⟨h, _, hn⟩ | ⟨h, n, l, hp, hlt, hof, hN⟩
  · exact ⟨by omega, fun _ => hn⟩
  · refine ⟨?_, fun k => by rw [h] at k; cases k⟩
    have := fN_le (b.drop n)
    rw [List.length_drop] at this
    omega
end Go.Proofs.YtdcfhkiajeiaoaaDoor
