/- Joined of: R12A, R12St, N12Push. -/
import Derived.Test.YtdcfhkiajeiaoaaDoorJ12D
import Derived.Test.YtdcfhkiajeiaoaaDoorJ12C
import Derived.Test.YtdcfhkiajeiaoaaDoorJ12A
import Derived.Laws.Strings2
import Derived.Test.YtdcfhkiajeiaoaaDoorJ12F
/- The document's string: a digit, an escape of one letter. -/
namespace Go.Proofs.YtdcfhkiajeiaoaaDoor
set_option maxRecDepth 100000
open Go.ChangeShapes Go.WideShapes Go.ChangeAt Go.RowKit
set_option linter.unusedVariables false
set_option linter.unusedSimpArgs false

theorem r_hex_any (x : Int) (w : World) (h0 : 0 ≤ x) (h1 : x ≤ 255) : Calls Tryd.prog 54 #[.int .u8 x] w fun e w' => e = .returned (.int .i64 (hexF x)) ∧ w = w' := by
  obtain ⟨r, hr⟩ : ∃ r, hexF x = r := ⟨_, rfl⟩
  rw [hr]
  have hv : (48 ≤ x ∧ x ≤ 57 ∧ r = x - 48) ∨ (97 ≤ x ∧ x ≤ 102 ∧ r = x - 97 + 10) ∨ (65 ≤ x ∧ x ≤ 70 ∧ r = x - 65 + 10) ∨ (¬ (48 ≤ x ∧ x ≤ 57) ∧ ¬ (97 ≤ x ∧ x ≤ 102) ∧ ¬ (65 ≤ x ∧ x ≤ 70) ∧ r = -1) := by
    subst hr
    unfold hexF
    by_cases a1 : 48 ≤ x ∧ x ≤ 57
    · rw [if_pos a1]; exact .inl ⟨a1.1, a1.2, rfl⟩
    · by_cases a2 : 97 ≤ x ∧ x ≤ 102
      · rw [if_neg a1, if_pos a2]; exact .inr (.inl ⟨a2.1, a2.2, by omega⟩)
      · by_cases a3 : 65 ≤ x ∧ x ≤ 70
        · rw [if_neg a1, if_neg a2, if_pos a3]; exact .inr (.inr (.inl ⟨a3.1, a3.2, by omega⟩))
        · rw [if_neg a1, if_neg a2, if_neg a3]
          exact .inr (.inr (.inr ⟨a1, a2, a3, rfl⟩))
  clear hr
  rcases hv with ⟨a1, a2, rfl⟩ | ⟨a1, a2, rfl⟩ | ⟨a1, a2, rfl⟩ | ⟨a1, a2, a3, rfl⟩
  · have b1 : (48 : Int) ≤ x := a1
    go_enter Tryd.func54, Tryd.ntmps54
    go_wp2
    go_ret
    exact ⟨rfl, rfl⟩
  · have b1 : ¬ x ≤ 57 := by omega
    have b2 : (48 : Int) ≤ x := by omega
    go_enter Tryd.func54, Tryd.ntmps54
    go_wp2
    go_ret
    exact ⟨rfl, rfl⟩
  · have b1 : ¬ x ≤ 57 := by omega
    have b2 : (48 : Int) ≤ x := by omega
    have b3 : ¬ (97 : Int) ≤ x := by omega
    go_enter Tryd.func54, Tryd.ntmps54
    go_wp2
    go_ret
    exact ⟨rfl, rfl⟩
  · by_cases c1 : 48 ≤ x
    · have d1 : ¬ x ≤ 57 := by omega
      by_cases c2 : 65 ≤ x
      · have d2 : ¬ x ≤ 70 := by omega
        by_cases c3 : 97 ≤ x
        · have d3 : ¬ x ≤ 102 := by omega
          clear a1 a2 a3
          go_enter Tryd.func54, Tryd.ntmps54
          go_wp2
          go_ret
          exact ⟨rfl, rfl⟩
        · clear a1 a2 a3
          go_enter Tryd.func54, Tryd.ntmps54
          go_wp2
          go_ret
          exact ⟨rfl, rfl⟩
      · have c3 : ¬ 97 ≤ x := by omega
        clear a1 a2 a3
        go_enter Tryd.func54, Tryd.ntmps54
        go_wp2
        go_ret
        exact ⟨rfl, rfl⟩
    · have c2 : ¬ 65 ≤ x := by omega
      have c3 : ¬ 97 ≤ x := by omega
      clear a1 a2 a3
      go_enter Tryd.func54, Tryd.ntmps54
      go_wp2
      go_ret
      exact ⟨rfl, rfl⟩
def fromL : List Int := [34, 92, 47, 98, 102, 110, 114, 116]
theorem simp_none {x : Int} (h : x ∉ fromL) : simpF x = -1 := by
  have hn : ¬ (x = 34 ∨ x = 92 ∨ x = 47 ∨ x = 98 ∨ x = 102 ∨ x = 110 ∨ x = 114 ∨ x = 116) := fun hh => h (by unfold fromL; simpa using hh)
  unfold simpF
  (repeat' split) <;> omega
set_option maxHeartbeats 4000000 in
theorem r_simple_any (x : Int) (w : World) (h0 : 0 ≤ x) (h1 : x ≤ 255) : Calls Tryd.prog 55 #[.int .u8 x] w fun e w' => e = .returned (.int .i32 (simpF x)) ∧ w = w' := by
  obtain ⟨r, hr⟩ : ∃ r, simpF x = r := ⟨_, rfl⟩
  rw [hr]
  have HR := Lib.hid hr
  clear hr
  go_enter Tryd.func55, Tryd.ntmps55
  go_wp2_with fail
  go_loop [3] (fun v => ∃ k : Nat, v = .int .i64 k ∧ k ≤ 8 ∧ x ∉ fromL.take k) (fun v => 8 - (intOf v).toNat)
  case atStart => exact ⟨0, rfl, by omega, by simp⟩
  case round =>
    obtain ⟨k, rfl, hk, hni⟩ := hrel
    have HN := Lib.hid hni
    clear hni
    have hkc : k = 0 ∨ k = 1 ∨ k = 2 ∨ k = 3 ∨ k = 4 ∨ k = 5 ∨ k = 6 ∨ k = 7 ∨ k = 8 := by omega
    rcases hkc with rfl | rfl | rfl | rfl | rfl | rfl | rfl | rfl | rfl
    · have hfr : ((((⟨#[34, 92, 47, 98, 102, 110, 114, 116]⟩ : ByteArray)[0]'(by decide)).toNat : Nat) : Int) = 34 := rfl
      have hto : ((((⟨#[34, 92, 47, 8, 12, 10, 13, 9]⟩ : ByteArray)[0]'(by decide)).toNat : Nat) : Int) = 34 := rfl
      by_cases hx : x = 34
      · subst hx
        have hrr : r = 34 := by rw [← HR.out]; rfl
        subst hrr
        clear HN HR
        go_wp2
        go_ret
        exact ⟨rfl, rfl⟩
      · have hb : ((34 : Int) == x) = false := by rw [beq_eq_false_iff_ne]; omega
        have HX := Lib.hid hx
        clear hx
        go_wp2
        go_round
        case rel => exact ⟨1, rfl, by omega, fun h => by
          have h2 : x ∈ fromL.take 0 ++ [34] := h
          rcases List.mem_append.1 h2 with h3 | h3
          · exact HN.out h3
          · exact HX.out (List.mem_singleton.1 h3)⟩
        case measure => simp [intOf]
    · have hfr : ((((⟨#[34, 92, 47, 98, 102, 110, 114, 116]⟩ : ByteArray)[1]'(by decide)).toNat : Nat) : Int) = 92 := rfl
      have hto : ((((⟨#[34, 92, 47, 8, 12, 10, 13, 9]⟩ : ByteArray)[1]'(by decide)).toNat : Nat) : Int) = 92 := rfl
      by_cases hx : x = 92
      · subst hx
        have hrr : r = 92 := by rw [← HR.out]; rfl
        subst hrr
        clear HN HR
        go_wp2
        go_ret
        exact ⟨rfl, rfl⟩
      · have hb : ((92 : Int) == x) = false := by rw [beq_eq_false_iff_ne]; omega
        have HX := Lib.hid hx
        clear hx
        go_wp2
        go_round
        case rel => exact ⟨2, rfl, by omega, fun h => by
          have h2 : x ∈ fromL.take 1 ++ [92] := h
          rcases List.mem_append.1 h2 with h3 | h3
          · exact HN.out h3
          · exact HX.out (List.mem_singleton.1 h3)⟩
        case measure => simp [intOf]
    · have hfr : ((((⟨#[34, 92, 47, 98, 102, 110, 114, 116]⟩ : ByteArray)[2]'(by decide)).toNat : Nat) : Int) = 47 := rfl
      have hto : ((((⟨#[34, 92, 47, 8, 12, 10, 13, 9]⟩ : ByteArray)[2]'(by decide)).toNat : Nat) : Int) = 47 := rfl
      by_cases hx : x = 47
      · subst hx
        have hrr : r = 47 := by rw [← HR.out]; rfl
        subst hrr
        clear HN HR
        go_wp2
        go_ret
        exact ⟨rfl, rfl⟩
      · have hb : ((47 : Int) == x) = false := by rw [beq_eq_false_iff_ne]; omega
        have HX := Lib.hid hx
        clear hx
        go_wp2
        go_round
        case rel => exact ⟨3, rfl, by omega, fun h => by
          have h2 : x ∈ fromL.take 2 ++ [47] := h
          rcases List.mem_append.1 h2 with h3 | h3
          · exact HN.out h3
          · exact HX.out (List.mem_singleton.1 h3)⟩
        case measure => simp [intOf]
    · have hfr : ((((⟨#[34, 92, 47, 98, 102, 110, 114, 116]⟩ : ByteArray)[3]'(by decide)).toNat : Nat) : Int) = 98 := rfl
      have hto : ((((⟨#[34, 92, 47, 8, 12, 10, 13, 9]⟩ : ByteArray)[3]'(by decide)).toNat : Nat) : Int) = 8 := rfl
      by_cases hx : x = 98
      · subst hx
        have hrr : r = 8 := by rw [← HR.out]; rfl
        subst hrr
        clear HN HR
        go_wp2
        go_ret
        exact ⟨rfl, rfl⟩
      · have hb : ((98 : Int) == x) = false := by rw [beq_eq_false_iff_ne]; omega
        have HX := Lib.hid hx
        clear hx
        go_wp2
        go_round
        case rel => exact ⟨4, rfl, by omega, fun h => by
          have h2 : x ∈ fromL.take 3 ++ [98] := h
          rcases List.mem_append.1 h2 with h3 | h3
          · exact HN.out h3
          · exact HX.out (List.mem_singleton.1 h3)⟩
        case measure => simp [intOf]
    · have hfr : ((((⟨#[34, 92, 47, 98, 102, 110, 114, 116]⟩ : ByteArray)[4]'(by decide)).toNat : Nat) : Int) = 102 := rfl
      have hto : ((((⟨#[34, 92, 47, 8, 12, 10, 13, 9]⟩ : ByteArray)[4]'(by decide)).toNat : Nat) : Int) = 12 := rfl
      by_cases hx : x = 102
      · subst hx
        have hrr : r = 12 := by rw [← HR.out]; rfl
        subst hrr
        clear HN HR
        go_wp2
        go_ret
        exact ⟨rfl, rfl⟩
      · have hb : ((102 : Int) == x) = false := by rw [beq_eq_false_iff_ne]; omega
        have HX := Lib.hid hx
        clear hx
        go_wp2
        go_round
        case rel => exact ⟨5, rfl, by omega, fun h => by
          have h2 : x ∈ fromL.take 4 ++ [102] := h
          rcases List.mem_append.1 h2 with h3 | h3
          · exact HN.out h3
          · exact HX.out (List.mem_singleton.1 h3)⟩
        case measure => simp [intOf]
    · have hfr : ((((⟨#[34, 92, 47, 98, 102, 110, 114, 116]⟩ : ByteArray)[5]'(by decide)).toNat : Nat) : Int) = 110 := rfl
      have hto : ((((⟨#[34, 92, 47, 8, 12, 10, 13, 9]⟩ : ByteArray)[5]'(by decide)).toNat : Nat) : Int) = 10 := rfl
      by_cases hx : x = 110
      · subst hx
        have hrr : r = 10 := by rw [← HR.out]; rfl
        subst hrr
        clear HN HR
        go_wp2
        go_ret
        exact ⟨rfl, rfl⟩
      · have hb : ((110 : Int) == x) = false := by rw [beq_eq_false_iff_ne]; omega
        have HX := Lib.hid hx
        clear hx
        go_wp2
        go_round
        case rel => exact ⟨6, rfl, by omega, fun h => by
          have h2 : x ∈ fromL.take 5 ++ [110] := h
          rcases List.mem_append.1 h2 with h3 | h3
          · exact HN.out h3
          · exact HX.out (List.mem_singleton.1 h3)⟩
        case measure => simp [intOf]
    · have hfr : ((((⟨#[34, 92, 47, 98, 102, 110, 114, 116]⟩ : ByteArray)[6]'(by decide)).toNat : Nat) : Int) = 114 := rfl
      have hto : ((((⟨#[34, 92, 47, 8, 12, 10, 13, 9]⟩ : ByteArray)[6]'(by decide)).toNat : Nat) : Int) = 13 := rfl
      by_cases hx : x = 114
      · subst hx
        have hrr : r = 13 := by rw [← HR.out]; rfl
        subst hrr
        clear HN HR
        go_wp2
        go_ret
        exact ⟨rfl, rfl⟩
      · have hb : ((114 : Int) == x) = false := by rw [beq_eq_false_iff_ne]; omega
        have HX := Lib.hid hx
        clear hx
        go_wp2
        go_round
        case rel => exact ⟨7, rfl, by omega, fun h => by
          have h2 : x ∈ fromL.take 6 ++ [114] := h
          rcases List.mem_append.1 h2 with h3 | h3
          · exact HN.out h3
          · exact HX.out (List.mem_singleton.1 h3)⟩
        case measure => simp [intOf]
    · have hfr : ((((⟨#[34, 92, 47, 98, 102, 110, 114, 116]⟩ : ByteArray)[7]'(by decide)).toNat : Nat) : Int) = 116 := rfl
      have hto : ((((⟨#[34, 92, 47, 8, 12, 10, 13, 9]⟩ : ByteArray)[7]'(by decide)).toNat : Nat) : Int) = 9 := rfl
      by_cases hx : x = 116
      · subst hx
        have hrr : r = 9 := by rw [← HR.out]; rfl
        subst hrr
        clear HN HR
        go_wp2
        go_ret
        exact ⟨rfl, rfl⟩
      · have hb : ((116 : Int) == x) = false := by rw [beq_eq_false_iff_ne]; omega
        have HX := Lib.hid hx
        clear hx
        go_wp2
        go_round
        case rel => exact ⟨8, rfl, by omega, fun h => by
          have h2 : x ∈ fromL.take 7 ++ [116] := h
          rcases List.mem_append.1 h2 with h3 | h3
          · exact HN.out h3
          · exact HX.out (List.mem_singleton.1 h3)⟩
        case measure => simp [intOf]
    · have hrr : r = -1 := by rw [← HR.out]; exact simp_none (fun h => HN.out h)
      subst hrr
      clear HN HR
      go_wp2
      go_ret
      exact ⟨rfl, rfl⟩
end Go.Proofs.YtdcfhkiajeiaoaaDoor

/- The document's string by what was pushed: its cells and rows; what stays. No walk in it. -/
namespace Go.Proofs.YtdcfhkiajeiaoaaDoor
set_option maxRecDepth 100000
open Go.ChangeShapes Go.WideShapes Go.ChangeAt Go.RowKit
set_option linter.unusedVariables false
set_option linter.unusedSimpArgs false

abbrev I32r (w : World) (base : Nat) (v : Value) (xs : List Int) : Prop := Own w base 21 .i32 v xs
abbrev I64r (w : World) (base : Nat) (v : Value) (xs : List Int) : Prop := Own w base 3 .i64 v xs
abbrev RefBlk (w : World) (a : Nat) (ov bv : Value) (e : Int) (hv : Value) (k : Int) (v : Bool) : Prop := Blk w a 30 #[ov, bv, .int .i64 e, hv, .int .u16 k, .bool v]
/-- the document's string: what is said, what is begun, digits, in rows of its own -/
structure RStr (w : World) (base a : Nat) (ov bv hv : Value) (s : Ss) : Prop where
  ok : SOk s
  len : s.o.length ≤ 100000
  blk : RefBlk w a ov bv s.e hv s.k s.v
  o : I32r w base ov s.o
  b : U8r w base bv s.b
  h : I64r w base hv s.h
  la : base ≤ a
theorem RStr.go {w w' : World} {base a : Nat} {ov bv hv : Value} {s : Ss} (h : RStr w base a ov bv hv s) (hb : Below w.heap.size w w') : RStr w' base a ov bv hv s :=
  ⟨h.ok, h.len, h.blk.below hb h.blk.lt, own_below h.o hb (Nat.le_refl _), own_below h.b hb (Nat.le_refl _), own_below h.h hb (Nat.le_refl _), h.la⟩
/-- what a call makes of it -/
def DRes (base a : Nat) (ov bv : Value) (s' : Ss) (v : Value) (w : World) (e : Ending) (w' : World) : Prop :=
  e = .returned v ∧ ∃ ov' bv' hv', RStr w' base a ov' bv' hv' s' ∧ SFr a a ov w w' ∧ RowTo w ov ov' ∧ RowTo w bv bv'
theorem DRes.still {base a : Nat} {ov bv hv : Value} {s : Ss} {v : Value} {w w' : World} {e : Ending} (h : RStr w base a ov bv hv s) (he : e = .returned v) (hb : Below w.heap.size w w') : DRes base a ov bv s v w e w' :=
  ⟨he, ov, bv, hv, h.go hb, SFr.of_below hb, RowTo.refl _ _, RowTo.refl _ _⟩
theorem RowTo.nil (w : World) (v : Value) (n c : Nat) : RowTo w v (.slice none n c) := .inr fun k hk => by cases hk
/-- two rows of unlike kinds lie apart -/
theorem rown_apart {w : World} {base base2 : Nat} {v v2 : Value} {xs ys : List Int} {e e2 : TypeId} {k k2 : IntKind} (h : Own w base e k v xs) (h2 : Own w base2 e2 k2 v2 ys) (he : e ≠ e2) : ∀ q, v.ownBlock = some q → v2.ownBlock ≠ some q := fun q hq hq2 => by
  rcases h.2 with ⟨e1, _⟩ | ⟨b, cap, cur, hv, hb, hh, _⟩
  · rw [e1] at hq; cases hq
  · rcases h2.2 with ⟨e1, _⟩ | ⟨b2, cap2, cur2, hv2, hb2, hh2, _⟩
    · rw [e1] at hq2; cases hq2
    · rw [hv] at hq
      rw [hv2] at hq2
      have e1 : b = q := by simpa [Value.ownBlock] using hq
      have e2 : b2 = q := by simpa [Value.ownBlock] using hq2
      rw [e1] at hh
      rw [e2, hh] at hh2
      injection hh2 with hh2
      injection hh2 with _ h3
      exact he h3
/-- a row that the frame leaves -/
theorem rown_frame {w w' : World} {base g bb : Nat} {v u : Value} {xs : List Int} {e : TypeId} {k : IntKind} (h : Own w base e k u xs) (hf : SFr g bb v w w') (hu : ∀ q, u.ownBlock = some q → q ≠ g ∧ q ≠ bb ∧ v.ownBlock ≠ some q) : Own w' base e k u xs := by
  refine ⟨h.1, ?_⟩
  rcases h.2 with h2 | ⟨b, cap, cur, hv, hb, hh, h3⟩
  · exact .inl h2
  · obtain ⟨a1, a2, a3⟩ := hu b (by rw [hv]; rfl)
    exact .inr ⟨b, cap, cur, hv, hb, (hf.block b (Array.getElem?_eq_some_iff.1 hh).1 a1 a2 a3).trans hh, h3⟩
theorem rown_size {w : World} {base : Nat} {v : Value} {xs : List Int} {e : TypeId} {k : IntKind} (h : Own w base e k v xs) : ∀ q, v.ownBlock = some q → q < w.heap.size := fun q hq => by
  rcases h.2 with ⟨e1, _⟩ | ⟨b, cap, cur, hv, hb, hh, _⟩
  · rw [e1] at hq; cases hq
  · rw [hv] at hq
    have e1 : b = q := by simpa [Value.ownBlock] using hq
    rw [← e1]
    exact (Array.getElem?_eq_some_iff.1 hh).1
end Go.Proofs.YtdcfhkiajeiaoaaDoor

/- The laws' push by its contract; how strings stay apart. -/
namespace Go.Proofs.YtdcfhkiajeiaoaaDoor
set_option maxRecDepth 100000
open Go.ChangeShapes Go.WideShapes Go.ChangeAt Go.RowKit
set_option linter.unusedVariables false
set_option linter.unusedSimpArgs false

/-- a text's bytes as numbers -/
def N8 (b : ByteArray) : List Int := (L8 b).map fun c => (c.toNat : Int)
theorem N8_len (b : ByteArray) : (N8 b).length = b.size := by unfold N8; rw [List.length_map, L8_len]
theorem N8_drop (b : ByteArray) (k : Nat) (h : k < b.size) : (N8 b).drop k = (b[k].toNat : Int) :: (N8 b).drop (k + 1) := by
  unfold N8
  rw [← List.map_drop, ← List.map_drop, L8_drop b k h]
  rfl
theorem feed_step (s : Ss) (x : Int) (l : List Int) (i : Nat) : feedS s (x :: l) i = if (pushS s x).2.1 ≠ 0 ∨ (pushS s x).1 = true then (i, (pushS s x).2.1, (pushS s x).1, (pushS s x).2.2) else feedS (pushS s x).2.2 l (i + 1) := by rw [feedS]
theorem StrIs.low {w : World} {base g bb : Nat} {sv : Value} {s : Ss} (h : StrIs w base g bb sv s) : base ≤ g ∧ base ≤ bb ∧ ∀ q, sv.ownBlock = some q → base ≤ q := by
  obtain ⟨d, z, hm, _⟩ := h.m
  exact ⟨hm.lg, hm.lb.1, rown_low hm.own⟩
/-- what happens to another string leaves this one as it is -/
theorem StrIs.far {w w' : World} {base g bb base2 g2 bb2 : Nat} {sv sv2 : Value} {s s2 : Ss} (h : StrIs w base g bb sv s) (h2 : StrIs w base2 g2 bb2 sv2 s2) (hf : SFr g2 bb2 sv2 w w') (hg : g ≠ g2) (hb : bb ≠ bb2) (hs2 : sv2.ownBlock ≠ some bb) (hs : ∀ q, sv.ownBlock = some q → q ≠ bb2 ∧ sv2.ownBlock ≠ some q) : StrIs w' base g bb sv s := by
  obtain ⟨d, z, hm, hd⟩ := h.m
  obtain ⟨d2, z2, hm2, _⟩ := h2.m
  have e1 : g ≠ bb2 := fun e => by
    have := rown_ne hm2.beg hm.blk (by decide)
    exact this (by rw [e]; rfl)
  have e2 : sv2.ownBlock ≠ some g := rown_ne hm2.own hm.blk (by decide)
  have e3 : bb ≠ g2 := fun e => by
    have := rown_ne hm.beg hm2.blk (by decide)
    exact this (by rw [← e]; rfl)
  refine ⟨h.ok, h.len, d, z, ⟨(hf.block g hm.blk.lt hg e1 e2).trans hm.blk, ?_, ?_, hm.ne, hm.lg⟩, hd⟩
  · exact rown_frame hm.own hf (fun q hq => ⟨fun e => by rw [e] at hq; exact rown_ne hm.own hm2.blk (by decide) hq, (hs q hq).1, (hs q hq).2⟩)
  · exact rown_frame hm.beg hf (fun q hq => by
      have e : q = bb := by simpa [Value.ownBlock] using hq.symm
      subst e
      exact ⟨e3, hb, hs2⟩)
def PL12 (W : World) (base g bb : Nat) (sv : Value) (s : Ss) (b : ByteArray) (i : Value) (wr : World) : Prop :=
  ∃ (k : Nat) (sv' : Value) (s' : Ss), k ≤ b.size ∧ i = .int .i64 k ∧ StrIs wr base g bb sv' s' ∧ SFr g bb sv W wr ∧ RowTo W sv sv' ∧ s'.o.length ≤ s.o.length + k ∧ feedS s (N8 b) 0 = feedS s' ((N8 b).drop k) k
def FRes (base g bb : Nat) (sv : Value) (F : Nat × Int × Bool × Ss) (w : World) (e : Ending) (w' : World) : Prop :=
  e = .returned (.tuple #[.int .i64 (F.1 : Int), .int .i64 F.2.1, .bool F.2.2.1]) ∧ ∃ sv', StrIs w' base g bb sv' F.2.2.2 ∧ SFr g bb sv w w' ∧ RowTo w sv sv'
theorem fres_of {base g bb : Nat} {sv : Value} {F : Nat × Int × Bool × Ss} {k : Nat} {r : Int} {o : Bool} {s' : Ss} {w w' : World} {e : Ending} (hF : F = (k, r, o, s')) (he : e = .returned (.tuple #[.int .i64 (k : Int), .int .i64 r, .bool o])) (h : ∃ sv', StrIs w' base g bb sv' s' ∧ SFr g bb sv w w' ∧ RowTo w sv sv') : FRes base g bb sv F w e w' := by
  subst hF
  exact ⟨he, h⟩
set_option maxHeartbeats 8000000 in
theorem strpush_law (base g bb : Nat) (sv : Value) (s : Ss) (b : ByteArray) (W : World) (h : StrIs W base g bb sv s) (hT : Tab W) (hlead : 0 < base) (hbase : base ≤ W.heap.size) (hlo : s.o.length + b.size + 1 ≤ 100000) :
    Calls Tryd.prog 18 #[.pointer (some ⟨g, 0, none⟩), .string b] W (FRes base g bb sv (feedS s (N8 b) 0) W) := by
  obtain ⟨F, hF⟩ : ∃ F, feedS s (N8 b) 0 = F := ⟨_, rfl⟩
  rw [hF]
  have HF := Lib.hid hF
  have H := Lib.hid h
  have HT := Lib.hid hT
  have HLOW := Lib.hid h.low
  clear h hT hF
  go_enter Tryd.func18, Tryd.ntmps18
  go_wp2_with fail
  go_loopw [7] (fun i wr => PL12 W base g bb sv s b i wr) (fun i _ => b.size - (intOf i).toNat)
  case atStart => exact ⟨0, sv, s, by omega, rfl, H.out, SFr.refl _ _ _ _, RowTo.refl _ _, by omega, by rw [List.drop_zero]⟩
  case round =>
    obtain ⟨k, sv', s', hk, rfl, hs, hf, hr, hol, hfe⟩ := hrel
    have HS := Lib.hid hs
    have HFR := Lib.hid hf
    have HRT := Lib.hid hr
    have hT2 : Tab wr := HT.out.below (hf.low hbase HLOW.out.1 HLOW.out.2.1 HLOW.out.2.2) hlead
    by_cases hlt : k < b.size
    · have hlt' : (k : Int) < b.size := by omega
      rw [N8_drop b k hlt, feed_step] at hfe
      have hb0 := b[k].toNat_lt
      have HPU := Lib.hid (strpush_any base g bb sv' s' (b[k].toNat : Int) wr hs (by omega) (by omega) hT2 hlead (Nat.le_trans hbase hf.size) (by omega))
      have hpl := push_len s' (b[k].toNat : Int)
      obtain ⟨o, r, s2, hp⟩ : ∃ o r s2, pushS s' (b[k].toNat : Int) = (o, r, s2) := ⟨_, _, _, rfl⟩
      rw [hp] at HPU hfe hpl
      dsimp only at HPU hfe hpl
      clear hs hf hr hT2 hp
      by_cases hend : r ≠ 0 ∨ o = true
      · rw [if_pos hend, HF.out] at hfe
        have HFE := Lib.hid hfe
        clear hfe
        have hcs : (r != 0) = true ∨ (r = 0 ∧ o = true) := by
          by_cases h0 : r = 0
          · right; exact ⟨h0, by rcases hend with h | h; exact absurd h0 h; exact h⟩
          · left; simpa using h0
        clear hend
        go_wp2_with fail
        with_reducible refine HPU.out.mono ?_
        rintro e w1 ⟨rfl, sv2, p1, p2, p3⟩
        have HQ : Hid (StrIs w1 base g bb sv2 s2 ∧ SFr g bb sv W w1 ∧ RowTo W sv sv2) := Lib.hid ⟨p1, HFR.out.trans HRT.out p2, HRT.out.trans p3 HFR.out.size⟩
        clear p1 p2 p3
        rcases hcs with hrb | ⟨rfl, rfl⟩
        · go_wp2_with fail
          go_ret3
          exact fres_of HFE.out rfl ⟨sv2, HQ.out⟩
        · go_wp2_with fail
          go_ret3
          exact fres_of HFE.out rfl ⟨sv2, HQ.out⟩
      · rw [if_neg hend] at hfe
        have hr0 : r = 0 := Classical.byContradiction fun h => hend (.inl h)
        have ho0 : o = false := by cases o; rfl; exact absurd (.inr rfl) hend
        subst hr0 ho0
        have HFE := Lib.hid hfe
        clear hfe hend
        go_wp2_with fail
        with_reducible refine HPU.out.mono ?_
        rintro e w1 ⟨rfl, sv2, p1, p2, p3⟩
        have HQ : Hid (StrIs w1 base g bb sv2 s2 ∧ SFr g bb sv W w1 ∧ RowTo W sv sv2) := Lib.hid ⟨p1, HFR.out.trans HRT.out p2, HRT.out.trans p3 HFR.out.size⟩
        clear p1 p2 p3
        go_wp2
        go_roundw
        case rel => exact ⟨k + 1, sv2, s2, by omega, by go_num, HQ.out.1, HQ.out.2.1, HQ.out.2.2, by omega, HFE.out⟩
        case measure => simp [intOf]; omega
    · have hlt' : ¬ (k : Int) < b.size := by omega
      have hkd : (N8 b).drop k = [] := List.drop_eq_nil_of_le (by rw [N8_len]; omega)
      have hkk : k = b.size := by omega
      rw [hkd, HF.out] at hfe
      have hfe2 : F = (k, 0, false, s') := hfe
      rw [hkk] at hfe2
      have HFE := Lib.hid hfe2
      clear hfe hfe2 hkd hs hf hr hT2
      go_wp2_with fail
      go_ret3
      exact fres_of HFE.out rfl ⟨sv', HS.out, HFR.out, HRT.out⟩
end Go.Proofs.YtdcfhkiajeiaoaaDoor
