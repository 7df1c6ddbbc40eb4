/- The codes' names: fault.Name, the document's Name, by their contracts. The list is printed by a program. -/
import Derived.Test.YtakbbhhhdcnlnaaDoorP14Is
import Derived.Deep.CutRange
import Derived.Laws.Tables
import Derived.Test.YtakbbhhhdcnlnaaDoorStr8
namespace Go.Proofs.YtakbbhhhdcnlnaaDoor
set_option maxRecDepth 100000
open Go.RowKit
set_option linter.unusedVariables false
set_option linter.unusedSimpArgs false

def nameL : List (List UInt8) := [[111, 107], [97, 114, 103, 117, 109, 101, 110, 116], [116, 101, 120, 116], [101, 110, 100], [117, 116, 102, 56], [115, 117, 114, 114, 111, 103, 97, 116, 101], [110, 111, 110, 99, 104, 97, 114, 97, 99, 116, 101, 114], [102, 114, 97, 99, 116, 105, 111, 110], [114, 97, 110, 103, 101], [116, 119, 105, 99, 101], [98, 121, 116, 101, 115], [100, 101, 112, 116, 104], [110, 111, 100, 101, 115], [107, 101, 121], [108, 111, 110, 103], [112, 111, 105, 110, 116, 101, 114], [110, 111, 110, 101], [115, 116, 97, 116, 101], [98, 105, 103], [108, 105, 110, 101]]
def nameA : Array Value := #[.string ⟨#[111, 107]⟩, .string ⟨#[97, 114, 103, 117, 109, 101, 110, 116]⟩, .string ⟨#[116, 101, 120, 116]⟩, .string ⟨#[101, 110, 100]⟩, .string ⟨#[117, 116, 102, 56]⟩, .string ⟨#[115, 117, 114, 114, 111, 103, 97, 116, 101]⟩, .string ⟨#[110, 111, 110, 99, 104, 97, 114, 97, 99, 116, 101, 114]⟩, .string ⟨#[102, 114, 97, 99, 116, 105, 111, 110]⟩, .string ⟨#[114, 97, 110, 103, 101]⟩, .string ⟨#[116, 119, 105, 99, 101]⟩, .string ⟨#[98, 121, 116, 101, 115]⟩, .string ⟨#[100, 101, 112, 116, 104]⟩, .string ⟨#[110, 111, 100, 101, 115]⟩, .string ⟨#[107, 101, 121]⟩, .string ⟨#[108, 111, 110, 103]⟩, .string ⟨#[112, 111, 105, 110, 116, 101, 114]⟩, .string ⟨#[110, 111, 110, 101]⟩, .string ⟨#[115, 116, 97, 116, 101]⟩, .string ⟨#[98, 105, 103]⟩, .string ⟨#[108, 105, 110, 101]⟩]
/-- a code's name -/
def nmF (c : Int) : List UInt8 := if 0 ≤ c ∧ c ≤ 19 then nameL.getD c.toNat [] else []
theorem nameA_at (k : Nat) (hk : k < 20) : nameA[k]? = some (.string (bs (nmF k))) := by
  have : k = 0 ∨ k = 1 ∨ k = 2 ∨ k = 3 ∨ k = 4 ∨ k = 5 ∨ k = 6 ∨ k = 7 ∨ k = 8 ∨ k = 9 ∨ k = 10 ∨ k = 11 ∨ k = 12 ∨ k = 13 ∨ k = 14 ∨ k = 15 ∨ k = 16 ∨ k = 17 ∨ k = 18 ∨ k = 19 := by omega
  rcases this with rfl | rfl | rfl | rfl | rfl | rfl | rfl | rfl | rfl | rfl | rfl | rfl | rfl | rfl | rfl | rfl | rfl | rfl | rfl | rfl <;> rfl
theorem nmF_len (c : Int) : (nmF c).length ≤ 12 := by
  unfold nmF
  split
  · rename_i h
    have : c = 0 ∨ c = 1 ∨ c = 2 ∨ c = 3 ∨ c = 4 ∨ c = 5 ∨ c = 6 ∨ c = 7 ∨ c = 8 ∨ c = 9 ∨ c = 10 ∨ c = 11 ∨ c = 12 ∨ c = 13 ∨ c = 14 ∨ c = 15 ∨ c = 16 ∨ c = 17 ∨ c = 18 ∨ c = 19 := by omega
    rcases this with rfl | rfl | rfl | rfl | rfl | rfl | rfl | rfl | rfl | rfl | rfl | rfl | rfl | rfl | rfl | rfl | rfl | rfl | rfl | rfl <;> decide
  · simp
/-- the variable fault.names holds them -/
def NmT (w : World) : Prop := VarAt w 0 nameA
theorem NmT.go {w w' : World} (h : NmT w) (hb : Below w.heap.size w w') : NmT w' := VarAt.go h hb

theorem name_any (c : Int) (w : World) (hN : NmT w) : Calls Tryd.prog 17 #[.int .i64 c] w fun e w' => e = .returned (.string (bs (nmF c))) ∧ w' = w := by
  by_cases h : 0 ≤ c ∧ c ≤ 19
  · obtain ⟨k, hk⟩ : ∃ k : Nat, c = k := ⟨c.toNat, by omega⟩
    have hlt : k < 20 := by omega
    have hc := (VarAt.cell hN k).trans (nameA_at k hlt)
    have h1 : decide (c < 0) = false := decide_eq_false (by omega)
    have h2 : decide (20 ≤ c) = false := decide_eq_false (by omega)
    have hgl := VarAt.lt hN
    subst hk
    generalize bs (nmF (k : Int)) = R at *
    clear h hN
    go_enter Tryd.func17, Tryd.ntmps17
    go_wp2
    go_ret
    exact ⟨rfl, rfl⟩
  · have e : bs (nmF c) = bs [] := by unfold nmF; rw [if_neg h]
    rw [e]
    by_cases h0 : c < 0
    · go_enter Tryd.func17, Tryd.ntmps17
      go_wp2
      go_ret
      exact ⟨rfl, rfl⟩
    · have h2 : 20 ≤ c := by omega
      go_enter Tryd.func17, Tryd.ntmps17
      go_wp2
      go_ret
      exact ⟨rfl, rfl⟩

theorem wpList_build' {P : Program} {ops : Array Oper} {rest : List Oper} {o : Oper} {a : Act} {w : World} {Q : Exit → Act → World → Prop} (hg : o.guard = none) (t : TypeId) (parts : Array (Nat × Operand)) (ho : o.op = .build t parts) (cells : Array Value)
    (hb : P.built t (parts.map fun (i, x) => (i, a.eval x)).toList = some cells) (h : wpList P ops Q rest (a.put o.dst (.agg cells)) w) : wpList P ops Q (o :: rest) a w :=
  wpList_build hg t parts ho (by rw [hb]; rfl) (by rw [hb]; exact h)
def noneA : Array Value := #[.string ⟨#[]⟩, .string ⟨#[]⟩, .string ⟨#[]⟩, .string ⟨#[]⟩, .string ⟨#[]⟩, .string ⟨#[]⟩, .string ⟨#[]⟩, .string ⟨#[]⟩, .string ⟨#[]⟩, .string ⟨#[]⟩, .string ⟨#[]⟩, .string ⟨#[]⟩, .string ⟨#[]⟩, .string ⟨#[]⟩, .string ⟨#[]⟩, .string ⟨#[]⟩, .string ⟨#[]⟩, .string ⟨#[]⟩, .string ⟨#[]⟩, .string ⟨#[]⟩]
theorem zero_names (w : World) : (zeroValue 70).run Tryd.prog w = .ok (.agg noneA) w := by kernel_rfl
theorem below_setRow {B g : Nat} {a b : World} (h : Below B a b) (hB : B ≤ g) (cs : Array Value) : Below B a (b.setRow g cs) :=
  ⟨h.os, h.tape, h.output, by rw [setRow_size]; exact h.size, fun i hi => (setRow_other b g i cs (by omega)).trans (h.block i hi)⟩
theorem rname_any (c : Int) (w : World) : Calls Tryd.prog 18 #[.int .i64 c] w fun e w' => e = .returned (.string (bs (nmF c))) ∧ Below w.heap.size w w' := by
  obtain ⟨w1, hw1⟩ : ∃ w1, Hid ((w.alloc (.cells noneA 70)).setRow w.heap.size nameA = w1) := ⟨_, Lib.hid rfl⟩
  have hZ : Hid (Blk (w.alloc (.cells noneA 70)) w.heap.size 70 noneA) := Lib.hid (Blk.new w _ _)
  have hB : Hid (Below w.heap.size w w1) := Lib.hid (by rw [← hw1.out]; exact below_setRow ((Below.refl _ _).alloc (Nat.le_refl _) _) (Nat.le_refl _) _)
  have hX : Hid (Blk w1 w.heap.size 70 nameA) := Lib.hid (by rw [← hw1.out]; exact setRow_heap _ _ _ _ _ _ hZ.out)
  have hz := zero_names
  go_enter Tryd.func18, Tryd.ntmps18
  go_upto_region 2 with (first
    | (refine wpList_build' rfl 70 _ rfl nameA (by kernel_rfl) ?_)
    | (refine wpList_store_row rfl 70 (.tmp 3) (.tmp 4) rfl w.heap.size nameA rfl rfl 70 noneA hZ.out (by kernel_rfl) rfl (by kernel_rfl) ?_))
  rw [hw1.out]
  clear hw1 hZ hz
  obtain ⟨x0, hx⟩ : ∃ x0, Hid (x0 = w.heap.size) := ⟨_, Lib.hid rfl⟩
  rw [← hx.out] at hX hB ⊢
  by_cases h : 0 ≤ c ∧ c ≤ 19
  · obtain ⟨k, hk⟩ : ∃ k : Nat, c = k := ⟨c.toNat, by omega⟩
    have hlt : k < 20 := by omega
    have hc := (hX.out.cell k).trans (nameA_at k hlt)
    have h1 : decide (c < 0) = false := decide_eq_false (by omega)
    have h2 : decide (19 < c) = false := decide_eq_false (by omega)
    have hgl := hX.out.lt
    obtain ⟨R, hR⟩ : ∃ R, Hid (bs (nmF c) = R) := ⟨_, Lib.hid rfl⟩
    rw [← hk, hR.out] at hc
    have hka : (0 : Int) ≤ c := by omega
    have hkb : c < 20 := by omega
    have hkn : c.toNat = k := by omega
    clear h
    subst hk
    go_wp2
    go_ret
    exact ⟨by rw [hR.out]; rfl, by rw [← hx.out]; exact hB.out⟩
  · have e : Hid (bs (nmF c) = bs []) := Lib.hid (by unfold nmF; rw [if_neg h])
    by_cases h0 : c < 0
    · clear h
      go_wp2
      go_ret
      exact ⟨by rw [e.out]; rfl, by rw [← hx.out]; exact hB.out⟩
    · have h2 : 19 < c := by omega
      clear h
      go_wp2
      go_ret
      exact ⟨by rw [e.out]; rfl, by rw [← hx.out]; exact hB.out⟩
end Go.Proofs.YtakbbhhhdcnlnaaDoor
