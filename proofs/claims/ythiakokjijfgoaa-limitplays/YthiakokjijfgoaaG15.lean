/- Layer 15 as mathematics: limits, what was used, how many are open; what each call makes of it. No program in it. Printed by wip/gen_r15.py. -/
import Derived.Test.YthiakokjijfgoaaMem
namespace Go.Proofs.Ythiakokjijfgoaa
set_option linter.unusedVariables false

/-- five numbers: bytes, lists and objects in one another, values, scalars of a name, scalars of a string -/
structure Lm where
  b : Int
  d : Int
  n : Int
  k : Int
  t : Int
/-- limits, what was used, how many are open -/
structure Mt where
  l : Lm
  u : Lm
  o : Int
def inL (n : Int) : Bool := decide (1 ≤ n) && decide (n ≤ 1048576)
def chk (l : Lm) : Bool := inL l.b && inL l.d && inL l.n && inL l.k && inL l.t
def mt0 (l : Lm) : Mt := ⟨l, ⟨0, 0, 0, 0, 0⟩, 0⟩
def mx (a b : Int) : Int := if a < b then b else a
def byteF (m : Mt) : Int × Mt := if m.u.b = m.l.b then (10, m) else (0, { m with u := { m.u with b := m.u.b + 1 } })
def nodeF (m : Mt) : Int × Mt := if m.u.n = m.l.n then (12, m) else (0, { m with u := { m.u with n := m.u.n + 1 } })
def openF (m : Mt) : Int × Mt := if m.o = m.l.d then (11, m) else (0, { m with u := { m.u with d := mx m.u.d (m.o + 1) }, o := m.o + 1 })
def closeF (m : Mt) : Mt := { m with o := mx (m.o - 1) 0 }
def nameF (x : Int) (m : Mt) : Int × Mt := if m.l.k < x then (13, m) else (0, { m with u := { m.u with k := mx m.u.k x } })
def textF (x : Int) (m : Mt) : Int × Mt := if m.l.t < x then (14, m) else (0, { m with u := { m.u with t := mx m.u.t x } })
structure MOk (m : Mt) : Prop where
  lb : 1 ≤ m.l.b ∧ m.l.b ≤ 1048576
  ub : 0 ≤ m.u.b ∧ m.u.b ≤ m.l.b
  ld : 1 ≤ m.l.d ∧ m.l.d ≤ 1048576
  ud : 0 ≤ m.u.d ∧ m.u.d ≤ m.l.d
  ln : 1 ≤ m.l.n ∧ m.l.n ≤ 1048576
  un : 0 ≤ m.u.n ∧ m.u.n ≤ m.l.n
  lk : 1 ≤ m.l.k ∧ m.l.k ≤ 1048576
  uk : 0 ≤ m.u.k ∧ m.u.k ≤ m.l.k
  lt : 1 ≤ m.l.t ∧ m.l.t ≤ 1048576
  ut : 0 ≤ m.u.t ∧ m.u.t ≤ m.l.t
  o : 0 ≤ m.o ∧ m.o ≤ m.l.d
theorem inL_iff {n : Int} : inL n = true ↔ 1 ≤ n ∧ n ≤ 1048576 := by unfold inL; simp
theorem mt0_ok {l : Lm} (h : chk l = true) : MOk (mt0 l) := by
  unfold chk at h
  simp only [Bool.and_eq_true, inL_iff] at h
  obtain ⟨⟨⟨⟨h1, h2⟩, h3⟩, h4⟩, h5⟩ := h
  constructor <;> simp only [mt0] <;> omega
theorem mx_le {a b c : Int} (ha : a ≤ c) (hb : b ≤ c) : mx a b ≤ c := by unfold mx; split <;> omega
theorem le_mx {a b : Int} : a ≤ mx a b ∧ b ≤ mx a b := by unfold mx; split <;> omega
theorem byte_ok {m : Mt} (h : MOk m) : MOk (byteF m).2 := by
  obtain ⟨h1, h2, h3, h4, h5, h6, h7, h8, h9, h10, h11⟩ := h
  unfold byteF
  split
  · exact ⟨h1, h2, h3, h4, h5, h6, h7, h8, h9, h10, h11⟩
  · constructor <;> dsimp only <;> (try unfold mx) <;> (try split) <;> omega
theorem node_ok {m : Mt} (h : MOk m) : MOk (nodeF m).2 := by
  obtain ⟨h1, h2, h3, h4, h5, h6, h7, h8, h9, h10, h11⟩ := h
  unfold nodeF
  split
  · exact ⟨h1, h2, h3, h4, h5, h6, h7, h8, h9, h10, h11⟩
  · constructor <;> dsimp only <;> (try unfold mx) <;> (try split) <;> omega
theorem open_ok {m : Mt} (h : MOk m) : MOk (openF m).2 := by
  obtain ⟨h1, h2, h3, h4, h5, h6, h7, h8, h9, h10, h11⟩ := h
  unfold openF
  split
  · exact ⟨h1, h2, h3, h4, h5, h6, h7, h8, h9, h10, h11⟩
  · constructor <;> dsimp only <;> (try unfold mx) <;> (try split) <;> omega
theorem close_ok {m : Mt} (h : MOk m) : MOk (closeF m) := by
  obtain ⟨h1, h2, h3, h4, h5, h6, h7, h8, h9, h10, h11⟩ := h
  unfold closeF
  constructor <;> dsimp only <;> (try unfold mx) <;> (try split) <;> omega
theorem name_ok {m : Mt} {x : Int} (h : MOk m) : MOk (nameF x m).2 := by
  obtain ⟨h1, h2, h3, h4, h5, h6, h7, h8, h9, h10, h11⟩ := h
  unfold nameF
  split
  · exact ⟨h1, h2, h3, h4, h5, h6, h7, h8, h9, h10, h11⟩
  · constructor <;> dsimp only <;> (try unfold mx) <;> (try split) <;> omega
theorem text_ok {m : Mt} {x : Int} (h : MOk m) : MOk (textF x m).2 := by
  obtain ⟨h1, h2, h3, h4, h5, h6, h7, h8, h9, h10, h11⟩ := h
  unfold textF
  split
  · exact ⟨h1, h2, h3, h4, h5, h6, h7, h8, h9, h10, h11⟩
  · constructor <;> dsimp only <;> (try unfold mx) <;> (try split) <;> omega
end Go.Proofs.Ythiakokjijfgoaa
