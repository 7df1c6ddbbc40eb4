/- Joined of: C8MarkM, C8MarkWalk. -/
import Derived.Test.YtmedpgpokenddaaJ8O
import Derived.Test.YtmedpgpokenddaaJ8D
import Derived.BigQuiet
import Derived.Deep.QuietTactic
/- Layer 8: letters with marks, as mathematics and by the kernel. -/
namespace Go.Proofs.Ytmedpgpokenddaa
set_option linter.unusedVariables false

def mks : List Nat := [769, 776, 803, 807, 820, 795, 837, 778]
def lts : List Nat := [97, 101, 111, 117, 65, 945, 1081, 113]
theorem kMk : (mks.all fun m => Nat.blt 0 (lk C5 m 0) && !hasBit keysB m) = true := by kernel_rfl
theorem kLt : (lts.all fun m => Nat.beq (lk C5 m 0) 0 && (Nat.beq m 1081 || !hasBit keysB m)) = true := by kernel_rfl
theorem kI1 : ((lkP P5 1081 none).map fun p => (p.x, p.y)) = some (1080, 774) := by kernel_rfl
theorem kI2 : (Nat.beq (lk S5 1081 0) 0 && (Nat.beq (lk C5 1080 0) 0 && (Nat.blt 0 (lk C5 774 0) && (!hasBit keysB 1080 && !hasBit keysB 774)))) = true := by kernel_rfl
attribute [local irreducible] P5 S5 C5 cl5 two5 keysB
def Mk (x : Int) : Prop := ∃ m ∈ mks, x = ((m : Nat) : Int)
def Lt (x : Int) : Prop := ∃ m ∈ lts, x = ((m : Nat) : Int)
theorem mk_bd : ∀ m ∈ mks, m < 44032 := by decide
theorem lt_bd : ∀ m ∈ lts, m < 44032 := by decide
theorem mk_fact {x : Int} (h : Mk x) : 0 < cl5 x ∧ Plain T5 x ∧ R32 x := by
  obtain ⟨m, hm, rfl⟩ := h
  have hk := List.all_eq_true.1 kMk m hm
  rw [Bool.and_eq_true] at hk
  have hb := mk_bd m hm
  have h1 := Nat.le_of_ble_eq_true hk.1
  refine ⟨by rw [cl5_at]; omega, plain_at hb hk.2, by unfold R32; omega⟩
/-- what a letter is in parts -/
theorem lt_fact {x : Int} (h : Lt x) : R32 x ∧ ∃ y r, fullF T5 x = y :: r ∧ cl5 y = 0 ∧ ∀ z ∈ r, 0 < cl5 z := by
  obtain ⟨m, hm, rfl⟩ := h
  have hk := List.all_eq_true.1 kLt m hm
  rw [Bool.and_eq_true] at hk
  have hb := lt_bd m hm
  refine ⟨by unfold R32; omega, ?_⟩
  by_cases h1081 : m = 1081
  · subst h1081
    have k := kI2
    simp only [Bool.and_eq_true, Nat.beq_eq] at k
    obtain ⟨s1, s2, s3, s4, s5⟩ := k
    obtain ⟨p1, x1, y1⟩ := pair_at kI1
    have e1 : fullF T5 ((1081 : Nat) : Int) = fullF T5 (pxF P5 ((1081 : Nat) : Int)) ++ fullF T5 (pyF P5 ((1081 : Nat) : Int)) := full_pk ends5 (split_low (by omega)) (by rw [sgl_at, s1]; rfl) p1
    rw [x1, y1, full_no (plain_at (by omega) s4), full_no (plain_at (by omega) s5)] at e1
    refine ⟨_, _, e1, by rw [cl5_at, s2]; rfl, fun z hz => ?_⟩
    simp at hz
    rw [hz]
    have := cl5_at 774
    have h3 := Nat.le_of_ble_eq_true s3
    show 0 < cl5 ((774 : Nat) : Int)
    rw [this]; omega
  · have h2 : (!hasBit keysB m) = true := by
      have hne : Nat.beq m 1081 = false := by rw [Bool.eq_false_iff]; simpa [Nat.beq_eq] using h1081
      have := hk.2
      rwa [hne, Bool.false_or] at this
    have h0 := hk.1
    rw [Nat.beq_eq] at h0
    exact ⟨_, [], full_no (plain_at hb h2), by rw [cl5_at, h0]; rfl, fun z hz => by cases hz⟩
/-- a letter with marks, in parts and in order -/
theorem marks_all {x : Int} {ms : List Int} (hx : Lt x) (hm : ∀ z ∈ ms, Mk z) : ∃ y r, allF T5 cl5 (x :: ms) = y :: r ∧ cl5 y = 0 ∧ ∀ z ∈ r, 0 < cl5 z := by
  obtain ⟨_, y, r, e, h0, hr⟩ := lt_fact hx
  have e1 : partsF T5 (x :: ms) = y :: (r ++ ms) := by
    have : partsF T5 (x :: ms) = fullF T5 x ++ partsF T5 ms := rfl
    rw [this, e, partsF_self fun z hz => (mk_fact (hm z hz)).2.1]; rfl
  refine ⟨y, ordL cl5 (r ++ ms), by unfold allF; rw [e1, ordL_zero cl5_nn h0], h0, fun z hz => ?_⟩
  rcases List.mem_append.1 (ordL_mem.1 hz) with hz | hz
  · exact hr z hz
  · exact (mk_fact (hm z hz)).1
/-- put together: a letter, and marks that it can't take -/
theorem marks_comp {x : Int} {ms : List Int} (hx : Lt x) (hm : ∀ z ∈ ms, Mk z) : ∃ s bs, comp cl5 two5 (allF T5 cl5 (x :: ms)) = s :: bs ∧ cl5 s = 0 ∧ (∀ b ∈ bs, 0 < cl5 b) ∧ CN cl5 two5 (s :: bs) := by
  obtain ⟨y, r, e, h0, hr⟩ := marks_all hx hm
  obtain ⟨s, bs, e2, h1, h2⟩ := comp_head cmp5 h0 r hr
  have e3 : comp cl5 two5 (allF T5 cl5 (x :: ms)) = s :: bs := by rw [e]; unfold comp; rw [e2]; rfl
  refine ⟨s, bs, e3, h1, h2, ?_⟩
  rw [← e3]
  exact comp_cn cmp5 (ordL_norm cl5_nn _)
theorem marks_two {s : Int} {bs : List Int} (hs : cl5 s = 0) (hb : ∀ b ∈ bs, 0 < cl5 b) (hcn : CN cl5 two5 (s :: bs)) {i : Nat} (hi : i < bs.length) (h : twoOk s (bs.getD i 0) = true) : 0 < i ∧ ¬ cl5 ((s :: bs).getD i 0) < cl5 (bs.getD i 0) := by
  have e : s :: bs = [] ++ s :: (bs.take i ++ bs.getD i 0 :: bs.drop (i + 1)) := by
    have h1 : bs.drop i = bs.getD i 0 :: bs.drop (i + 1) := by
      rw [List.drop_eq_getElem_cons hi]
      simp [List.getD_eq_getElem?_getD, List.getElem?_eq_getElem hi]
    conv => lhs; rw [← List.take_append_drop i bs, h1]
    rfl
  have key : barred cl5 (bs.take i) (bs.getD i 0) = false → False := fun hbar => by
    have ht := hcn [] s (bs.take i) (bs.getD i 0) _ e hs (fun b hb' => hb b (List.mem_of_mem_take hb')) hbar
    unfold twoOk at h
    rw [ht] at h
    cases h
  cases i with
  | zero => exact (key (by simp [barred_nil])).elim
  | succ j =>
    refine ⟨by omega, fun hlt => key ?_⟩
    have hl : (bs.take (j + 1)).getLast? = some (bs.getD j 0) := by
      rw [take_snoc bs j (by omega)]; simp
    unfold barred
    rw [hl]
    have hm : bs.getD j 0 ∈ bs := by
      rw [List.getD_eq_getElem?_getD, List.getElem?_eq_getElem (show j < bs.length by omega)]
      exact List.getElem_mem _
    have hp := hb _ hm
    have hlt' : cl5 (bs.getD j 0) < cl5 (bs.getD (j + 1) 0) := by simpa using hlt
    exact decide_eq_false (by omega)
end Go.Proofs.Ytmedpgpokenddaa

/- The walk of ComposeMarks. -/
namespace Go.Proofs.Ytmedpgpokenddaa
set_option maxRecDepth 100000
open Go.ChangeShapes Go.WideShapes Go.ChangeAt Go.RowKit
set_option linter.unusedVariables false
set_option linter.unusedSimpArgs false

theorem ixl0 (w : World) : (Instr.index 38 (.agg #[.int .i32 97, .int .i32 101, .int .i32 111, .int .i32 117, .int .i32 65, .int .i32 945, .int .i32 1081, .int .i32 113]) (.int .i64 ((0 : Nat) : Int))).run Try.prog w = .ok (.int .i32 97) w := by kernel_rfl
theorem ixl1 (w : World) : (Instr.index 38 (.agg #[.int .i32 97, .int .i32 101, .int .i32 111, .int .i32 117, .int .i32 65, .int .i32 945, .int .i32 1081, .int .i32 113]) (.int .i64 ((1 : Nat) : Int))).run Try.prog w = .ok (.int .i32 101) w := by kernel_rfl
theorem ixl2 (w : World) : (Instr.index 38 (.agg #[.int .i32 97, .int .i32 101, .int .i32 111, .int .i32 117, .int .i32 65, .int .i32 945, .int .i32 1081, .int .i32 113]) (.int .i64 ((2 : Nat) : Int))).run Try.prog w = .ok (.int .i32 111) w := by kernel_rfl
theorem ixl3 (w : World) : (Instr.index 38 (.agg #[.int .i32 97, .int .i32 101, .int .i32 111, .int .i32 117, .int .i32 65, .int .i32 945, .int .i32 1081, .int .i32 113]) (.int .i64 ((3 : Nat) : Int))).run Try.prog w = .ok (.int .i32 117) w := by kernel_rfl
theorem ixl4 (w : World) : (Instr.index 38 (.agg #[.int .i32 97, .int .i32 101, .int .i32 111, .int .i32 117, .int .i32 65, .int .i32 945, .int .i32 1081, .int .i32 113]) (.int .i64 ((4 : Nat) : Int))).run Try.prog w = .ok (.int .i32 65) w := by kernel_rfl
theorem ixl5 (w : World) : (Instr.index 38 (.agg #[.int .i32 97, .int .i32 101, .int .i32 111, .int .i32 117, .int .i32 65, .int .i32 945, .int .i32 1081, .int .i32 113]) (.int .i64 ((5 : Nat) : Int))).run Try.prog w = .ok (.int .i32 945) w := by kernel_rfl
theorem ixl6 (w : World) : (Instr.index 38 (.agg #[.int .i32 97, .int .i32 101, .int .i32 111, .int .i32 117, .int .i32 65, .int .i32 945, .int .i32 1081, .int .i32 113]) (.int .i64 ((6 : Nat) : Int))).run Try.prog w = .ok (.int .i32 1081) w := by kernel_rfl
theorem ixl7 (w : World) : (Instr.index 38 (.agg #[.int .i32 97, .int .i32 101, .int .i32 111, .int .i32 117, .int .i32 65, .int .i32 945, .int .i32 1081, .int .i32 113]) (.int .i64 ((7 : Nat) : Int))).run Try.prog w = .ok (.int .i32 113) w := by kernel_rfl
theorem ixl (q : Int) (h0 : 0 ≤ q) (h1 : q ≤ 7) : ∃ c, Lt c ∧ ∀ w : World, (Instr.index 38 (.agg #[.int .i32 97, .int .i32 101, .int .i32 111, .int .i32 117, .int .i32 65, .int .i32 945, .int .i32 1081, .int .i32 113]) (.int .i64 q)).run Try.prog w = .ok (.int .i32 c) w := by
  obtain ⟨k, rfl⟩ := Int.eq_ofNat_of_zero_le h0
  have hk : k ≤ 7 := by omega
  match k, hk with
  | 0, _ => exact ⟨97, ⟨97, by decide, rfl⟩, ixl0⟩
  | 1, _ => exact ⟨101, ⟨101, by decide, rfl⟩, ixl1⟩
  | 2, _ => exact ⟨111, ⟨111, by decide, rfl⟩, ixl2⟩
  | 3, _ => exact ⟨117, ⟨117, by decide, rfl⟩, ixl3⟩
  | 4, _ => exact ⟨65, ⟨65, by decide, rfl⟩, ixl4⟩
  | 5, _ => exact ⟨945, ⟨945, by decide, rfl⟩, ixl5⟩
  | 6, _ => exact ⟨1081, ⟨1081, by decide, rfl⟩, ixl6⟩
  | 7, _ => exact ⟨113, ⟨113, by decide, rfl⟩, ixl7⟩
def mkA : Array Value := #[.int .i32 769, .int .i32 776, .int .i32 803, .int .i32 807, .int .i32 820, .int .i32 795, .int .i32 837, .int .i32 778]
theorem mk_at (k : Nat) (hk : k ≤ 7) : ∃ y, Mk y ∧ mkA[k]? = some (.int .i32 y) := by
  match k, hk with
  | 0, _ => exact ⟨769, ⟨769, by decide, rfl⟩, rfl⟩
  | 1, _ => exact ⟨776, ⟨776, by decide, rfl⟩, rfl⟩
  | 2, _ => exact ⟨803, ⟨803, by decide, rfl⟩, rfl⟩
  | 3, _ => exact ⟨807, ⟨807, by decide, rfl⟩, rfl⟩
  | 4, _ => exact ⟨820, ⟨820, by decide, rfl⟩, rfl⟩
  | 5, _ => exact ⟨795, ⟨795, by decide, rfl⟩, rfl⟩
  | 6, _ => exact ⟨837, ⟨837, by decide, rfl⟩, rfl⟩
  | 7, _ => exact ⟨778, ⟨778, by decide, rfl⟩, rfl⟩
structure MkSit (w : World) (g R : Nat) (B : Option Addr) (m dd : Nat) (K : List Int) (W : World) : Prop where
  t : TblAt W W.heap.size g C5 P5 S5
  d : DT W R
  r : RowIn W B m dd K
  be : Below w.heap.size w W
theorem MkSit.go {w W W' : World} {g R : Nat} {B : Option Addr} {m d : Nat} {K : List Int} (h : MkSit w g R B m d K W) (hb : Below W.heap.size W W') : MkSit w g R B m d K W' := ⟨h.t.go hb, h.d.go hb, h.r.go hb, h.be.trans (hb.mono h.be.size)⟩
def MkL (wb : World) (n : Nat) (c : Int) (s8 s9 : Value) (wr : World) : Prop := ∃ (k : Nat) (ms : List Int), k ≤ n ∧ k ≤ 6 ∧ ms.length = k ∧ s9 = .int .i64 k ∧ Own wr wb.heap.size 21 .i32 s8 (c :: ms) ∧ (∀ x ∈ ms, Mk x) ∧ Below wb.heap.size wb wr
def MkI (w : World) (g R : Nat) (B : Option Addr) (m d : Nat) (K : List Int) (s11 : Value) (wr : World) : Prop := ∃ i : Nat, 1 ≤ i ∧ i ≤ m ∧ s11 = .int .i64 i ∧ MkSit w g R B m d K wr

set_option maxHeartbeats 8000000 in
theorem cmark_walk (HC : ComposeOk) (H2 : TwoOk) (n0 : Int) (a1 : Option Addr) (len1 cap1 : Nat) (z1 : List Int) (w : World) (r1 : ArgRow .i64 w a1 len1 cap1 z1) :
    Calls Try.prog 6 #[.int .i64 n0, .slice a1 len1 cap1] w fun e w' => e = .returned (.bool true) ∧ Below w.heap.size w w' := by
  have HR0 := Lib.hid r1
  have HCO := Lib.hid HC
  have H2O := Lib.hid H2
  have HAW := Lib.hid (awake8 HC H2)
  clear r1 HC H2
  have HPL : Hid (∀ W, Calls Try.prog 19 #[.int .i64 n0, .int .i64 8] W fun e w' => e = .returned (.int .i64 (n0 % 8)) ∧ W = w') := Lib.hid fun W => place_any n0 8 W (by omega) (by omega)
  have q0 : 0 ≤ n0 % 8 := by omega
  have q1 : n0 % 8 ≤ 7 := by omega
  generalize n0 % 8 = qn at HPL q0 q1
  obtain ⟨c, hlt0, hix0⟩ := ixl qn q0 q1
  have HLT := Lib.hid hlt0
  clear hlt0
  go_enter Try.func6, Try.ntmps6
  go_wp2_with fail
  with_reducible refine (ubuild_any _).mono ?_
  rintro e w1 ⟨g, rfl, ht, hb⟩
  have HT := Lib.hid ht
  have HB := Lib.hid hb
  clear ht hb
  go_wp2_with fail
  with_reducible refine (dbuild_any _).mono ?_
  rintro e w2 ⟨rfl, hd, hb2⟩
  have HT2 := Lib.hid (HT.out.go hb2)
  have HD2 : Hid (DT w2 (w1.heap.size + 5)) := Lib.hid ⟨_, rfl, hd⟩
  have HB2 := Lib.hid (HB.out.trans (hb2.mono HB.out.size))
  clear hd hb2 HT HB
  generalize w1.heap.size + 5 = R at *
  go_wp2_with fail
  have hn3 : Below w2.heap.size w2 (w2.alloc (.cells #[.int .i32 769, .int .i32 776, .int .i32 803, .int .i32 807, .int .i32 820, .int .i32 795, .int .i32 837, .int .i32 778] 38)) := below_new w2 _
  have HT3 := Lib.hid (HT2.out.go hn3)
  have HD3 := Lib.hid (HD2.out.go hn3)
  have HB3 := Lib.hid (HB2.out.trans (hn3.mono HB2.out.size))
  have HM3 : Hid (Blk (w2.alloc (.cells #[.int .i32 769, .int .i32 776, .int .i32 803, .int .i32 807, .int .i32 820, .int .i32 795, .int .i32 837, .int .i32 778] 38)) w2.heap.size 38 mkA) := Lib.hid (Blk.new w2 38 mkA)
  clear hn3 HT2 HD2 HB2
  generalize w2.alloc (.cells #[.int .i32 769, .int .i32 776, .int .i32 803, .int .i32 807, .int .i32 820, .int .i32 795, .int .i32 837, .int .i32 778] 38) = w3 at *
  generalize w2.heap.size = mk at *
  with_reducible refine (HPL.out _).mono ?_
  rintro e w' ⟨rfl, rfl⟩
  have hix := hix0 w3
  have HR3 := Lib.hid (HR0.out.go HB3.out)
  have HO3 : Hid (Own (w3.alloc (.cells #[.int .i32 c] 21)) w3.heap.size 21 .i32 (.slice (some ⟨w3.heap.size, 0, none⟩) 1 1) [c]) := Lib.hid (own_lit w3 w3.heap.size 21 .i32 [c] (Nat.le_refl _) (by simp [maxLen]))
  have HN3 := Lib.hid (below_new w3 (.cells #[.int .i32 c] 21))
  go_wp2_with fail
  go_loopw [8, 9] (fun s8 s9 wr => MkL w3 len1 c s8 s9 wr) (fun _ i _ => len1 - (intOf i).toNat)
  case atStart => exact ⟨0, [], by omega, by omega, rfl, rfl, HO3.out, (fun x hx => by cases hx), HN3.out⟩
  case round =>
    obtain ⟨k, ms, hk, hk6, hxl, rfl, hO, hJ, hb⟩ := hrel
    have HO := Lib.hid hO
    have HJ := Lib.hid hJ
    have HBE := Lib.hid hb
    have HXL := Lib.hid hxl
    have hgw : w3.heap.size ≤ wr.heap.size := hb.size
    by_cases hlt : k < len1 ∧ k < 6
    · obtain ⟨hlt, hlt6⟩ := hlt
      obtain ⟨b, o, rfl, hbl, hc⟩ := HR3.out.row.at (by rw [HR3.out.size]; omega)
      have h1 : wr.cell? ⟨b, o + k, none⟩ = some (.int .i64 (z1.getD k 0)) := (hb.cell (p := ⟨b, o + k, none⟩) hbl).trans (hc k (by rw [HR3.out.size]; exact hlt))
      have hlt' : (k : Int) < len1 := by omega
      have hlt6' : (k : Int) < 6 := by omega
      generalize z1.getD k 0 = x at *
      have HPX : Hid (∀ W, Calls Try.prog 19 #[.int .i64 x, .int .i64 8] W fun e w' => e = .returned (.int .i64 (x % 8)) ∧ W = w') := Lib.hid fun W => place_any x 8 W (by omega) (by omega)
      have p0 : 0 ≤ x % 8 := by omega
      have p1 : x % 8 ≤ 7 := by omega
      generalize x % 8 = px at HPX p0 p1
      obtain ⟨pn, rfl⟩ := Int.eq_ofNat_of_zero_le p0
      obtain ⟨y, hmy, hy⟩ := mk_at pn (by omega)
      have h2 : wr.cell? ⟨mk, pn, none⟩ = some (.int .i32 y) := (hb.cell (p := ⟨mk, pn, none⟩) HM3.out.lt).trans ((HM3.out.cell pn).trans hy)
      have HMY := Lib.hid hmy
      have hp8 : (pn : Int) < 8 := by omega
      clear hO hJ hb hc hxl hmy hy p0 p1 hix hix0
      go_wp2_with fail
      with_reducible refine (HPX.out _).mono ?_
      rintro e w' ⟨rfl, rfl⟩
      go_wp2_with (at_builtin; refine wpList_appN rfl (.tmp 34) (.tmp 42) 22 rfl w3.heap.size 21 .i32 4 Try.underlying22 info_i32 (by omega) _ (c :: ms) rfl (HO.out.alloc _) _ _ _ 1 [y] rfl rfl (fun h => by cases h) (Ints.lit wr 21 .i32 [y]) (by rw [List.length_cons, HXL.out]; simp; omega) (by rw [World.size_alloc]; omega) ?_; intro A6 m6 c6 w6 hm6 hO6 hb6; have HO6 := Lib.hid hO6; have HB6 := Lib.hid ((HBE.out.trans ((below_new wr (.cells #[.int .i32 y] 21)).mono hgw)).trans hb6); clear hO6 hb6 hm6)
      go_wp2
      go_roundw
      case rel => exact ⟨k + 1, ms ++ [y], by omega, by omega, by rw [List.length_append, HXL.out]; rfl, by go_num, HO6.out, (fun z hz => by
        rcases List.mem_append.1 hz with hz | hz
        · exact HJ.out z hz
        · simp at hz; rw [hz]; exact HMY.out), HB6.out⟩
      case measure => simp [intOf]; omega
    · clear hO hJ hb hxl hix hix0
      by_cases hlt1 : k < len1
      · have hd1 : decide ((k : Int) < len1) = true := decide_eq_true (by omega)
        have hd1' : (k : Int) < len1 := by omega
        have hd2 : decide ((k : Int) < 6) = false := decide_eq_false (by omega)
        obtain ⟨A4, n4, c4, hm4, rfl⟩ := own_num HO.out
        have HRX : Hid (RowIn wr A4 n4 c4 (c :: ms)) := Lib.hid (by have h := HO.out; unfold Own at h; rw [hm4] at h; exact RowIn.ofOwn h)
        have hn4 : n4 ≤ 7 := by have := HXL.out; rw [List.length_cons] at hm4; omega
        have HTr := Lib.hid (HT3.out.go HBE.out)
        have HDr := Lib.hid (HD3.out.go HBE.out)
        have HBw := Lib.hid (HB3.out.trans (HBE.out.mono HB3.out.size))
        have HRL : Hid (∀ x ∈ c :: ms, R32 x) := Lib.hid fun x hx => by
          rcases List.mem_cons.1 hx with rfl | hx
          · exact (lt_fact HLT.out).1
          · exact (mk_fact (HJ.out x hx)).2.2
        have HAL := Lib.hid (rall_any wr R A4 n4 c4 _ HRX.out HDr.out HRL.out (by omega))
        have HAI := Lib.hid (all5_in HRL.out)
        have HALN := Lib.hid (allF_len (cl := cl5) sy5_len (c :: ms))
        obtain ⟨s, bs, hcm, hs0, hbs, hcn⟩ := marks_comp HLT.out HJ.out
        have HCM := Lib.hid hcm
        have HS0 := Lib.hid hs0
        have HBS := Lib.hid hbs
        have HCN := Lib.hid hcn
        have HNX := Lib.hid HRX.out.len
        clear HO hm4 hcm hs0 hbs hcn
        generalize allF T5 cl5 (c :: ms) = L at *
        go_wp2_with fail
        with_reducible refine HAL.out.mono ?_
        rintro e w4 ⟨A5, m5, c5, rfl, hr5, hb5⟩
        have HT4 := Lib.hid (HTr.out.go hb5)
        have HD4 := Lib.hid (HDr.out.go hb5)
        have HBw4 := Lib.hid (HBw.out.trans (hb5.mono HBw.out.size))
        have HRL4 := Lib.hid hr5
        have hm5 : m5 ≤ 1000 := by have h1 := hr5.len; have h2 := HALN.out; rw [HNX.out] at h2; omega
        have HCC := Lib.hid (HCO.out w4 g _ _ _ _ hr5 HT4.out HAI.out (by omega))
        have HKLE := Lib.hid (comp_le L)
        have HKI := Lib.hid (comp_in HAI.out)
        rw [HCM.out] at HCC HKLE HKI
        clear hr5 hb5 HAL HTr HDr HBw HRX HALN HNX
        go_wp2_with fail
        with_reducible refine HCC.out.mono ?_
        rintro e w5 ⟨Bm, m, dm, rfl, hr6, hb6⟩
        have HS5 : Hid (MkSit w g R Bm m dm (s :: bs) w5) := Lib.hid ⟨HT4.out.go hb6, HD4.out.go hb6, hr6, HBw4.out.trans (hb6.mono HBw4.out.size)⟩
        have HRL5 := Lib.hid (HRL4.out.go hb6)
        have HML := Lib.hid hr6.len
        have hmm : m ≤ 1000 := by have h1 := HML.out; have h2 := HKLE.out; rw [HRL4.out.len] at h2; omega
        have hm1 : 1 ≤ m := by have h1 := HML.out; rw [List.length_cons] at h1; omega
        have hmz : ((m : Int) == 0) = false := beq_eq_false_iff_ne.2 (by omega)
        have HRC := Lib.hid (rcompose_out w5 R _ _ _ _ HRL5.out HS5.out.d HAI.out (by omega))
        rw [HCM.out] at HRC
        clear hr6 hb6 HT4 HD4 HBw4 HRL4 HCC
        go_wp2_with fail
        with_reducible refine HRC.out.mono ?_
        rintro e w6 ⟨A7, m7, c7, rfl, hr7, hb7⟩
        have HS6 := Lib.hid (HS5.out.go hb7)
        have HR7 := Lib.hid hr7
        clear hr7 hb7 HS5 HRC HRL5
        go_wp2_with fail
        with_reducible refine (same_rows HS6.out.r HR7.out rfl (by omega)).mono ?_
        rintro e w7 ⟨rfl, hs7⟩
        have HS7 := Lib.hid (HS6.out.go hs7.below)
        clear hs7 HS6 HR7
        go_wp2_with fail
        go_loopw [11] (fun s11 wr => MkI w g R Bm m dm (s :: bs) s11 wr) (fun i _ => m - (intOf i).toNat)
        case atStart => exact ⟨1, by omega, hm1, rfl, HS7.out⟩
        case round =>
          obtain ⟨i, hi1, hi, rfl, hS⟩ := hrel
          have HS := Lib.hid hS
          clear hS HS7
          by_cases hlt2 : i < m
          · obtain ⟨bm, om, rfl, hblm, hcm⟩ := HS.out.r.first (by omega)
            have hcs : wr.cell? ⟨bm, om, none⟩ = some (.int .i32 s) := hcm 0 (by omega)
            have hcy : wr.cell? ⟨bm, om + i, none⟩ = some (.int .i32 ((s :: bs).getD i 0)) := hcm i hlt2
            obtain ⟨j, rfl⟩ : ∃ j, i = j + 1 := ⟨i - 1, by omega⟩
            have HCELL : Hid (∀ W, MkSit w g R (some ⟨bm, om, none⟩) m dm (s :: bs) W → W.cell? ⟨bm, om + (j + 1), none⟩ = some (.int .i32 ((s :: bs).getD (j + 1) 0)) ∧ W.cell? ⟨bm, om + j, none⟩ = some (.int .i32 ((s :: bs).getD j 0))) := Lib.hid fun W h => by
              obtain ⟨b', o', e, _, hc'⟩ := h.r.first (by omega)
              injection e with e; injection e with e1 e2; subst e1; subst e2
              exact ⟨hc' _ hlt2, hc' _ (by omega)⟩
            have hmem : (s :: bs).getD (j + 1) 0 ∈ s :: bs := by
              rw [List.getD_eq_getElem?_getD, List.getElem?_eq_getElem (by rw [HML.out]; exact hlt2)]
              exact List.getElem_mem _
            have HTW : Hid (∀ W, MkSit w g R (some ⟨bm, om, none⟩) m dm (s :: bs) W → Calls Try.prog 11 #[.pointer (some ⟨g, 0, none⟩), .int .i32 s, .int .i32 ((s :: bs).getD (j + 1) 0)] W fun e w' => e = .returned (.tuple #[.int .i32 (twoC s ((s :: bs).getD (j + 1) 0)), .bool (twoOk s ((s :: bs).getD (j + 1) 0))]) ∧ Below W.heap.size W w') := Lib.hid fun W h => H2O.out _ _ W g (HKI.out s (by simp)) (HKI.out _ hmem) h.t
            have HMT : Hid (twoOk s ((s :: bs).getD (j + 1) 0) = true → 0 < j ∧ ¬ cl5 ((s :: bs).getD j 0) < cl5 ((s :: bs).getD (j + 1) 0)) := Lib.hid fun h => marks_two HS0.out HBS.out HCN.out (by have := HML.out; rw [List.length_cons] at this; omega) h
            have HCX : Hid (∀ W, MkSit w g R (some ⟨bm, om, none⟩) m dm (s :: bs) W → ∀ q, Calls Try.prog 20 #[.pointer (some ⟨g, 0, none⟩), .int .i32 ((s :: bs).getD (j + 1) 0)] (W.drewN q) fun e w'' => e = .returned (.int .i64 (cl5 ((s :: bs).getD (j + 1) 0))) ∧ ∃ m, w'' = W.drewN m) := Lib.hid fun W h q => quiet_st (class7 (h.t.go (below_drewN' (Below.refl _ _) q)) _)
            have HCY : Hid (∀ W, MkSit w g R (some ⟨bm, om, none⟩) m dm (s :: bs) W → ∀ q, Calls Try.prog 20 #[.pointer (some ⟨g, 0, none⟩), .int .i32 ((s :: bs).getD j 0)] (W.drewN q) fun e w'' => e = .returned (.int .i64 (cl5 ((s :: bs).getD j 0))) ∧ ∃ m, w'' = W.drewN m) := Lib.hid fun W h q => quiet_st (class7 (h.t.go (below_drewN' (Below.refl _ _) q)) _)
            clear hcm hmem HKI HBS HCN HS0
            generalize (s :: bs).getD (j + 1) 0 = y at *
            generalize (s :: bs).getD j 0 = x at *
            generalize twoC s y = tc at *
            generalize twoOk s y = tk at *
            generalize cl5 x = cx at *
            generalize cl5 y = cy at *
            generalize s :: bs = K at *
            obtain ⟨i, hij⟩ : ∃ i, i = j + 1 := ⟨_, rfl⟩
            have HIJ := Lib.hid hij
            rw [← hij] at hcy HCELL hlt2 hi1 hi ⊢
            clear hij
            have hlt2' : (i : Int) < m := by omega
            have hix : (0 : Int) ≤ (i : Int) ∧ (i : Int) < m := by omega
            have hix' : (i : Int) < m := by omega
            have hm0 : (0 : Int) < m := by omega
            have hm0n : 0 < m := by omega
            go_wp2_with fail
            refine wp_region_G (by kernel_rfl) ?_
            have hb0 : Below wr.heap.size wr wr.drew := (Below.refl _ _).drew
            have HK0 : Hid (MkSit w g R (some ⟨bm, om, none⟩) m dm K wr.drew) := Lib.hid (HS.out.go hb0)
            have c0 : Hid (wr.drew.cell? ⟨bm, om, none⟩ = some (.int .i32 s)) := Lib.hid hcs
            have c1 : Hid (wr.drew.cell? ⟨bm, om + i, none⟩ = some (.int .i32 y)) := Lib.hid hcy
            have hbm : bm < wr.drew.heap.size := hblm
            clear hb0 hcs hcy
            generalize wr.drew = wd at *
            refine wpG_take 0 68 (v := ?v0) rfl rfl (by kernel_rfl) (by kernel_rfl) (by kernel_rfl) (fun _ _ _ h => h) (Or.inl ⟨by rfl, ?y0⟩) ?r0
            case y0 => (intro W hW; (go_simp; try with_reducible rfl))
            simp only [Act.put, List.setIfInBounds_toArray, List.set_cons_zero, List.set_cons_succ]
            refine wpG_take 1 69 (v := ?v1) rfl rfl (by kernel_rfl) (by kernel_rfl) (by kernel_rfl) (fun _ _ _ h => h) (Or.inl ⟨by rfl, ?y1⟩) ?r1
            case y1 => (intro W hW; (go_simp; try with_reducible rfl))
            simp only [Act.put, List.setIfInBounds_toArray, List.set_cons_zero, List.set_cons_succ]
            refine wpG_take 2 70 (v := ?v2) rfl rfl (by kernel_rfl) (by kernel_rfl) (by kernel_rfl) (fun _ _ _ h => h) (Or.inl ⟨by rfl, ?y2⟩) ?r2
            case y2 => (intro W hW; go_simp; first | rw [if_pos hm0n] | rw [if_pos hm0] | skip; try with_reducible rfl)
            simp only [Act.put, List.setIfInBounds_toArray, List.set_cons_zero, List.set_cons_succ]
            refine wpG_take 3 71 (v := ?v3) rfl rfl (by kernel_rfl) (by kernel_rfl) (by kernel_rfl) (fun _ _ _ h => h) (Or.inl ⟨by rfl, ?y3⟩) ?r3
            case y3 => (intro W hW; have f0 := (hW.below.cell (p := ⟨bm, om, none⟩) hbm).trans c0.out; (go_simp; try with_reducible rfl))
            simp only [Act.put, List.setIfInBounds_toArray, List.set_cons_zero, List.set_cons_succ]
            refine wpG_take 4 72 (v := ?v4) rfl rfl (by kernel_rfl) (by kernel_rfl) (by kernel_rfl) (fun _ _ _ h => h) (Or.inl ⟨by rfl, ?y4⟩) ?r4
            case y4 => (intro W hW; (go_simp; try with_reducible rfl))
            simp only [Act.put, List.setIfInBounds_toArray, List.set_cons_zero, List.set_cons_succ]
            refine wpG_take 5 73 (v := ?v5) rfl rfl (by kernel_rfl) (by kernel_rfl) (by kernel_rfl) (fun _ _ _ h => h) (Or.inl ⟨by rfl, ?y5⟩) ?r5
            case y5 => (intro W hW; (go_simp; try with_reducible rfl))
            simp only [Act.put, List.setIfInBounds_toArray, List.set_cons_zero, List.set_cons_succ]
            refine wpG_take 6 74 (v := ?v6) rfl rfl (by kernel_rfl) (by kernel_rfl) (by kernel_rfl) (fun _ _ _ h => h) (Or.inl ⟨by rfl, ?y6⟩) ?r6
            case y6 => (intro W hW; go_simp; first | rw [if_pos hix] | rw [if_pos hix'] | skip; try with_reducible rfl)
            simp only [Act.put, List.setIfInBounds_toArray, List.set_cons_zero, List.set_cons_succ]
            refine wpG_take 7 75 (v := ?v7) rfl rfl (by kernel_rfl) (by kernel_rfl) (by kernel_rfl) (fun _ _ _ h => h) (Or.inl ⟨by rfl, ?y7⟩) ?r7
            case y7 => (intro W hW; have f0 := (hW.below.cell (p := ⟨bm, om + i, none⟩) hbm).trans c1.out; (go_simp; try with_reducible rfl))
            simp only [Act.put, List.setIfInBounds_toArray, List.set_cons_zero, List.set_cons_succ]
            refine wpG_call 8 (by kernel_rfl) rfl (fun K hK => ?_)
            go_simp
            refine (HTW.out wd HK0.out).mono ?_
            rintro e w6 ⟨rfl, hb6⟩
            refine hK.out _ _ ?_ ?_
            · exact hb6
            clear hK K
            have HS6 := Lib.hid (HK0.out.go hb6)
            clear hb6
            try simp only [Act.put, List.getElem_toArray, List.getElem_cons_succ, List.getElem_cons_zero, List.setIfInBounds_toArray, List.set_cons_zero, List.set_cons_succ]
            refine wpG_take 9 67 (v := ?v9) rfl rfl (by kernel_rfl) (by kernel_rfl) (by kernel_rfl) (fun _ _ _ h => h) (Or.inl ⟨by rfl, ?y9⟩) ?r9
            case y9 => (intro W hW; (go_simp; try with_reducible rfl))
            simp only [Act.put, List.setIfInBounds_toArray, List.set_cons_zero, List.set_cons_succ]
            refine wpG_take 10 77 (v := ?v10) rfl rfl (by kernel_rfl) (by kernel_rfl) (by kernel_rfl) (fun _ _ _ h => h) (Or.inl ⟨by rfl, ?y10⟩) ?r10
            case y10 => (intro W hW; (go_simp; try with_reducible rfl))
            simp only [Act.put, List.setIfInBounds_toArray, List.set_cons_zero, List.set_cons_succ]
            refine wpG_take 11 78 (v := ?v11) rfl rfl (by kernel_rfl) (by kernel_rfl) (by kernel_rfl) (fun _ _ _ h => h) (Or.inl ⟨by rfl, ?y11⟩) ?r11
            case y11 => (intro W hW; (go_simp; try with_reducible rfl))
            simp only [Act.put, List.setIfInBounds_toArray, List.set_cons_zero, List.set_cons_succ]
            refine wpG_take 12 12 (v := ?v12) rfl rfl (by kernel_rfl) (by kernel_rfl) (by kernel_rfl) (fun _ _ _ h => h) (Or.inl ⟨by rfl, ?y12⟩) ?r12
            case y12 => (intro W hW; (go_simp; try with_reducible rfl))
            simp only [Act.put, List.setIfInBounds_toArray, List.set_cons_zero, List.set_cons_succ]
            refine wpG_take 13 13 (v := ?v13) rfl rfl (by kernel_rfl) (by kernel_rfl) (by kernel_rfl) (fun _ _ _ h => h) (Or.inl ⟨by rfl, ?y13⟩) ?r13
            case y13 => (intro W hW; (go_simp; try with_reducible rfl))
            simp only [Act.put, List.setIfInBounds_toArray, List.set_cons_zero, List.set_cons_succ]
            refine wpG_done (by kernel_rfl) ?_ _
            have hc6 := HCELL.out _ HS6.out
            obtain ⟨hcy6, hcx6⟩ := hc6
            have HCX6 := Lib.hid (HCX.out _ HS6.out)
            have HCY6 := Lib.hid (HCY.out _ HS6.out)
            cases tk with
            | false =>
              go_wp2_with fail
              go_quiet (first
                | (go_at_call 20; first | with_reducible exact HCX6.out _ | with_reducible exact HCY6.out _))
              go_wp2
              go_roundw
              case rel => exact ⟨i + 1, by omega, by omega, by go_num, HS6.out.go (below_drewN' (Below.refl _ _) _)⟩
              case measure => simp [intOf]; omega
            | true =>
              obtain ⟨hj0, hncl⟩ := HMT.out rfl
              have hi2 : 2 ≤ i := by have := HIJ.out; omega
              have hne1 : ((i : Int) == 1) = false := beq_eq_false_iff_ne.2 (by omega)
              have hcl : decide (cx < cy) = false := decide_eq_false (by omega)
              have hcx6 : w6.cell? ⟨bm, om + (i - 1), none⟩ = some (.int .i32 x) := by have := HIJ.out; rw [show i - 1 = j by omega]; exact hcx6
              obtain ⟨jj, rfl⟩ : ∃ jj, i = jj + 1 := ⟨i - 1, by omega⟩
              have hcx6 : w6.cell? ⟨bm, om + jj, none⟩ = some (.int .i32 x) := hcx6
              have hixj : (jj : Int) < m := by omega
              have hjj0 : ((jj : Int) == 0) = false := beq_eq_false_iff_ne.2 (by omega)
              have hjj1 : ((jj : Int) + 1 == 1) = false := beq_eq_false_iff_ne.2 (by omega)
              have hjj2 : ¬ jj = 0 := by omega
              go_wp2_with fail
              go_quiet (first
                | (go_at_call 20; first | with_reducible exact HCX6.out _ | with_reducible exact HCY6.out _))
              go_wp2
              go_roundw
              case rel => exact ⟨jj + 1 + 1, by omega, by omega, by go_num, HS6.out.go (below_drewN' (Below.refl _ _) _)⟩
              case measure => simp [intOf]; omega
          · obtain rfl : i = m := by omega
            have hlt2' : ¬ (i : Int) < i := by omega
            go_wp2_with fail
            with_reducible refine (HAW.out _ _ HS.out.t).mono ?_
            rintro e w12 ⟨rfl, hb12⟩
            have HB12 := Lib.hid (HS.out.go hb12).be
            clear hb12
            go_wp2
            go_ret
            exact ⟨rfl, HB12.out⟩
      · have hd1 : decide ((k : Int) < len1) = false := decide_eq_false (by omega)
        obtain ⟨A4, n4, c4, hm4, rfl⟩ := own_num HO.out
        have HRX : Hid (RowIn wr A4 n4 c4 (c :: ms)) := Lib.hid (by have h := HO.out; unfold Own at h; rw [hm4] at h; exact RowIn.ofOwn h)
        have hn4 : n4 ≤ 7 := by have := HXL.out; rw [List.length_cons] at hm4; omega
        have HTr := Lib.hid (HT3.out.go HBE.out)
        have HDr := Lib.hid (HD3.out.go HBE.out)
        have HBw := Lib.hid (HB3.out.trans (HBE.out.mono HB3.out.size))
        have HRL : Hid (∀ x ∈ c :: ms, R32 x) := Lib.hid fun x hx => by
          rcases List.mem_cons.1 hx with rfl | hx
          · exact (lt_fact HLT.out).1
          · exact (mk_fact (HJ.out x hx)).2.2
        have HAL := Lib.hid (rall_any wr R A4 n4 c4 _ HRX.out HDr.out HRL.out (by omega))
        have HAI := Lib.hid (all5_in HRL.out)
        have HALN := Lib.hid (allF_len (cl := cl5) sy5_len (c :: ms))
        obtain ⟨s, bs, hcm, hs0, hbs, hcn⟩ := marks_comp HLT.out HJ.out
        have HCM := Lib.hid hcm
        have HS0 := Lib.hid hs0
        have HBS := Lib.hid hbs
        have HCN := Lib.hid hcn
        have HNX := Lib.hid HRX.out.len
        clear HO hm4 hcm hs0 hbs hcn
        generalize allF T5 cl5 (c :: ms) = L at *
        go_wp2_with fail
        with_reducible refine HAL.out.mono ?_
        rintro e w4 ⟨A5, m5, c5, rfl, hr5, hb5⟩
        have HT4 := Lib.hid (HTr.out.go hb5)
        have HD4 := Lib.hid (HDr.out.go hb5)
        have HBw4 := Lib.hid (HBw.out.trans (hb5.mono HBw.out.size))
        have HRL4 := Lib.hid hr5
        have hm5 : m5 ≤ 1000 := by have h1 := hr5.len; have h2 := HALN.out; rw [HNX.out] at h2; omega
        have HCC := Lib.hid (HCO.out w4 g _ _ _ _ hr5 HT4.out HAI.out (by omega))
        have HKLE := Lib.hid (comp_le L)
        have HKI := Lib.hid (comp_in HAI.out)
        rw [HCM.out] at HCC HKLE HKI
        clear hr5 hb5 HAL HTr HDr HBw HRX HALN HNX
        go_wp2_with fail
        with_reducible refine HCC.out.mono ?_
        rintro e w5 ⟨Bm, m, dm, rfl, hr6, hb6⟩
        have HS5 : Hid (MkSit w g R Bm m dm (s :: bs) w5) := Lib.hid ⟨HT4.out.go hb6, HD4.out.go hb6, hr6, HBw4.out.trans (hb6.mono HBw4.out.size)⟩
        have HRL5 := Lib.hid (HRL4.out.go hb6)
        have HML := Lib.hid hr6.len
        have hmm : m ≤ 1000 := by have h1 := HML.out; have h2 := HKLE.out; rw [HRL4.out.len] at h2; omega
        have hm1 : 1 ≤ m := by have h1 := HML.out; rw [List.length_cons] at h1; omega
        have hmz : ((m : Int) == 0) = false := beq_eq_false_iff_ne.2 (by omega)
        have HRC := Lib.hid (rcompose_out w5 R _ _ _ _ HRL5.out HS5.out.d HAI.out (by omega))
        rw [HCM.out] at HRC
        clear hr6 hb6 HT4 HD4 HBw4 HRL4 HCC
        go_wp2_with fail
        with_reducible refine HRC.out.mono ?_
        rintro e w6 ⟨A7, m7, c7, rfl, hr7, hb7⟩
        have HS6 := Lib.hid (HS5.out.go hb7)
        have HR7 := Lib.hid hr7
        clear hr7 hb7 HS5 HRC HRL5
        go_wp2_with fail
        with_reducible refine (same_rows HS6.out.r HR7.out rfl (by omega)).mono ?_
        rintro e w7 ⟨rfl, hs7⟩
        have HS7 := Lib.hid (HS6.out.go hs7.below)
        clear hs7 HS6 HR7
        go_wp2_with fail
        go_loopw [11] (fun s11 wr => MkI w g R Bm m dm (s :: bs) s11 wr) (fun i _ => m - (intOf i).toNat)
        case atStart => exact ⟨1, by omega, hm1, rfl, HS7.out⟩
        case round =>
          obtain ⟨i, hi1, hi, rfl, hS⟩ := hrel
          have HS := Lib.hid hS
          clear hS HS7
          by_cases hlt2 : i < m
          · obtain ⟨bm, om, rfl, hblm, hcm⟩ := HS.out.r.first (by omega)
            have hcs : wr.cell? ⟨bm, om, none⟩ = some (.int .i32 s) := hcm 0 (by omega)
            have hcy : wr.cell? ⟨bm, om + i, none⟩ = some (.int .i32 ((s :: bs).getD i 0)) := hcm i hlt2
            obtain ⟨j, rfl⟩ : ∃ j, i = j + 1 := ⟨i - 1, by omega⟩
            have HCELL : Hid (∀ W, MkSit w g R (some ⟨bm, om, none⟩) m dm (s :: bs) W → W.cell? ⟨bm, om + (j + 1), none⟩ = some (.int .i32 ((s :: bs).getD (j + 1) 0)) ∧ W.cell? ⟨bm, om + j, none⟩ = some (.int .i32 ((s :: bs).getD j 0))) := Lib.hid fun W h => by
              obtain ⟨b', o', e, _, hc'⟩ := h.r.first (by omega)
              injection e with e; injection e with e1 e2; subst e1; subst e2
              exact ⟨hc' _ hlt2, hc' _ (by omega)⟩
            have hmem : (s :: bs).getD (j + 1) 0 ∈ s :: bs := by
              rw [List.getD_eq_getElem?_getD, List.getElem?_eq_getElem (by rw [HML.out]; exact hlt2)]
              exact List.getElem_mem _
            have HTW : Hid (∀ W, MkSit w g R (some ⟨bm, om, none⟩) m dm (s :: bs) W → Calls Try.prog 11 #[.pointer (some ⟨g, 0, none⟩), .int .i32 s, .int .i32 ((s :: bs).getD (j + 1) 0)] W fun e w' => e = .returned (.tuple #[.int .i32 (twoC s ((s :: bs).getD (j + 1) 0)), .bool (twoOk s ((s :: bs).getD (j + 1) 0))]) ∧ Below W.heap.size W w') := Lib.hid fun W h => H2O.out _ _ W g (HKI.out s (by simp)) (HKI.out _ hmem) h.t
            have HMT : Hid (twoOk s ((s :: bs).getD (j + 1) 0) = true → 0 < j ∧ ¬ cl5 ((s :: bs).getD j 0) < cl5 ((s :: bs).getD (j + 1) 0)) := Lib.hid fun h => marks_two HS0.out HBS.out HCN.out (by have := HML.out; rw [List.length_cons] at this; omega) h
            have HCX : Hid (∀ W, MkSit w g R (some ⟨bm, om, none⟩) m dm (s :: bs) W → ∀ q, Calls Try.prog 20 #[.pointer (some ⟨g, 0, none⟩), .int .i32 ((s :: bs).getD (j + 1) 0)] (W.drewN q) fun e w'' => e = .returned (.int .i64 (cl5 ((s :: bs).getD (j + 1) 0))) ∧ ∃ m, w'' = W.drewN m) := Lib.hid fun W h q => quiet_st (class7 (h.t.go (below_drewN' (Below.refl _ _) q)) _)
            have HCY : Hid (∀ W, MkSit w g R (some ⟨bm, om, none⟩) m dm (s :: bs) W → ∀ q, Calls Try.prog 20 #[.pointer (some ⟨g, 0, none⟩), .int .i32 ((s :: bs).getD j 0)] (W.drewN q) fun e w'' => e = .returned (.int .i64 (cl5 ((s :: bs).getD j 0))) ∧ ∃ m, w'' = W.drewN m) := Lib.hid fun W h q => quiet_st (class7 (h.t.go (below_drewN' (Below.refl _ _) q)) _)
            clear hcm hmem HKI HBS HCN HS0
            generalize (s :: bs).getD (j + 1) 0 = y at *
            generalize (s :: bs).getD j 0 = x at *
            generalize twoC s y = tc at *
            generalize twoOk s y = tk at *
            generalize cl5 x = cx at *
            generalize cl5 y = cy at *
            generalize s :: bs = K at *
            obtain ⟨i, hij⟩ : ∃ i, i = j + 1 := ⟨_, rfl⟩
            have HIJ := Lib.hid hij
            rw [← hij] at hcy HCELL hlt2 hi1 hi ⊢
            clear hij
            have hlt2' : (i : Int) < m := by omega
            have hix : (0 : Int) ≤ (i : Int) ∧ (i : Int) < m := by omega
            have hix' : (i : Int) < m := by omega
            have hm0 : (0 : Int) < m := by omega
            have hm0n : 0 < m := by omega
            go_wp2_with fail
            refine wp_region_G (by kernel_rfl) ?_
            have hb0 : Below wr.heap.size wr wr.drew := (Below.refl _ _).drew
            have HK0 : Hid (MkSit w g R (some ⟨bm, om, none⟩) m dm K wr.drew) := Lib.hid (HS.out.go hb0)
            have c0 : Hid (wr.drew.cell? ⟨bm, om, none⟩ = some (.int .i32 s)) := Lib.hid hcs
            have c1 : Hid (wr.drew.cell? ⟨bm, om + i, none⟩ = some (.int .i32 y)) := Lib.hid hcy
            have hbm : bm < wr.drew.heap.size := hblm
            clear hb0 hcs hcy
            generalize wr.drew = wd at *
            refine wpG_take 0 68 (v := ?v0z) rfl rfl (by kernel_rfl) (by kernel_rfl) (by kernel_rfl) (fun _ _ _ h => h) (Or.inl ⟨by rfl, ?y0z⟩) ?r0z
            case y0z => (intro W hW; (go_simp; try with_reducible rfl))
            simp only [Act.put, List.setIfInBounds_toArray, List.set_cons_zero, List.set_cons_succ]
            refine wpG_take 1 69 (v := ?v1z) rfl rfl (by kernel_rfl) (by kernel_rfl) (by kernel_rfl) (fun _ _ _ h => h) (Or.inl ⟨by rfl, ?y1z⟩) ?r1z
            case y1z => (intro W hW; (go_simp; try with_reducible rfl))
            simp only [Act.put, List.setIfInBounds_toArray, List.set_cons_zero, List.set_cons_succ]
            refine wpG_take 2 70 (v := ?v2z) rfl rfl (by kernel_rfl) (by kernel_rfl) (by kernel_rfl) (fun _ _ _ h => h) (Or.inl ⟨by rfl, ?y2z⟩) ?r2z
            case y2z => (intro W hW; go_simp; first | rw [if_pos hm0n] | rw [if_pos hm0] | skip; try with_reducible rfl)
            simp only [Act.put, List.setIfInBounds_toArray, List.set_cons_zero, List.set_cons_succ]
            refine wpG_take 3 71 (v := ?v3z) rfl rfl (by kernel_rfl) (by kernel_rfl) (by kernel_rfl) (fun _ _ _ h => h) (Or.inl ⟨by rfl, ?y3z⟩) ?r3z
            case y3z => (intro W hW; have f0 := (hW.below.cell (p := ⟨bm, om, none⟩) hbm).trans c0.out; (go_simp; try with_reducible rfl))
            simp only [Act.put, List.setIfInBounds_toArray, List.set_cons_zero, List.set_cons_succ]
            refine wpG_take 4 72 (v := ?v4z) rfl rfl (by kernel_rfl) (by kernel_rfl) (by kernel_rfl) (fun _ _ _ h => h) (Or.inl ⟨by rfl, ?y4z⟩) ?r4z
            case y4z => (intro W hW; (go_simp; try with_reducible rfl))
            simp only [Act.put, List.setIfInBounds_toArray, List.set_cons_zero, List.set_cons_succ]
            refine wpG_take 5 73 (v := ?v5z) rfl rfl (by kernel_rfl) (by kernel_rfl) (by kernel_rfl) (fun _ _ _ h => h) (Or.inl ⟨by rfl, ?y5z⟩) ?r5z
            case y5z => (intro W hW; (go_simp; try with_reducible rfl))
            simp only [Act.put, List.setIfInBounds_toArray, List.set_cons_zero, List.set_cons_succ]
            refine wpG_take 6 74 (v := ?v6z) rfl rfl (by kernel_rfl) (by kernel_rfl) (by kernel_rfl) (fun _ _ _ h => h) (Or.inl ⟨by rfl, ?y6z⟩) ?r6z
            case y6z => (intro W hW; go_simp; first | rw [if_pos hix] | rw [if_pos hix'] | skip; try with_reducible rfl)
            simp only [Act.put, List.setIfInBounds_toArray, List.set_cons_zero, List.set_cons_succ]
            refine wpG_take 7 75 (v := ?v7z) rfl rfl (by kernel_rfl) (by kernel_rfl) (by kernel_rfl) (fun _ _ _ h => h) (Or.inl ⟨by rfl, ?y7z⟩) ?r7z
            case y7z => (intro W hW; have f0 := (hW.below.cell (p := ⟨bm, om + i, none⟩) hbm).trans c1.out; (go_simp; try with_reducible rfl))
            simp only [Act.put, List.setIfInBounds_toArray, List.set_cons_zero, List.set_cons_succ]
            refine wpG_call 8 (by kernel_rfl) rfl (fun K hK => ?_)
            go_simp
            refine (HTW.out wd HK0.out).mono ?_
            rintro e w6 ⟨rfl, hb6⟩
            refine hK.out _ _ ?_ ?_
            · exact hb6
            clear hK K
            have HS6 := Lib.hid (HK0.out.go hb6)
            clear hb6
            try simp only [Act.put, List.getElem_toArray, List.getElem_cons_succ, List.getElem_cons_zero, List.setIfInBounds_toArray, List.set_cons_zero, List.set_cons_succ]
            refine wpG_take 9 67 (v := ?v9z) rfl rfl (by kernel_rfl) (by kernel_rfl) (by kernel_rfl) (fun _ _ _ h => h) (Or.inl ⟨by rfl, ?y9z⟩) ?r9z
            case y9z => (intro W hW; (go_simp; try with_reducible rfl))
            simp only [Act.put, List.setIfInBounds_toArray, List.set_cons_zero, List.set_cons_succ]
            refine wpG_take 10 77 (v := ?v10z) rfl rfl (by kernel_rfl) (by kernel_rfl) (by kernel_rfl) (fun _ _ _ h => h) (Or.inl ⟨by rfl, ?y10z⟩) ?r10z
            case y10z => (intro W hW; (go_simp; try with_reducible rfl))
            simp only [Act.put, List.setIfInBounds_toArray, List.set_cons_zero, List.set_cons_succ]
            refine wpG_take 11 78 (v := ?v11z) rfl rfl (by kernel_rfl) (by kernel_rfl) (by kernel_rfl) (fun _ _ _ h => h) (Or.inl ⟨by rfl, ?y11z⟩) ?r11z
            case y11z => (intro W hW; (go_simp; try with_reducible rfl))
            simp only [Act.put, List.setIfInBounds_toArray, List.set_cons_zero, List.set_cons_succ]
            refine wpG_take 12 12 (v := ?v12z) rfl rfl (by kernel_rfl) (by kernel_rfl) (by kernel_rfl) (fun _ _ _ h => h) (Or.inl ⟨by rfl, ?y12z⟩) ?r12z
            case y12z => (intro W hW; (go_simp; try with_reducible rfl))
            simp only [Act.put, List.setIfInBounds_toArray, List.set_cons_zero, List.set_cons_succ]
            refine wpG_take 13 13 (v := ?v13z) rfl rfl (by kernel_rfl) (by kernel_rfl) (by kernel_rfl) (fun _ _ _ h => h) (Or.inl ⟨by rfl, ?y13z⟩) ?r13z
            case y13z => (intro W hW; (go_simp; try with_reducible rfl))
            simp only [Act.put, List.setIfInBounds_toArray, List.set_cons_zero, List.set_cons_succ]
            refine wpG_done (by kernel_rfl) ?_ _
            have hc6 := HCELL.out _ HS6.out
            obtain ⟨hcy6, hcx6⟩ := hc6
            have HCX6 := Lib.hid (HCX.out _ HS6.out)
            have HCY6 := Lib.hid (HCY.out _ HS6.out)
            cases tk with
            | false =>
              go_wp2_with fail
              go_quiet (first
                | (go_at_call 20; first | with_reducible exact HCX6.out _ | with_reducible exact HCY6.out _))
              go_wp2
              go_roundw
              case rel => exact ⟨i + 1, by omega, by omega, by go_num, HS6.out.go (below_drewN' (Below.refl _ _) _)⟩
              case measure => simp [intOf]; omega
            | true =>
              obtain ⟨hj0, hncl⟩ := HMT.out rfl
              have hi2 : 2 ≤ i := by have := HIJ.out; omega
              have hne1 : ((i : Int) == 1) = false := beq_eq_false_iff_ne.2 (by omega)
              have hcl : decide (cx < cy) = false := decide_eq_false (by omega)
              have hcx6 : w6.cell? ⟨bm, om + (i - 1), none⟩ = some (.int .i32 x) := by have := HIJ.out; rw [show i - 1 = j by omega]; exact hcx6
              obtain ⟨jj, rfl⟩ : ∃ jj, i = jj + 1 := ⟨i - 1, by omega⟩
              have hcx6 : w6.cell? ⟨bm, om + jj, none⟩ = some (.int .i32 x) := hcx6
              have hixj : (jj : Int) < m := by omega
              have hjj0 : ((jj : Int) == 0) = false := beq_eq_false_iff_ne.2 (by omega)
              have hjj1 : ((jj : Int) + 1 == 1) = false := beq_eq_false_iff_ne.2 (by omega)
              have hjj2 : ¬ jj = 0 := by omega
              go_wp2_with fail
              go_quiet (first
                | (go_at_call 20; first | with_reducible exact HCX6.out _ | with_reducible exact HCY6.out _))
              go_wp2
              go_roundw
              case rel => exact ⟨jj + 1 + 1, by omega, by omega, by go_num, HS6.out.go (below_drewN' (Below.refl _ _) _)⟩
              case measure => simp [intOf]; omega
          · obtain rfl : i = m := by omega
            have hlt2' : ¬ (i : Int) < i := by omega
            go_wp2_with fail
            with_reducible refine (HAW.out _ _ HS.out.t).mono ?_
            rintro e w12 ⟨rfl, hb12⟩
            have HB12 := Lib.hid (HS.out.go hb12).be
            clear hb12
            go_wp2
            go_ret
            exact ⟨rfl, HB12.out⟩
end Go.Proofs.Ytmedpgpokenddaa
