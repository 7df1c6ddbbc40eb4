/- strings.Builder by its contracts at this program: WriteString, String (over the library's Lib.IsBuilder). -/
import Derived.Test.YtakbbhhhdcnlnaaDoorStr8
import Derived.Test.YtakbbhhhdcnlnaaDoorRows
import Derived.Lib.Builder
import Derived.Lib.AppendStr
import Derived.Lib.UnsafeStr
import Derived.Laws.Externs
import Derived.OwnWalk
import Derived.LaidEqlPtr
namespace Go.Proofs.YtakbbhhhdcnlnaaDoor
set_option maxRecDepth 100000
open Go.RowKit Go.Extern
set_option linter.unusedVariables false
set_option linter.unusedSimpArgs false

/-- a builder in block b of its own that holds these bytes -/
def Bld (B b : Nat) (l : List UInt8) (w : World) : Prop := Lib.IsBuilder 63 5 B b (Lib.byteCells l) w
theorem builder_go {B b : Nat} {p : Value} {bs : List Value} {w w' : World} (h : Lib.BuilderAt 63 5 B b p bs w) (hb : Below w.heap.size w w') : Lib.BuilderAt 63 5 B b p bs w' := by
  have hlt := h.lt
  obtain ⟨hB, v, hbk, hown, hne⟩ := h
  exact ⟨hB, v, (hb.block b hlt).trans hbk, own_below hown hb (Nat.le_refl _), hne⟩
theorem Bld.go {B b : Nat} {l : List UInt8} {w w' : World} (h : Bld B b l w) (hb : Below w.heap.size w w') : Bld B b l w' := by
  rcases h with h | h
  · exact .inl (builder_go h hb)
  · exact .inr (builder_go h hb)
theorem Bld.new (w : World) : Bld w.heap.size w.heap.size [] (w.alloc (.cells #[.pointer none, .slice none 0 0] 63)) := Lib.fresh_isBuilder _ _ w
theorem Bld.lt {B b : Nat} {l : List UInt8} {w : World} (h : Bld B b l w) : b < w.heap.size := by
  rcases h with h | h <;> exact h.lt
theorem sizeBl : (Tryd.prog.info? 63).map (·.size) = some 2 := by kernel_rfl
theorem liesBl : liesAt Tryd.prog Tryd.prog.depth 63 (2 / Tryd.prog.cellsOf 63) 0 63 1 = true := by kernel_rfl
theorem infoU8 : (Tryd.prog.info? 5).map (fun i => (i.zero, i.size, i.bytes)) = some (some (.int .u8 0), 1, 1) := by kernel_rfl

theorem check_used (b : Nat) (w : World) (h0 : w.cell? ⟨b, 0, none⟩ = some (.pointer (some ⟨b, 0, none⟩))) :
    Calls Tryd.prog 31 #[.pointer (some ⟨b, 0, none⟩)] w fun e w' => e = .returned (.tuple #[]) ∧ w' = w := by
  obtain ⟨j, hj, _⟩ := Option.map_eq_some_iff.1 sizeBl
  have hn := Lib.run_neq_ptr_same (P := Tryd.prog) w ⟨b, 0, none⟩ Tryd.underlying60 hj
  go_enter Tryd.func31, Tryd.ntmps31
  go_wp2
  go_end0
  exact ⟨rfl, rfl⟩
theorem check_fresh (b : Nat) (w : World) (h0 : w.cell? ⟨b, 0, none⟩ = some (.pointer none)) (hsh : w.shape? b = some (63, 2)) (hfz : w.frozen? ⟨b, 0, none⟩ = false) :
    Calls Tryd.prog 31 #[.pointer (some ⟨b, 0, none⟩)] w fun e w' => e = .returned (.tuple #[]) ∧ w' = w.setCell ⟨b, 0, none⟩ (.pointer (some ⟨b, 0, none⟩)) := by
  obtain ⟨j, hj, hjs⟩ := Option.map_eq_some_iff.1 sizeBl
  have h1 := Lib.run_to_unsafe (P := Tryd.prog) w ⟨b, 0, none⟩ Tryd.underlying60 Tryd.underlying86 hj (by rw [hjs]; decide) hsh (Nat.zero_lt_succ 1)
  have h2 := Lib.run_from_unsafe (P := Tryd.prog) w ⟨b, 0, none⟩ Tryd.underlying86 Tryd.underlying60 hj hsh liesBl
  have h3 := @run_callFunc_extern Tryd.prog 40 _ (Extern.AbiNoEscape.same) Tryd.func40 (by kernel_rfl) (by kernel_rfl) (by kernel_rfl) (by kernel_rfl)
  have h4 : ∀ (x : Value) (w : World), (Extern.AbiNoEscape.same #[x]).run Tryd.prog w = .ok x w := fun _ _ => rfl
  go_enter Tryd.func31, Tryd.ntmps31
  go_wp2
  go_end0
  exact ⟨rfl, rfl⟩
theorem check_any (B b : Nat) (bs : List Value) (w : World) (h : Lib.IsBuilder 63 5 B b bs w) :
    Calls Tryd.prog 31 #[.pointer (some ⟨b, 0, none⟩)] w fun e w' => e = .returned (.tuple #[]) ∧ (Lib.BuilderAt 63 5 B b (.pointer (some ⟨b, 0, none⟩)) bs w' ∧ Below B w w') := by
  rcases h with h | h
  · refine (check_fresh b w h.cell0 h.shape h.frozen0).mono ?_
    rintro e w' ⟨rfl, rfl⟩
    exact ⟨rfl, h.used _, (Below.refl B w).setCell (p := ⟨b, 0, none⟩) h.1 _⟩
  · refine (check_used b w h.cell0).mono ?_
    rintro e w' ⟨rfl, rfl⟩
    exact ⟨rfl, h, Below.refl B _⟩

set_option maxHeartbeats 2000000 in
theorem write_any (B b : Nat) (l : List UInt8) (s : ByteArray) (w : World) (h : Bld B b l w) (hlen : l.length + s.size ≤ 140737488355328) (hBw : B ≤ w.heap.size) :
    Calls Tryd.prog 24 #[.pointer (some ⟨b, 0, none⟩), .string s] w fun e w' => e = .returned (.tuple #[.int .i64 s.size, .nilIface]) ∧ Bld B b (l ++ L8 s) w' ∧ Below B w w' := by
  obtain ⟨i0, hi, hz0, hz1, hz2⟩ := info_parts infoU8
  have hC := Lib.hid (check_any B b (Lib.byteCells l) w h)
  clear h
  go_enter Tryd.func24, Tryd.ntmps24
  go_wp2_with (go_at_call 31; refine (hC.out).mono ?_)
  rintro e w1 ⟨rfl, h1, hb1⟩
  obtain ⟨hB, v, hbk, hown, hne⟩ := h1
  have c0 : w1.cell? ⟨b, 0, none⟩ = some (.pointer (some ⟨b, 0, none⟩)) := by rw [Lib.cell_of_heap hbk]; rfl
  have c1 : w1.cell? ⟨b, 1, none⟩ = some v := by rw [Lib.cell_of_heap hbk]; rfl
  rw [Lib.byteCells_length] at hown
  go_wp2_with (at_builtin; refine Lib.wpList_append_own_string _ rfl _ _ 61 9 rfl B 5 i0 Tryd.underlying61 Tryd.underlying9 hi hz0 hz1 hz2 _ _ _ rfl hown s rfl ?c3 ?c4 ?c5 ?_)
  case c3 => unfold maxLen; omega
  case c4 => omega
  case c5 => have := hb1.size; omega
  intro v' w2 hown' hgrow _
  have hlt : b < w1.heap.size := by
    rcases Nat.lt_or_ge b w1.heap.size with h' | h'
    · exact h'
    · simp [Array.getElem?_eq_none h'] at hbk
  have hb2 : w2.heap[b]? = some (.cells #[.pointer (some ⟨b, 0, none⟩), v] 63 (0, 0)) := by
    rw [hgrow.block b hlt (fun e => hne e.symm)]
    exact hbk
  have d0 : w2.cell? ⟨b, 0, none⟩ = some (.pointer (some ⟨b, 0, none⟩)) := by rw [Lib.cell_of_heap hb2]; rfl
  have d1 : w2.cell? ⟨b, 1, none⟩ = some v := by rw [Lib.cell_of_heap hb2]; rfl
  have f1 : w2.frozen? ⟨b, 1, none⟩ = false := Lib.frozen_of_heap hb2 1
  obtain ⟨ao, n', cap, rfl⟩ : ∃ ao n' cap, v' = .slice ao n' cap := by
    rcases hown'.2 with ⟨hv, _⟩ | ⟨g, cap, cur, hv, _⟩
    · exact ⟨_, _, _, hv⟩
    · exact ⟨_, _, _, hv⟩
  go_wp2
  go_ret2
  refine ⟨rfl, ?_, ?_⟩
  · refine .inr (Lib.BuilderAt.put (T := 63) (e := 5) hB hb2 (bs' := Lib.byteCells (l ++ L8 s)) ?_ (by decide))
    rw [Lib.byteCells_append, List.length_append, Lib.byteCells_length, Lib.byteCells_length, L8_len]
    exact hown'
  · exact (hb1.grown hgrow (by have := hb1.size; omega) (fun k hk => (hown.lt k hk).1)).setCell (p := ⟨b, 1, none⟩) hB _

set_option maxHeartbeats 2000000 in
theorem string_any (B b : Nat) (l : List UInt8) (w : World) (h : Bld B b l w) (h0 : l ≠ []) :
    Calls Tryd.prog 26 #[.pointer (some ⟨b, 0, none⟩)] w fun e w' => e = .returned (.string (bs l)) ∧ Below B w w' := by
  obtain ⟨p, hB, v, hbk, hown, hne⟩ : ∃ p, Lib.BuilderAt 63 5 B b p (Lib.byteCells l) w := by
    rcases h with h | h
    · exact ⟨_, h⟩
    · exact ⟨_, h⟩
  have hl0 : l.length ≠ 0 := by simpa using h0
  rw [Lib.byteCells_length] at hown
  obtain ⟨g, cap, cur, rfl, hbg, hg, hnc, hcm, hcs, htake⟩ : ∃ g cap cur, v = .slice (some ⟨g, 0, none⟩) l.length cap ∧ B ≤ g ∧ w.heap[g]? = some (.cells cur 5 (0, 0)) ∧ l.length ≤ cap ∧ cap ≤ maxLen ∧ cur.size = cap * 1 ∧ cur.toList.take (l.length * 1) = Lib.byteCells l := by
    rcases hown.2 with ⟨_, hz⟩ | ⟨g, cap, cur, hv, r⟩
    · exact absurd hz hl0
    · exact ⟨g, cap, cur, hv, r⟩
  have c1 : w.cell? ⟨b, 1, none⟩ = some (.slice (some ⟨g, 0, none⟩) l.length cap) := by rw [Lib.cell_of_heap hbk]; rfl
  have c1d : w.drew.cell? ⟨b, 1, none⟩ = some (.slice (some ⟨g, 0, none⟩) l.length cap) := c1
  have hSD : ∀ W, (Builtin.unsafeSliceData_ #[61] 79 #[.slice (some ⟨g, 0, none⟩) l.length cap]).run Tryd.prog W = .ok (.pointer (some ⟨g, 0, none⟩)) W := fun W =>
    Lib.run_unsafeSliceData_row W _ _ _ _ _ (by omega)
  have hUS : (Builtin.unsafeString_ #[79, 3] 9 #[.pointer (some ⟨g, 0, none⟩), .int .i64 l.length]).run Tryd.prog w.drew = .ok (.string ⟨l.toArray⟩) (w.drew.freeze ⟨g, 0, none⟩ l.length) := by
    refine Lib.run_unsafeString_row w.drew 79 3 9 5 Tryd.underlying79 (by kernel_rfl) g cur.size (by have hg' : w.drew.heap[g]? = some (.cells cur 5 (0, 0)) := hg; simp [World.shape?, hg']) l h0 (by omega) (by unfold maxLen at hcm; omega) ?_
    intro j x hx
    have := hown.cells (g := g) rfl j (.int .u8 x.toNat) (by simp [Lib.byteCells, hx])
    exact this
  have hE : Hid (Below B w (w.drew.freeze ⟨g, 0, none⟩ l.length)) := Lib.hid (Lib.below_freeze (Below.drew (Below.refl B w)) (p := ⟨g, 0, none⟩) hbg _)
  clear hbk hown hne hg hnc hcs htake hcm h
  go_enter Tryd.func26, Tryd.ntmps26
  go_wp2
  go_region
  all_goals (go_wp2; go_ret; exact ⟨rfl, hE.out⟩)
/-- of a builder that nothing was written to -/
theorem string_nil (w : World) (b : Nat) (h : Blk w b 63 #[.pointer none, .slice none 0 0]) :
    Calls Tryd.prog 26 #[.pointer (some ⟨b, 0, none⟩)] w fun e w' => e = .returned (.string ⟨#[]⟩) ∧ Below w.heap.size w w' := by
  have c1 := h.cell 1
  simp only [List.getElem?_toArray, List.getElem?_cons_zero, List.getElem?_cons_succ] at c1
  have c1d : w.drew.cell? ⟨b, 1, none⟩ = some (.slice none 0 0) := c1
  have hSD : ∀ W, (Builtin.unsafeSliceData_ #[61] 79 #[.slice none 0 0]).run Tryd.prog W = .ok (.pointer none) W := fun W => rfl
  have hUS : ∀ W, (Builtin.unsafeString_ #[79, 3] 9 #[.pointer none, .int .i64 0]).run Tryd.prog W = .ok (.string .empty) W := fun W => Lib.run_unsafeString_none W _ _ _ _
  go_enter Tryd.func26, Tryd.ntmps26
  go_wp2
  go_region
  all_goals (go_wp2; go_ret; exact ⟨rfl, Below.drew (Below.refl _ w)⟩)
end Go.Proofs.YtakbbhhhdcnlnaaDoor
