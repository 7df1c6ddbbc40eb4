/- Joined of: P12E, P12M, U8Str, P12Q. -/
import Derived.Test.YtdcfhkiajeiaoaaDoorJ12E
import Derived.Test.YtdcfhkiajeiaoaaDoorJ12C
import Derived.Test.YtdcfhkiajeiaoaaDoorJ12B
import Derived.Laws.BytesArg
import Derived.Lib.SlBytesConst
/- The program's string: what follows behind the sign; Push, New, Text, Len, Inside. -/
namespace Go.Proofs.YtdcfhkiajeiaoaaDoor
set_option maxRecDepth 100000
open Go.ChangeShapes Go.WideShapes Go.ChangeAt Go.RowKit
set_option linter.unusedVariables false
set_option linter.unusedSimpArgs false

set_option maxHeartbeats 2000000 in
theorem beginUnit_any (base g bb : Nat) (sv : Value) (s : Ss) (w : World) (h : StrIs w base g bb sv s) (hv : s.v = false) (he : s.e = 1) :
    Calls Tryd.prog 68 #[.pointer (some ⟨g, 0, none⟩)] w (PRes base g bb sv { s with e := 2, h := [] } (.int .i64 0) w) := by
  obtain ⟨d, z, hm, _⟩ := h.m
  have HP : Hid (pushS s 117 = (false, 0, { s with e := 2, h := [] })) := Lib.hid (push_u hv he)
  have HOK : Hid (SOk { s with e := 2, h := [] }) := Lib.hid (by have := push_ok h.ok (x := 117) (by omega) (by omega); rw [HP.out] at this; exact this)
  have HM := Lib.hid hm
  have HH := Lib.hid h
  have f0 : w.frozen? ⟨g, 0, none⟩ = false := hm.blk.frozen 0
  have f4 : w.frozen? ⟨g, 4, none⟩ = false := hm.blk.frozen 4
  have f5 : w.frozen? ⟨g, 5, none⟩ = false := hm.blk.frozen 5
  have c0 : w.cell? ⟨g, 0, none⟩ = some (.int .i64 (atF s)) := hm.blk.cell 0
  have c4 : w.cell? ⟨g, 4, none⟩ = some (.int .u16 d) := hm.blk.cell 4
  have c5 : w.cell? ⟨g, 5, none⟩ = some (.int .i64 z) := hm.blk.cell 5
  have hlt : g < w.heap.size := hm.blk.lt
  clear hm h
  go_enter Tryd.func68, Tryd.ntmps68
  go_wp2
  go_ret
  have k1 : StrBlk (w.setCell ⟨g, 0, none⟩ (.int .i64 2)) g 2 sv s.o.length (slB bb s.b.length) d z s.k := HM.out.blk.put 0 _ rfl
  have k2 := k1.put 4 (.int .u16 0) (ds := #[.int .i64 2, sv, .int .i64 s.o.length, slB bb s.b.length, .int .u16 0, .int .i64 z, .int .u16 s.k]) rfl
  have k3 := k2.put 5 (.int .i64 0) (ds := #[.int .i64 2, sv, .int .i64 s.o.length, slB bb s.b.length, .int .u16 0, .int .i64 0, .int .u16 s.k]) rfl
  have o1 := rown_set (i := 0) (u := .int .i64 2) HM.out.own HM.out.blk (by decide)
  have p1 := rown_set (i := 0) (u := .int .i64 2) HM.out.beg HM.out.blk (by decide)
  have o2 := rown_set (i := 4) (u := .int .u16 0) o1 k1 (by decide)
  have p2 := rown_set (i := 4) (u := .int .u16 0) p1 k1 (by decide)
  refine ⟨rfl, sv, ⟨HOK.out, HH.out.len, 0, 0, ?_, fun _ _ => ⟨rfl, rfl⟩⟩, (((SFr.refl g bb sv w).set 0 _).set 4 _).set 5 _, RowTo.refl _ _⟩
  have hat' : atF { s with e := 2, h := [] } = 2 := by unfold atF; dsimp only; rw [hv]; rfl
  rw [hat']
  exact ⟨k3, rown_set o2 k2 (by decide), rown_set p2 k2 (by decide), HM.out.ne, HM.out.lg⟩
/-- one scalar said behind a sign -/
theorem say_esc (base g bb : Nat) (sv : Value) (s : Ss) (c : Int) (w : World) (h : StrIs w base g bb sv s) (hv : s.v = false) (he : s.e = 1) (hc0 : 0 ≤ c) (hc1 : c ≤ 127) (hbase : base ≤ w.heap.size) (hlo : s.o.length + 1 ≤ 100000) :
    Calls Tryd.prog 59 #[.pointer (some ⟨g, 0, none⟩), .int .i32 c] w (if 0 < s.k then PRes base g bb sv s (.int .i64 5) w else PRes base g bb sv { s with o := s.o ++ [c], e := 0 } (.int .i64 0) w) := by
  obtain ⟨d, z, hm, hd⟩ := h.m
  by_cases hk : 0 < s.k
  · rw [if_pos hk]
    exact (say_wait g _ sv _ _ d z s.k w hm.blk hk c).mono fun e w' ⟨he, hw⟩ => by subst hw; exact PRes.still h he (Below.refl _ _)
  · rw [if_neg hk]
    have hk0 : s.k = 0 := by rcases h.ok.k with h | h; exact h; omega
    rw [hk0] at hm
    have htl := txt_len4 s.o
    have hlen := h.len
    obtain ⟨a1, a2, a3, a4, a5, a6, a7, a8, a9, a10, a11, a12, a13⟩ := h.ok
    have hb0 := a8 (by omega)
    refine (say_m base g bb sv _ _ d z s.b (txt s.o) w hm (by omega) (by rw [hb0]; simp) (by omega) (by omega) c (isB_small hc0 hc1).2 hc0 (by omega) hbase).mono ?_
    rintro e w' ⟨rfl, sv', h1, h2, h3⟩
    refine ⟨rfl, sv', ⟨⟨snoc_mem a1 (isB_small hc0 hc1), a2, a3, by show 0 ≤ 2; omega, a5, a6, fun _ => a7 (by omega), fun h => absurd rfl h, a9, a10, (fun h => by rw [hv] at h; cases h), (fun h => by cases h), (fun h => by cases h)⟩, by show (s.o ++ [c]).length ≤ _; rw [List.length_append, List.length_singleton]; omega, d, z, ?_, fun _ h2 => absurd (show 0 = 2 from h2) (by decide)⟩, h2, h3⟩
    have hat' : atF { s with o := s.o ++ [c], e := 0 } = 0 := by unfold atF; dsimp only; rw [hv]; rfl
    rw [hat']
    show StrM _ base g bb sv' 0 ((s.o ++ [c]).length : Int) d z s.k s.b (txt (s.o ++ [c]))
    rw [txt_snoc1, hb0, hk0, List.length_append, List.length_singleton]
    have e : ((s.o.length + 1 : Nat) : Int) = (s.o.length : Int) + 1 := by omega
    rw [e]
    exact h1
def EscRes (base g bb : Nat) (sv : Value) (s : Ss) (c : Int) (w : World) : Ending → World → Prop := if 0 < s.k then PRes base g bb sv s (.int .i64 5) w else PRes base g bb sv { s with o := s.o ++ [c], e := 0 } (.int .i64 0) w
theorem EscRes.is {base g bb : Nat} {sv : Value} {s : Ss} {c : Int} {w w1 : World} {e : Ending} (h : EscRes base g bb sv s c w e w1) : ∃ r, e = .returned (.int .i64 r) := by
  unfold EscRes at h
  split at h
  · exact ⟨5, h.1⟩
  · exact ⟨0, h.1⟩
theorem sayQuote_any (base g bb : Nat) (sv : Value) (s : Ss) (w : World) (h : StrIs w base g bb sv s) (hv : s.v = false) (he : s.e = 1) (hbase : base ≤ w.heap.size) (hlo : s.o.length + 1 ≤ 100000) :
    Calls Tryd.prog 60 #[.pointer (some ⟨g, 0, none⟩)] w (EscRes base g bb sv s 34 w) := by
  have HS : Hid (Calls Tryd.prog 59 #[.pointer (some ⟨g, 0, none⟩), .int .i32 34] w (EscRes base g bb sv s 34 w)) := Lib.hid (say_esc base g bb sv s 34 w h hv he (by omega) (by omega) hbase hlo)
  clear h
  go_enter Tryd.func60, Tryd.ntmps60
  go_wp2_with fail
  with_reducible refine HS.out.mono ?_
  intro e w1 hr
  obtain ⟨r, rfl⟩ := hr.is
  have HRR := Lib.hid hr
  clear hr
  go_wp2
  go_ret
  exact HRR.out
theorem saySign_any (base g bb : Nat) (sv : Value) (s : Ss) (w : World) (h : StrIs w base g bb sv s) (hv : s.v = false) (he : s.e = 1) (hbase : base ≤ w.heap.size) (hlo : s.o.length + 1 ≤ 100000) :
    Calls Tryd.prog 61 #[.pointer (some ⟨g, 0, none⟩)] w (EscRes base g bb sv s 92 w) := by
  have HS : Hid (Calls Tryd.prog 59 #[.pointer (some ⟨g, 0, none⟩), .int .i32 92] w (EscRes base g bb sv s 92 w)) := Lib.hid (say_esc base g bb sv s 92 w h hv he (by omega) (by omega) hbase hlo)
  clear h
  go_enter Tryd.func61, Tryd.ntmps61
  go_wp2_with fail
  with_reducible refine HS.out.mono ?_
  intro e w1 hr
  obtain ⟨r, rfl⟩ := hr.is
  have HRR := Lib.hid hr
  clear hr
  go_wp2
  go_ret
  exact HRR.out
theorem saySlash_any (base g bb : Nat) (sv : Value) (s : Ss) (w : World) (h : StrIs w base g bb sv s) (hv : s.v = false) (he : s.e = 1) (hbase : base ≤ w.heap.size) (hlo : s.o.length + 1 ≤ 100000) :
    Calls Tryd.prog 62 #[.pointer (some ⟨g, 0, none⟩)] w (EscRes base g bb sv s 47 w) := by
  have HS : Hid (Calls Tryd.prog 59 #[.pointer (some ⟨g, 0, none⟩), .int .i32 47] w (EscRes base g bb sv s 47 w)) := Lib.hid (say_esc base g bb sv s 47 w h hv he (by omega) (by omega) hbase hlo)
  clear h
  go_enter Tryd.func62, Tryd.ntmps62
  go_wp2_with fail
  with_reducible refine HS.out.mono ?_
  intro e w1 hr
  obtain ⟨r, rfl⟩ := hr.is
  have HRR := Lib.hid hr
  clear hr
  go_wp2
  go_ret
  exact HRR.out
theorem sayBackspace_any (base g bb : Nat) (sv : Value) (s : Ss) (w : World) (h : StrIs w base g bb sv s) (hv : s.v = false) (he : s.e = 1) (hbase : base ≤ w.heap.size) (hlo : s.o.length + 1 ≤ 100000) :
    Calls Tryd.prog 63 #[.pointer (some ⟨g, 0, none⟩)] w (EscRes base g bb sv s 8 w) := by
  have HS : Hid (Calls Tryd.prog 59 #[.pointer (some ⟨g, 0, none⟩), .int .i32 8] w (EscRes base g bb sv s 8 w)) := Lib.hid (say_esc base g bb sv s 8 w h hv he (by omega) (by omega) hbase hlo)
  clear h
  go_enter Tryd.func63, Tryd.ntmps63
  go_wp2_with fail
  with_reducible refine HS.out.mono ?_
  intro e w1 hr
  obtain ⟨r, rfl⟩ := hr.is
  have HRR := Lib.hid hr
  clear hr
  go_wp2
  go_ret
  exact HRR.out
theorem sayFormFeed_any (base g bb : Nat) (sv : Value) (s : Ss) (w : World) (h : StrIs w base g bb sv s) (hv : s.v = false) (he : s.e = 1) (hbase : base ≤ w.heap.size) (hlo : s.o.length + 1 ≤ 100000) :
    Calls Tryd.prog 64 #[.pointer (some ⟨g, 0, none⟩)] w (EscRes base g bb sv s 12 w) := by
  have HS : Hid (Calls Tryd.prog 59 #[.pointer (some ⟨g, 0, none⟩), .int .i32 12] w (EscRes base g bb sv s 12 w)) := Lib.hid (say_esc base g bb sv s 12 w h hv he (by omega) (by omega) hbase hlo)
  clear h
  go_enter Tryd.func64, Tryd.ntmps64
  go_wp2_with fail
  with_reducible refine HS.out.mono ?_
  intro e w1 hr
  obtain ⟨r, rfl⟩ := hr.is
  have HRR := Lib.hid hr
  clear hr
  go_wp2
  go_ret
  exact HRR.out
theorem sayLineFeed_any (base g bb : Nat) (sv : Value) (s : Ss) (w : World) (h : StrIs w base g bb sv s) (hv : s.v = false) (he : s.e = 1) (hbase : base ≤ w.heap.size) (hlo : s.o.length + 1 ≤ 100000) :
    Calls Tryd.prog 65 #[.pointer (some ⟨g, 0, none⟩)] w (EscRes base g bb sv s 10 w) := by
  have HS : Hid (Calls Tryd.prog 59 #[.pointer (some ⟨g, 0, none⟩), .int .i32 10] w (EscRes base g bb sv s 10 w)) := Lib.hid (say_esc base g bb sv s 10 w h hv he (by omega) (by omega) hbase hlo)
  clear h
  go_enter Tryd.func65, Tryd.ntmps65
  go_wp2_with fail
  with_reducible refine HS.out.mono ?_
  intro e w1 hr
  obtain ⟨r, rfl⟩ := hr.is
  have HRR := Lib.hid hr
  clear hr
  go_wp2
  go_ret
  exact HRR.out
theorem sayReturn_any (base g bb : Nat) (sv : Value) (s : Ss) (w : World) (h : StrIs w base g bb sv s) (hv : s.v = false) (he : s.e = 1) (hbase : base ≤ w.heap.size) (hlo : s.o.length + 1 ≤ 100000) :
    Calls Tryd.prog 66 #[.pointer (some ⟨g, 0, none⟩)] w (EscRes base g bb sv s 13 w) := by
  have HS : Hid (Calls Tryd.prog 59 #[.pointer (some ⟨g, 0, none⟩), .int .i32 13] w (EscRes base g bb sv s 13 w)) := Lib.hid (say_esc base g bb sv s 13 w h hv he (by omega) (by omega) hbase hlo)
  clear h
  go_enter Tryd.func66, Tryd.ntmps66
  go_wp2_with fail
  with_reducible refine HS.out.mono ?_
  intro e w1 hr
  obtain ⟨r, rfl⟩ := hr.is
  have HRR := Lib.hid hr
  clear hr
  go_wp2
  go_ret
  exact HRR.out
theorem sayTab_any (base g bb : Nat) (sv : Value) (s : Ss) (w : World) (h : StrIs w base g bb sv s) (hv : s.v = false) (he : s.e = 1) (hbase : base ≤ w.heap.size) (hlo : s.o.length + 1 ≤ 100000) :
    Calls Tryd.prog 67 #[.pointer (some ⟨g, 0, none⟩)] w (EscRes base g bb sv s 9 w) := by
  have HS : Hid (Calls Tryd.prog 59 #[.pointer (some ⟨g, 0, none⟩), .int .i32 9] w (EscRes base g bb sv s 9 w)) := Lib.hid (say_esc base g bb sv s 9 w h hv he (by omega) (by omega) hbase hlo)
  clear h
  go_enter Tryd.func67, Tryd.ntmps67
  go_wp2_with fail
  with_reducible refine HS.out.mono ?_
  intro e w1 hr
  obtain ⟨r, rfl⟩ := hr.is
  have HRR := Lib.hid hr
  clear hr
  go_wp2
  go_ret
  exact HRR.out
end Go.Proofs.YtdcfhkiajeiaoaaDoor

/- The program's escapes: a map of method expressions; what follows behind the sign. -/
namespace Go.Proofs.YtdcfhkiajeiaoaaDoor
set_option maxRecDepth 100000
open Go.ChangeShapes Go.WideShapes Go.ChangeAt Go.RowKit
set_option linter.unusedVariables false
set_option linter.unusedSimpArgs false

def fnV (n : Nat) : Value := .func (.func n) #[] #[]
def escN (x : Int) : Nat := if x = 34 then 60 else if x = 92 then 61 else if x = 47 then 62 else if x = 98 then 63 else if x = 102 then 64 else if x = 110 then 65 else if x = 114 then 66 else if x = 116 then 67 else if x = 117 then 68 else 0
def escK : List Int := [34, 92, 47, 98, 102, 110, 114, 116, 117]
abbrev D8 (k : Int) : Prop := (Lit.int .u8 k).wf = true
abbrev EscMap (w : World) (b : Nat) : Prop := MapIs w b (Value.int .u8) fnV D8 escK escN
theorem u8_kv : Kv Tryd.prog 5 (Value.int .u8) D8 := int_kv Tryd.underlying5
theorem kput_new {ks : List Int} {k : Int} (h : k ∉ ks) : kput ks k = ks ++ [k] := by rw [kput, if_neg h]
set_option maxHeartbeats 4000000 in
theorem escapes_any (w : World) :
    Calls Tryd.prog 49 #[] w fun e w' => e = .returned (.map (some w.heap.size)) ∧ EscMap w' w.heap.size ∧ Below w.heap.size w w' := by
  have hmm := @run_makeMap Tryd.prog
  have h0 : MapIs (w.alloc (.map #[] 0)) w.heap.size (Value.int .u8) fnV D8 [] escN := MapIs.made w _ _ _ _
  have b0 : Below w.heap.size w (w.alloc (.map #[] 0)) := (Below.refl _ _).alloc (Nat.le_refl _) _
  obtain ⟨w1, r1, h1, e1⟩ := h0.store u8_kv Tryd.underlying78 34 (by decide) 60
  rw [kput_new (by decide)] at h1
  have r1 : (Instr.mapUpdate 78 (.map (some w.heap.size)) (.int .u8 34) (.func (.func 60) #[] #[])).run Tryd.prog (w.alloc (.map #[] 0)) = .ok () w1 := r1
  have b1 : Below w.heap.size w w1 := b0.trans (e1.below (Nat.le_refl _) b0.size)
  obtain ⟨w2, r2, h2, e2⟩ := h1.store u8_kv Tryd.underlying78 92 (by decide) 61
  rw [kput_new (by decide)] at h2
  have r2 : (Instr.mapUpdate 78 (.map (some w.heap.size)) (.int .u8 92) (.func (.func 61) #[] #[])).run Tryd.prog w1 = .ok () w2 := r2
  have b2 : Below w.heap.size w w2 := b1.trans (e2.below (Nat.le_refl _) b1.size)
  obtain ⟨w3, r3, h3, e3⟩ := h2.store u8_kv Tryd.underlying78 47 (by decide) 62
  rw [kput_new (by decide)] at h3
  have r3 : (Instr.mapUpdate 78 (.map (some w.heap.size)) (.int .u8 47) (.func (.func 62) #[] #[])).run Tryd.prog w2 = .ok () w3 := r3
  have b3 : Below w.heap.size w w3 := b2.trans (e3.below (Nat.le_refl _) b2.size)
  obtain ⟨w4, r4, h4, e4⟩ := h3.store u8_kv Tryd.underlying78 98 (by decide) 63
  rw [kput_new (by decide)] at h4
  have r4 : (Instr.mapUpdate 78 (.map (some w.heap.size)) (.int .u8 98) (.func (.func 63) #[] #[])).run Tryd.prog w3 = .ok () w4 := r4
  have b4 : Below w.heap.size w w4 := b3.trans (e4.below (Nat.le_refl _) b3.size)
  obtain ⟨w5, r5, h5, e5⟩ := h4.store u8_kv Tryd.underlying78 102 (by decide) 64
  rw [kput_new (by decide)] at h5
  have r5 : (Instr.mapUpdate 78 (.map (some w.heap.size)) (.int .u8 102) (.func (.func 64) #[] #[])).run Tryd.prog w4 = .ok () w5 := r5
  have b5 : Below w.heap.size w w5 := b4.trans (e5.below (Nat.le_refl _) b4.size)
  obtain ⟨w6, r6, h6, e6⟩ := h5.store u8_kv Tryd.underlying78 110 (by decide) 65
  rw [kput_new (by decide)] at h6
  have r6 : (Instr.mapUpdate 78 (.map (some w.heap.size)) (.int .u8 110) (.func (.func 65) #[] #[])).run Tryd.prog w5 = .ok () w6 := r6
  have b6 : Below w.heap.size w w6 := b5.trans (e6.below (Nat.le_refl _) b5.size)
  obtain ⟨w7, r7, h7, e7⟩ := h6.store u8_kv Tryd.underlying78 114 (by decide) 66
  rw [kput_new (by decide)] at h7
  have r7 : (Instr.mapUpdate 78 (.map (some w.heap.size)) (.int .u8 114) (.func (.func 66) #[] #[])).run Tryd.prog w6 = .ok () w7 := r7
  have b7 : Below w.heap.size w w7 := b6.trans (e7.below (Nat.le_refl _) b6.size)
  obtain ⟨w8, r8, h8, e8⟩ := h7.store u8_kv Tryd.underlying78 116 (by decide) 67
  rw [kput_new (by decide)] at h8
  have r8 : (Instr.mapUpdate 78 (.map (some w.heap.size)) (.int .u8 116) (.func (.func 67) #[] #[])).run Tryd.prog w7 = .ok () w8 := r8
  have b8 : Below w.heap.size w w8 := b7.trans (e8.below (Nat.le_refl _) b7.size)
  obtain ⟨w9, r9, h9, e9⟩ := h8.store u8_kv Tryd.underlying78 117 (by decide) 68
  rw [kput_new (by decide)] at h9
  have r9 : (Instr.mapUpdate 78 (.map (some w.heap.size)) (.int .u8 117) (.func (.func 68) #[] #[])).run Tryd.prog w8 = .ok () w9 := r9
  have b9 : Below w.heap.size w w9 := b8.trans (e9.below (Nat.le_refl _) b8.size)
  have HM : Hid (EscMap w9 w.heap.size) := Lib.hid (MapIs.congr h9 (fun x hx => by
    have hx' : x ∈ escK := hx
    unfold escK at hx'
    simp only [List.mem_cons, List.not_mem_nil, or_false] at hx'
    rcases hx' with rfl | rfl | rfl | rfl | rfl | rfl | rfl | rfl | rfl <;> rfl))
  have HB := Lib.hid b9
  clear h0 h1 h2 h3 h4 h5 h6 h7 h8 h9 b0 b1 b2 b3 b4 b5 b6 b7 b8 b9 e1 e2 e3 e4 e5 e6 e7 e8 e9
  go_enter Tryd.func49, Tryd.ntmps49
  go_wp2
  go_ret
  exact ⟨rfl, HM.out, HB.out⟩
theorem zero_fn (w : World) : (zeroValue 76).run Tryd.prog w = .ok .nilFunc w := by kernel_rfl
theorem esc_look {w : World} {b : Nat} (h : EscMap w b) (x : Int) (hx0 : 0 ≤ x) (hx1 : x ≤ 255) : (Instr.lookup 78 (.map (some b)) (.int .u8 x) true).run Tryd.prog w = .ok (.tuple #[if x ∈ escK then fnV (escN x) else .nilFunc, .bool (decide (x ∈ escK))]) w :=
  h.look u8_kv Tryd.underlying78 (zero_fn w) x (WalkArith.wf_u8 (by omega)) true
theorem esc_none {s : Ss} {x : Int} (h : x ∉ escK) : escS s x = (2, s) := by
  have hn : ¬ (x = 34 ∨ x = 92 ∨ x = 47 ∨ x = 98 ∨ x = 102 ∨ x = 110 ∨ x = 114 ∨ x = 116 ∨ x = 117) := fun hh => h (by unfold escK; simpa using hh)
  have h1 : simpF x = -1 := by unfold simpF; (repeat' split) <;> omega
  unfold escS
  rw [if_neg (by omega), h1, if_pos (by omega)]
theorem pres_esc {base g bb : Nat} {sv : Value} {s : Ss} {x c : Int} {w w1 w' : World} {e : Ending} (h117 : x ≠ 117) (hc : simpF x = c) (hc0 : 0 ≤ c) (hb : Below w.heap.size w w1) (h : EscRes base g bb sv s c w1 e w') : PRes base g bb sv (escS s x).2 (.int .i64 (escS s x).1) w e w' := by
  have ht : ∀ s' v, PRes base g bb sv s' v w1 e w' → PRes base g bb sv s' v w e w' := fun s' v ⟨a1, sv', a2, a3, a4⟩ => ⟨a1, sv', a2, (SFr.of_below hb).trans (RowTo.refl _ _) a3, (RowTo.refl w sv).trans a4 hb.size⟩
  unfold escS
  rw [if_neg h117, hc, if_neg (by omega)]
  unfold EscRes at h
  by_cases hk : 0 < s.k
  · rw [if_pos hk] at h
    rw [if_pos hk]
    exact ht _ _ h
  · rw [if_neg hk] at h
    rw [if_neg hk]
    exact ht _ _ h
set_option maxHeartbeats 8000000 in
theorem takeEscape_any (base g bb : Nat) (sv : Value) (s : Ss) (x : Int) (w : World) (h : StrIs w base g bb sv s) (hv : s.v = false) (he : s.e = 1) (hx0 : 0 ≤ x) (hx1 : x ≤ 255) (hbase : base ≤ w.heap.size) (hlo : s.o.length + 1 ≤ 100000) :
    Calls Tryd.prog 32 #[.pointer (some ⟨g, 0, none⟩), .int .u8 x] w (PRes base g bb sv (escS s x).2 (.int .i64 (escS s x).1) w) := by
  have HES := Lib.hid (escapes_any w)
  have HH := Lib.hid h
  clear h
  by_cases hin : x ∈ escK
  · have hin' := hin
    unfold escK at hin'
    simp only [List.mem_cons, List.not_mem_nil, or_false] at hin'
    clear hin
    rcases hin' with rfl | rfl | rfl | rfl | rfl | rfl | rfl | rfl | rfl
    · go_enter Tryd.func32, Tryd.ntmps32
      go_wp2_with fail
      with_reducible refine HES.out.mono ?_
      rintro e w1 ⟨rfl, hmap, hb1⟩
      have hlk : (Instr.lookup 78 (.map (some w.heap.size)) (.int .u8 34) true).run Tryd.prog w1 = .ok (.tuple #[.func (.func 60) #[] #[], .bool true]) w1 := esc_look hmap 34 (by omega) (by omega)
      have HB1 := Lib.hid hb1
      have HS := Lib.hid (sayQuote_any base g bb sv s w1 (HH.out.go hb1) hv he (Nat.le_trans hbase hb1.size) hlo)
      clear hmap hb1
      go_wp2_with fail
      with_reducible refine HS.out.mono ?_
      intro e w2 hr
      obtain ⟨r, rfl⟩ := hr.is
      have HRR := Lib.hid hr
      clear hr hlk
      go_wp2
      go_ret
      exact pres_esc (c := 34) (by decide) rfl (by omega) HB1.out HRR.out
    · go_enter Tryd.func32, Tryd.ntmps32
      go_wp2_with fail
      with_reducible refine HES.out.mono ?_
      rintro e w1 ⟨rfl, hmap, hb1⟩
      have hlk : (Instr.lookup 78 (.map (some w.heap.size)) (.int .u8 92) true).run Tryd.prog w1 = .ok (.tuple #[.func (.func 61) #[] #[], .bool true]) w1 := esc_look hmap 92 (by omega) (by omega)
      have HB1 := Lib.hid hb1
      have HS := Lib.hid (saySign_any base g bb sv s w1 (HH.out.go hb1) hv he (Nat.le_trans hbase hb1.size) hlo)
      clear hmap hb1
      go_wp2_with fail
      with_reducible refine HS.out.mono ?_
      intro e w2 hr
      obtain ⟨r, rfl⟩ := hr.is
      have HRR := Lib.hid hr
      clear hr hlk
      go_wp2
      go_ret
      exact pres_esc (c := 92) (by decide) rfl (by omega) HB1.out HRR.out
    · go_enter Tryd.func32, Tryd.ntmps32
      go_wp2_with fail
      with_reducible refine HES.out.mono ?_
      rintro e w1 ⟨rfl, hmap, hb1⟩
      have hlk : (Instr.lookup 78 (.map (some w.heap.size)) (.int .u8 47) true).run Tryd.prog w1 = .ok (.tuple #[.func (.func 62) #[] #[], .bool true]) w1 := esc_look hmap 47 (by omega) (by omega)
      have HB1 := Lib.hid hb1
      have HS := Lib.hid (saySlash_any base g bb sv s w1 (HH.out.go hb1) hv he (Nat.le_trans hbase hb1.size) hlo)
      clear hmap hb1
      go_wp2_with fail
      with_reducible refine HS.out.mono ?_
      intro e w2 hr
      obtain ⟨r, rfl⟩ := hr.is
      have HRR := Lib.hid hr
      clear hr hlk
      go_wp2
      go_ret
      exact pres_esc (c := 47) (by decide) rfl (by omega) HB1.out HRR.out
    · go_enter Tryd.func32, Tryd.ntmps32
      go_wp2_with fail
      with_reducible refine HES.out.mono ?_
      rintro e w1 ⟨rfl, hmap, hb1⟩
      have hlk : (Instr.lookup 78 (.map (some w.heap.size)) (.int .u8 98) true).run Tryd.prog w1 = .ok (.tuple #[.func (.func 63) #[] #[], .bool true]) w1 := esc_look hmap 98 (by omega) (by omega)
      have HB1 := Lib.hid hb1
      have HS := Lib.hid (sayBackspace_any base g bb sv s w1 (HH.out.go hb1) hv he (Nat.le_trans hbase hb1.size) hlo)
      clear hmap hb1
      go_wp2_with fail
      with_reducible refine HS.out.mono ?_
      intro e w2 hr
      obtain ⟨r, rfl⟩ := hr.is
      have HRR := Lib.hid hr
      clear hr hlk
      go_wp2
      go_ret
      exact pres_esc (c := 8) (by decide) rfl (by omega) HB1.out HRR.out
    · go_enter Tryd.func32, Tryd.ntmps32
      go_wp2_with fail
      with_reducible refine HES.out.mono ?_
      rintro e w1 ⟨rfl, hmap, hb1⟩
      have hlk : (Instr.lookup 78 (.map (some w.heap.size)) (.int .u8 102) true).run Tryd.prog w1 = .ok (.tuple #[.func (.func 64) #[] #[], .bool true]) w1 := esc_look hmap 102 (by omega) (by omega)
      have HB1 := Lib.hid hb1
      have HS := Lib.hid (sayFormFeed_any base g bb sv s w1 (HH.out.go hb1) hv he (Nat.le_trans hbase hb1.size) hlo)
      clear hmap hb1
      go_wp2_with fail
      with_reducible refine HS.out.mono ?_
      intro e w2 hr
      obtain ⟨r, rfl⟩ := hr.is
      have HRR := Lib.hid hr
      clear hr hlk
      go_wp2
      go_ret
      exact pres_esc (c := 12) (by decide) rfl (by omega) HB1.out HRR.out
    · go_enter Tryd.func32, Tryd.ntmps32
      go_wp2_with fail
      with_reducible refine HES.out.mono ?_
      rintro e w1 ⟨rfl, hmap, hb1⟩
      have hlk : (Instr.lookup 78 (.map (some w.heap.size)) (.int .u8 110) true).run Tryd.prog w1 = .ok (.tuple #[.func (.func 65) #[] #[], .bool true]) w1 := esc_look hmap 110 (by omega) (by omega)
      have HB1 := Lib.hid hb1
      have HS := Lib.hid (sayLineFeed_any base g bb sv s w1 (HH.out.go hb1) hv he (Nat.le_trans hbase hb1.size) hlo)
      clear hmap hb1
      go_wp2_with fail
      with_reducible refine HS.out.mono ?_
      intro e w2 hr
      obtain ⟨r, rfl⟩ := hr.is
      have HRR := Lib.hid hr
      clear hr hlk
      go_wp2
      go_ret
      exact pres_esc (c := 10) (by decide) rfl (by omega) HB1.out HRR.out
    · go_enter Tryd.func32, Tryd.ntmps32
      go_wp2_with fail
      with_reducible refine HES.out.mono ?_
      rintro e w1 ⟨rfl, hmap, hb1⟩
      have hlk : (Instr.lookup 78 (.map (some w.heap.size)) (.int .u8 114) true).run Tryd.prog w1 = .ok (.tuple #[.func (.func 66) #[] #[], .bool true]) w1 := esc_look hmap 114 (by omega) (by omega)
      have HB1 := Lib.hid hb1
      have HS := Lib.hid (sayReturn_any base g bb sv s w1 (HH.out.go hb1) hv he (Nat.le_trans hbase hb1.size) hlo)
      clear hmap hb1
      go_wp2_with fail
      with_reducible refine HS.out.mono ?_
      intro e w2 hr
      obtain ⟨r, rfl⟩ := hr.is
      have HRR := Lib.hid hr
      clear hr hlk
      go_wp2
      go_ret
      exact pres_esc (c := 13) (by decide) rfl (by omega) HB1.out HRR.out
    · go_enter Tryd.func32, Tryd.ntmps32
      go_wp2_with fail
      with_reducible refine HES.out.mono ?_
      rintro e w1 ⟨rfl, hmap, hb1⟩
      have hlk : (Instr.lookup 78 (.map (some w.heap.size)) (.int .u8 116) true).run Tryd.prog w1 = .ok (.tuple #[.func (.func 67) #[] #[], .bool true]) w1 := esc_look hmap 116 (by omega) (by omega)
      have HB1 := Lib.hid hb1
      have HS := Lib.hid (sayTab_any base g bb sv s w1 (HH.out.go hb1) hv he (Nat.le_trans hbase hb1.size) hlo)
      clear hmap hb1
      go_wp2_with fail
      with_reducible refine HS.out.mono ?_
      intro e w2 hr
      obtain ⟨r, rfl⟩ := hr.is
      have HRR := Lib.hid hr
      clear hr hlk
      go_wp2
      go_ret
      exact pres_esc (c := 9) (by decide) rfl (by omega) HB1.out HRR.out
    · go_enter Tryd.func32, Tryd.ntmps32
      go_wp2_with fail
      with_reducible refine HES.out.mono ?_
      rintro e w1 ⟨rfl, hmap, hb1⟩
      have hlk : (Instr.lookup 78 (.map (some w.heap.size)) (.int .u8 117) true).run Tryd.prog w1 = .ok (.tuple #[.func (.func 68) #[] #[], .bool true]) w1 := esc_look hmap 117 (by omega) (by omega)
      have HB1 := Lib.hid hb1
      have HS := Lib.hid (beginUnit_any base g bb sv s w1 (HH.out.go hb1) hv he)
      clear hmap hb1
      go_wp2_with fail
      with_reducible refine HS.out.mono ?_
      rintro e w2 ⟨rfl, sv', p1, p2, p3⟩
      have HQ := Lib.hid (And.intro p1 (And.intro p2 p3))
      clear p1 p2 p3 hlk
      go_wp2
      go_ret
      have he117 : escS s 117 = (0, { s with e := 2, h := [] }) := by unfold escS; rw [if_pos rfl]
      rw [he117]
      exact ⟨rfl, sv', HQ.out.1, (SFr.of_below HB1.out).trans (RowTo.refl _ _) HQ.out.2.1, (RowTo.refl w sv).trans HQ.out.2.2 HB1.out.size⟩
  · have HP := Lib.hid (esc_none (s := s) hin)
    have hdf : decide (x ∈ escK) = false := decide_eq_false hin
    go_enter Tryd.func32, Tryd.ntmps32
    go_wp2_with fail
    with_reducible refine HES.out.mono ?_
    rintro e w1 ⟨rfl, hmap, hb1⟩
    have hlk : (Instr.lookup 78 (.map (some w.heap.size)) (.int .u8 x) true).run Tryd.prog w1 = .ok (.tuple #[.nilFunc, .bool false]) w1 := by
      have h1 := esc_look hmap x hx0 hx1
      rw [if_neg hin, hdf] at h1
      exact h1
    have HB1 := Lib.hid hb1
    clear hmap hb1 hin hdf
    go_wp2
    go_ret
    rw [HP.out]
    exact PRes.still HH.out rfl HB1.out
end Go.Proofs.YtdcfhkiajeiaoaaDoor

/- string(b) of a row; a row with marks. -/
namespace Go.Proofs.YtdcfhkiajeiaoaaDoor
set_option maxRecDepth 100000
open Go.ChangeShapes Go.WideShapes Go.ChangeAt Go.RowKit
set_option linter.unusedVariables false

theorem conv_str (w : World) (B : Nat) (A : Option Addr) (n c : Nat) (xs : List Int) (hn : xs.length = n) (hI : Ints w B .u8 A xs) : (convert 22 9 (.slice A n c)).run Tryd.prog w = .ok (.string (strOfNums xs)) w := by
  subst hn
  cases A with
  | none =>
    have hx : xs = [] := by
      rcases hI with h | ⟨b, o, e, _⟩
      · exact h
      · cases e
    subst hx
    exact run_convert_bytes_nil w 22 5 Tryd.underlying22 Tryd.underlying5 _ _ _ Tryd.underlying9
  | some ad =>
    rcases hI with h | ⟨b, o, e, _, hc⟩
    · subst h
      rw [run_convert_bytes_string w _ _ 5 _ _ _ Tryd.underlying22 Tryd.underlying5 Tryd.underlying9]
      exact run_bytesToString w ad 0 c [] (by simpa using run_loadCells_list (P := Tryd.prog) w ad [] (fun j v hj => by simp at hj))
    · injection e with e
      subst e
      exact run_convert_bytes_arg w 22 5 Tryd.underlying22 Tryd.underlying5 b o _ c xs rfl hc _ Tryd.underlying9
theorem Ints.mark (w : World) (t : TypeId) (k : IntKind) (ys : List Int) (fr : Nat × Nat) : Ints (w.alloc (.cells (ys.map (Value.int k)).toArray t fr)) (w.heap.size + 1) k (some ⟨w.heap.size, 0, none⟩) ys := by
  refine .inr ⟨_, _, rfl, by omega, fun j hj => ?_⟩
  rw [Nat.zero_add, cell_of_row _ w.heap.size j (ys.map (Value.int k)).toArray t fr (heap_alloc_new w _)]
  simp [List.getD_eq_getElem?_getD, List.getElem?_eq_getElem hj]
end Go.Proofs.YtdcfhkiajeiaoaaDoor

/- The program's string: Push, New, Text, Len, Inside by what was pushed. -/
namespace Go.Proofs.YtdcfhkiajeiaoaaDoor
set_option maxRecDepth 100000
open Go.ChangeShapes Go.WideShapes Go.ChangeAt Go.RowKit
set_option linter.unusedVariables false
set_option linter.unusedSimpArgs false

theorem push_esc {s : Ss} {x : Int} (hv : s.v = false) (he : s.e = 1) (hx0 : 0 ≤ x) : pushS s x = (false, (escS s x).1, (escS s x).2) := by
  by_cases hx : x < 32
  · have hin : x ∉ escK := fun h => by
      unfold escK at h
      simp only [List.mem_cons, List.not_mem_nil, or_false] at h
      omega
    rw [esc_none hin]
    have hd : decide (x < 32) = true := decide_eq_true hx
    unfold pushS
    rw [hv, hd]
    rfl
  · have hd : decide (x < 32) = false := decide_eq_false hx
    unfold pushS
    rw [hv, hd, he]
    rfl
theorem push_digs {s : Ss} {x : Int} (hv : s.v = false) (he : s.e = 2) (hx0 : 0 ≤ x) : pushS s x = (false, (digS s x).1, (digS s x).2) := by
  by_cases hx : x < 32
  · have hh : hexF x < 0 := by unfold hexF; (repeat' split) <;> omega
    have h2 : digS s x = (2, s) := by unfold digS; rw [if_pos hh]
    rw [h2]
    have hd : decide (x < 32) = true := decide_eq_true hx
    unfold pushS
    rw [hv, hd]
    rfl
  · exact push_dig hv he (by omega)
set_option maxHeartbeats 4000000 in
theorem strpush_any (base g bb : Nat) (sv : Value) (s : Ss) (x : Int) (w : World) (h : StrIs w base g bb sv s) (hx0 : 0 ≤ x) (hx1 : x ≤ 255) (hT : Tab w) (hlead : 0 < base) (hbase : base ≤ w.heap.size) (hlo : s.o.length + 1 ≤ 100000) :
    Calls Tryd.prog 10 #[.pointer (some ⟨g, 0, none⟩), .int .u8 x] w (PRes base g bb sv (pushS s x).2.2 (two (pushS s x).1 (pushS s x).2.1) w) := by
  obtain ⟨d, z, hm⟩ := h.at0
  have c0 : w.cell? ⟨g, 0, none⟩ = some (.int .i64 (atF s)) := hm.blk.cell 0
  have hlt : g < w.heap.size := hm.blk.lt
  clear hm
  have he2 := h.ok.e
  cases hv : s.v with
  | true =>
    have hat : atF s = 3 := by unfold atF; rw [hv]; rfl
    rw [hat] at c0
    have HP : Hid (pushS s x = (false, 2, s)) := Lib.hid (by unfold pushS; rw [hv]; rfl)
    have HFIN : Hid (PRes base g bb sv s (two false 2) w (.returned (two false 2)) w) := Lib.hid (PRes.still h rfl (Below.refl _ _))
    clear h hat
    go_enter Tryd.func10, Tryd.ntmps10
    go_wp2
    go_ret2
    exact pres_push HP.out HFIN.out
  | false =>
    have hat : atF s = s.e := by unfold atF; rw [hv]; rfl
    rw [hat] at c0
    have hes : s.e = 0 ∨ s.e = 1 ∨ s.e = 2 := by omega
    rcases hes with he | he | he
    · rw [he] at c0
      have HC := Lib.hid (takePlain_any base g bb sv s x w h hv he hx0 hx1 hT hlead hbase hlo)
      obtain ⟨o, r, s', hp⟩ : ∃ o r s', pushS s x = (o, r, s') := ⟨_, _, _, rfl⟩
      rw [hp] at HC ⊢
      dsimp only at HC ⊢
      clear h hat hT hp
      go_enter Tryd.func10, Tryd.ntmps10
      go_wp2_with fail
      with_reducible refine HC.out.mono ?_
      rintro e w1 ⟨rfl, sv', p1, p2, p3⟩
      have HQ := Lib.hid (And.intro p1 (And.intro p2 p3))
      clear p1 p2 p3
      go_wp2
      go_ret2
      exact ⟨rfl, sv', HQ.out⟩
    · rw [he] at c0
      have HC := Lib.hid (takeEscape_any base g bb sv s x w h hv he hx0 hx1 hbase hlo)
      have HP := Lib.hid (push_esc hv he hx0)
      obtain ⟨r, s', hp⟩ : ∃ r s', escS s x = (r, s') := ⟨_, _, rfl⟩
      rw [hp] at HC HP
      dsimp only at HC HP
      clear h hat hT hp
      go_enter Tryd.func10, Tryd.ntmps10
      go_wp2_with fail
      with_reducible refine HC.out.mono ?_
      rintro e w1 ⟨rfl, sv', p1, p2, p3⟩
      have HQ := Lib.hid (And.intro p1 (And.intro p2 p3))
      clear p1 p2 p3
      go_wp2
      go_ret2
      exact pres_push HP.out ⟨rfl, sv', HQ.out⟩
    · rw [he] at c0
      have HC := Lib.hid (takeDigit_any base g bb sv s x w h hv he hx0 hx1 hbase hlo)
      have HP := Lib.hid (push_digs hv he hx0)
      obtain ⟨r, s', hp⟩ : ∃ r s', digS s x = (r, s') := ⟨_, _, rfl⟩
      rw [hp] at HC HP
      dsimp only at HC HP
      clear h hat hT hp
      go_enter Tryd.func10, Tryd.ntmps10
      go_wp2_with fail
      with_reducible refine HC.out.mono ?_
      rintro e w1 ⟨rfl, sv', p1, p2, p3⟩
      have HQ := Lib.hid (And.intro p1 (And.intro p2 p3))
      clear p1 p2 p3
      go_wp2
      go_ret2
      exact pres_push HP.out ⟨rfl, sv', HQ.out⟩
theorem strtext_any (base g bb : Nat) (sv : Value) (s : Ss) (w : World) (h : StrIs w base g bb sv s) :
    Calls Tryd.prog 15 #[.pointer (some ⟨g, 0, none⟩)] w fun e w' => e = .returned (.string (strOfNums (txt s.o))) ∧ w = w' := by
  obtain ⟨d, z, hm⟩ := h.at0
  obtain ⟨A0, c0, hv0, _⟩ := own_form hm.own
  have c1 : w.cell? ⟨g, 1, none⟩ = some sv := hm.blk.cell 1
  have ho := hm.own
  rw [hv0] at c1 ho
  have hcv := conv_str w w.heap.size A0 (txt s.o).length c0 (txt s.o) rfl (Ints.own ho)
  have hlt := hm.blk.lt
  clear hm ho h
  generalize (txt s.o).length = m at *
  generalize strOfNums (txt s.o) = t at *
  go_enter Tryd.func15, Tryd.ntmps15
  go_wp2
  go_ret
  exact ⟨rfl, rfl⟩
theorem strlen_any (base g bb : Nat) (sv : Value) (s : Ss) (w : World) (h : StrIs w base g bb sv s) :
    Calls Tryd.prog 12 #[.pointer (some ⟨g, 0, none⟩)] w fun e w' => e = .returned (.int .i64 (s.o.length : Int)) ∧ w = w' := by
  obtain ⟨d, z, hm⟩ := h.at0
  have c2 : w.cell? ⟨g, 2, none⟩ = some (.int .i64 (s.o.length : Int)) := hm.blk.cell 2
  have hlt := hm.blk.lt
  clear hm h
  go_enter Tryd.func12, Tryd.ntmps12
  go_wp2
  go_ret
  exact ⟨rfl, rfl⟩
set_option maxHeartbeats 2000000 in
theorem inside_any (base g bb : Nat) (sv : Value) (s : Ss) (w : World) (h : StrIs w base g bb sv s) :
    Calls Tryd.prog 13 #[.pointer (some ⟨g, 0, none⟩)] w fun e w' => e = .returned (.bool (insS s)) ∧ w = w' := by
  obtain ⟨d, z, hm⟩ := h.at0
  have HWT := Lib.hid (waits_any g _ sv _ _ d z s.k w hm.blk)
  have c0 : w.cell? ⟨g, 0, none⟩ = some (.int .i64 (atF s)) := hm.blk.cell 0
  have c3 : w.cell? ⟨g, 3, none⟩ = some (.slice (some ⟨bb, 0, none⟩) s.b.length 4) := hm.blk.cell 3
  have hlt := hm.blk.lt
  have hok := h.ok
  have hk := hok.k
  obtain ⟨a1, ha1⟩ : ∃ q : Bool, (atF s == 1) = q := ⟨_, rfl⟩
  obtain ⟨a2, ha2⟩ : ∃ q : Bool, (atF s == 2) = q := ⟨_, rfl⟩
  obtain ⟨a3, ha3⟩ : ∃ q : Bool, decide ((s.b.length : Int) > 0) = q := ⟨_, rfl⟩
  obtain ⟨a4, ha4⟩ : ∃ q : Bool, (s.k != 0) = q := ⟨_, rfl⟩
  have hr : insS s = (a1 || (a2 || (a3 || a4))) := by
    have h12 : (a1 || a2) = decide (0 < s.e) := by
      rw [← ha1, ← ha2]
      unfold atF
      cases hv : s.v with
      | true =>
        have := (hok.v hv).1
        rw [this]; rfl
      | false =>
        have he := hok.e
        have : s.e = 0 ∨ s.e = 1 ∨ s.e = 2 := by omega
        rcases this with h | h | h <;> rw [h] <;> rfl
    have h3 : a3 = decide (s.b ≠ []) := by
      rw [← ha3]
      apply decide_eq_decide.2
      rw [← List.length_pos_iff]
      omega
    have h4 : a4 = decide (0 < s.k) := by
      rw [← ha4]
      rcases hk with h | h
      · rw [h]; rfl
      · rw [decide_eq_true (by omega)]; rw [bne_iff_ne]; omega
    unfold insS
    rw [← h12, ← h3, ← h4, Bool.or_assoc]
  rw [ha4] at HWT
  rw [hr]
  clear hr hk hok hm h
  generalize atF s = p at *
  cases a1 with
  | true =>
    go_enter Tryd.func13, Tryd.ntmps13
    go_wp2
    go_ret
    exact ⟨rfl, rfl⟩
  | false =>
    cases a2 with
    | true =>
      go_enter Tryd.func13, Tryd.ntmps13
      go_wp2
      go_ret
      exact ⟨rfl, rfl⟩
    | false =>
      cases a3 with
      | true =>
        have hn : 0 < s.b.length := by have := of_decide_eq_true ha3; omega
        clear ha3
        go_enter Tryd.func13, Tryd.ntmps13
        go_wp2
        go_ret
        exact ⟨rfl, rfl⟩
      | false =>
        have hn : ¬ 0 < s.b.length := by have := of_decide_eq_false ha3; omega
        clear ha3
        go_enter Tryd.func13, Tryd.ntmps13
        go_wp2_with fail
        with_reducible refine HWT.out.mono ?_
        rintro e w1 ⟨rfl, rfl⟩
        go_wp2
        go_ret
        exact ⟨rfl, rfl⟩
/-- a string that has just been made -/
def NewRes (base : Nat) (w : World) (e : Ending) (w' : World) : Prop := ∃ g bb, e = .returned (.pointer (some ⟨g, 0, none⟩)) ∧ w.heap.size ≤ g ∧ w.heap.size ≤ bb ∧ StrIs w' base g bb (.slice none 0 0) ss0 ∧ Below w.heap.size w w'
set_option maxHeartbeats 2000000 in
theorem strnew_any (base : Nat) (w : World) (hbase : base ≤ w.heap.size) : Calls Tryd.prog 8 #[] w (NewRes base w) := by
  obtain ⟨ti, i1, i2, i3, i4⟩ := info_parts info_u8
  have HINFO := Lib.hid (And.intro i1 (And.intro i2 (And.intro i3 i4)))
  clear i1 i2 i3 i4
  go_enter Tryd.func8, Tryd.ntmps8
  go_wp2_with (at_make; refine wpList_make_own _ rfl _ _ 22 rfl base 5 ti (.int .u8 0) 1 Tryd.underlying22 HINFO.out.1 HINFO.out.2.1 HINFO.out.2.2.1 .i64 .i64 _ 4 rfl rfl (by omega) (by rw [HINFO.out.2.2.2]; omega) (by unfold maxLen; omega) hbase ?_; intro w0 hown0 hgrow0)
  have hb0 : Below w.heap.size w w0 := ⟨hgrow0.os, hgrow0.tape, hgrow0.output, hgrow0.size, fun i hi => hgrow0.block i hi (by simp)⟩
  go_ret
  refine ⟨w0.heap.size, w.heap.size, rfl, hgrow0.size, Nat.le_refl _, ⟨sok_0, by decide, 0, 0, ?_, fun _ h => by cases h⟩, hb0.alloc hb0.size _⟩
  have hbw : Below w0.heap.size w0 (w0.alloc (.cells #[.int .i64 0, .slice none 0 0, .int .i64 0, .slice (some ⟨w.heap.size, 0, none⟩) 0 4, .int .u16 0, .int .i64 0, .int .u16 0] 60)) := (Below.refl _ _).alloc (Nat.le_refl _) _
  have ho : U8r w0 base (slB w.heap.size 0) [] := hown0
  exact ⟨Blk.new w0 _ _, World.ownsRow_nil _ _ _ _, own_below ho hbw (Nat.le_refl _), by simp [Value.ownBlock], Nat.le_trans hbase hgrow0.size⟩
end Go.Proofs.YtdcfhkiajeiaoaaDoor
