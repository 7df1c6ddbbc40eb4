/- Joined of: U8AllT, ConvB, R02Of, N00Fou, R22W, N12WrM, L00Quo. -/
import Derived.Test.YtdcfhkiajeiaoaaDoorJ12B
import Derived.Test.YtdcfhkiajeiaoaaDoorJ12F
import Derived.Test.YtdcfhkiajeiaoaaDoorJ12A
import Derived.Lib.ConvBytes
import Derived.Laws.AppendOwn
import Derived.Test.YtdcfhkiajeiaoaaDoorJ12H
import Derived.Test.YtdcfhkiajeiaoaaDoorJ12P
import Derived.StillTail
import Derived.StillTailTactics
import Derived.Test.YtdcfhkiajeiaoaaDoorJ12G
import Derived.BigQuiet
import Derived.Test.YtdcfhkiajeiaoaaDoorJ12N
import Derived.Test.YtdcfhkiajeiaoaaDoorJ12J
/- The scalars of a text that scalars make are those. -/
namespace Go.Proofs.YtdcfhkiajeiaoaaDoor
set_option maxRecDepth 100000
open Go.ChangeShapes Go.WideShapes Go.ChangeAt Go.RowKit
set_option linter.unusedVariables false

def Scals (l : List Int) : Prop := ∀ c ∈ l, isB c = true
theorem Scals.at {l : List Int} (h : Scals l) {k : Nat} (hk : k < l.length) : isB (l.getD k 0) = true := by
  rw [List.getD_eq_getElem?_getD, List.getElem?_eq_getElem hk]; exact h _ (List.getElem_mem hk)
theorem txt_bts {l : List Int} (h : Scals l) : Bts (txt l) := by
  intro x hx
  simp only [txt, List.mem_flatMap] at hx
  obtain ⟨c, hc, hx⟩ := hx
  exact (scal_byt (h c hc)).bts x hx
theorem txt_drop (l : List Int) (k : Nat) (hk : k < l.length) : (txt l).drop (txt (l.take k)).length = byt (l.getD k 0) ++ txt (l.drop (k + 1)) := by
  have e : l = l.take k ++ (l.getD k 0 :: l.drop (k + 1)) := by
    rw [List.getD_eq_getElem?_getD, List.getElem?_eq_getElem hk]
    simp
  have e2 : txt l = txt (l.take k) ++ (byt (l.getD k 0) ++ txt (l.drop (k + 1))) := by
    conv => lhs; rw [e]
    simp [txt]
  rw [e2, List.drop_left]
theorem txt_at {l : List Int} (h : Scals l) : ∀ k, k ≤ l.length → AllAt (txt l) (txt (l.take k)).length (l.take k)
  | 0, _ => by simpa [txt] using AllAt.start (txt l)
  | k + 1, hk => by
    have hlt : k < l.length := by omega
    have ih := txt_at h k (by omega)
    have hd := txt_drop l k hlt
    obtain ⟨f1, f2, f3⟩ := first_byt (h.at hlt) (txt (l.drop (k + 1)))
    have hpos := (scal_byt (h.at hlt)).pos
    have hn : (txt (l.take k)).length < (txt l).length := by
      have := congrArg List.length hd
      rw [List.length_drop, List.length_append] at this
      omega
    have := ih.step hn (by rw [hd]; exact f1)
    rw [hd, f2, f3] at this
    rw [txt_snoc l k hlt, List.length_append, ← take_getD l k hlt]
    exact this
theorem allS_txt {l : List Int} (h : Scals l) : allS (txt l) = (l, (txt l).length, true) := by
  have := (txt_at h l.length (Nat.le_refl _)).done (by rw [List.take_length]; exact Nat.le_refl _)
  rw [List.take_length] at this
  exact this
end Go.Proofs.YtdcfhkiajeiaoaaDoor

/- []byte(s) of a string whose bytes are told by numbers. -/
namespace Go.Proofs.YtdcfhkiajeiaoaaDoor
set_option maxRecDepth 100000
open Go.ChangeShapes Go.WideShapes Go.ChangeAt Go.RowKit
set_option linter.unusedVariables false

theorem bytesWorld_below (w : World) (e : TypeId) (s : ByteArray) : Below w.heap.size w (Lib.bytesWorld w e s) :=
  ⟨rfl, rfl, rfl, by rw [Lib.bytesWorld_size]; omega, fun i hi => Lib.bytesWorld_at_old w e s i hi⟩
/-- a row of bytes of the string's -/
def ConvRow (w : World) (xs : List Int) (A : Option Addr) (c : Nat) (w' : World) : Prop := Ints w' w'.heap.size .u8 A xs ∧ xs.length ≤ c ∧ c ≤ maxLen ∧ Below w.heap.size w w'
theorem conv_bytes (w : World) (xs : List Int) (hB : Bts xs) (hm : xs.length ≤ 1000000) : ∃ A c w', (convert 9 22 (.string (strOfNums xs))).run Tryd.prog w = .ok (.slice A xs.length c) w' ∧ ConvRow w xs A c w' := by
  have hr := Lib.run_convert_string_bytes (P := Tryd.prog) w 9 22 5 (strOfNums xs) Tryd.underlying9 Tryd.underlying22 Tryd.underlying5
  rw [strOfNums_size] at hr
  refine ⟨_, _, _, hr, .inr ⟨_, _, rfl, by rw [Lib.bytesWorld_size]; omega, fun j hj => ?_⟩, grownCap_ge _ _ _ _, grownCap_le_maxLen _ _ _ _ (by unfold maxLen; omega), bytesWorld_below w _ _⟩
  rw [Nat.zero_add, Lib.bytesWorld_cell w _ _ j (by rw [strOfNums_size]; exact hj), strOfNums_data]
  have h := hB.at hj
  have e : ((xs.map fun n => UInt8.ofNat n.toNat).getD j 0) = UInt8.ofNat (xs.getD j 0).toNat := by
    simp [List.getD_eq_getElem?_getD, List.getElem?_eq_getElem hj]
  rw [e]
  have e2 : (UInt8.ofNat (xs.getD j 0).toNat).toNat = (xs.getD j 0).toNat := by
    rw [UInt8.toNat_ofNat']
    exact Nat.mod_eq_of_lt (by omega)
  rw [e2]
  have e3 : ((xs.getD j 0).toNat : Int) = xs.getD j 0 := by omega
  rw [e3]
end Go.Proofs.YtdcfhkiajeiaoaaDoor

/- The document's Of: the scalars of a text that scalars make. -/
namespace Go.Proofs.YtdcfhkiajeiaoaaDoor
set_option maxRecDepth 100000
open Go.ChangeShapes Go.WideShapes Go.ChangeAt Go.RowKit
set_option linter.unusedVariables false
set_option linter.unusedSimpArgs false

theorem txt_20 (l : List Int) : (txt l).length ≤ 4 * l.length := by
  induction l with
  | nil => simp [txt]
  | cons c l ih =>
    have := byt_len c
    have e : txt (c :: l) = byt c ++ txt l := by simp [txt]
    rw [e, List.length_append, List.length_cons]
    omega
set_option maxHeartbeats 2000000 in
theorem r_ofs_any (l : List Int) (w : World) (hS : Scals l) (hl : l.length ≤ 1000) : Calls Tryd.prog 21 #[.string (strOfNums (txt l))] w (RowRes 21 .i32 w l) := by
  have ht := txt_20 l
  obtain ⟨A, c, w1, hcv, hI, hc1, hc2, hb⟩ := conv_bytes w (txt l) (txt_bts hS) (by omega)
  have HR := Lib.hid (r_all_any A (txt l).length c (txt l) w1 rfl hI (txt_bts hS) (by omega) hc1 hc2)
  have HA : Hid (allS (txt l) = (l, (txt l).length, true)) := Lib.hid (allS_txt hS)
  have HB := Lib.hid hb
  generalize strOfNums (txt l) = t at *
  obtain ⟨m, hm⟩ : ∃ m, (txt l).length = m := ⟨_, rfl⟩
  rw [hm] at hcv HR
  clear hI hc1 hc2 hb ht hm
  go_enter Tryd.func21, Tryd.ntmps21
  go_wp2_with fail
  with_reducible refine HR.out.mono ?_
  rintro e w2 ⟨v, rfl, ho, hb2⟩
  rw [HA.out] at ho ⊢
  have HO := Lib.hid ho
  have HB2 := Lib.hid (HB.out.trans (hb2.mono HB.out.size))
  have hbs := HB.out.size
  clear ho hb2 HR HA
  go_wp2
  go_ret
  exact ⟨v, rfl, rown_mono HO.out hbs, HB2.out⟩
end Go.Proofs.YtdcfhkiajeiaoaaDoor

/- orthoepylaw00's four: an escape's digits, small or great (as the law's own: N12Fou). -/
namespace Go.Proofs.YtdcfhkiajeiaoaaDoor
set_option maxRecDepth 100000
open Go.ChangeShapes Go.WideShapes Go.ChangeAt Go.RowKit
set_option linter.unusedVariables false
set_option linter.unusedSimpArgs false

set_option maxHeartbeats 4000000 in
theorem four0_any (u : Int) (g : Bool) (w : World) (h0 : 0 ≤ u) (h1 : u ≤ 65535) : Calls Tryd.prog 44 #[.int .u16 u, .bool g] w fun e w' => e = .returned (.string (strOfNums (fourD g u))) ∧ Below w.heap.size w w' := by
  unfold fourD
  obtain ⟨a, ea⟩ : ∃ a : Nat, (a : Int) = u / 4096 := ⟨(u / 4096).toNat, by omega⟩
  obtain ⟨p, ep⟩ : ∃ p : Nat, (p : Int) = u / 256 := ⟨(u / 256).toNat, by omega⟩
  obtain ⟨q, eq⟩ : ∃ q : Nat, (q : Int) = u / 16 := ⟨(u / 16).toNat, by omega⟩
  obtain ⟨b, eb⟩ : ∃ b : Nat, (b : Int) = (p : Int) % 16 := ⟨((p : Int) % 16).toNat, by omega⟩
  obtain ⟨c, ec⟩ : ∃ c : Nat, (c : Int) = (q : Int) % 16 := ⟨((q : Int) % 16).toNat, by omega⟩
  obtain ⟨d, ed⟩ : ∃ d : Nat, (d : Int) = u % 16 := ⟨(u % 16).toNat, by omega⟩
  have ha : a < 16 := by omega
  have hb : b < 16 := by omega
  have hc : c < 16 := by omega
  have hd : d < 16 := by omega
  have hp : (p : Int) ≤ 65535 := by omega
  have hq : (q : Int) ≤ 65535 := by omega
  have t1 : u.tdiv 4096 = (a : Int) := by rw [Int.tdiv_eq_ediv_of_nonneg h0, ea]
  have t2 : u.tdiv 256 = (p : Int) := by rw [Int.tdiv_eq_ediv_of_nonneg h0, ep]
  have t3 : u.tdiv 16 = (q : Int) := by rw [Int.tdiv_eq_ediv_of_nonneg h0, eq]
  have t4 : (p : Int).tmod 16 = (b : Int) := by rw [Int.tmod_eq_emod_of_nonneg (by omega), eb]
  have t5 : (q : Int).tmod 16 = (c : Int) := by rw [Int.tmod_eq_emod_of_nonneg (by omega), ec]
  have t6 : u.tmod 16 = (d : Int) := by rw [Int.tmod_eq_emod_of_nonneg h0, ed]
  have s1 : u / 4096 = (a : Int) := ea.symm
  have s2 : u / 256 = (p : Int) := ep.symm
  have s3 : u / 16 = (q : Int) := eq.symm
  have s4 : (p : Int) % 16 = (b : Int) := eb.symm
  have s5 : (q : Int) % 16 = (c : Int) := ec.symm
  have s6 : u % 16 = (d : Int) := ed.symm
  have w1 : IntKind.u16.wrap (a : Int) = a := IntWalk.u16_in _ (by omega)
  have w2 : IntKind.u16.wrap (p : Int) = p := IntWalk.u16_in _ (by omega)
  have w3 : IntKind.u16.wrap (q : Int) = q := IntWalk.u16_in _ (by omega)
  have w4 : IntKind.u16.wrap (b : Int) = b := IntWalk.u16_in _ (by omega)
  have w5 : IntKind.u16.wrap (c : Int) = c := IntWalk.u16_in _ (by omega)
  have w6 : IntKind.u16.wrap (d : Int) = d := IntWalk.u16_in _ (by omega)
  rw [s1, s2, s3, s4, s5, s6]
  clear ea ep eq eb ec ed
  cases g with
  | false =>
    have i1 := fun w => ixS a ha w
    have i2 := fun w => ixS b hb w
    have i3 := fun w => ixS c hc w
    have i4 := fun w => ixS d hd w
    generalize dgc false (a : Int) = da at *
    generalize dgc false (b : Int) = db at *
    generalize dgc false (c : Int) = dc at *
    generalize dgc false (d : Int) = dd at *
    go_enter Tryd.func44, Tryd.ntmps44
    go_wp2_with fail
    refine wp_region_still_tail 18 (by kernel_rfl) (by kernel_rfl) ?_
    simp only [List.take_succ_cons, List.take_zero, List.drop_succ_cons, List.drop_zero]
    generalize hW1 : ({ w with drawn := w.drawn + 1 } : World) = W1
    have HB1 : Hid (Below w.heap.size w W1) := Lib.hid (by rw [← hW1]; exact (Below.refl _ _).drew)
    have hcv := conv_str (W1.alloc (.cells #[.int .u8 da, .int .u8 db, .int .u8 dc, .int .u8 dd] 5)) _ (some ⟨W1.heap.size, 0, none⟩) 4 4 [da, db, dc, dd] rfl (Ints.own (own_lit W1 W1.heap.size 5 .u8 [da, db, dc, dd] (Nat.le_refl _) (by simp [maxLen])))
    clear hW1
    repeat still_step
    refine wpStill_nil ?_
    go_wp2
    go_ret
    exact ⟨rfl, HB1.out.alloc HB1.out.size _⟩
  | true =>
    have i1 := fun w => ixG a ha w
    have i2 := fun w => ixG b hb w
    have i3 := fun w => ixG c hc w
    have i4 := fun w => ixG d hd w
    generalize dgc true (a : Int) = da at *
    generalize dgc true (b : Int) = db at *
    generalize dgc true (c : Int) = dc at *
    generalize dgc true (d : Int) = dd at *
    go_enter Tryd.func44, Tryd.ntmps44
    go_wp2_with fail
    refine wp_region_still_tail 18 (by kernel_rfl) (by kernel_rfl) ?_
    simp only [List.take_succ_cons, List.take_zero, List.drop_succ_cons, List.drop_zero]
    generalize hW1 : ({ w with drawn := w.drawn + 1 } : World) = W1
    have HB1 : Hid (Below w.heap.size w W1) := Lib.hid (by rw [← hW1]; exact (Below.refl _ _).drew)
    have hcv := conv_str (W1.alloc (.cells #[.int .u8 da, .int .u8 db, .int .u8 dc, .int .u8 dd] 5)) _ (some ⟨W1.heap.size, 0, none⟩) 4 4 [da, db, dc, dd] rfl (Ints.own (own_lit W1 W1.heap.size 5 .u8 [da, db, dc, dd] (Nat.le_refl _) (by simp [maxLen])))
    clear hW1
    repeat still_step
    refine wpStill_nil ?_
    go_wp2
    go_ret
    exact ⟨rfl, HB1.out.alloc HB1.out.size _⟩
end Go.Proofs.YtdcfhkiajeiaoaaDoor

/- Printed by gen_r22w.py. The document's Quote (layer 22) of any text, by its contract. -/
namespace Go.Proofs.YtdcfhkiajeiaoaaDoor
set_option maxRecDepth 100000
open Go.ChangeShapes Go.WideShapes Go.ChangeAt Go.RowKit
set_option linter.unusedVariables false
set_option linter.unusedSimpArgs false

def oneF (x : Int) : List Int := if x = 8 then [92, 98] else if x = 9 then [92, 116] else if x = 10 then [92, 110] else if x = 12 then [92, 102] else if x = 13 then [92, 114] else 92 :: 117 :: fourD false x
def escB (x : Int) : List Int := if x = 34 ∨ x = 92 then [92, x] else if x < 32 then oneF x else [x]
theorem one_len (x : Int) : (oneF x).length ≤ 6 := by
  unfold oneF
  (repeat' split) <;> simp [fourD]
theorem N8_cat2 (a b : ByteArray) : N8 (a ++ b) = N8 a ++ N8 b := by unfold N8; rw [L8_app, List.map_append]
/-- a small digit, as a string -/
def smS (k : Nat) : ByteArray := bs [UInt8.ofNat (dgc false (k : Int)).toNat]
theorem smS_size (k : Nat) : (smS k).size = 1 := rfl
theorem smS_n8 (k : Nat) (hk : k < 16) : N8 (smS k) = [dgc false (k : Int)] := by
  have : k = 0 ∨ k = 1 ∨ k = 2 ∨ k = 3 ∨ k = 4 ∨ k = 5 ∨ k = 6 ∨ k = 7 ∨ k = 8 ∨ k = 9 ∨ k = 10 ∨ k = 11 ∨ k = 12 ∨ k = 13 ∨ k = 14 ∨ k = 15 := by omega
  rcases this with rfl | rfl | rfl | rfl | rfl | rfl | rfl | rfl | rfl | rfl | rfl | rfl | rfl | rfl | rfl | rfl <;> rfl
theorem sm_cut (k : Nat) (hk : k < 16) : (⟨#[48, 49, 50, 51, 52, 53, 54, 55, 56, 57, 97, 98, 99, 100, 101, 102]⟩ : ByteArray).extract k (k + 1) = smS k := by
  have : k = 0 ∨ k = 1 ∨ k = 2 ∨ k = 3 ∨ k = 4 ∨ k = 5 ∨ k = 6 ∨ k = 7 ∨ k = 8 ∨ k = 9 ∨ k = 10 ∨ k = 11 ∨ k = 12 ∨ k = 13 ∨ k = 14 ∨ k = 15 := by omega
  rcases this with rfl | rfl | rfl | rfl | rfl | rfl | rfl | rfl | rfl | rfl | rfl | rfl | rfl | rfl | rfl | rfl <;> rfl
theorem sm_slice (k : Nat) (hk : k < 16) (w : World) : (Instr.slice 9 (.string ⟨#[48, 49, 50, 51, 52, 53, 54, 55, 56, 57, 97, 98, 99, 100, 101, 102]⟩) (some (.int .u8 k)) (some (.int .u8 ((k : Int) + 1))) none).run Tryd.prog w = .ok (.string (smS k)) w := by
  have hz : (⟨#[48, 49, 50, 51, 52, 53, 54, 55, 56, 57, 97, 98, 99, 100, 101, 102]⟩ : ByteArray).size = 16 := rfl
  rw [run_slice_string w 9 _ .u8 .u8 k ((k : Int) + 1) Tryd.underlying9 (by omega) (by omega) (by rw [hz]; omega)]
  have e1 : ((k : Int)).toNat = k := by omega
  have e2 : ((k : Int) + 1).toNat = k + 1 := by omega
  rw [e1, e2, sm_cut k hk]
def Txt8 (l : List Int) (w : World) (e : Ending) (w' : World) : Prop := ∃ t, e = .returned (.string t) ∧ N8 t = l ∧ Below w.heap.size w w'
set_option maxHeartbeats 4000000 in
theorem one_any (x : Int) (w : World) (h0 : 0 ≤ x) (h1 : x < 32) : Calls Tryd.prog 46 #[.int .u8 x] w (Txt8 (oneF x) w) := by
  by_cases q8 : x = 8
  · subst q8
    go_enter Tryd.func46, Tryd.ntmps46
    go_wp2
    go_ret
    exact ⟨_, rfl, by kernel_rfl, Below.refl _ _⟩
  by_cases q9 : x = 9
  · subst q9
    go_enter Tryd.func46, Tryd.ntmps46
    go_wp2
    go_ret
    exact ⟨_, rfl, by kernel_rfl, Below.refl _ _⟩
  by_cases q10 : x = 10
  · subst q10
    go_enter Tryd.func46, Tryd.ntmps46
    go_wp2
    go_ret
    exact ⟨_, rfl, by kernel_rfl, Below.refl _ _⟩
  by_cases q12 : x = 12
  · subst q12
    go_enter Tryd.func46, Tryd.ntmps46
    go_wp2
    go_ret
    exact ⟨_, rfl, by kernel_rfl, Below.refl _ _⟩
  by_cases q13 : x = 13
  · subst q13
    go_enter Tryd.func46, Tryd.ntmps46
    go_wp2
    go_ret
    exact ⟨_, rfl, by kernel_rfl, Below.refl _ _⟩
  have HE : Hid (oneF x = 92 :: 117 :: fourD false x) := Lib.hid (by unfold oneF; rw [if_neg q8, if_neg q9, if_neg q10, if_neg q12, if_neg q13])
  have b8 : (x == 8) = false := beq_eq_false_iff_ne.2 q8
  have b9 : (x == 9) = false := beq_eq_false_iff_ne.2 q9
  have b10 : (x == 10) = false := beq_eq_false_iff_ne.2 q10
  have b12 : (x == 12) = false := beq_eq_false_iff_ne.2 q12
  have b13 : (x == 13) = false := beq_eq_false_iff_ne.2 q13
  clear q8 q9 q10 q12 q13
  obtain ⟨a, ea⟩ : ∃ a : Nat, (a : Int) = x / 16 := ⟨(x / 16).toNat, by omega⟩
  obtain ⟨b, eb⟩ : ∃ b : Nat, (b : Int) = x % 16 := ⟨(x % 16).toNat, by omega⟩
  have ha : a < 16 := by omega
  have hb : b < 16 := by omega
  have HF : Hid (N8 (⟨#[92, 117, 48, 48]⟩ ++ smS a ++ smS b) = oneF x) := Lib.hid (by
    rw [HE.out, N8_cat2, N8_cat2, smS_n8 a ha, smS_n8 b hb]
    show [92, 117, 48, 48] ++ [dgc false (a : Int)] ++ [dgc false (b : Int)] = 92 :: 117 :: fourD false x
    unfold fourD
    have f1 : x / 4096 = 0 := by omega
    have f2 : x / 256 % 16 = 0 := by omega
    have f3 : x / 16 % 16 = (a : Int) := by omega
    rw [f1, f2, f3, ← eb]
    rfl)
  have t1 : x.tdiv 16 = (a : Int) := by rw [Int.tdiv_eq_ediv_of_nonneg h0, ea]
  have t2 : x.tmod 16 = (b : Int) := by rw [Int.tmod_eq_emod_of_nonneg h0, eb]
  have s1 : x / 16 = (a : Int) := ea.symm
  have s2 : x % 16 = (b : Int) := eb.symm
  have w1 : IntKind.u8.wrap (a : Int) = a := IntWalk.u8_in _ (by omega)
  have w2 : IntKind.u8.wrap (b : Int) = b := IntWalk.u8_in _ (by omega)
  have w3 : IntKind.u8.wrap ((a : Int) + 1) = (a : Int) + 1 := IntWalk.u8_in _ (by omega)
  have w4 : IntKind.u8.wrap ((b : Int) + 1) = (b : Int) + 1 := IntWalk.u8_in _ (by omega)
  have l1 := sm_slice a ha
  have l2 := sm_slice b hb
  have c1 := sm_cut a ha
  have c2 := sm_cut b hb
  have z1 : (smS a).size = 1 := rfl
  have z2 : (smS b).size = 1 := rfl
  have z3 : (⟨#[92, 117, 48, 48]⟩ : ByteArray).size = 4 := rfl
  have e1 := ByteArray.size_append (a := ⟨#[92, 117, 48, 48]⟩) (b := smS a)
  have g1 : ¬ (⟨#[92, 117, 48, 48]⟩ : ByteArray).size + (smS a).size > 9223372036854775807 := by omega
  have g2 : ¬ (⟨#[92, 117, 48, 48]⟩ ++ smS a).size + (smS b).size > 9223372036854775807 := by omega
  clear ea eb e1 z1 z2 z3 HE
  generalize smS a = S1 at *
  generalize smS b = S2 at *
  go_enter Tryd.func46, Tryd.ntmps46
  go_wp2_with fail
  go_quiet (fail)
  go_wp2
  go_ret
  exact ⟨_, rfl, HF.out, below_drewN' (Below.refl _ _) _⟩
def QwL (s : ByteArray) (W : World) (out i : Value) (wr : World) : Prop := ∃ (k : Nat) (t : ByteArray), k ≤ s.size ∧ i = .int .i64 k ∧ out = .string t ∧ t.size ≤ 1 + 6 * k ∧ N8 t = 34 :: ((N8 s).take k).flatMap escB ∧ Below W.heap.size W wr
theorem N8_take (b : ByteArray) (k : Nat) (h : k < b.size) : (N8 b).take (k + 1) = (N8 b).take k ++ [(b[k].toNat : Int)] := by
  unfold N8
  rw [← List.map_take, ← List.map_take, L8_take b k h, List.map_append]
  rfl
theorem N8_one (b : ByteArray) (k : Nat) (h : k < b.size) : N8 (b.extract k (k + 1)) = [(b[k].toNat : Int)] := by
  unfold N8
  have e : k + 1 - k = 1 := by omega
  rw [L8_cut, L8_drop b k h, e]
  rfl
set_option maxHeartbeats 4000000 in
theorem r_quote_any (s : ByteArray) (w : World) (hm : s.size ≤ 100000) : Calls Tryd.prog 30 #[.string s] w (Txt8 (34 :: ((N8 s).flatMap escB ++ [34])) w) := by
  go_enter Tryd.func30, Tryd.ntmps30
  go_wp2_with fail
  go_loopw [3, 4] (fun out i wr => QwL s w out i wr) (fun _ i _ => s.size - (intOf i).toNat)
  case atStart => exact ⟨0, _, by omega, rfl, rfl, by decide, by rw [List.take_zero]; rfl, Below.refl _ _⟩
  case round =>
    obtain ⟨k, t, hk, rfl, rfl, ht, hN, hbw⟩ := hrel
    have HW := Lib.hid hbw
    clear hbw
    by_cases hlt : k < s.size
    · have hlt' : (k : Int) < s.size := by omega
      have hx := s[k].toNat_lt
      have HTK : Hid ((N8 s).take (k + 1) = (N8 s).take k ++ [(s[k].toNat : Int)]) := Lib.hid (N8_take s k hlt)
      have hX := N8_one s k hlt
      have hx1 : (s.extract k (k + 1)).size = 1 := by rw [ByteArray.size_extract]; omega
      have hw1 : IntKind.i64.wrap ((k : Int) + 1) = (k : Int) + 1 := IntWalk.i64_in _ (by omega)
      have hsl : ∀ w, (Instr.slice 9 (.string s) (some (.int .i64 k)) (some (.int .i64 ((k : Int) + 1))) none).run Tryd.prog w = .ok (.string (s.extract k (k + 1))) w := fun w => by
        have e1 : ((k : Int)).toNat = k := by omega
        have e2 : ((k : Int) + 1).toNat = k + 1 := by omega
        rw [run_slice_string w 9 _ .i64 .i64 k ((k : Int) + 1) Tryd.underlying9 (by omega) (by omega) (by omega), e1, e2]
      obtain ⟨c, hc⟩ : ∃ c : Int, (s[k].toNat : Int) = c := ⟨_, rfl⟩
      have hc0 : 0 ≤ c := by omega
      rw [hc] at HTK hX
      obtain ⟨X, hXe⟩ : ∃ X, s.extract k (k + 1) = X := ⟨_, rfl⟩
      rw [hXe] at hX hx1 hsl
      have HX := Lib.hid hX
      have HN := Lib.hid hN
      clear hX hN
      by_cases h92 : c = 34 ∨ c = 92
      · have hP : escB c = [92, c] := by unfold escB; rw [if_pos h92]
        have HG : Hid (N8 (t ++ ⟨#[92]⟩ ++ X) = 34 :: ((N8 s).take (k + 1)).flatMap escB) := Lib.hid (by
          rw [N8_cat2, N8_cat2, HN.out, HX.out, HTK.out, List.flatMap_append]
          show 34 :: ((N8 s).take k).flatMap escB ++ [92] ++ [c] = _
          simp [hP])
        have e1 := ByteArray.size_append (a := t) (b := ⟨#[92]⟩)
        have e2 := ByteArray.size_append (a := t ++ ⟨#[92]⟩) (b := X)
        have e0 : (⟨#[92]⟩ : ByteArray).size = 1 := rfl
        have g1 : ¬ t.size + (⟨#[92]⟩ : ByteArray).size > 9223372036854775807 := by omega
        have g2 : ¬ (t ++ ⟨#[92]⟩).size + X.size > 9223372036854775807 := by omega
        have hts : (t ++ ⟨#[92]⟩ ++ X).size ≤ 1 + 6 * (k + 1) := by omega
        clear e1 e2 e0 hP HTK HX HN ht hx1
        rcases h92 with h | h
        · have b1 : (c == 34) = true := beq_iff_eq.2 h
          clear h
          go_wp2_with fail
          go_roundw
          case rel => exact ⟨k + 1, _, by omega, by go_num, rfl, hts, HG.out, HW.out⟩
          case measure => simp [intOf]; omega
        · have b1 : (c == 34) = false := beq_eq_false_iff_ne.2 (by omega)
          have b2 : (c == 92) = true := beq_iff_eq.2 h
          clear h
          go_wp2_with fail
          go_roundw
          case rel => exact ⟨k + 1, _, by omega, by go_num, rfl, hts, HG.out, HW.out⟩
          case measure => simp [intOf]; omega
      · have b1 : (c == 34) = false := beq_eq_false_iff_ne.2 (by omega)
        have b2 : (c == 92) = false := beq_eq_false_iff_ne.2 (by omega)
        by_cases h32 : c < 32
        · have hP : escB c = oneF c := by unfold escB; rw [if_neg h92, if_pos h32]
          have HO := Lib.hid (fun W => one_any c W hc0 h32)
          have HOL := one_len c
          clear h92
          go_wp2_with fail
          with_reducible refine (HO.out _).mono ?_
          rintro e w2 ⟨t2, rfl, ht2, hb2⟩
          have HG : Hid (N8 (t ++ t2) = 34 :: ((N8 s).take (k + 1)).flatMap escB) := Lib.hid (by
            rw [N8_cat2, HN.out, ht2, HTK.out, List.flatMap_append]
            simp [hP])
          have e0 : t2.size ≤ 6 := by rw [← N8_len, ht2]; exact HOL
          have e1 := ByteArray.size_append (a := t) (b := t2)
          have g1 : ¬ t.size + t2.size > 9223372036854775807 := by omega
          have hts : (t ++ t2).size ≤ 1 + 6 * (k + 1) := by omega
          have HW2 := Lib.hid (HW.out.trans (hb2.mono HW.out.size))
          clear e0 e1 hP HTK HX HN ht hx1 hb2 ht2 HO HOL
          go_wp2_with fail
          go_roundw
          case rel => exact ⟨k + 1, _, by omega, by go_num, rfl, hts, HG.out, HW2.out⟩
          case measure => simp [intOf]; omega
        · have hP : escB c = [c] := by unfold escB; rw [if_neg h92, if_neg h32]
          have HG : Hid (N8 (t ++ X) = 34 :: ((N8 s).take (k + 1)).flatMap escB) := Lib.hid (by
            rw [N8_cat2, HN.out, HX.out, HTK.out, List.flatMap_append]
            simp [hP])
          have e1 := ByteArray.size_append (a := t) (b := X)
          have g1 : ¬ t.size + X.size > 9223372036854775807 := by omega
          have hts : (t ++ X).size ≤ 1 + 6 * (k + 1) := by omega
          clear e1 hP HTK HX HN ht hx1 h92
          go_wp2_with fail
          go_roundw
          case rel => exact ⟨k + 1, _, by omega, by go_num, rfl, hts, HG.out, HW.out⟩
          case measure => simp [intOf]; omega
    · have hlt' : ¬ (k : Int) < s.size := by omega
      have hkk : (N8 s).take k = N8 s := List.take_of_length_le (by rw [N8_len]; omega)
      rw [hkk] at hN
      have HN := Lib.hid hN
      have g1 : ¬ t.size + (⟨#[34]⟩ : ByteArray).size > 9223372036854775807 := by
        have : (⟨#[34]⟩ : ByteArray).size = 1 := rfl
        omega
      clear hN hkk
      go_wp2_with fail
      go_ret
      refine ⟨_, rfl, ?_, HW.out⟩
      rw [N8_cat2, HN.out]
      rfl
end Go.Proofs.YtdcfhkiajeiaoaaDoor

/- Each way of writing a scalar, fed to a string, says it. No program in it. -/
namespace Go.Proofs.YtdcfhkiajeiaoaaDoor
set_option maxRecDepth 100000
set_option linter.unusedVariables false
set_option linter.unusedSimpArgs false

/-- a string that has said o, nothing begun -/
def stO (o : List Int) : Ss := ⟨o, [], 0, [], 0, false⟩
/-- these bytes say c -/
def Way (c : Int) (p : List Int) : Prop := ∀ (o l : List Int) (i : Nat), feedS (stO o) (p ++ l) i = feedS (stO (o ++ [c])) l (i + p.length)
theorem way_plain {c : Int} (h0 : 32 ≤ c) (h : c < 128) (h1 : c ≠ 34) (h2 : c ≠ 92) : Way c (byt c) := by
  intro o l i
  rw [byt_small (by omega) h]
  show feedS (stO o) (c :: l) i = _
  rw [feed_cons]
  have e : pushS (stO o) c = (false, 0, stO (o ++ [c])) := by
    unfold pushS
    rw [if_neg (by simp [stO]; omega), if_neg (by simp [stO]), if_neg (by simp [stO]), if_neg (by simp [stO]; omega), if_neg h2, if_neg (by simp [stO]), if_neg h1]
    rfl
  rw [e, if_neg (by simp)]
  rfl
theorem way_rest {c : Int} (hi : isB c = true) (h : 128 ≤ c) (hn : noncharB c = false) (o l : List Int) : ∀ (n j i : Nat), j + n + 1 = (byt c).length → feedS { stO o with b := (byt c).take j } ((byt c).drop j ++ l) i = feedS (stO (o ++ [c])) l (i + (n + 1)) := by
  have hs := scal_byt hi
  obtain ⟨h2, hb⟩ := byt_big hi h
  have step : ∀ (j : Nat) (hj : j < (byt c).length), pushS { stO o with b := (byt c).take j } (byt c)[j] = (false, (bytS { stO o with b := (byt c).take j } (byt c)[j]).1, (bytS { stO o with b := (byt c).take j } (byt c)[j]).2) := by
    intro j hj
    have hx := hb _ (List.getElem_mem hj)
    unfold pushS
    rw [if_neg (by simp [stO]; omega), if_neg (by simp [stO]), if_neg (by simp [stO]), if_pos (.inr hx)]
  have tk : ∀ (j : Nat) (hj : j < (byt c).length), (byt c).take j ++ [(byt c)[j]] = (byt c).take (j + 1) := fun j hj => by rw [List.take_append_getElem]
  intro n
  induction n with
  | zero =>
    intro j i hj
    have hjl : j < (byt c).length := by omega
    rw [List.drop_eq_getElem_cons hjl, List.cons_append, feed_cons, step j hjl]
    have e1 : (byt c).take (j + 1) = byt c := List.take_of_length_le (by omega)
    have e2 : bytS { stO o with b := (byt c).take j } (byt c)[j] = (0, stO (o ++ [c])) := by
      unfold bytS
      dsimp only
      rw [tk j hjl, e1, hs.whole, hs.tells, if_neg (by decide), if_neg (by simp [stO]), if_neg (by decide), if_neg (by rw [hn]; decide)]
      rfl
    have e4 : (byt c).drop (j + 1) = [] := List.drop_eq_nil_of_le (by omega)
    rw [e2, if_neg (by simp), e4]
    rfl
  | succ n ih =>
    intro j i hj
    have hjl : j < (byt c).length := by omega
    rw [List.drop_eq_getElem_cons hjl, List.cons_append, feed_cons, step j hjl]
    have e2 : bytS { stO o with b := (byt c).take j } (byt c)[j] = (0, { stO o with b := (byt c).take (j + 1) }) := by
      unfold bytS
      dsimp only
      rw [tk j hjl, hs.begun (j + 1) (by omega) (by omega), if_neg (by decide), if_neg (by simp [stO]), if_pos rfl]
    rw [e2, if_neg (by simp)]
    have e3 : i + (n + 1 + 1) = i + 1 + (n + 1) := by omega
    rw [e3]
    exact ih (j + 1) (i + 1) (by omega)
theorem way_bytes {c : Int} (hi : isB c = true) (h0 : 32 ≤ c) (h1 : c ≠ 34) (h2 : c ≠ 92) (hn : noncharB c = false) : Way c (byt c) := by
  by_cases h : c < 128
  · exact way_plain h0 h h1 h2
  · intro o l i
    have hp := (byt_big hi (by omega)).1
    have := way_rest hi (by omega) hn o l ((byt c).length - 1) 0 i (by omega)
    rw [List.drop_zero, show (byt c).length - 1 + 1 = (byt c).length by omega] at this
    exact this
theorem way_sign {c x : Int} (hx : simpF x = c) (h0 : 0 ≤ c) (hx32 : 32 ≤ x) (h117 : x ≠ 117) : Way c [92, x] := by
  intro o l i
  show feedS (stO o) (92 :: x :: l) i = _
  rw [feed_cons]
  have e1 : pushS (stO o) 92 = (false, 0, ⟨o, [], 1, [], 0, false⟩) := by unfold pushS; simp [stO]
  rw [e1, if_neg (by simp), feed_cons]
  have e2 : pushS ⟨o, [], 1, [], 0, false⟩ x = (false, 0, stO (o ++ [c])) := by
    unfold pushS escS
    rw [if_neg (by simp; omega), if_neg (by simp), if_pos rfl, if_neg h117, if_neg (by omega), if_neg (by simp), hx]
    rfl
  rw [e2, if_neg (by simp)]
  rfl
theorem way_unit {c : Int} (g : Bool) (hi : isB c = true) (h : c < 65536) (hn : noncharB c = false) : Way c (92 :: 117 :: fourD g c) := by
  intro o l i
  have hc := of_decide_eq_true hi
  show feedS ⟨o, [], 0, [], 0, false⟩ (92 :: 117 :: (fourD g c ++ l)) i = _
  rw [esc_u, (four_lone (o := o) (g := g) (l := l) (i := i + 1 + 1) (by omega) (by omega)).2.2 (decide_eq_false (by omega)) (decide_eq_false (by omega)) hn]
  rfl
theorem way_two {c h d : Int} (g : Bool) (h0 : 65536 ≤ c) (h1 : c ≤ 1114111) (hh : h = 55296 + (c - 65536) / 1024) (hd : d = 56320 + (c - 65536) % 1024) (hn : noncharB c = false) : Way c (92 :: 117 :: (fourD g h ++ 92 :: 117 :: fourD (!g) d)) := by
  intro o l i
  have e : 92 :: 117 :: (fourD g h ++ 92 :: 117 :: fourD (!g) d) ++ l = 92 :: 117 :: (fourD g h ++ (92 :: 117 :: (fourD (!g) d ++ l))) := by simp
  rw [e]
  show feedS ⟨o, [], 0, [], 0, false⟩ (92 :: 117 :: (fourD g h ++ (92 :: 117 :: (fourD (!g) d ++ l)))) i = _
  rw [esc_u, (four_lone (o := o) (g := g) (l := 92 :: 117 :: (fourD (!g) d ++ l)) (i := i + 1 + 1) (by omega) (by omega)).2.1 (decide_eq_true (by omega)), esc_u]
  have hj : joinF h d = c := by unfold joinF; rw [if_pos (by omega)]; omega
  rw [(four_pair (o := o) (k := h) (u := d) (g := !g) (l := l) (i := i + 1 + 1 + 1 + 1 + 1 + 1 + 1 + 1) (by omega) (by omega) (by omega)).2 (decide_eq_true (by omega)) (by rw [hj]; exact hn), hj]
  rfl
/-- what Quote writes of one scalar -/
def innerF (c : Int) : List Int := (byt c).flatMap escB
theorem way_inner {c : Int} (hi : isB c = true) (hn : noncharB c = false) : Way c (innerF c) := by
  have hc := of_decide_eq_true hi
  unfold innerF
  by_cases h : c = 34 ∨ c = 92
  · have e : (byt c).flatMap escB = [92, c] := by
      rw [byt_small (by omega) (by omega)]
      simp [escB, h]
    rw [e]
    rcases h with rfl | rfl
    · exact way_sign (by decide) (by decide) (by decide) (by decide)
    · exact way_sign (by decide) (by decide) (by decide) (by decide)
  · by_cases h32 : c < 32
    · have e : (byt c).flatMap escB = oneF c := by
        rw [byt_small (by omega) (by omega)]
        simp [escB, h, h32]
      rw [e]
      unfold oneF
      by_cases q8 : c = 8
      · rw [if_pos q8, q8]; exact way_sign (by decide) (by decide) (by decide) (by decide)
      rw [if_neg q8]
      by_cases q9 : c = 9
      · rw [if_pos q9, q9]; exact way_sign (by decide) (by decide) (by decide) (by decide)
      rw [if_neg q9]
      by_cases q10 : c = 10
      · rw [if_pos q10, q10]; exact way_sign (by decide) (by decide) (by decide) (by decide)
      rw [if_neg q10]
      by_cases q12 : c = 12
      · rw [if_pos q12, q12]; exact way_sign (by decide) (by decide) (by decide) (by decide)
      rw [if_neg q12]
      by_cases q13 : c = 13
      · rw [if_pos q13, q13]; exact way_sign (by decide) (by decide) (by decide) (by decide)
      rw [if_neg q13]
      exact way_unit false hi (by omega) hn
    · have e : (byt c).flatMap escB = byt c := by
        have hp := byt_plain hi (by omega) (fun e => h (.inl e)) (fun e => h (.inr e))
        generalize byt c = l at hp
        induction l with
        | nil => rfl
        | cons x l ih =>
          have hx := hp x (by simp)
          rw [List.flatMap_cons, ih (fun y hy => hp y (by simp [hy]))]
          have : escB x = [x] := by unfold escB; rw [if_neg (by omega), if_neg (by omega)]
          rw [this]
          rfl
      rw [e]
      exact way_bytes hi (by omega) (fun e => h (.inl e)) (fun e => h (.inr e)) hn
theorem inner_len (c : Int) : (innerF c).length ≤ 24 := by
  unfold innerF
  have h1 : ∀ l : List Int, (l.flatMap escB).length ≤ 6 * l.length := fun l => by
    induction l with
    | nil => simp
    | cons x l ih =>
      have : (escB x).length ≤ 6 := by
        unfold escB
        (repeat' split)
        · simp
        · exact one_len x
        · simp
      rw [List.flatMap_cons, List.length_append, List.length_cons]
      omega
  have := h1 (byt c)
  have := byt_len c
  omega
theorem end_over (o : List Int) (i : Nat) : feedS (stO o) [34] i = (i, 0, true, { stO o with v := true }) := by
  rw [feed_cons]
  have e1 : pushS (stO o) 34 = (true, 0, { stO o with v := true }) := by unfold pushS; simp [stO]
  rw [e1]
  simp
end Go.Proofs.YtdcfhkiajeiaoaaDoor

/- Printed by gen_l00quo.py. orthoepylaw00's Quoted by its contract: what it writes says the text. -/
namespace Go.Proofs.YtdcfhkiajeiaoaaDoor
set_option maxRecDepth 100000
open Go.ChangeShapes Go.WideShapes Go.ChangeAt Go.RowKit
set_option linter.unusedVariables false
set_option linter.unusedSimpArgs false

/-- what has been written of the first k scalars: a quote, and bytes that say them -/
def QI (l : List Int) (k : Nat) (T : ByteArray) : Prop := ∃ b, N8 T = 34 :: b ∧ b.length ≤ 24 * k ∧ ∀ r, feedS (stO []) (b ++ r) 0 = feedS (stO (l.take k)) r b.length
theorem QI.step {l : List Int} {k : Nat} {T T' : ByteArray} {c : Int} {p : List Int} (h : QI l k T) (hc : l.take (k + 1) = l.take k ++ [c]) (hw : Way c p) (hT : N8 T' = N8 T ++ p) (hp : p.length ≤ 24) : QI l (k + 1) T' := by
  obtain ⟨b, h1, h2, h3⟩ := h
  refine ⟨b ++ p, by rw [hT, h1]; rfl, by rw [List.length_append]; omega, fun r => ?_⟩
  rw [List.append_assoc, h3, hw, hc, List.length_append]
theorem QI.size {l : List Int} {k : Nat} {T : ByteArray} (h : QI l k T) : T.size ≤ 1 + 24 * k := by
  obtain ⟨b, h1, h2, _⟩ := h
  rw [← N8_len, h1, List.length_cons]
  omega
theorem N8_num {l : List Int} (h : ∀ x ∈ l, 0 ≤ x ∧ x ≤ 255) : N8 (strOfNums l) = l := by
  unfold N8
  have e : L8 (strOfNums l) = l.map fun n => UInt8.ofNat n.toNat := by unfold strOfNums L8; simp
  rw [e, List.map_map]
  conv => rhs; rw [← List.map_id l]
  apply List.map_congr_left
  intro x hx
  have := h x hx
  simp only [Function.comp]
  rw [UInt8.toNat_ofNat', Nat.mod_eq_of_lt (by omega)]
  show ((x.toNat : Nat) : Int) = x
  omega
theorem four_nums (g : Bool) {u : Int} (h0 : 0 ≤ u) (h1 : u ≤ 65535) : N8 (strOfNums (fourD g u)) = fourD g u := N8_num fun x hx => by
  obtain ⟨a, b, c, d, ha, hb, hc, hd, hu, hf⟩ := unit_digs h0 h1
  rw [hf] at hx
  have bd : ∀ k : Int, 0 ≤ k → k ≤ 15 → 0 ≤ dgc g k ∧ dgc g k ≤ 255 := fun k q0 q1 => by unfold dgc; (repeat' split) <;> omega
  simp only [List.mem_cons, List.not_mem_nil, or_false] at hx
  rcases hx with rfl | rfl | rfl | rfl
  · exact bd _ ha.1 ha.2
  · exact bd _ hb.1 hb.2
  · exact bd _ hc.1 hc.2
  · exact bd _ hd.1 hd.2
theorem quo_row {w : World} {base : Nat} {e : TypeId} {k : IntKind} {v : Value} {xs : List Int} (h : Own w base e k v xs) : ∃ A c, v = .slice A xs.length c := by
  obtain ⟨A, c, hv, _⟩ := own_form h
  exact ⟨A, c, hv⟩
/-- q[1:len(q)-1] of what Quote writes -/
theorem cut_in {q : ByteArray} {p : List Int} (h : N8 q = 34 :: (p ++ [34])) : N8 (q.extract 1 (p.length + 1)) = p ∧ q.size = p.length + 2 := by
  have hs : q.size = p.length + 2 := by rw [← N8_len, h]; simp
  refine ⟨?_, hs⟩
  have e : N8 (q.extract 1 (p.length + 1)) = ((N8 q).drop 1).take p.length := by
    unfold N8
    rw [L8_cut, ← List.map_drop, ← List.map_take]
    rfl
  rw [e, h]
  simp
def QuoRes (l : List Int) (w : World) (e : Ending) (w' : World) : Prop := ∃ q b, e = .returned (.string q) ∧ N8 q = 34 :: (b ++ [34]) ∧ (∀ r, feedS (stO []) (b ++ r) 0 = feedS (stO l) r b.length) ∧ b.length ≤ 480 ∧ Below w.heap.size w w'
def QuoL (l : List Int) (W : World) (out i : Value) (wr : World) : Prop := ∃ (k : Nat) (T : ByteArray), k ≤ l.length ∧ i = .int .i64 k ∧ out = .string T ∧ QI l k T ∧ Below W.heap.size W wr
set_option maxHeartbeats 16000000 in
theorem quoted_any (l : List Int) (n : Int) (w : World) (hS : ∀ c ∈ l, isB c = true ∧ noncharB c = false) (hl : l.length ≤ 20) :
    Calls Tryd.prog 20 #[.string (strOfNums (txt l)), .int .i64 n] w (QuoRes l w) := by
  have HOF := Lib.hid (fun W => r_ofs_any l W (fun c hc => (hS c hc).1) (by omega))
  have HS := Lib.hid hS
  have HPL : Hid (∀ W, Calls Tryd.prog 42 #[.int .i64 n, .int .i64 1099511627776] W fun e w' => e = .returned (.int .i64 (n % 1099511627776)) ∧ W = w') := Lib.hid fun W => place_any n 1099511627776 W (by omega) (by omega)
  have p0 : 0 ≤ n % 1099511627776 := by omega
  have p1 : n % 1099511627776 < 1099511627776 := by omega
  generalize n % 1099511627776 = K at HPL p0 p1
  generalize strOfNums (txt l) = t at *
  have hk3 : K.tdiv 3 = K / 3 := Int.tdiv_eq_ediv_of_nonneg p0
  obtain ⟨K3, hK3⟩ : ∃ K3, K / 3 = K3 := ⟨_, rfl⟩
  have r0 : 0 ≤ K3 := by omega
  have r1 : K3 < 1099511627776 := by omega
  rw [hK3] at hk3
  have hwk : IntKind.i64.wrap K3 = K3 := IntWalk.i64_in _ (by omega)
  clear hS
  go_enter Tryd.func20, Tryd.ntmps20
  go_wp2_with fail
  with_reducible refine (HPL.out _).mono ?_
  rintro e _ ⟨rfl, rfl⟩
  go_wp2_with fail
  with_reducible refine (HOF.out _).mono ?_
  rintro e w1 ⟨v1, rfl, ho, hb1⟩
  obtain ⟨A0, c0, rfl⟩ := quo_row ho
  have HI := Lib.hid (Ints.own ho)
  have HB1 := Lib.hid hb1
  have hlw := hb1.size
  clear ho hb1 HOF HPL
  obtain ⟨ln, hln⟩ : ∃ ln, l.length = ln := ⟨_, rfl⟩
  have HLN := Lib.hid hln
  rw [hln] at hl ⊢
  clear hln
  go_wp2_with fail
  go_loopw [7, 8] (fun out i wr => QuoL l w1 out i wr) (fun _ i _ => ln - (intOf i).toNat)
  case atStart => exact ⟨0, _, by omega, rfl, rfl, ⟨[], rfl, by simp, fun r => rfl⟩, Below.refl _ _⟩
  case round =>
    obtain ⟨k, T, hk, rfl, rfl, hq, hb⟩ := hrel
    rw [HLN.out] at hk
    have HQ := Lib.hid hq
    have HB := Lib.hid hb
    have hTs := hq.size
    clear hq hb
    by_cases hlt : k < ln
    · have hlt' : (k : Int) < ln := by omega
      have hlen := HLN.out
      obtain ⟨b, o, rfl, hbl, hcell⟩ := HI.out.at (by omega)
      obtain ⟨c, hc⟩ : ∃ c, l.getD k 0 = c := ⟨_, rfl⟩
      have hcl : wr.cell? ⟨b, o + k, none⟩ = some (.int .i32 c) := (HB.out.cell (p := ⟨b, o + k, none⟩) hbl).trans (by rw [← hc]; exact hcell k (by omega))
      have hkl : k < l.length := by omega
      have hce : l[k] = c := by rw [← hc, List.getD_eq_getElem?_getD, List.getElem?_eq_getElem hkl]; rfl
      have hk2 : l.take (k + 1) = l.take k ++ [c] := by rw [← hce, List.take_append_getElem]
      obtain ⟨hi, hn⟩ := HS.out c (by rw [← hce]; exact List.getElem_mem hkl)
      have hcb := of_decide_eq_true hi
      have HK2 := Lib.hid hk2
      have HI0 := Lib.hid (And.intro hi hn)
      have hw1 : IntKind.i64.wrap ((k : Int) + 1) = (k : Int) + 1 := IntWalk.i64_in _ (by omega)
      have hw2 : IntKind.i64.wrap (K + (k : Int)) = K + k := IntWalk.i64_in _ (by omega)
      have hw3 : IntKind.i64.wrap (K3 + (k : Int)) = K3 + k := IntWalk.i64_in _ (by omega)
      have HP2 : Hid (∀ W, Calls Tryd.prog 42 #[.int .i64 (K + k), .int .i64 2] W fun e w' => e = .returned (.int .i64 ((K + k) % 2)) ∧ W = w') := Lib.hid fun W => place_any (K + k) 2 W (by omega) (by omega)
      have HP4 : Hid (∀ W, Calls Tryd.prog 42 #[.int .i64 (K3 + k), .int .i64 4] W fun e w' => e = .returned (.int .i64 ((K3 + k) % 4)) ∧ W = w') := Lib.hid fun W => place_any (K3 + k) 4 W (by omega) (by omega)
      have f0 : 0 ≤ (K3 + (k : Int)) % 4 := by omega
      generalize (K + (k : Int)) % 2 = q2 at HP2
      generalize (K3 + (k : Int)) % 4 = q4 at HP4 f0
      obtain ⟨gr, hgr⟩ : ∃ gr, (q2 == 0) = gr := ⟨_, rfl⟩
      clear hcell hc hkl hce hk2 hlen
      go_wp2_with fail
      with_reducible refine (r_bytes_any c wr).mono ?_
      rintro e w2 ⟨v2, rfl, ho2, hb2⟩
      obtain ⟨A2, c2, rfl⟩ := quo_row ho2
      have hcv := conv_str w2 w2.heap.size A2 (byt c).length c2 (byt c) rfl (Ints.own ho2)
      have HQT := Lib.hid (fun W => r_quote_any (strOfNums (byt c)) W (by rw [← N8_len, N8_num (scal_byt hi).bts]; have := byt_len c; omega))
      rw [N8_num (scal_byt hi).bts] at HQT
      have HB2 := Lib.hid (HB.out.trans (hb2.mono HB.out.size))
      obtain ⟨bt, hbt⟩ : ∃ bt, strOfNums (byt c) = bt := ⟨_, rfl⟩
      obtain ⟨bl, hbl2⟩ : ∃ bl, (byt c).length = bl := ⟨_, rfl⟩
      rw [hbt] at hcv HQT
      rw [hbl2] at hcv ⊢
      clear ho2 hb2 HB hbt hbl2 hi hn hcl hbl
      go_wp2_with fail
      with_reducible refine (HQT.out _).mono ?_
      rintro e w3 ⟨Q, rfl, hQ, hb3⟩
      obtain ⟨hX, hQs⟩ := cut_in (p := innerF c) hQ
      have HX := Lib.hid hX
      have HB3 := Lib.hid (HB2.out.trans (hb3.mono HB2.out.size))
      have hil := inner_len c
      obtain ⟨m, hm⟩ : ∃ m, (innerF c).length = m := ⟨_, rfl⟩
      rw [hm] at HX hQs hil
      have HM := Lib.hid hm
      clear hQ hb3 HB2 HQT hcv hX hm
      by_cases hbig : c < 65536
      · have HSP := Lib.hid (fun W => r_split_no c W (.inl hbig))
        go_wp2_with fail
        with_reducible refine (HSP.out _).mono ?_
        rintro e _ ⟨rfl, rfl⟩
        go_wp2_with fail
        with_reducible refine (HP2.out _).mono ?_
        rintro e _ ⟨rfl, rfl⟩
        go_wp2_with fail
        with_reducible refine (HP4.out _).mono ?_
        rintro e _ ⟨rfl, rfl⟩
        by_cases hsel : 0 < q4
        · have HL : Hid (∀ w, (Instr.slice 9 (.string Q) (some (.int .i64 1)) (some (.int .i64 ((m : Int) + 1))) none).run Tryd.prog w = .ok (.string (Q.extract 1 (m + 1))) w) := Lib.hid (fun w => by
            have e1 : ((1 : Int)).toNat = 1 := rfl
            have e2 : ((m : Int) + 1).toNat = m + 1 := by omega
            rw [run_slice_string w 9 _ .i64 .i64 1 ((m : Int) + 1) Tryd.underlying9 (by omega) (by omega) (by omega), e1, e2])
          obtain ⟨X, hXe⟩ : ∃ X, Q.extract 1 (m + 1) = X := ⟨_, rfl⟩
          have hsl := HL.out
          rw [hXe] at hsl HX
          have sX : X.size = m := by rw [← N8_len, HX.out, HM.out]
          have e1 := ByteArray.size_append (a := T) (b := X)
          have g1 : ¬ T.size + X.size > 9223372036854775807 := by omega
          have hQi : (Q.size : Int) = (m : Int) + 2 := by omega
          have hwm : IntKind.i64.wrap ((m : Int) + 1) = (m : Int) + 1 := IntWalk.i64_in _ (by omega)
          have hwm2 : IntKind.i64.wrap ((m : Int) + 2 - 1) = (m : Int) + 1 := by rw [show (m : Int) + 2 - 1 = m + 1 by omega]; exact hwm
          have HG : Hid (QI l (k + 1) (T ++ X)) := Lib.hid (QI.step HQ.out HK2.out (way_inner HI0.out.1 HI0.out.2) (by rw [N8_cat2, HX.out]) (by rw [HM.out]; omega))
          clear e1 sX HL hQs
          go_wp2_with fail
          go_roundw
          case rel => exact ⟨k + 1, _, by have := HLN.out; omega, by go_num, rfl, HG.out, HB3.out⟩
          case measure => simp [intOf]; omega
        by_cases h47 : c = 47
        · have b47 : (c == 47) = true := beq_iff_eq.2 h47
          have e1 := ByteArray.size_append (a := T) (b := ⟨#[92, 47]⟩)
          have e0 : (⟨#[92, 47]⟩ : ByteArray).size = 2 := rfl
          have g1 : ¬ T.size + (⟨#[92, 47]⟩ : ByteArray).size > 9223372036854775807 := by omega
          have HG : Hid (QI l (k + 1) (T ++ ⟨#[92, 47]⟩)) := Lib.hid (QI.step HQ.out HK2.out (p := [92, 47]) (by rw [h47]; exact way_sign (by decide) (by decide) (by decide) (by decide)) (N8_cat2 _ _) (by simp))
          clear e1 e0 h47
          go_wp2_with fail
          go_roundw
          case rel => exact ⟨k + 1, _, by have := HLN.out; omega, by go_num, rfl, HG.out, HB3.out⟩
          case measure => simp [intOf]; omega
        · have b47 : (c == 47) = false := beq_eq_false_iff_ne.2 h47
          have HFO := Lib.hid (fun W => four0_any c gr W (by omega) (by omega))
          have hNF := four_nums gr (u := c) (by omega) (by omega)
          have hwc : IntKind.u16.wrap c = c := IntWalk.u16_in _ (by omega)
          obtain ⟨D, hD⟩ : ∃ D, strOfNums (fourD gr c) = D := ⟨_, rfl⟩
          rw [hD] at HFO hNF
          have sD : D.size = 4 := by rw [← N8_len, hNF]; rfl
          have e1 := ByteArray.size_append (a := T) (b := ⟨#[92, 117]⟩)
          have e2 := ByteArray.size_append (a := T ++ ⟨#[92, 117]⟩) (b := D)
          have e0 : (⟨#[92, 117]⟩ : ByteArray).size = 2 := rfl
          have g1 : ¬ T.size + (⟨#[92, 117]⟩ : ByteArray).size > 9223372036854775807 := by omega
          have g2 : ¬ (T ++ ⟨#[92, 117]⟩).size + D.size > 9223372036854775807 := by omega
          have HG : Hid (QI l (k + 1) (T ++ ⟨#[92, 117]⟩ ++ D)) := Lib.hid (QI.step HQ.out HK2.out (way_unit gr HI0.out.1 hbig HI0.out.2) (by rw [N8_cat2, N8_cat2, hNF, List.append_assoc]; rfl) (by simp [fourD]))
          clear e1 e2 e0 hD hNF sD h47
          go_wp2_with fail
          with_reducible refine (HFO.out _).mono ?_
          rintro e w5 ⟨rfl, hb5⟩
          have HB5 := Lib.hid (HB3.out.trans (hb5.mono HB3.out.size))
          clear hb5 HB3 HFO
          have HB3 := HB5
          go_wp2_with fail
          go_roundw
          case rel => exact ⟨k + 1, _, by have := HLN.out; omega, by go_num, rfl, HG.out, HB3.out⟩
          case measure => simp [intOf]; omega
      · have HSP := Lib.hid (fun W => r_split_yes c W (by omega) (by omega))
        obtain ⟨h, hh⟩ : ∃ h, 55296 + (c - 65536) / 1024 = h := ⟨_, rfl⟩
        obtain ⟨d, hd⟩ : ∃ d, 56320 + (c - 65536) % 1024 = d := ⟨_, rfl⟩
        rw [hh, hd] at HSP
        go_wp2_with fail
        with_reducible refine (HSP.out _).mono ?_
        rintro e _ ⟨rfl, rfl⟩
        go_wp2_with fail
        with_reducible refine (HP2.out _).mono ?_
        rintro e _ ⟨rfl, rfl⟩
        go_wp2_with fail
        with_reducible refine (HP4.out _).mono ?_
        rintro e _ ⟨rfl, rfl⟩
        by_cases hsel : 0 < q4
        · have HL : Hid (∀ w, (Instr.slice 9 (.string Q) (some (.int .i64 1)) (some (.int .i64 ((m : Int) + 1))) none).run Tryd.prog w = .ok (.string (Q.extract 1 (m + 1))) w) := Lib.hid (fun w => by
            have e1 : ((1 : Int)).toNat = 1 := rfl
            have e2 : ((m : Int) + 1).toNat = m + 1 := by omega
            rw [run_slice_string w 9 _ .i64 .i64 1 ((m : Int) + 1) Tryd.underlying9 (by omega) (by omega) (by omega), e1, e2])
          obtain ⟨X, hXe⟩ : ∃ X, Q.extract 1 (m + 1) = X := ⟨_, rfl⟩
          have hsl := HL.out
          rw [hXe] at hsl HX
          have sX : X.size = m := by rw [← N8_len, HX.out, HM.out]
          have e1 := ByteArray.size_append (a := T) (b := X)
          have g1 : ¬ T.size + X.size > 9223372036854775807 := by omega
          have hQi : (Q.size : Int) = (m : Int) + 2 := by omega
          have hwm : IntKind.i64.wrap ((m : Int) + 1) = (m : Int) + 1 := IntWalk.i64_in _ (by omega)
          have hwm2 : IntKind.i64.wrap ((m : Int) + 2 - 1) = (m : Int) + 1 := by rw [show (m : Int) + 2 - 1 = m + 1 by omega]; exact hwm
          have HG : Hid (QI l (k + 1) (T ++ X)) := Lib.hid (QI.step HQ.out HK2.out (way_inner HI0.out.1 HI0.out.2) (by rw [N8_cat2, HX.out]) (by rw [HM.out]; omega))
          clear e1 sX HL hQs
          go_wp2_with fail
          go_roundw
          case rel => exact ⟨k + 1, _, by have := HLN.out; omega, by go_num, rfl, HG.out, HB3.out⟩
          case measure => simp [intOf]; omega
        have HF1 := Lib.hid (fun W => four0_any h gr W (by omega) (by omega))
        have HF2 := Lib.hid (fun W => four0_any d (!gr) W (by omega) (by omega))
        have hN1 := four_nums gr (u := h) (by omega) (by omega)
        have hN2 := four_nums (!gr) (u := d) (by omega) (by omega)
        obtain ⟨D1, hD1⟩ : ∃ D, strOfNums (fourD gr h) = D := ⟨_, rfl⟩
        obtain ⟨D2, hD2⟩ : ∃ D, strOfNums (fourD (!gr) d) = D := ⟨_, rfl⟩
        rw [hD1] at HF1 hN1
        rw [hD2] at HF2 hN2
        have s1 : D1.size = 4 := by rw [← N8_len, hN1]; rfl
        have s2 : D2.size = 4 := by rw [← N8_len, hN2]; rfl
        have e0 : (⟨#[92, 117]⟩ : ByteArray).size = 2 := rfl
        have e1 := ByteArray.size_append (a := T) (b := ⟨#[92, 117]⟩)
        have e2 := ByteArray.size_append (a := T ++ ⟨#[92, 117]⟩) (b := D1)
        have e3 := ByteArray.size_append (a := T ++ ⟨#[92, 117]⟩ ++ D1) (b := ⟨#[92, 117]⟩)
        have e4 := ByteArray.size_append (a := T ++ ⟨#[92, 117]⟩ ++ D1 ++ ⟨#[92, 117]⟩) (b := D2)
        have g1 : ¬ T.size + (⟨#[92, 117]⟩ : ByteArray).size > 9223372036854775807 := by omega
        have g2 : ¬ (T ++ ⟨#[92, 117]⟩).size + D1.size > 9223372036854775807 := by omega
        have g3 : ¬ (T ++ ⟨#[92, 117]⟩ ++ D1).size + (⟨#[92, 117]⟩ : ByteArray).size > 9223372036854775807 := by omega
        have g4 : ¬ (T ++ ⟨#[92, 117]⟩ ++ D1 ++ ⟨#[92, 117]⟩).size + D2.size > 9223372036854775807 := by omega
        have HG : Hid (QI l (k + 1) (T ++ ⟨#[92, 117]⟩ ++ D1 ++ ⟨#[92, 117]⟩ ++ D2)) := Lib.hid (QI.step HQ.out HK2.out (way_two gr (by omega) (by omega) hh.symm hd.symm HI0.out.2) (by
          rw [N8_cat2, N8_cat2, N8_cat2, N8_cat2, hN1, hN2]
          show N8 T ++ [92, 117] ++ fourD gr h ++ [92, 117] ++ fourD (!gr) d = _
          simp) (by simp [fourD]))
        clear e0 e1 e2 e3 e4 s1 s2 hD1 hD2 hN1 hN2 hh hd
        go_wp2_with fail
        with_reducible refine (HF1.out _).mono ?_
        rintro e w5 ⟨rfl, hb5⟩
        have HB5 := Lib.hid (HB3.out.trans (hb5.mono HB3.out.size))
        clear hb5 HB3 HF1
        go_wp2_with fail
        with_reducible refine (HF2.out _).mono ?_
        rintro e w6 ⟨rfl, hb6⟩
        have HB3 := Lib.hid (HB5.out.trans (hb6.mono HB5.out.size))
        clear hb6 HB5 HF2
        go_wp2_with fail
        go_roundw
        case rel => exact ⟨k + 1, _, by have := HLN.out; omega, by go_num, rfl, HG.out, HB3.out⟩
        case measure => simp [intOf]; omega
    · have hlt' : ¬ (k : Int) < ln := by omega
      have hkl : l.take k = l := List.take_of_length_le (by rw [HLN.out]; omega)
      obtain ⟨b, h1, h2, h3⟩ := HQ.out
      rw [hkl] at h3
      have H1 := Lib.hid h1
      have H3 := Lib.hid h3
      have g1 : ¬ T.size + (⟨#[34]⟩ : ByteArray).size > 9223372036854775807 := by
        have : (⟨#[34]⟩ : ByteArray).size = 1 := rfl
        omega
      have hb4 : b.length ≤ 480 := by omega
      clear h1 h3 hkl HQ h2
      go_wp2_with fail
      go_ret
      refine ⟨_, b, rfl, ?_, H3.out, hb4, HB1.out.trans (HB.out.mono hlw)⟩
      rw [N8_cat2, H1.out]
      rfl
end Go.Proofs.YtdcfhkiajeiaoaaDoor
