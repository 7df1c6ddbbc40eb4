/- Joined of: N9Txt, ConvB, N9Out, P9Eq. -/
import Derived.Test.YtdmcidljjfogjaaDoorJ9O
import Derived.Lib.ConvBytes
import Derived.Laws.AppendOwn
import Derived.Test.YtdmcidljjfogjaaDoorJ9Q
import Derived.Test.YtdmcidljjfogjaaDoorJ9J
import Derived.Test.YtdmcidljjfogjaaDoorJ9G
import Derived.Lib.SliceRun
/- Plain mathematics: bytes that are the bytes of scalars are those of the scalars that they tell. -/
namespace Go.Proofs.YtdmcidljjfogjaaDoor
set_option maxRecDepth 100000
set_option linter.unusedVariables false

theorem lng_at2 {a : Int} (h : lng a = 2) : 194 ≤ a ∧ a ≤ 223 := by unfold lng at h; (repeat' split at h) <;> omega
theorem lng_at3 {a : Int} (h : lng a = 3) : 224 ≤ a ∧ a ≤ 239 := by unfold lng at h; (repeat' split at h) <;> omega
theorem lng_at4 {a : Int} (h : 4 ≤ lng a) : 240 ≤ a ∧ a ≤ 244 := by unfold lng at h; (repeat' split at h) <;> omega
theorem mk_at2 {a : Int} (h : 194 ≤ a) (g : a ≤ 223) : mkT a = 192 := by unfold mkT; (repeat' split) <;> omega
theorem mk_at3 {a : Int} (h : 224 ≤ a) (g : a ≤ 239) : mkT a = 224 := by unfold mkT; (repeat' split) <;> omega
theorem mk_at4 {a : Int} (h : 240 ≤ a) (g : a ≤ 244) : mkT a = 240 := by unfold mkT; (repeat' split) <;> omega
theorem tl_at {x : Int} (h : tlB x = true) : 128 ≤ x ∧ x ≤ 191 := of_decide_eq_true h
theorem sec_at {a x : Int} (h : secB a x = true) : 128 ≤ x ∧ x ≤ 191 ∧ (a = 224 → 160 ≤ x) ∧ (a = 240 → 144 ≤ x) ∧ (a = 237 → x ≤ 159) ∧ (a = 244 → x ≤ 143) := by
  have h := of_decide_eq_true h
  unfold lo2 hi2 at h
  refine ⟨?_, ?_, ?_, ?_, ?_, ?_⟩ <;> (repeat' split at h) <;> omega
theorem byt_1 {c : Int} (h0 : 0 ≤ c) (h : c < 128) : byt c = [c] := by
  have hi : isB c = true := decide_eq_true (by omega)
  simp [byt, hi, h]
theorem byt_2 {c a b : Int} (h0 : 128 ≤ c) (h : c < 2048) (ha : a = 192 + c / 64) (hb : b = 128 + c % 64) : byt c = [a, b] := by
  have hi : isB c = true := decide_eq_true (by omega)
  have h1 : ¬ c < 128 := by omega
  subst ha hb
  simp [byt, hi, h, h1]
theorem byt_3 {c a b d : Int} (h0 : 2048 ≤ c) (h : c < 65536) (hi : isB c = true) (ha : a = 224 + c / 4096) (hb : b = 128 + c / 64 % 64) (hd : d = 128 + c % 64) : byt c = [a, b, d] := by
  have h1 : ¬ c < 128 := by omega
  have h2 : ¬ c < 2048 := by omega
  subst ha hb hd
  simp [byt, hi, h, h1, h2]
theorem byt_4 {c a b d e : Int} (h0 : 65536 ≤ c) (hi : isB c = true) (ha : a = 240 + c / 262144) (hb : b = 128 + c / 4096 % 64) (hd : d = 128 + c / 64 % 64) (he : e = 128 + c % 64) : byt c = [a, b, d, e] := by
  have h1 : ¬ c < 128 := by omega
  have h2 : ¬ c < 2048 := by omega
  have h3 : ¬ c < 65536 := by omega
  subst ha hb hd he
  simp [byt, hi, h1, h2, h3]
theorem how2_byt {t : List Int} (hB : Bts t) (h : how t = 2) : isB (ubits t) = true ∧ byt (ubits t) = t := by
  match t, hB, h with
  | [], _, h => simp [how] at h
  | [a], hB, h =>
    have ha := (hB a (by simp)).1
    have hl : lng a = 1 := by
      change (if lng a = 1 then (2 : Int) else if 1 < lng a then 1 else 0) = 2 at h
      split at h
      · assumption
      · split at h <;> cases h
    have h1 := lng_one hl
    have e : ubits [a] = a := by show a - mkT a = a; rw [(row_zero h1).2]; omega
    rw [e]
    exact ⟨decide_eq_true (by omega), byt_1 ha h1⟩
  | [a, b], hB, h =>
    change (if 2 ≤ lng a ∧ secB a b = true then (if lng a = 2 then (2 : Int) else 1) else 0) = 2 at h
    split at h
    · rename_i hh
      split at h
      · rename_i h2
        obtain ⟨l1, l2⟩ := lng_at2 h2
        have hs := sec_at hh.2
        have e : ubits [a, b] = (a - 192) * 64 + (b - 128) := by show (a - mkT a) * 64 + (b - 128) = _; rw [mk_at2 l1 l2]
        rw [e]
        exact ⟨decide_eq_true (by omega), byt_2 (by omega) (by omega) (by omega) (by omega)⟩
      · cases h
    · cases h
  | [a, b, c], hB, h =>
    change (if 3 ≤ lng a ∧ secB a b = true ∧ tlB c = true then (if lng a = 3 then (2 : Int) else 1) else 0) = 2 at h
    split at h
    · rename_i hh
      split at h
      · rename_i h2
        obtain ⟨l1, l2⟩ := lng_at3 h2
        have hs := sec_at hh.2.1
        have ht := tl_at hh.2.2
        have e : ubits [a, b, c] = ((a - 224) * 64 + (b - 128)) * 64 + (c - 128) := by show ((a - mkT a) * 64 + (b - 128)) * 64 + (c - 128) = _; rw [mk_at3 l1 l2]
        rw [e]
        have hi : isB (((a - 224) * 64 + (b - 128)) * 64 + (c - 128)) = true := decide_eq_true (by omega)
        exact ⟨hi, byt_3 (by omega) (by omega) hi (by omega) (by omega) (by omega)⟩
      · cases h
    · cases h
  | [a, b, c, d], hB, h =>
    change (if 4 ≤ lng a ∧ secB a b = true ∧ tlB c = true ∧ tlB d = true then (2 : Int) else 0) = 2 at h
    split at h
    · rename_i hh
      obtain ⟨l1, l2⟩ := lng_at4 hh.1
      have hs := sec_at hh.2.1
      have ht := tl_at hh.2.2.1
      have hu := tl_at hh.2.2.2
      have e : ubits [a, b, c, d] = (((a - 240) * 64 + (b - 128)) * 64 + (c - 128)) * 64 + (d - 128) := by show (((a - mkT a) * 64 + (b - 128)) * 64 + (c - 128)) * 64 + (d - 128) = _; rw [mk_at4 l1 l2]
      rw [e]
      have hi : isB ((((a - 240) * 64 + (b - 128)) * 64 + (c - 128)) * 64 + (d - 128)) = true := decide_eq_true (by omega)
      exact ⟨hi, byt_4 (by omega) hi (by omega) (by omega) (by omega) (by omega)⟩
    · cases h
  | a :: b :: c :: d :: e :: t, _, h => simp [how] at h
theorem first_bytes {b : List Int} (hB : Bts b) (h : fOk b = true) : isB (fC b) = true ∧ byt (fC b) = b.take (fN b) := by
  have h1 := of_decide_eq_true h
  have e1 : fN b = fk b + 1 := by unfold fN; rw [h]; rfl
  have e2 : fC b = ubits (b.take (fk b + 1)) := by unfold fC; rw [h]; rfl
  rw [e1, e2]
  exact how2_byt (hB.take _) h1.2
theorem allA_txt {b : List Int} (hB : Bts b) : ∀ (f n : Nat) (l : List Int), txt l = b.take n → (∀ c ∈ l, isB c = true) → b.length - n < f → n ≤ b.length →
    (∀ c ∈ (allA b f n l).1, isB c = true) ∧ ((allA b f n l).2.2 = true → txt (allA b f n l).1 = b)
  | 0, n, l, _, _, h, _ => by omega
  | f + 1, n, l, ht, hs, hf, hn => by
    rw [allA]
    by_cases hlt : n < b.length
    · rw [if_pos hlt]
      cases ho : fOk (b.drop n) with
      | false => exact ⟨fun c hc => by simp at hc, fun h => by simp at h⟩
      | true =>
        simp only [if_true]
        obtain ⟨h1, h2⟩ := first_bytes (hB.drop n) ho
        have hp := fN_pos ho
        have hle := fN_le (b.drop n)
        rw [List.length_drop] at hle
        refine allA_txt hB f _ _ ?_ (fun c hc => ?_) (by omega) (by omega)
        · unfold txt at ht ⊢
          rw [List.flatMap_append, ht, List.flatMap_cons, List.flatMap_nil, List.append_nil, h2, List.take_add]
        · rcases List.mem_append.1 hc with hc | hc
          · exact hs c hc
          · simp at hc; rw [hc]; exact h1
    · rw [if_neg hlt]
      exact ⟨hs, fun _ => by rw [ht]; exact List.take_of_length_le (by omega)⟩
theorem allS_back {b : List Int} (hB : Bts b) : (∀ c ∈ (allS b).1, isB c = true) ∧ ((allS b).2.2 = true → txt (allS b).1 = b) :=
  allA_txt hB _ 0 [] (by simp [txt]) (fun c hc => by cases hc) (by omega) (by omega)
theorem allS_short (b : List Int) : ∀ (f n : Nat) (l : List Int), l.length ≤ n → n ≤ b.length → (allA b f n l).1.length ≤ b.length
  | 0, n, l, h1, h2 => by simp only [allA]; omega
  | f + 1, n, l, h1, h2 => by
    rw [allA]
    by_cases hn : n < b.length
    · rw [if_pos hn]
      cases ho : fOk (b.drop n) with
      | false => simp
      | true =>
        simp only [if_true]
        have hp := fN_pos ho
        have hle := fN_le (b.drop n)
        rw [List.length_drop] at hle
        exact allS_short b f _ _ (by simp; omega) (by omega)
    · rw [if_neg hn]; simp only; omega
theorem allS_le9 (b : List Int) : (allS b).1.length ≤ b.length := allS_short b _ 0 [] (by simp) (by omega)
end Go.Proofs.YtdmcidljjfogjaaDoor

/- []byte(s) of a string whose bytes are told by numbers. -/
namespace Go.Proofs.YtdmcidljjfogjaaDoor
set_option maxRecDepth 100000
open Go.ChangeShapes Go.WideShapes Go.ChangeAt Go.RowKit
set_option linter.unusedVariables false

theorem bytesWorld_below (w : World) (e : TypeId) (s : ByteArray) : Below w.heap.size w (Lib.bytesWorld w e s) :=
  ⟨rfl, rfl, rfl, by rw [Lib.bytesWorld_size]; omega, fun i hi => Lib.bytesWorld_at_old w e s i hi⟩
/-- a row of bytes of the string's -/
def ConvRow (w : World) (xs : List Int) (A : Option Addr) (c : Nat) (w' : World) : Prop := Ints w' w'.heap.size .u8 A xs ∧ xs.length ≤ c ∧ c ≤ maxLen ∧ Below w.heap.size w w'
theorem conv_bytes (w : World) (xs : List Int) (hB : Bts xs) (hm : xs.length ≤ 1000000) : ∃ A c w', (convert 9 23 (.string (strOfNums xs))).run Tryd.prog w = .ok (.slice A xs.length c) w' ∧ ConvRow w xs A c w' := by
  have hr := Lib.run_convert_string_bytes (P := Tryd.prog) w 9 23 5 (strOfNums xs) Tryd.underlying9 Tryd.underlying23 Tryd.underlying5
  rw [strOfNums_size] at hr
  refine ⟨_, _, _, hr, .inr ⟨_, _, rfl, by rw [Lib.bytesWorld_size]; omega, fun j hj => ?_⟩, grownCap_ge _ _ _ _, grownCap_le_maxLen _ _ _ _ (by unfold maxLen; omega), bytesWorld_below w _ _⟩
  rw [Nat.zero_add, Lib.bytesWorld_cell w _ _ j (by rw [strOfNums_size]; exact hj), strOfNums_data]
  have h := hB.at hj
  have e : ((xs.map fun n => UInt8.ofNat n.toNat).getD j 0) = UInt8.ofNat (xs.getD j 0).toNat := by
    simp [List.getD_eq_getElem?_getD, List.getElem?_eq_getElem hj]
  rw [e]
  have e2 : (UInt8.ofNat (xs.getD j 0).toNat).toNat = (xs.getD j 0).toNat := by
    rw [UInt8.toNat_ofNat']
    exact Nat.mod_eq_of_lt (by omega)
  rw [e2]
  have e3 : ((xs.getD j 0).toNat : Int) = xs.getD j 0 := by omega
  rw [e3]
end Go.Proofs.YtdmcidljjfogjaaDoor

/- What All and Text of layer 2 hand back, as layer 9 goes on with it. -/
namespace Go.Proofs.YtdmcidljjfogjaaDoor
set_option maxRecDepth 100000
open Go.ChangeShapes Go.WideShapes Go.ChangeAt Go.RowKit
set_option linter.unusedVariables false

theorem isB_in {c : Int} (h : isB c = true) : R32 c := by
  have := of_decide_eq_true h
  unfold R32; omega
/-- what All hands back, its row as it is handed on -/
def AllOut (w : World) (xs : List Int) (e : Ending) (w' : World) : Prop :=
  ∃ A n c, e = .returned (.tuple #[.slice A n c, .int .i64 ((allS xs).2.1 : Int), .bool (allS xs).2.2]) ∧ RowIn w' A n c (allS xs).1 ∧ Below w.heap.size w w'
theorem AllRes.out {w w' : World} {xs : List Int} {e : Ending} (h : AllRes w xs e w') : AllOut w xs e w' := by
  obtain ⟨v, rfl, hO, hb⟩ := h
  obtain ⟨A, c, rfl, hc, hcm⟩ := own_form hO
  exact ⟨A, _, c, rfl, RowIn.ofOwn hO, hb⟩
/-- a row of bytes, and the string of it -/
def StrOut (w : World) (zs : List Int) (e : Ending) (w' : World) : Prop :=
  ∃ v, e = .returned v ∧ (convert 23 9 v).run Tryd.prog w' = .ok (.string (strOfNums zs)) w' ∧ Below w.heap.size w w'
theorem RowRes.strOut {w w' : World} {zs : List Int} {e : Ending} (h : RowRes 5 .u8 w zs e w') : StrOut w zs e w' := by
  obtain ⟨v, rfl, hO, hb⟩ := h
  obtain ⟨A, c, rfl, hc, hcm⟩ := own_form hO
  exact ⟨_, rfl, conv_str w' w'.heap.size A _ c zs rfl (Ints.own hO), hb⟩
end Go.Proofs.YtdmcidljjfogjaaDoor

/- slices.Equal and slices.Clone of rows of runes by their contracts. -/
namespace Go.Proofs.YtdmcidljjfogjaaDoor
set_option maxRecDepth 100000
open Go.ChangeShapes Go.WideShapes Go.ChangeAt Go.RowKit
set_option linter.unusedVariables false

set_option maxHeartbeats 1000000 in
theorem equal_any (A B : Option Addr) (n m c d : Nat) (xs ys : List Int) (w : World) (hn : xs.length = n) (hm : ys.length = m) (hA : Ints w w.heap.size .i32 A xs) (hB : Ints w w.heap.size .i32 B ys) (hl : n ≤ 1048576) (hl2 : m ≤ 1048576) :
    Calls Tryd.prog 35 #[.slice A n c, .slice B m d] w fun e w' => e = .returned (.bool (decide (xs = ys))) ∧ Still w w' := by
  have HA := Lib.hid hA
  have HB := Lib.hid hB
  clear hA hB
  by_cases hnm : n = m
  · subst hnm
    generalize hres : decide (xs = ys) = R
    have HRES := Lib.hid hres
    clear hres
    have HM := Lib.hid hm
    clear hm
    have hne : ((n : Int) != n) = false := by simp
    have HN := Lib.hid hn
    clear hn
    go_enter Tryd.func35, Tryd.ntmps35
    go_wp2_with fail
    go_loopw [13] (fun i w1 => SameLoop w xs ys i w1) (fun i _ => n - (intOf i).toNat)
    case atStart => exact ⟨0, by omega, rfl, rfl, Still.refl w⟩
    case round =>
      obtain ⟨k, hk, rfl, hT, hst⟩ := hrel
      rw [HN.out] at hk
      by_cases hlt : k < n
      · have hkx : k < xs.length := by rw [HN.out]; exact hlt
        have hky : k < ys.length := by rw [HM.out]; exact hlt
        obtain ⟨b, o, rfl, hbl, hc⟩ := HA.out.at (by omega)
        obtain ⟨b', o', rfl, hbl', hc'⟩ := HB.out.at (by omega)
        have h1 : wr.cell? ⟨b, o + k, none⟩ = some (.int .i32 (xs.getD k 0)) := (hst.cell _).trans (hc k hkx)
        have h2 : wr.cell? ⟨b', o' + k, none⟩ = some (.int .i32 (ys.getD k 0)) := (hst.cell _).trans (hc' k hky)
        have hlt' : (k : Int) < n := by omega
        have HS := Lib.hid (take_snoc xs k hkx)
        have HS' := Lib.hid (take_snoc ys k hky)
        have HT := Lib.hid hT
        have HE := Lib.hid (ne_at (xs := xs) (ys := ys) (k := k))
        generalize xs.getD k 0 = x at *
        generalize ys.getD k 0 = y at *
        clear hc hc' hT hkx hky
        by_cases hxy : x = y
        · subst hxy
          have hx : (x != x) = false := by simp
          go_wp2_with fail
          go_quiet (fail)
          go_wp2
          go_roundw
          case rel => exact ⟨k + 1, by rw [HN.out]; omega, by go_num, by rw [HS.out, HS'.out, HT.out], hst.drewN _⟩
          case measure => simp [intOf]; omega
        · have hx : (x != y) = true := by simp [hxy]
          have hr : R = false := HRES.out.symm.trans (HE.out hxy)
          subst hr
          clear HRES HE
          go_wp2_with fail
          go_quiet (fail)
          go_wp2
          go_ret
          exact ⟨rfl, hst.drewN _⟩
      · have hkk : k = n := by omega
        subst hkk
        have hlt' : ¬ (k : Int) < k := by omega
        have hr : R = true := by
          rw [← HRES.out]
          refine decide_eq_true ?_
          have e := hT
          rw [List.take_of_length_le (by rw [HN.out]; exact Nat.le_refl _), List.take_of_length_le (by rw [HM.out]; exact Nat.le_refl _)] at e
          exact e
        subst hr
        clear HRES hT
        go_wp2
        go_ret
        exact ⟨rfl, hst⟩
  · have hr : decide (xs = ys) = false := decide_eq_false (fun e => hnm (by rw [← hn, ← hm, e]))
    rw [hr]
    have hne : ((n : Int) != m) = true := by simp; omega
    clear hr hn hm
    go_enter Tryd.func35, Tryd.ntmps35
    go_wp2
    go_ret
    exact ⟨rfl, Still.refl w⟩

theorem equal_rows {w : World} {A : Option Addr} {n c : Nat} {xs : List Int} {B : Option Addr} {m d : Nat} {ys : List Int} (hA : RowIn w A n c xs) (hB : RowIn w B m d ys) (hn : n ≤ 1000000) (hm : m ≤ 1000000) :
    Calls Tryd.prog 35 #[.slice A n c, .slice B m d] w fun e w' => e = .returned (.bool (decide (xs = ys))) ∧ Still w w' :=
  equal_any A B n m c d xs ys w hA.len hB.len hA.ints hB.ints (by omega) (by omega)
theorem same_dec {w : World} {A : Option Addr} {n c : Nat} {xs : List Int} {B : Option Addr} {m d : Nat} {ys : List Int} (hA : RowIn w A n c xs) (hB : RowIn w B m d ys) (hn : n ≤ 1000000) (hm : m ≤ 1000000) :
    Calls Tryd.prog 11 #[.slice A n c, .slice B m d] w fun e w' => e = .returned (.bool (decide (xs = ys))) ∧ Still w w' :=
  same_any A B n m c d xs ys w hA.len hB.len hA.ints hB.ints (by omega) (by omega)

set_option maxHeartbeats 1000000 in
theorem clone_any (W : World) (A : Option Addr) (n c : Nat) (l : List Int) (hA : RowIn W A n c l) (hn : n ≤ 1000000) : Calls Tryd.prog 55 #[.slice A n c] W (RowOut W l) := by
  cases A with
  | none =>
    have h0 := hA.nil rfl
    have h1 := hA.le
    obtain rfl : c = 0 := h0
    obtain rfl : n = 0 := by omega
    have HA := Lib.hid hA
    clear hA h1
    have qT : ∀ (w : World) (a : Option Addr) (n c : Nat), (binOp .eql 22 (.slice a n c) (.slice none 0 0)).run Tryd.prog w = .ok (.bool a.isNone) w := fun w a n c => Lib.run_eql_slice_nil w _ _ a n c 0 0 Tryd.underlying22
    go_enter Tryd.func55, Tryd.ntmps55
    go_wp2
    go_ret
    exact ⟨none, 0, 0, rfl, HA.out, Below.refl _ _⟩
  | some a =>
    have HA := Lib.hid hA
    have HI : Hid (Ints (W.alloc (.cells #[] 21)) (W.alloc (.cells #[] 21)).heap.size .i32 (some a) l) := Lib.hid (hA.ints.go (below_new W _))
    clear hA
    have qT : ∀ (w : World) (a : Option Addr) (n c : Nat), (binOp .eql 22 (.slice a n c) (.slice none 0 0)).run Tryd.prog w = .ok (.bool a.isNone) w := fun w a n c => Lib.run_eql_slice_nil w _ _ a n c 0 0 Tryd.underlying22
    go_enter Tryd.func55, Tryd.ntmps55
    go_wp2_with (at_builtin; refine wpList_app_n rfl (.tmp 5) (.tmp 6) 22 rfl W.heap.size 21 .i32 4 Tryd.underlying22 info_i32 (by omega) _ [] rfl (own_empty W W.heap.size 21 .i32 (Nat.le_refl _)) _ (some a) n c l HA.out.len rfl (fun h => by cases h) HI.out (by simp; omega) (by rw [World.size_alloc]; omega) ?_; intro v w2 hO hG; obtain ⟨A2, c2, rfl, hc2, hcm⟩ := own_form hO; rw [List.nil_append] at hO; have HR := Lib.hid (RowIn.ofOwn hO); have HG : Hid (Below W.heap.size W w2) := Lib.hid ((below_new W _).trans (own_grown_below (own_empty W W.heap.size 21 .i32 (Nat.le_refl _)) hG (by rw [World.size_alloc]; omega))); clear hO hG hc2 hcm)

    go_ret
    exact ⟨A2, _, c2, rfl, HR.out, HG.out⟩
end Go.Proofs.YtdmcidljjfogjaaDoor
