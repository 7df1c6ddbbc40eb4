/- Joined of: N12Uni. -/
import Derived.Test.YtdcfhkiajeiaoaaDoorJ12K
import Derived.Test.YtdcfhkiajeiaoaaDoorJ12L
import Derived.Test.YtdcfhkiajeiaoaaDoorJ12P
import Derived.Test.YtdcfhkiajeiaoaaDoorJ12H
/- Printed by gen_n12uni.py. StrUnits: two escapes of any two units. -/
namespace Go.Proofs.YtdcfhkiajeiaoaaDoor
set_option maxRecDepth 100000
open Go.ChangeShapes Go.WideShapes Go.ChangeAt Go.RowKit
set_option linter.unusedVariables false
set_option linter.unusedSimpArgs false

theorem N8_cat (a b : ByteArray) : N8 (a ++ b) = N8 a ++ N8 b := by unfold N8; rw [L8_app, List.map_append]
theorem N8_lst {l : List Int} (h : ∀ x ∈ l, 0 ≤ x ∧ x ≤ 255) : N8 (strOfNums l) = l := by
  unfold N8
  have e : L8 (strOfNums l) = l.map fun n => UInt8.ofNat n.toNat := by unfold strOfNums L8; simp
  rw [e, List.map_map]
  conv => rhs; rw [← List.map_id l]
  apply List.map_congr_left
  intro x hx
  have := h x hx
  simp only [Function.comp]
  rw [UInt8.toNat_ofNat', Nat.mod_eq_of_lt (by omega)]
  show ((x.toNat : Nat) : Int) = x
  omega
theorem dgc_bd (g : Bool) {k : Int} (h0 : 0 ≤ k) (h1 : k ≤ 15) : 0 ≤ dgc g k ∧ dgc g k ≤ 255 := by
  unfold dgc
  (repeat' split) <;> omega
theorem four_n8 (g : Bool) {u : Int} (h0 : 0 ≤ u) (h1 : u ≤ 65535) : N8 (strOfNums (fourD g u)) = fourD g u := N8_lst fun x hx => by
  obtain ⟨a, b, c, d, ha, hb, hc, hd, hu, hf⟩ := unit_digs h0 h1
  rw [hf] at hx
  simp only [List.mem_cons, List.not_mem_nil, or_false] at hx
  rcases hx with rfl | rfl | rfl | rfl
  · exact dgc_bd g ha.1 ha.2
  · exact dgc_bd g hb.1 hb.2
  · exact dgc_bd g hc.1 hc.2
  · exact dgc_bd g hd.1 hd.2
def flagOf : Value → Value → Nat
  | f, .bool false => if intOf f = 0 then 1 else 0
  | _, _ => 0
def UL (w : World) (g bb a : Nat) (sv : Value) (F : Nat × Int × Bool × Ss) (fs : Ss) (T : ByteArray) (j f i : Value) (wr : World) : Prop :=
  ∃ (k : Nat) (e : Int) (o : Bool) (s : Ss) (ov bv hv : Value), k ≤ T.size ∧ j = .int .i64 k ∧ f = .int .i64 e ∧ i = .bool o ∧ (e = 0 → o = false → s.o.length ≤ k) ∧ s.o.length ≤ k + 1 ∧ PQ w wr g bb a sv ov bv hv fs s ∧ F = (if e = 0 ∧ o = false then feedS s ((N8 T).drop k) k else (k, e, o, s))
set_option maxHeartbeats 64000000 in
theorem units_walk (u v : Int) (gr : Bool) (w : World) (hT : Tab w) (h0 : 0 ≤ u) (h1 : u ≤ 65535) (k0 : 0 ≤ v) (k1 : v ≤ 65535) :
    Calls Tryd.prog 6 #[.int .u16 u, .int .u16 v, .bool gr] w fun e w' => e = .returned (.bool true) ∧ Below w.heap.size w w' := by
  have HT := Lib.hid hT
  have HAW : Hid (∀ W, Below w.heap.size w W → Calls Tryd.prog 9 #[] W fun e w' => e = .returned (.bool true) ∧ Below W.heap.size W w') := Lib.hid (fun W hW => awake_any W (hT.below' hW))
  have HLEAD := Lib.hid hT.lt
  have HFU := Lib.hid (fun W => four_any u gr W h0 h1)
  have HFV := Lib.hid (fun W => four_any v (!gr) W k0 k1)
  have hNA := four_n8 gr h0 h1
  have hNB := four_n8 (!gr) k0 k1
  obtain ⟨A, hA⟩ : ∃ A, strOfNums (fourD gr u) = A := ⟨_, rfl⟩
  obtain ⟨B, hB⟩ : ∃ B, strOfNums (fourD (!gr) v) = B := ⟨_, rfl⟩
  rw [hA] at HFU hNA
  rw [hB] at HFV hNB
  have sA : A.size = 4 := by rw [← N8_len, hNA]; rfl
  have sB : B.size = 4 := by rw [← N8_len, hNB]; rfl
  have e0 : (⟨#[92, 117]⟩ : ByteArray).size = 2 := rfl
  have e9 : (⟨#[34]⟩ : ByteArray).size = 1 := rfl
  have e1 := ByteArray.size_append (a := ⟨#[92, 117]⟩) (b := A)
  have e2 := ByteArray.size_append (a := ⟨#[92, 117]⟩ ++ A) (b := ⟨#[92, 117]⟩)
  have e3 := ByteArray.size_append (a := ⟨#[92, 117]⟩ ++ A ++ ⟨#[92, 117]⟩) (b := B)
  have e4 := ByteArray.size_append (a := ⟨#[92, 117]⟩ ++ A ++ ⟨#[92, 117]⟩ ++ B) (b := ⟨#[34]⟩)
  have s1 : ¬ (⟨#[92, 117]⟩ : ByteArray).size + A.size > 9223372036854775807 := by omega
  have s2 : ¬ (⟨#[92, 117]⟩ ++ A).size + (⟨#[92, 117]⟩ : ByteArray).size > 9223372036854775807 := by omega
  have s3 : ¬ (⟨#[92, 117]⟩ ++ A ++ ⟨#[92, 117]⟩).size + B.size > 9223372036854775807 := by omega
  have s4 : ¬ (⟨#[92, 117]⟩ ++ A ++ ⟨#[92, 117]⟩ ++ B).size + (⟨#[34]⟩ : ByteArray).size > 9223372036854775807 := by omega
  have hTs : (⟨#[92, 117]⟩ ++ A ++ ⟨#[92, 117]⟩ ++ B ++ ⟨#[34]⟩).size = 13 := by omega
  have hTN : N8 (⟨#[92, 117]⟩ ++ A ++ ⟨#[92, 117]⟩ ++ B ++ ⟨#[34]⟩) = unitsT u v gr := by
    rw [N8_cat, N8_cat, N8_cat, N8_cat, hNA, hNB]
    show [92, 117] ++ fourD gr u ++ [92, 117] ++ fourD (!gr) v ++ [34] = _
    unfold unitsT
    simp
  obtain ⟨T, hTT⟩ : ∃ T, ⟨#[92, 117]⟩ ++ A ++ ⟨#[92, 117]⟩ ++ B ++ ⟨#[34]⟩ = T := ⟨_, rfl⟩
  rw [hTT] at hTs hTN
  have HTN := Lib.hid hTN
  clear hT hNA hNB hA hB sA sB e0 e9 e1 e2 e3 e4 hTN
  go_enter Tryd.func6, Tryd.ntmps6
  go_wp2_with fail
  with_reducible refine (HFU.out _).mono ?_
  rintro e w1 ⟨rfl, hb1⟩
  have HB1 := Lib.hid hb1
  clear hb1 HFU
  go_wp2_with fail
  with_reducible refine (HFV.out _).mono ?_
  rintro e w2 ⟨rfl, hb2⟩
  have HB2 := Lib.hid (HB1.out.trans (hb2.mono HB1.out.size))
  clear hb2 HFV HB1
  go_wp2_with fail
  with_reducible refine (strnew_any w.heap.size w2 HB2.out.size).mono ?_
  rintro e1 w3 ⟨g, bb, rfl, lg, lb, hn1, hb1⟩
  have HB3 := Lib.hid (HB2.out.trans (hb1.mono HB2.out.size))
  have HP0 : Hid (PQ w (w3.alloc (.cells #[.slice none 0 0, .slice none 0 0, .int .i64 0, .slice none 0 0, .int .u16 0, .bool false] 30)) g bb w3.heap.size (.slice none 0 0) (.slice none 0 0) (.slice none 0 0) (.slice none 0 0) ss0 ss0) := Lib.hid (PQ.new hn1 HB3.out)
  obtain ⟨a, ha⟩ : ∃ a, w3.heap.size = a := ⟨_, rfl⟩
  rw [ha] at HP0
  clear hn1 hb1 HB2 HB3 lg lb s1 s2 s3 s4
  have HPL := Lib.hid (strpush_law w.heap.size g bb (.slice none 0 0) ss0 T _ HP0.out.p (HT.out.below' HP0.out.b) HLEAD.out HP0.out.b.size (by have e : ss0.o.length = 0 := rfl; omega))
  rw [HTN.out] at HPL
  obtain ⟨F, hF⟩ : ∃ F, feedS ss0 (unitsT u v gr) 0 = F := ⟨_, rfl⟩
  have hov : F.2.2.1 = rightB u v := by rw [← hF]; exact units_over u v gr h0 h1 k0 k1
  rw [hF] at HPL
  obtain ⟨fi, fe, fo, fs⟩ := F
  dsimp only at HPL hov
  have HF := Lib.hid hF
  clear hF
  go_wp2_with fail
  with_reducible refine HPL.out.mono ?_
  rintro e w4 ⟨rfl, sv4, p1, p2, p3⟩
  dsimp only at p1 ⊢
  have HP4 := Lib.hid (HP0.out.pushP p1 p2 p3)
  clear p1 p2 p3 HPL HP0 hTT ha
  have HHU := Lib.hid (fun W => r_high_any u W)
  have HLU := Lib.hid (fun W => r_low_any u W)
  have HHV := Lib.hid (fun W => r_high_any v W)
  have HLV := Lib.hid (fun W => r_low_any v W)
  have HNU := Lib.hid (fun W => r_nonchar_any u W)
  have HNV := Lib.hid (fun W => r_nonchar_any v W)
  have HNC := Lib.hid (fun W => r_nonchar_any (joinF u v) W)
  have HJY : Hid (highB u = true → lowB v = true → ∀ W, Calls Tryd.prog 23 #[.int .u16 u, .int .u16 v] W fun e w' => e = .returned (.tuple #[.int .i32 (joinF u v), .bool true]) ∧ W = w') := Lib.hid fun hh hl W => by
    have q1 := of_decide_eq_true hh
    have q2 := of_decide_eq_true hl
    have q3 : joinF u v = 65536 + (u - 55296) * 1024 + (v - 56320) := by unfold joinF; rw [if_pos (by omega)]
    rw [q3]
    exact r_join_yes u v W q1.1 q1.2 q2.1 q2.2
  have HJN : Hid ((highB u && lowB v) = false → ∀ W, Calls Tryd.prog 23 #[.int .u16 u, .int .u16 v] W fun e w' => e = .returned (.tuple #[.int .i32 0, .bool false]) ∧ W = w') := Lib.hid fun hn W => r_join_no u v W (fun ⟨x, y, z⟩ => by
    have q1 : highB u = true := decide_eq_true x
    have q2 : lowB v = true := decide_eq_true ⟨y, z⟩
    rw [q1, q2] at hn
    cases hn)
  have hwu : IntKind.i32.wrap u = u := IntWalk.i32_in _ (by omega)
  have hwv : IntKind.i32.wrap v = v := IntWalk.i32_in _ (by omega)
  unfold rightB at hov
  generalize joinF u v = cj at HNC HJY hov
  have HOV := Lib.hid hov
  clear hov
  go_wp2_with fail
  go_loopw [13, 14, 15] (fun j f i wr => UL w g bb a sv4 (fi, fe, fo, fs) fs T j f i wr) (fun j f i _ => (T.size - (intOf j).toNat) + flagOf f i)
  case atStart => exact ⟨0, 0, false, ss0, _, _, _, by omega, rfl, rfl, rfl, fun _ _ => Nat.le_refl _, Nat.zero_le _, HP4.out, by rw [if_pos ⟨rfl, rfl⟩, List.drop_zero, HTN.out]; exact HF.out.symm⟩
  case round =>
    clear HP4
    obtain ⟨k, e, o, s, ov, bv, hv, hk, rfl, rfl, rfl, hs1, hs2, hpq, hF⟩ := hrel
    have HQ := Lib.hid hpq
    clear hpq
    by_cases hlt : k < T.size
    · have hlt' : (k : Int) < T.size := by omega
      by_cases he : e = 0
      · cases o with
        | false =>
          subst he
          rw [if_pos ⟨rfl, rfl⟩, N8_drop T k hlt, feed_step] at hF
          have hx := T[k].toNat_lt
          have hs0 := hs1 rfl rfl
          have HRU := Lib.hid (fun W h => r_strpush_any w.heap.size a ov bv hv s (T[k].toNat : Int) W h (by omega) (by omega))
          have hpl := push_len s (T[k].toNat : Int)
          obtain ⟨ob, r, s2, hp⟩ : ∃ ob r s2, pushS s (T[k].toNat : Int) = (ob, r, s2) := ⟨_, _, _, rfl⟩
          rw [hp] at HRU hpl hF
          dsimp only at HRU hpl hF
          have HFF := Lib.hid hF
          clear hp hF
          have hw1 : IntKind.i64.wrap ((k : Int) + 1) = (k : Int) + 1 := IntWalk.i64_in _ (by omega)
          go_wp2_with fail
          with_reducible refine (HRU.out _ HQ.out.r HQ.out.b.size (by omega)).mono ?_
          rintro e w5 ⟨rfl, ov2, bv2, hv2, p1, p2, p3, p4⟩
          have HQ5 := Lib.hid (HQ.out.pushR p1 p2 p4)
          clear p1 p2 p3 p4 HRU HQ
          by_cases hr : r = 0
          · subst hr
            cases ob with
            | false =>
              go_wp2
              go_roundw
              case rel => exact ⟨k + 1, 0, false, s2, ov2, bv2, hv2, by omega, by go_num, rfl, rfl, (fun _ _ => by omega), by omega, HQ5.out, by rw [if_pos ⟨rfl, rfl⟩, HFF.out, if_neg (by simp)]⟩
              case measure => simp [intOf, flagOf]; omega
            | true =>
              go_wp2
              go_roundw
              case rel => exact ⟨k, 0, true, s2, ov2, bv2, hv2, by omega, rfl, rfl, rfl, (fun _ h => by cases h), by omega, HQ5.out, by rw [if_neg (by simp), HFF.out, if_pos (by simp)]⟩
              case measure => simp [intOf, flagOf]
          · have hrb : (r == 0) = false := beq_eq_false_iff_ne.2 hr
            go_wp2
            go_roundw
            case rel => exact ⟨k, r, ob, s2, ov2, bv2, hv2, by omega, rfl, rfl, rfl, (fun h _ => absurd h hr), by omega, HQ5.out, by rw [if_neg (by intro h; exact hr h.1), HFF.out, if_pos (.inl hr)]⟩
            case measure => cases ob <;> simp [intOf, flagOf, hr]
        | true =>
          have heb : (e == 0) = true := beq_iff_eq.2 he
          clear he
          rw [if_neg (by simp)] at hF
          obtain ⟨e1, h2⟩ := Prod.mk.inj hF
          obtain ⟨e2, h3⟩ := Prod.mk.inj h2
          obtain ⟨e3, e4⟩ := Prod.mk.inj h3
          subst e1 e2 e3 e4
          clear hF h2 h3
          have m1 : ((fi : Int) == fi) = true := by simp
          have m2 : (fe == fe) = true := by simp
          have m3 : ((strOfNums (txt fs.o)).toList == (strOfNums (txt fs.o)).toList) = true := by simp
          cases kHU : highB u with
          | true =>
            cases kLV : lowB v with
            | true =>
              cases kNC : noncharB cj with
              | true =>
                have hov : (true : Bool) = false := HOV.out.trans (by simp [kHU, kLV, kNC])
                cases hov
              | false =>
                have hov : (true : Bool) = true := HOV.out.trans (by simp [kHU, kLV, kNC])
                have HJ := Lib.hid (HJY.out kHU kLV)
                rw [kHU] at HHU
                rw [kLV] at HLV
                rw [kNC] at HNC
                go_wp2_with fail
                with_reducible refine (HJ.out _).mono ?_
                rintro e _ ⟨rfl, rfl⟩
                go_wp2_with fail
                with_reducible refine (HHU.out _).mono ?_
                rintro e _ ⟨rfl, rfl⟩
                go_wp2_with fail
                with_reducible refine (HNC.out _).mono ?_
                rintro e _ ⟨rfl, rfl⟩
                go_wp2_with fail
                with_reducible refine (strtext_any _ g bb sv4 fs _ HQ.out.p).mono ?_
                rintro e _ ⟨rfl, rfl⟩
                go_wp2_with fail
                with_reducible refine (r_strtext_any _ a ov bv hv fs _ HQ.out.r (by omega)).mono ?_
                rintro e w7 ⟨rfl, hb7⟩
                have HQ7 := Lib.hid (HQ.out.go hb7)
                clear hb7
                go_wp2_with fail
                with_reducible refine (HAW.out _ HQ7.out.b).mono ?_
                rintro e1 w6 ⟨rfl, hb6⟩
                have HB6 := Lib.hid (HQ7.out.b.trans (hb6.mono HQ7.out.b.size))
                clear hb6
                go_wp2
                go_ret
                exact ⟨rfl, HB6.out⟩
            | false =>
              have hov : (true : Bool) = false := HOV.out.trans (by simp [kHU, kLV])
              cases hov
          | false =>
            cases kLU : lowB u with
            | true =>
              have hov : (true : Bool) = false := HOV.out.trans (by simp [kHU, kLU])
              cases hov
            | false =>
              cases kHV : highB v with
              | true =>
                have hov : (true : Bool) = false := HOV.out.trans (by simp [kHU, kLU, kHV])
                cases hov
              | false =>
                cases kLV : lowB v with
                | true =>
                  have hov : (true : Bool) = false := HOV.out.trans (by simp [kHU, kLU, kHV, kLV])
                  cases hov
                | false =>
                  cases kNU : noncharB u with
                  | true =>
                    have hov : (true : Bool) = false := HOV.out.trans (by simp [kHU, kLU, kHV, kLV, kNU])
                    cases hov
                  | false =>
                    cases kNV : noncharB v with
                    | true =>
                      have hov : (true : Bool) = false := HOV.out.trans (by simp [kHU, kLU, kHV, kLV, kNU, kNV])
                      cases hov
                    | false =>
                      have hov : (true : Bool) = true := HOV.out.trans (by simp [kHU, kLU, kHV, kLV, kNU, kNV])
                      have HJ := Lib.hid (HJN.out (by rw [kHU]; simp))
                      rw [kHU] at HHU
                      rw [kLU] at HLU
                      rw [kHV] at HHV
                      rw [kLV] at HLV
                      rw [kNU] at HNU
                      rw [kNV] at HNV
                      go_wp2_with fail
                      with_reducible refine (HJ.out _).mono ?_
                      rintro e _ ⟨rfl, rfl⟩
                      go_wp2_with fail
                      with_reducible refine (HHU.out _).mono ?_
                      rintro e _ ⟨rfl, rfl⟩
                      go_wp2_with fail
                      with_reducible refine (HLU.out _).mono ?_
                      rintro e _ ⟨rfl, rfl⟩
                      go_wp2_with fail
                      with_reducible refine (HHV.out _).mono ?_
                      rintro e _ ⟨rfl, rfl⟩
                      go_wp2_with fail
                      with_reducible refine (HLV.out _).mono ?_
                      rintro e _ ⟨rfl, rfl⟩
                      go_wp2_with fail
                      with_reducible refine (HNU.out _).mono ?_
                      rintro e _ ⟨rfl, rfl⟩
                      go_wp2_with fail
                      with_reducible refine (HNV.out _).mono ?_
                      rintro e _ ⟨rfl, rfl⟩
                      go_wp2_with fail
                      with_reducible refine (strtext_any _ g bb sv4 fs _ HQ.out.p).mono ?_
                      rintro e _ ⟨rfl, rfl⟩
                      go_wp2_with fail
                      with_reducible refine (r_strtext_any _ a ov bv hv fs _ HQ.out.r (by omega)).mono ?_
                      rintro e w7 ⟨rfl, hb7⟩
                      have HQ7 := Lib.hid (HQ.out.go hb7)
                      clear hb7
                      go_wp2_with fail
                      with_reducible refine (HAW.out _ HQ7.out.b).mono ?_
                      rintro e1 w6 ⟨rfl, hb6⟩
                      have HB6 := Lib.hid (HQ7.out.b.trans (hb6.mono HQ7.out.b.size))
                      clear hb6
                      go_wp2
                      go_ret
                      exact ⟨rfl, HB6.out⟩
      · have heb : (e == 0) = false := beq_eq_false_iff_ne.2 he
        rw [if_neg (by intro h; exact he h.1)] at hF
        obtain ⟨e1, h2⟩ := Prod.mk.inj hF
        obtain ⟨e2, h3⟩ := Prod.mk.inj h2
        obtain ⟨e3, e4⟩ := Prod.mk.inj h3
        subst e1 e2 e3 e4
        clear hF h2 h3
        have m1 : ((fi : Int) == fi) = true := by simp
        have m2 : (fe == fe) = true := by simp
        have m3 : ((strOfNums (txt fs.o)).toList == (strOfNums (txt fs.o)).toList) = true := by simp
        cases kHU : highB u with
        | true =>
          cases kLV : lowB v with
          | true =>
            cases kNC : noncharB cj with
            | true =>
              have hov : fo = false := HOV.out.trans (by simp [kHU, kLV, kNC])
              subst hov
              have HJ := Lib.hid (HJY.out kHU kLV)
              rw [kHU] at HHU
              rw [kLV] at HLV
              rw [kNC] at HNC
              go_wp2_with fail
              with_reducible refine (HJ.out _).mono ?_
              rintro e _ ⟨rfl, rfl⟩
              go_wp2_with fail
              with_reducible refine (HHU.out _).mono ?_
              rintro e _ ⟨rfl, rfl⟩
              go_wp2_with fail
              with_reducible refine (HNC.out _).mono ?_
              rintro e _ ⟨rfl, rfl⟩
              go_wp2_with fail
              with_reducible refine (strtext_any _ g bb sv4 fs _ HQ.out.p).mono ?_
              rintro e _ ⟨rfl, rfl⟩
              go_wp2_with fail
              with_reducible refine (r_strtext_any _ a ov bv hv fs _ HQ.out.r (by omega)).mono ?_
              rintro e w7 ⟨rfl, hb7⟩
              have HQ7 := Lib.hid (HQ.out.go hb7)
              clear hb7
              go_wp2_with fail
              with_reducible refine (HAW.out _ HQ7.out.b).mono ?_
              rintro e1 w6 ⟨rfl, hb6⟩
              have HB6 := Lib.hid (HQ7.out.b.trans (hb6.mono HQ7.out.b.size))
              clear hb6
              go_wp2
              go_ret
              exact ⟨rfl, HB6.out⟩
            | false =>
              have hov : fo = true := HOV.out.trans (by simp [kHU, kLV, kNC])
              subst hov
              have HJ := Lib.hid (HJY.out kHU kLV)
              rw [kHU] at HHU
              rw [kLV] at HLV
              rw [kNC] at HNC
              go_wp2_with fail
              with_reducible refine (HJ.out _).mono ?_
              rintro e _ ⟨rfl, rfl⟩
              go_wp2_with fail
              with_reducible refine (HHU.out _).mono ?_
              rintro e _ ⟨rfl, rfl⟩
              go_wp2_with fail
              with_reducible refine (HNC.out _).mono ?_
              rintro e _ ⟨rfl, rfl⟩
              go_wp2_with fail
              with_reducible refine (strtext_any _ g bb sv4 fs _ HQ.out.p).mono ?_
              rintro e _ ⟨rfl, rfl⟩
              go_wp2_with fail
              with_reducible refine (r_strtext_any _ a ov bv hv fs _ HQ.out.r (by omega)).mono ?_
              rintro e w7 ⟨rfl, hb7⟩
              have HQ7 := Lib.hid (HQ.out.go hb7)
              clear hb7
              go_wp2_with fail
              with_reducible refine (HAW.out _ HQ7.out.b).mono ?_
              rintro e1 w6 ⟨rfl, hb6⟩
              have HB6 := Lib.hid (HQ7.out.b.trans (hb6.mono HQ7.out.b.size))
              clear hb6
              go_wp2
              go_ret
              exact ⟨rfl, HB6.out⟩
          | false =>
            have hov : fo = false := HOV.out.trans (by simp [kHU, kLV])
            subst hov
            have HJ := Lib.hid (HJN.out (by rw [kHU, kLV]; simp))
            rw [kHU] at HHU
            rw [kLV] at HLV
            go_wp2_with fail
            with_reducible refine (HJ.out _).mono ?_
            rintro e _ ⟨rfl, rfl⟩
            go_wp2_with fail
            with_reducible refine (HHU.out _).mono ?_
            rintro e _ ⟨rfl, rfl⟩
            go_wp2_with fail
            with_reducible refine (strtext_any _ g bb sv4 fs _ HQ.out.p).mono ?_
            rintro e _ ⟨rfl, rfl⟩
            go_wp2_with fail
            with_reducible refine (r_strtext_any _ a ov bv hv fs _ HQ.out.r (by omega)).mono ?_
            rintro e w7 ⟨rfl, hb7⟩
            have HQ7 := Lib.hid (HQ.out.go hb7)
            clear hb7
            go_wp2_with fail
            with_reducible refine (HAW.out _ HQ7.out.b).mono ?_
            rintro e1 w6 ⟨rfl, hb6⟩
            have HB6 := Lib.hid (HQ7.out.b.trans (hb6.mono HQ7.out.b.size))
            clear hb6
            go_wp2
            go_ret
            exact ⟨rfl, HB6.out⟩
        | false =>
          cases kLU : lowB u with
          | true =>
            have hov : fo = false := HOV.out.trans (by simp [kHU, kLU])
            subst hov
            have HJ := Lib.hid (HJN.out (by rw [kHU]; simp))
            rw [kHU] at HHU
            rw [kLU] at HLU
            go_wp2_with fail
            with_reducible refine (HJ.out _).mono ?_
            rintro e _ ⟨rfl, rfl⟩
            go_wp2_with fail
            with_reducible refine (HHU.out _).mono ?_
            rintro e _ ⟨rfl, rfl⟩
            go_wp2_with fail
            with_reducible refine (HLU.out _).mono ?_
            rintro e _ ⟨rfl, rfl⟩
            go_wp2_with fail
            with_reducible refine (strtext_any _ g bb sv4 fs _ HQ.out.p).mono ?_
            rintro e _ ⟨rfl, rfl⟩
            go_wp2_with fail
            with_reducible refine (r_strtext_any _ a ov bv hv fs _ HQ.out.r (by omega)).mono ?_
            rintro e w7 ⟨rfl, hb7⟩
            have HQ7 := Lib.hid (HQ.out.go hb7)
            clear hb7
            go_wp2_with fail
            with_reducible refine (HAW.out _ HQ7.out.b).mono ?_
            rintro e1 w6 ⟨rfl, hb6⟩
            have HB6 := Lib.hid (HQ7.out.b.trans (hb6.mono HQ7.out.b.size))
            clear hb6
            go_wp2
            go_ret
            exact ⟨rfl, HB6.out⟩
          | false =>
            cases kHV : highB v with
            | true =>
              have hov : fo = false := HOV.out.trans (by simp [kHU, kLU, kHV])
              subst hov
              have HJ := Lib.hid (HJN.out (by rw [kHU]; simp))
              rw [kHU] at HHU
              rw [kLU] at HLU
              rw [kHV] at HHV
              go_wp2_with fail
              with_reducible refine (HJ.out _).mono ?_
              rintro e _ ⟨rfl, rfl⟩
              go_wp2_with fail
              with_reducible refine (HHU.out _).mono ?_
              rintro e _ ⟨rfl, rfl⟩
              go_wp2_with fail
              with_reducible refine (HLU.out _).mono ?_
              rintro e _ ⟨rfl, rfl⟩
              go_wp2_with fail
              with_reducible refine (HHV.out _).mono ?_
              rintro e _ ⟨rfl, rfl⟩
              go_wp2_with fail
              with_reducible refine (strtext_any _ g bb sv4 fs _ HQ.out.p).mono ?_
              rintro e _ ⟨rfl, rfl⟩
              go_wp2_with fail
              with_reducible refine (r_strtext_any _ a ov bv hv fs _ HQ.out.r (by omega)).mono ?_
              rintro e w7 ⟨rfl, hb7⟩
              have HQ7 := Lib.hid (HQ.out.go hb7)
              clear hb7
              go_wp2_with fail
              with_reducible refine (HAW.out _ HQ7.out.b).mono ?_
              rintro e1 w6 ⟨rfl, hb6⟩
              have HB6 := Lib.hid (HQ7.out.b.trans (hb6.mono HQ7.out.b.size))
              clear hb6
              go_wp2
              go_ret
              exact ⟨rfl, HB6.out⟩
            | false =>
              cases kLV : lowB v with
              | true =>
                have hov : fo = false := HOV.out.trans (by simp [kHU, kLU, kHV, kLV])
                subst hov
                have HJ := Lib.hid (HJN.out (by rw [kHU]; simp))
                rw [kHU] at HHU
                rw [kLU] at HLU
                rw [kHV] at HHV
                rw [kLV] at HLV
                go_wp2_with fail
                with_reducible refine (HJ.out _).mono ?_
                rintro e _ ⟨rfl, rfl⟩
                go_wp2_with fail
                with_reducible refine (HHU.out _).mono ?_
                rintro e _ ⟨rfl, rfl⟩
                go_wp2_with fail
                with_reducible refine (HLU.out _).mono ?_
                rintro e _ ⟨rfl, rfl⟩
                go_wp2_with fail
                with_reducible refine (HHV.out _).mono ?_
                rintro e _ ⟨rfl, rfl⟩
                go_wp2_with fail
                with_reducible refine (HLV.out _).mono ?_
                rintro e _ ⟨rfl, rfl⟩
                go_wp2_with fail
                with_reducible refine (strtext_any _ g bb sv4 fs _ HQ.out.p).mono ?_
                rintro e _ ⟨rfl, rfl⟩
                go_wp2_with fail
                with_reducible refine (r_strtext_any _ a ov bv hv fs _ HQ.out.r (by omega)).mono ?_
                rintro e w7 ⟨rfl, hb7⟩
                have HQ7 := Lib.hid (HQ.out.go hb7)
                clear hb7
                go_wp2_with fail
                with_reducible refine (HAW.out _ HQ7.out.b).mono ?_
                rintro e1 w6 ⟨rfl, hb6⟩
                have HB6 := Lib.hid (HQ7.out.b.trans (hb6.mono HQ7.out.b.size))
                clear hb6
                go_wp2
                go_ret
                exact ⟨rfl, HB6.out⟩
              | false =>
                cases kNU : noncharB u with
                | true =>
                  have hov : fo = false := HOV.out.trans (by simp [kHU, kLU, kHV, kLV, kNU])
                  subst hov
                  have HJ := Lib.hid (HJN.out (by rw [kHU]; simp))
                  rw [kHU] at HHU
                  rw [kLU] at HLU
                  rw [kHV] at HHV
                  rw [kLV] at HLV
                  rw [kNU] at HNU
                  go_wp2_with fail
                  with_reducible refine (HJ.out _).mono ?_
                  rintro e _ ⟨rfl, rfl⟩
                  go_wp2_with fail
                  with_reducible refine (HHU.out _).mono ?_
                  rintro e _ ⟨rfl, rfl⟩
                  go_wp2_with fail
                  with_reducible refine (HLU.out _).mono ?_
                  rintro e _ ⟨rfl, rfl⟩
                  go_wp2_with fail
                  with_reducible refine (HHV.out _).mono ?_
                  rintro e _ ⟨rfl, rfl⟩
                  go_wp2_with fail
                  with_reducible refine (HLV.out _).mono ?_
                  rintro e _ ⟨rfl, rfl⟩
                  go_wp2_with fail
                  with_reducible refine (HNU.out _).mono ?_
                  rintro e _ ⟨rfl, rfl⟩
                  go_wp2_with fail
                  with_reducible refine (strtext_any _ g bb sv4 fs _ HQ.out.p).mono ?_
                  rintro e _ ⟨rfl, rfl⟩
                  go_wp2_with fail
                  with_reducible refine (r_strtext_any _ a ov bv hv fs _ HQ.out.r (by omega)).mono ?_
                  rintro e w7 ⟨rfl, hb7⟩
                  have HQ7 := Lib.hid (HQ.out.go hb7)
                  clear hb7
                  go_wp2_with fail
                  with_reducible refine (HAW.out _ HQ7.out.b).mono ?_
                  rintro e1 w6 ⟨rfl, hb6⟩
                  have HB6 := Lib.hid (HQ7.out.b.trans (hb6.mono HQ7.out.b.size))
                  clear hb6
                  go_wp2
                  go_ret
                  exact ⟨rfl, HB6.out⟩
                | false =>
                  cases kNV : noncharB v with
                  | true =>
                    have hov : fo = false := HOV.out.trans (by simp [kHU, kLU, kHV, kLV, kNU, kNV])
                    subst hov
                    have HJ := Lib.hid (HJN.out (by rw [kHU]; simp))
                    rw [kHU] at HHU
                    rw [kLU] at HLU
                    rw [kHV] at HHV
                    rw [kLV] at HLV
                    rw [kNU] at HNU
                    rw [kNV] at HNV
                    go_wp2_with fail
                    with_reducible refine (HJ.out _).mono ?_
                    rintro e _ ⟨rfl, rfl⟩
                    go_wp2_with fail
                    with_reducible refine (HHU.out _).mono ?_
                    rintro e _ ⟨rfl, rfl⟩
                    go_wp2_with fail
                    with_reducible refine (HLU.out _).mono ?_
                    rintro e _ ⟨rfl, rfl⟩
                    go_wp2_with fail
                    with_reducible refine (HHV.out _).mono ?_
                    rintro e _ ⟨rfl, rfl⟩
                    go_wp2_with fail
                    with_reducible refine (HLV.out _).mono ?_
                    rintro e _ ⟨rfl, rfl⟩
                    go_wp2_with fail
                    with_reducible refine (HNU.out _).mono ?_
                    rintro e _ ⟨rfl, rfl⟩
                    go_wp2_with fail
                    with_reducible refine (HNV.out _).mono ?_
                    rintro e _ ⟨rfl, rfl⟩
                    go_wp2_with fail
                    with_reducible refine (strtext_any _ g bb sv4 fs _ HQ.out.p).mono ?_
                    rintro e _ ⟨rfl, rfl⟩
                    go_wp2_with fail
                    with_reducible refine (r_strtext_any _ a ov bv hv fs _ HQ.out.r (by omega)).mono ?_
                    rintro e w7 ⟨rfl, hb7⟩
                    have HQ7 := Lib.hid (HQ.out.go hb7)
                    clear hb7
                    go_wp2_with fail
                    with_reducible refine (HAW.out _ HQ7.out.b).mono ?_
                    rintro e1 w6 ⟨rfl, hb6⟩
                    have HB6 := Lib.hid (HQ7.out.b.trans (hb6.mono HQ7.out.b.size))
                    clear hb6
                    go_wp2
                    go_ret
                    exact ⟨rfl, HB6.out⟩
                  | false =>
                    have hov : fo = true := HOV.out.trans (by simp [kHU, kLU, kHV, kLV, kNU, kNV])
                    subst hov
                    have HJ := Lib.hid (HJN.out (by rw [kHU]; simp))
                    rw [kHU] at HHU
                    rw [kLU] at HLU
                    rw [kHV] at HHV
                    rw [kLV] at HLV
                    rw [kNU] at HNU
                    rw [kNV] at HNV
                    go_wp2_with fail
                    with_reducible refine (HJ.out _).mono ?_
                    rintro e _ ⟨rfl, rfl⟩
                    go_wp2_with fail
                    with_reducible refine (HHU.out _).mono ?_
                    rintro e _ ⟨rfl, rfl⟩
                    go_wp2_with fail
                    with_reducible refine (HLU.out _).mono ?_
                    rintro e _ ⟨rfl, rfl⟩
                    go_wp2_with fail
                    with_reducible refine (HHV.out _).mono ?_
                    rintro e _ ⟨rfl, rfl⟩
                    go_wp2_with fail
                    with_reducible refine (HLV.out _).mono ?_
                    rintro e _ ⟨rfl, rfl⟩
                    go_wp2_with fail
                    with_reducible refine (HNU.out _).mono ?_
                    rintro e _ ⟨rfl, rfl⟩
                    go_wp2_with fail
                    with_reducible refine (HNV.out _).mono ?_
                    rintro e _ ⟨rfl, rfl⟩
                    go_wp2_with fail
                    with_reducible refine (strtext_any _ g bb sv4 fs _ HQ.out.p).mono ?_
                    rintro e _ ⟨rfl, rfl⟩
                    go_wp2_with fail
                    with_reducible refine (r_strtext_any _ a ov bv hv fs _ HQ.out.r (by omega)).mono ?_
                    rintro e w7 ⟨rfl, hb7⟩
                    have HQ7 := Lib.hid (HQ.out.go hb7)
                    clear hb7
                    go_wp2_with fail
                    with_reducible refine (HAW.out _ HQ7.out.b).mono ?_
                    rintro e1 w6 ⟨rfl, hb6⟩
                    have HB6 := Lib.hid (HQ7.out.b.trans (hb6.mono HQ7.out.b.size))
                    clear hb6
                    go_wp2
                    go_ret
                    exact ⟨rfl, HB6.out⟩
    · have hlt' : ¬ (k : Int) < T.size := by omega
      have hF : (fi, fe, fo, fs) = (k, e, o, s) := by
        rw [hF]
        split
        · rename_i h
          rw [h.1, h.2, List.drop_eq_nil_of_le (by rw [N8_len]; omega)]
          rfl
        · rfl
      obtain ⟨e1, h2⟩ := Prod.mk.inj hF
      obtain ⟨e2, h3⟩ := Prod.mk.inj h2
      obtain ⟨e3, e4⟩ := Prod.mk.inj h3
      subst e1 e2 e3 e4
      clear hF h2 h3
      have m1 : ((fi : Int) == fi) = true := by simp
      have m2 : (fe == fe) = true := by simp
      have m3 : ((strOfNums (txt fs.o)).toList == (strOfNums (txt fs.o)).toList) = true := by simp
      cases kHU : highB u with
      | true =>
        cases kLV : lowB v with
        | true =>
          cases kNC : noncharB cj with
          | true =>
            have hov : fo = false := HOV.out.trans (by simp [kHU, kLV, kNC])
            subst hov
            have HJ := Lib.hid (HJY.out kHU kLV)
            rw [kHU] at HHU
            rw [kLV] at HLV
            rw [kNC] at HNC
            go_wp2_with fail
            with_reducible refine (HJ.out _).mono ?_
            rintro e _ ⟨rfl, rfl⟩
            go_wp2_with fail
            with_reducible refine (HHU.out _).mono ?_
            rintro e _ ⟨rfl, rfl⟩
            go_wp2_with fail
            with_reducible refine (HNC.out _).mono ?_
            rintro e _ ⟨rfl, rfl⟩
            go_wp2_with fail
            with_reducible refine (strtext_any _ g bb sv4 fs _ HQ.out.p).mono ?_
            rintro e _ ⟨rfl, rfl⟩
            go_wp2_with fail
            with_reducible refine (r_strtext_any _ a ov bv hv fs _ HQ.out.r (by omega)).mono ?_
            rintro e w7 ⟨rfl, hb7⟩
            have HQ7 := Lib.hid (HQ.out.go hb7)
            clear hb7
            go_wp2_with fail
            with_reducible refine (HAW.out _ HQ7.out.b).mono ?_
            rintro e1 w6 ⟨rfl, hb6⟩
            have HB6 := Lib.hid (HQ7.out.b.trans (hb6.mono HQ7.out.b.size))
            clear hb6
            go_wp2
            go_ret
            exact ⟨rfl, HB6.out⟩
          | false =>
            have hov : fo = true := HOV.out.trans (by simp [kHU, kLV, kNC])
            subst hov
            have HJ := Lib.hid (HJY.out kHU kLV)
            rw [kHU] at HHU
            rw [kLV] at HLV
            rw [kNC] at HNC
            go_wp2_with fail
            with_reducible refine (HJ.out _).mono ?_
            rintro e _ ⟨rfl, rfl⟩
            go_wp2_with fail
            with_reducible refine (HHU.out _).mono ?_
            rintro e _ ⟨rfl, rfl⟩
            go_wp2_with fail
            with_reducible refine (HNC.out _).mono ?_
            rintro e _ ⟨rfl, rfl⟩
            go_wp2_with fail
            with_reducible refine (strtext_any _ g bb sv4 fs _ HQ.out.p).mono ?_
            rintro e _ ⟨rfl, rfl⟩
            go_wp2_with fail
            with_reducible refine (r_strtext_any _ a ov bv hv fs _ HQ.out.r (by omega)).mono ?_
            rintro e w7 ⟨rfl, hb7⟩
            have HQ7 := Lib.hid (HQ.out.go hb7)
            clear hb7
            go_wp2_with fail
            with_reducible refine (HAW.out _ HQ7.out.b).mono ?_
            rintro e1 w6 ⟨rfl, hb6⟩
            have HB6 := Lib.hid (HQ7.out.b.trans (hb6.mono HQ7.out.b.size))
            clear hb6
            go_wp2
            go_ret
            exact ⟨rfl, HB6.out⟩
        | false =>
          have hov : fo = false := HOV.out.trans (by simp [kHU, kLV])
          subst hov
          have HJ := Lib.hid (HJN.out (by rw [kHU, kLV]; simp))
          rw [kHU] at HHU
          rw [kLV] at HLV
          go_wp2_with fail
          with_reducible refine (HJ.out _).mono ?_
          rintro e _ ⟨rfl, rfl⟩
          go_wp2_with fail
          with_reducible refine (HHU.out _).mono ?_
          rintro e _ ⟨rfl, rfl⟩
          go_wp2_with fail
          with_reducible refine (strtext_any _ g bb sv4 fs _ HQ.out.p).mono ?_
          rintro e _ ⟨rfl, rfl⟩
          go_wp2_with fail
          with_reducible refine (r_strtext_any _ a ov bv hv fs _ HQ.out.r (by omega)).mono ?_
          rintro e w7 ⟨rfl, hb7⟩
          have HQ7 := Lib.hid (HQ.out.go hb7)
          clear hb7
          go_wp2_with fail
          with_reducible refine (HAW.out _ HQ7.out.b).mono ?_
          rintro e1 w6 ⟨rfl, hb6⟩
          have HB6 := Lib.hid (HQ7.out.b.trans (hb6.mono HQ7.out.b.size))
          clear hb6
          go_wp2
          go_ret
          exact ⟨rfl, HB6.out⟩
      | false =>
        cases kLU : lowB u with
        | true =>
          have hov : fo = false := HOV.out.trans (by simp [kHU, kLU])
          subst hov
          have HJ := Lib.hid (HJN.out (by rw [kHU]; simp))
          rw [kHU] at HHU
          rw [kLU] at HLU
          go_wp2_with fail
          with_reducible refine (HJ.out _).mono ?_
          rintro e _ ⟨rfl, rfl⟩
          go_wp2_with fail
          with_reducible refine (HHU.out _).mono ?_
          rintro e _ ⟨rfl, rfl⟩
          go_wp2_with fail
          with_reducible refine (HLU.out _).mono ?_
          rintro e _ ⟨rfl, rfl⟩
          go_wp2_with fail
          with_reducible refine (strtext_any _ g bb sv4 fs _ HQ.out.p).mono ?_
          rintro e _ ⟨rfl, rfl⟩
          go_wp2_with fail
          with_reducible refine (r_strtext_any _ a ov bv hv fs _ HQ.out.r (by omega)).mono ?_
          rintro e w7 ⟨rfl, hb7⟩
          have HQ7 := Lib.hid (HQ.out.go hb7)
          clear hb7
          go_wp2_with fail
          with_reducible refine (HAW.out _ HQ7.out.b).mono ?_
          rintro e1 w6 ⟨rfl, hb6⟩
          have HB6 := Lib.hid (HQ7.out.b.trans (hb6.mono HQ7.out.b.size))
          clear hb6
          go_wp2
          go_ret
          exact ⟨rfl, HB6.out⟩
        | false =>
          cases kHV : highB v with
          | true =>
            have hov : fo = false := HOV.out.trans (by simp [kHU, kLU, kHV])
            subst hov
            have HJ := Lib.hid (HJN.out (by rw [kHU]; simp))
            rw [kHU] at HHU
            rw [kLU] at HLU
            rw [kHV] at HHV
            go_wp2_with fail
            with_reducible refine (HJ.out _).mono ?_
            rintro e _ ⟨rfl, rfl⟩
            go_wp2_with fail
            with_reducible refine (HHU.out _).mono ?_
            rintro e _ ⟨rfl, rfl⟩
            go_wp2_with fail
            with_reducible refine (HLU.out _).mono ?_
            rintro e _ ⟨rfl, rfl⟩
            go_wp2_with fail
            with_reducible refine (HHV.out _).mono ?_
            rintro e _ ⟨rfl, rfl⟩
            go_wp2_with fail
            with_reducible refine (strtext_any _ g bb sv4 fs _ HQ.out.p).mono ?_
            rintro e _ ⟨rfl, rfl⟩
            go_wp2_with fail
            with_reducible refine (r_strtext_any _ a ov bv hv fs _ HQ.out.r (by omega)).mono ?_
            rintro e w7 ⟨rfl, hb7⟩
            have HQ7 := Lib.hid (HQ.out.go hb7)
            clear hb7
            go_wp2_with fail
            with_reducible refine (HAW.out _ HQ7.out.b).mono ?_
            rintro e1 w6 ⟨rfl, hb6⟩
            have HB6 := Lib.hid (HQ7.out.b.trans (hb6.mono HQ7.out.b.size))
            clear hb6
            go_wp2
            go_ret
            exact ⟨rfl, HB6.out⟩
          | false =>
            cases kLV : lowB v with
            | true =>
              have hov : fo = false := HOV.out.trans (by simp [kHU, kLU, kHV, kLV])
              subst hov
              have HJ := Lib.hid (HJN.out (by rw [kHU]; simp))
              rw [kHU] at HHU
              rw [kLU] at HLU
              rw [kHV] at HHV
              rw [kLV] at HLV
              go_wp2_with fail
              with_reducible refine (HJ.out _).mono ?_
              rintro e _ ⟨rfl, rfl⟩
              go_wp2_with fail
              with_reducible refine (HHU.out _).mono ?_
              rintro e _ ⟨rfl, rfl⟩
              go_wp2_with fail
              with_reducible refine (HLU.out _).mono ?_
              rintro e _ ⟨rfl, rfl⟩
              go_wp2_with fail
              with_reducible refine (HHV.out _).mono ?_
              rintro e _ ⟨rfl, rfl⟩
              go_wp2_with fail
              with_reducible refine (HLV.out _).mono ?_
              rintro e _ ⟨rfl, rfl⟩
              go_wp2_with fail
              with_reducible refine (strtext_any _ g bb sv4 fs _ HQ.out.p).mono ?_
              rintro e _ ⟨rfl, rfl⟩
              go_wp2_with fail
              with_reducible refine (r_strtext_any _ a ov bv hv fs _ HQ.out.r (by omega)).mono ?_
              rintro e w7 ⟨rfl, hb7⟩
              have HQ7 := Lib.hid (HQ.out.go hb7)
              clear hb7
              go_wp2_with fail
              with_reducible refine (HAW.out _ HQ7.out.b).mono ?_
              rintro e1 w6 ⟨rfl, hb6⟩
              have HB6 := Lib.hid (HQ7.out.b.trans (hb6.mono HQ7.out.b.size))
              clear hb6
              go_wp2
              go_ret
              exact ⟨rfl, HB6.out⟩
            | false =>
              cases kNU : noncharB u with
              | true =>
                have hov : fo = false := HOV.out.trans (by simp [kHU, kLU, kHV, kLV, kNU])
                subst hov
                have HJ := Lib.hid (HJN.out (by rw [kHU]; simp))
                rw [kHU] at HHU
                rw [kLU] at HLU
                rw [kHV] at HHV
                rw [kLV] at HLV
                rw [kNU] at HNU
                go_wp2_with fail
                with_reducible refine (HJ.out _).mono ?_
                rintro e _ ⟨rfl, rfl⟩
                go_wp2_with fail
                with_reducible refine (HHU.out _).mono ?_
                rintro e _ ⟨rfl, rfl⟩
                go_wp2_with fail
                with_reducible refine (HLU.out _).mono ?_
                rintro e _ ⟨rfl, rfl⟩
                go_wp2_with fail
                with_reducible refine (HHV.out _).mono ?_
                rintro e _ ⟨rfl, rfl⟩
                go_wp2_with fail
                with_reducible refine (HLV.out _).mono ?_
                rintro e _ ⟨rfl, rfl⟩
                go_wp2_with fail
                with_reducible refine (HNU.out _).mono ?_
                rintro e _ ⟨rfl, rfl⟩
                go_wp2_with fail
                with_reducible refine (strtext_any _ g bb sv4 fs _ HQ.out.p).mono ?_
                rintro e _ ⟨rfl, rfl⟩
                go_wp2_with fail
                with_reducible refine (r_strtext_any _ a ov bv hv fs _ HQ.out.r (by omega)).mono ?_
                rintro e w7 ⟨rfl, hb7⟩
                have HQ7 := Lib.hid (HQ.out.go hb7)
                clear hb7
                go_wp2_with fail
                with_reducible refine (HAW.out _ HQ7.out.b).mono ?_
                rintro e1 w6 ⟨rfl, hb6⟩
                have HB6 := Lib.hid (HQ7.out.b.trans (hb6.mono HQ7.out.b.size))
                clear hb6
                go_wp2
                go_ret
                exact ⟨rfl, HB6.out⟩
              | false =>
                cases kNV : noncharB v with
                | true =>
                  have hov : fo = false := HOV.out.trans (by simp [kHU, kLU, kHV, kLV, kNU, kNV])
                  subst hov
                  have HJ := Lib.hid (HJN.out (by rw [kHU]; simp))
                  rw [kHU] at HHU
                  rw [kLU] at HLU
                  rw [kHV] at HHV
                  rw [kLV] at HLV
                  rw [kNU] at HNU
                  rw [kNV] at HNV
                  go_wp2_with fail
                  with_reducible refine (HJ.out _).mono ?_
                  rintro e _ ⟨rfl, rfl⟩
                  go_wp2_with fail
                  with_reducible refine (HHU.out _).mono ?_
                  rintro e _ ⟨rfl, rfl⟩
                  go_wp2_with fail
                  with_reducible refine (HLU.out _).mono ?_
                  rintro e _ ⟨rfl, rfl⟩
                  go_wp2_with fail
                  with_reducible refine (HHV.out _).mono ?_
                  rintro e _ ⟨rfl, rfl⟩
                  go_wp2_with fail
                  with_reducible refine (HLV.out _).mono ?_
                  rintro e _ ⟨rfl, rfl⟩
                  go_wp2_with fail
                  with_reducible refine (HNU.out _).mono ?_
                  rintro e _ ⟨rfl, rfl⟩
                  go_wp2_with fail
                  with_reducible refine (HNV.out _).mono ?_
                  rintro e _ ⟨rfl, rfl⟩
                  go_wp2_with fail
                  with_reducible refine (strtext_any _ g bb sv4 fs _ HQ.out.p).mono ?_
                  rintro e _ ⟨rfl, rfl⟩
                  go_wp2_with fail
                  with_reducible refine (r_strtext_any _ a ov bv hv fs _ HQ.out.r (by omega)).mono ?_
                  rintro e w7 ⟨rfl, hb7⟩
                  have HQ7 := Lib.hid (HQ.out.go hb7)
                  clear hb7
                  go_wp2_with fail
                  with_reducible refine (HAW.out _ HQ7.out.b).mono ?_
                  rintro e1 w6 ⟨rfl, hb6⟩
                  have HB6 := Lib.hid (HQ7.out.b.trans (hb6.mono HQ7.out.b.size))
                  clear hb6
                  go_wp2
                  go_ret
                  exact ⟨rfl, HB6.out⟩
                | false =>
                  have hov : fo = true := HOV.out.trans (by simp [kHU, kLU, kHV, kLV, kNU, kNV])
                  subst hov
                  have HJ := Lib.hid (HJN.out (by rw [kHU]; simp))
                  rw [kHU] at HHU
                  rw [kLU] at HLU
                  rw [kHV] at HHV
                  rw [kLV] at HLV
                  rw [kNU] at HNU
                  rw [kNV] at HNV
                  go_wp2_with fail
                  with_reducible refine (HJ.out _).mono ?_
                  rintro e _ ⟨rfl, rfl⟩
                  go_wp2_with fail
                  with_reducible refine (HHU.out _).mono ?_
                  rintro e _ ⟨rfl, rfl⟩
                  go_wp2_with fail
                  with_reducible refine (HLU.out _).mono ?_
                  rintro e _ ⟨rfl, rfl⟩
                  go_wp2_with fail
                  with_reducible refine (HHV.out _).mono ?_
                  rintro e _ ⟨rfl, rfl⟩
                  go_wp2_with fail
                  with_reducible refine (HLV.out _).mono ?_
                  rintro e _ ⟨rfl, rfl⟩
                  go_wp2_with fail
                  with_reducible refine (HNU.out _).mono ?_
                  rintro e _ ⟨rfl, rfl⟩
                  go_wp2_with fail
                  with_reducible refine (HNV.out _).mono ?_
                  rintro e _ ⟨rfl, rfl⟩
                  go_wp2_with fail
                  with_reducible refine (strtext_any _ g bb sv4 fs _ HQ.out.p).mono ?_
                  rintro e _ ⟨rfl, rfl⟩
                  go_wp2_with fail
                  with_reducible refine (r_strtext_any _ a ov bv hv fs _ HQ.out.r (by omega)).mono ?_
                  rintro e w7 ⟨rfl, hb7⟩
                  have HQ7 := Lib.hid (HQ.out.go hb7)
                  clear hb7
                  go_wp2_with fail
                  with_reducible refine (HAW.out _ HQ7.out.b).mono ?_
                  rintro e1 w6 ⟨rfl, hb6⟩
                  have HB6 := Lib.hid (HQ7.out.b.trans (hb6.mono HQ7.out.b.size))
                  clear hb6
                  go_wp2
                  go_ret
                  exact ⟨rfl, HB6.out⟩
end Go.Proofs.YtdcfhkiajeiaoaaDoor
