/- The document's Push and End of layer 11 by their contracts. -/
import Derived.Test.YtiibfejgiilakaaDoorR11Cut
import Derived.Test.YtiibfejgiilakaaDoorR11May
import Derived.Test.YtiibfejgiilakaaDoorAnyH
import Derived.Test.YtiibfejgiilakaaDoorU8Str
import Derived.Test.YtiibfejgiilakaaDoorP10Norm
namespace Go.Proofs.YtiibfejgiilakaaDoor
set_option maxRecDepth 100000
open Go.ChangeShapes Go.WideShapes Go.ChangeAt Go.RowKit
set_option linter.unusedVariables false
set_option linter.unusedSimpArgs false

theorem next_dig {p q : Nat} {c : UInt8} (h : nextF p c = some q) : (isD c = true ∧ (q = 2 ∨ q = 3 ∨ q = 5 ∨ q = 8)) ∨ (isD c = false ∧ (q = 1 ∨ q = 4 ∨ q = 6 ∨ q = 7)) := by
  have hE : isE c = true → isD c = false := fun he => by
    rcases (isE_iff c).1 he with rfl | rfl <;> rfl
  cases hd : isD c with
  | true =>
    left
    refine ⟨rfl, ?_⟩
    have hn := d_not hd
    have he : isE c = false := by
      cases hh : isE c with
      | false => rfl
      | true => rw [hE hh] at hd; cases hd
    have hEf : ∀ {α : Type} (x y : α), (if isE c = true then x else y) = y := fun x y => if_neg (by rw [he]; decide)
    have hDt : ∀ {α : Type} (x y : α), (if isD c = true then x else y) = x := fun x y => if_pos hd
    have n0 : nextF 0 c = if c = 45 then some 1 else if c = 48 then some 2 else if isD c = true then some 3 else none := rfl
    have n2 : nextF 2 c = if c = 46 then some 4 else if isE c = true then some 6 else none := rfl
    have n3 : nextF 3 c = if isD c = true then some 3 else if c = 46 then some 4 else if isE c = true then some 6 else none := rfl
    have n5 : nextF 5 c = if isE c = true then some 6 else if isD c = true then some 5 else none := rfl
    have n6 : nextF 6 c = if c = 43 ∨ c = 45 then some 7 else if isD c = true then some 8 else none := rfl
    rcases next_is h with ⟨rfl, hp⟩ | ⟨rfl, hp, hc⟩ | ⟨rfl, hp, hc⟩ | ⟨rfl, hp⟩ | ⟨rfl, hp, hc⟩ | ⟨rfl, hp⟩ | ⟨rfl, hp⟩ | ⟨rfl, hp, hc⟩
    · exfalso
      subst hp
      rw [n0, if_neg hn.1, hDt] at h
      by_cases h48 : c = 48
      · rw [if_pos h48] at h; cases h
      · rw [if_neg h48] at h; cases h
    · exact .inl rfl
    · exact .inr (.inl rfl)
    · exfalso
      rcases hp with rfl | rfl
      · rw [n2, if_neg hn.2.2.1, hEf] at h; cases h
      · rw [n3, hDt] at h; cases h
    · exact .inr (.inr (.inl rfl))
    · exfalso
      rcases hp with rfl | rfl | rfl
      · rw [n2, if_neg hn.2.2.1, hEf] at h; cases h
      · rw [n3, hDt] at h; cases h
      · rw [n5, hEf, hDt] at h; cases h
    · exfalso
      subst hp
      rw [n6, if_neg (fun h => by rcases h with h | h; exact hn.2.1 h; exact hn.1 h), hDt] at h
      cases h
    · exact .inr (.inr (.inr rfl))
  | false =>
    right
    refine ⟨rfl, ?_⟩
    have h48 : c ≠ 48 := fun h => by subst h; cases hd
    rcases next_is h with ⟨rfl, hp⟩ | ⟨rfl, hp, hc⟩ | ⟨rfl, hp, hc⟩ | ⟨rfl, hp⟩ | ⟨rfl, hp, hc⟩ | ⟨rfl, hp⟩ | ⟨rfl, hp⟩ | ⟨rfl, hp, hc⟩
    · exact .inl rfl
    · exact absurd hc h48
    · rw [hc] at hd; cases hd
    · exact .inr (.inl rfl)
    · rw [hc] at hd; cases hd
    · exact .inr (.inr (.inl rfl))
    · exact .inr (.inr (.inr rfl))
    · rw [hc] at hd; cases hd
/-- a text as it stands, read: where it has digits -/
theorem stand_read {s : List UInt8} {t : Nt} (ht : goF t0 s = some t) (hd : t.d ≠ []) : readF (standF s) = some (normF (decF t)) := by
  refine snoc8 (p := fun s => ∀ t, goF t0 s = some t → t.d ≠ [] → readF (standF s) = some (normF (decF t))) (fun t h hd => ?_) (fun l c ih t h hd => ?_) s t ht hd
  · obtain rfl := Option.some.inj h
    exact absurd rfl hd
  · have hall := h
    rw [go_snoc] at h
    cases hu : goF t0 l with
    | none => rw [hu] at h; cases h
    | some u =>
      rw [hu] at h
      have hs : stepF u c = some t := h
      unfold stepF at hs
      cases hq : nextF u.p c with
      | none => rw [hq] at hs; cases hs
      | some q =>
        rw [hq] at hs
        obtain rfl := Option.some.inj hs
        rw [stand_snoc]
        rcases next_dig hq with ⟨hc, h4⟩ | ⟨hc, h4⟩
        · rw [if_pos hc, read_go, hall]
          have he : endsF (withF u c q).p = true := by rcases h4 with rfl | rfl | rfl | rfl <;> rfl
          show finF (withF u c q) = _
          unfold finF
          rw [if_pos he]
        · rw [if_neg (by rw [hc]; decide)]
          have hg := good_go hu
          rcases h4 with rfl | rfl | rfl | rfl
          · have hp : u.p = 0 := by rcases next_is hq with h | h | h | h | h | h | h | h <;> omega
            have : u.d = [] := hg.d0 (by omega)
            exact absurd this hd
          · exact ih u hu hd
          · exact ih u hu hd
          · have hp : u.p = 6 := by rcases next_is hq with h | h | h | h | h | h | h | h <;> omega
            have hx : u.x = [] := hg.x0 (by omega)
            have hgu : u.g = 0 := hg.g (by omega)
            have e : decF (withF u c 7) = decF u := by
              have e7 : withF u c 7 = { u with p := 7, g := c } := rfl
              have e0 : exF [] = 0 := rfl
              rw [e7]
              unfold decF
              dsimp only
              rw [hx, hgu, e0]
              congr 1
              split <;> simp
            rw [e]
            exact ih u hu hd
theorem may_digits {t : Nt} (h : mayF t = false) : t.d ≠ [] := by
  intro hd
  have : mayF t = true := by
    unfold mayF mayR
    have h0 : (rgOf t).d = [] := by
      show nrm t.d = []
      rw [hd]; rfl
    rw [if_pos h0]
  rw [this] at h; cases h
/-- what is read has digits, and an exponent within -/
theorem read_in' {s : List UInt8} {x : Dc} (hs : s.length ≤ 1000) (h : readF s = some x) : allD x.d ∧ x.d.length ≤ 1000000 ∧ -4000000000 ≤ x.e ∧ x.e ≤ 4000000000 := by
  rw [read_go] at h
  cases ht : goF t0 s with
  | none => rw [ht] at h; cases h
  | some t =>
    rw [ht] at h
    have hf : finF t = some x := h
    unfold finF at hf
    cases he : endsF t.p with
    | false => rw [he] at hf; cases hf
    | true =>
      rw [he, if_pos rfl] at hf
      obtain rfl := Option.some.inj hf
      have hg := good_go ht
      have h1 : exF t.x ≤ 1000000000 := by rw [exF_num]; omega
      have h2 := hg.lb
      have h3 := hg.ld
      have h4 := norm_e (decF t)
      have h5 := norm_len (decF t)
      have h6 := norm_allD (x := decF t) hg.d
      have e1 : (decF t).e = -(t.b : Int) + (if t.g = 45 then -(exF t.x : Int) else exF t.x) := rfl
      have e2 : (decF t).d = t.d := rfl
      rw [e2] at h4 h5
      rw [e1] at h4
      refine ⟨h6, by omega, ?_, ?_⟩
      · split at h4 <;> omega
      · split at h4 <;> omega
/-- the document's number of the text s -/
abbrev RN (w : World) (a : Nat) (s : List UInt8) : Prop := Blk w a 27 #[.string (bs s)]
set_option maxHeartbeats 2000000 in
theorem rend_any (a : Nat) (s : List UInt8) (w : World) (h : RN w a s) (hs : s.length ≤ 1000) : Calls Tryd.prog 12 #[.pointer (some ⟨a, 0, none⟩)] w fun e w' => e = .returned (.tuple #[.int .i64 (stopF s).1, .int .i64 (stopF s).2]) ∧ Below w.heap.size w w' := by
  have HRD := Lib.hid (fun W => rread_any (bs s) W (by rw [bs_size]; omega))
  rw [L8_bs] at HRD
  have hst : stopF s = _ := stopF.eq_1 s
  have hin := fun x hx => read_in' (s := s) (x := x) hs hx
  have c0 : w.cell? ⟨a, 0, none⟩ = some (.string (bs s)) := h.cell 0
  have hlt := h.lt
  clear h
  cases hrd : readF s with
  | none =>
    rw [hrd] at HRD hst
    dsimp only at hst
    rw [hst]
    unfold readV dcV zeroD at HRD
    dsimp only at HRD
    generalize bs s = ss at *
    generalize bs [] = es at *
    clear hin hst hrd
    go_enter Tryd.func12, Tryd.ntmps12
    go_wp2_with fail
    with_reducible refine (HRD.out _).mono ?_
    rintro e1 w1 ⟨rfl, hb⟩
    have HB := Lib.hid (hb.alloc hb.size (.cells #[.bool false, .string es, .int .i64 0] 52))
    clear hb
    go_wp2
    go_ret2
    exact ⟨rfl, HB.out⟩
  | some x =>
    rw [hrd] at HRD hst
    dsimp only at hst
    obtain ⟨r1, r2, r3, r4⟩ := hin x hrd
    have HI := Lib.hid (fun W => rint_any x W r1 r2 r3 r4)
    rw [← hst] at HI
    generalize stopF s = res at *
    obtain ⟨res1, res2⟩ := res
    clear hin hst hrd r1 r2 r3 r4
    obtain ⟨xn, xd, xe⟩ := x
    unfold readV dcV at HRD
    unfold dcV at HI
    dsimp only at *
    generalize bs s = ss at *
    generalize bs xd = xs at *
    go_enter Tryd.func12, Tryd.ntmps12
    go_wp2_with fail
    with_reducible refine (HRD.out _).mono ?_
    rintro e1 w1 ⟨rfl, hb⟩
    have HB := Lib.hid (hb.alloc hb.size (.cells #[.bool xn, .string xs, .int .i64 xe] 52))
    clear hb
    go_wp2_with fail
    with_reducible refine (HI.out _).mono ?_
    rintro e1 w2 ⟨rfl, hb⟩
    have HB2 := Lib.hid (HB.out.trans (hb.mono HB.out.size))
    clear hb HB
    go_wp2
    go_ret2
    exact ⟨rfl, HB2.out⟩
/-- RN's world: a block more -/
theorem info_u8 : (Tryd.prog.info? 5).map (fun i => (i.zero, i.size, i.bytes)) = some (some (.int .u8 0), 1, 1) := by kernel_rfl
theorem rn_below {w w' : World} {a : Nat} {s : List UInt8} {B : Nat} (h : RN w a s) (hb : Below B w w') (ha : a < B) : RN w' a s := Blk.below h hb ha
def RPost (w : World) (a : Nat) (s sc : List UInt8) (pf : Int) (e : Ending) (w' : World) : Prop := e = .returned (.int .i64 pf) ∧ RN w' a (if pf = 0 then sc else s) ∧ But a w w'
theorem push_post {e : Ending} {w w' : World} {a : Nat} {s sc : List UInt8} {pf r : Int} (h : pf = r) (he : e = .returned (.int .i64 r)) (hy : r = 0 → RN w' a sc) (hn : r ≠ 0 → RN w' a s) (hb : But a w w') : RPost w a s sc pf e w' := by
  subst h he
  refine ⟨rfl, ?_, hb⟩
  by_cases h0 : pf = 0
  · rw [if_pos h0]; exact hy h0
  · rw [if_neg h0]; exact hn h0
theorem str_one (c : UInt8) : strOfNums [(c.toNat : Int)] = bs [c] := nums_bs [c]
theorem bs_snoc (s : List UInt8) (c : UInt8) : bs s ++ bs [c] = bs (s ++ [c]) := by
  apply L8_inj
  rw [L8_app, L8_bs, L8_bs, L8_bs]
set_option maxHeartbeats 8000000 in
theorem rpush_any (a : Nat) (s : List UInt8) (c : UInt8) (w : World) (h : RN w a s) (hs : s.length + 1 ≤ 1000) : Calls Tryd.prog 9 #[.pointer (some ⟨a, 0, none⟩), .int .u8 (c.toNat : Int)] w (RPost w a s (s ++ [c]) (pushF s c)) := by
  have hl : (s ++ [c]).length ≤ 1000 := by rw [List.length_append, List.length_singleton]; omega
  have HC := Lib.hid (fun W => cut_any (bs (s ++ [c])) W (by rw [bs_size]; omega))
  rw [L8_bs] at HC
  have HM := Lib.hid (fun t ht W => rmay_any (s ++ [c]) t W hl ht)
  have HST := Lib.hid (fun W => stands_any (bs (s ++ [c])) W (by rw [bs_size]; omega))
  rw [L8_bs] at HST
  have hstl : (standF (s ++ [c])).length ≤ (s ++ [c]).length := by
    unfold standF
    rw [List.length_reverse]
    have := List.Sublist.length_le (List.dropWhile_sublist (fun c => !isD c) (l := (s ++ [c]).reverse))
    rwa [List.length_reverse] at this
  have HRD := Lib.hid (fun W => rread_any (bs (standF (s ++ [c]))) W (by rw [bs_size]; omega))
  rw [L8_bs] at HRD
  have HPF : Hid (pushF s c = _) := Lib.hid (pushF.eq_1 s c)
  have HBS : Hid (bs s ++ bs [c] = bs (s ++ [c])) := Lib.hid (bs_snoc s c)
  have HRN : Hid (Blk w a 27 #[.string (bs s)]) := Lib.hid h
  have HL1 : Hid (L8 (bs (s ++ [c])) = s ++ [c]) := Lib.hid (L8_bs _)
  have hsz : ¬ (bs s).size + (bs [c]).size > 9223372036854775807 := by rw [bs_size, bs_size, List.length_singleton]; omega
  have HONE : Hid (strOfNums [(c.toNat : Int)] = bs [c]) := Lib.hid (str_one c)
  have c0 : w.cell? ⟨a, 0, none⟩ = some (.string (bs s)) := h.cell 0
  have hlt : a < w.heap.size := h.lt
  clear h hs
  generalize pushF s c = pf at *
  generalize hsc : s ++ [c] = sc at *
  have HSS : Hid (∀ W, Blk W a 27 #[.string (bs s)] → RN W a s) := Lib.hid (fun W h => h)
  have HSC : Hid (∀ W, Blk W a 27 #[.string (bs sc)] → RN W a sc) := Lib.hid (fun W h => h)
  generalize bs s = ss at *
  generalize bs [c] = cs at *
  generalize (c.toNat : Int) = x at *
  generalize hbsc : bs sc = scs at *
  go_enter Tryd.func9, Tryd.ntmps9
  go_wp2_with fail
  refine wp_region_H (fun W => Blk W a 27 #[.string ss]) (by kernel_rfl) ?_
  generalize hW0 : w.drew = w0
  have HX0 : Hid (Blk w0 a 27 #[.string ss]) := Lib.hid (by rw [← hW0]; exact HRN.out.drew)
  have HB0 : Hid (Below w.heap.size w w0) := Lib.hid (by rw [← hW0]; exact (Below.refl _ _).drew)
  clear hW0 c0
  refine wpH_take 0 10 (v := ?v0) rfl rfl (by kernel_rfl) (by kernel_rfl) (by kernel_rfl) (fun _ _ _ h => h) HX0.out (Or.inl ⟨by rfl, ?y0⟩) ?r0
  case y0 => (intro W hS; go_simp; try with_reducible rfl)
  simp only [Act.put, List.setIfInBounds_toArray, List.set_cons_zero, List.set_cons_succ]
  refine wpH_take 4 14 (v := ?v4) rfl rfl (by kernel_rfl) (by kernel_rfl) (by kernel_rfl) (fun _ _ _ h => h) HX0.out (Or.inl ⟨by rfl, ?y4⟩) ?r4
  case y4 => (intro W hS; go_simp; try with_reducible rfl)
  simp only [Act.put, List.setIfInBounds_toArray, List.set_cons_zero, List.set_cons_succ]
  refine wpH_take 1 11 (v := ?v1) rfl rfl (by kernel_rfl) (by kernel_rfl) (by kernel_rfl) (fun _ _ _ h => h) HX0.out (Or.inl ⟨by rfl, ?y1⟩) ?r1
  case y1 => (intro W hS; have hlt := Blk.lt hS; go_simp; try with_reducible rfl)
  simp only [Act.put, List.setIfInBounds_toArray, List.set_cons_zero, List.set_cons_succ]
  refine wpH_take 2 12 (v := ?v2) rfl rfl (by kernel_rfl) (by kernel_rfl) (by kernel_rfl) (fun _ _ _ h => h) HX0.out (Or.inl ⟨by rfl, ?y2⟩) ?r2
  case y2 => (intro W hS; have hlt := Blk.lt hS; go_simp; try with_reducible rfl)
  simp only [Act.put, List.setIfInBounds_toArray, List.set_cons_zero, List.set_cons_succ]
  refine wpH_take 3 13 (v := .string ss) rfl rfl (by kernel_rfl) (by kernel_rfl) (by kernel_rfl) (fun _ _ _ h => h) HX0.out (Or.inl ⟨by rfl, ?y3⟩) ?r3
  case y3 =>
    intro W hS
    have HS := Lib.hid hS
    clear hS
    have c0 : W.cell? ⟨a, 0, none⟩ = some (.string ss) := HS.out.cell 0
    go_simp
  case r3 =>
  simp only [Act.put, List.setIfInBounds_toArray, List.set_cons_zero, List.set_cons_succ]
  refine wpH_one 5 (by kernel_rfl) rfl (fun K hK => ?_)
  refine wpA_if (by rfl) ?_
  refine wpO_lit 22 5 1 _ rfl (.int .u8 0) 1 1 Tryd.underlying22 info_u8 (by decide) (by decide) (by decide) [.int .u8 x] (by simp [Act.eval]) (by simp [Value.cells]) rfl #[.int .u8 x] (by simp [Value.cells]) ?_
  refine hK.out _ _ (HX0.out.alloc _) ?_
  clear hK K
  try simp only [Act.put, List.getElem_toArray, List.getElem_cons_succ, List.getElem_cons_zero, List.setIfInBounds_toArray, List.set_cons_zero, List.set_cons_succ]
  have hcv := conv_str (w0.alloc (.cells #[.int .u8 x] 5)) (w0.heap.size + 1) (some ⟨w0.heap.size, 0, none⟩) 1 1 [x] rfl (Ints.mark w0 5 .u8 [x] (0, 0))
  rw [HONE.out] at hcv
  have HX1 := Lib.hid (HX0.out.alloc (.cells #[.int .u8 x] 5))
  have HB1 := Lib.hid (HB0.out.alloc HB0.out.size (.cells #[.int .u8 x] 5))
  clear HX0 HB0
  generalize w0.alloc (.cells #[.int .u8 x] 5) = w1 at *
  refine wpH_one 6 (by kernel_rfl) rfl (fun K hK => ?_)
  go_simp
  refine hK.out _ _ HX1.out ?_
  clear hK K hcv
  try simp only [Act.put, List.getElem_toArray, List.getElem_cons_succ, List.getElem_cons_zero, List.setIfInBounds_toArray, List.set_cons_zero, List.set_cons_succ]
  refine wpH_one 7 (by kernel_rfl) rfl (fun K hK => ?_)
  go_simp
  refine hK.out _ _ HX1.out ?_
  clear hK K
  rw [HBS.out]
  try simp only [Act.put, List.getElem_toArray, List.getElem_cons_succ, List.getElem_cons_zero, List.setIfInBounds_toArray, List.set_cons_zero, List.set_cons_succ]
  refine wpH_one 8 (by kernel_rfl) rfl (fun K hK => ?_)
  go_simp
  refine hK.out _ _ HX1.out ?_
  clear hK K
  try simp only [Act.put, List.getElem_toArray, List.getElem_cons_succ, List.getElem_cons_zero, List.setIfInBounds_toArray, List.set_cons_zero, List.set_cons_succ]
  refine wpH_done (by kernel_rfl) ?_ _
  clear HBS HONE hsz hlt
  go_wp2_with fail
  with_reducible refine (HC.out _).mono ?_
  rintro e1 w2 ⟨a0, a1, a2, a3, a4, rfl, hpv, hb2⟩
  have HX2 := Lib.hid (HX1.out.below hb2 HX1.out.lt)
  have HB2 := Lib.hid (HB1.out.trans (hb2.mono HB1.out.size))
  clear hb2 HX1 HB1 HC
  cases hg : goF t0 sc with
  | none =>
    rw [hg] at hpv HPF
    have hp2 := HPF.out
    dsimp only at hp2
    have HP2 := Lib.hid hp2
    have HBX : Hid (Below w.heap.size w (w2.alloc (.cells #[.string a0, .int .i64 a1, .bool a2, .int .u8 a3, .string a4] 55))) := Lib.hid (HB2.out.alloc HB2.out.size _)
    have HXX : Hid (Blk (w2.alloc (.cells #[.string a0, .int .i64 a1, .bool a2, .int .u8 a3, .string a4] 55)) a 27 #[.string ss]) := Lib.hid (HX2.out.alloc _)
    clear hpv hg HX2 HB2 HPF hp2
    rw [Option.isSome_none]
    go_wp2_with fail
    go_ret
    exact push_post HP2.out rfl (fun h => absurd h (by decide)) (fun _ => HSS.out _ HXX.out) (But.of_below HBX.out)
  | some t =>
    rw [hg] at hpv HPF
    have hp2 := HPF.out
    dsimp only at hp2
    have HP2 := Lib.hid hp2
    have hpe := hpv t rfl
    have HM1 := Lib.hid (fun W => HM.out t hg W)
    rw [← hpe] at HM1
    rw [Option.isSome_some]
    have HBX : Hid (Below w.heap.size w (w2.alloc (.cells #[.string a0, .int .i64 a1, .bool a2, .int .u8 a3, .string a4] 55))) := Lib.hid (HB2.out.alloc HB2.out.size _)
    have HXX : Hid (Blk (w2.alloc (.cells #[.string a0, .int .i64 a1, .bool a2, .int .u8 a3, .string a4] 55)) a 27 #[.string ss]) := Lib.hid (HX2.out.alloc _)
    have hsr := fun hd => stand_read (s := sc) hg hd
    clear hpv HX2 HB2 HPF hp2 hpe HM
    cases hm : mayF t with
    | true =>
      rw [hm] at HM1 HP2
      clear HST HRD hsr hg hm
      go_wp2_with fail
      with_reducible refine (HM1.out _).mono ?_
      rintro e1 w3 ⟨rfl, hb3⟩
      have HX3 := Lib.hid (HXX.out.below hb3 HXX.out.lt)
      have HB3 := Lib.hid (HBX.out.trans (hb3.mono HBX.out.size))
      have HAW : Hid (a < w.heap.size) := Lib.hid HRN.out.lt
      clear hb3 HXX HBX HM1
      have c0 : w3.cell? ⟨a, 0, none⟩ = some (.string ss) := HX3.out.cell 0
      have f0 : w3.frozen? ⟨a, 0, none⟩ = false := HX3.out.frozen 0
      have hlt : a < w3.heap.size := HX3.out.lt
      go_wp2_with fail
      go_ret
      exact push_post (HP2.out.trans (if_pos trivial)) rfl (fun _ => HSC.out _ (HX3.out.set' 0 _ rfl)) (fun h => absurd rfl h) ((But.of_below HB3.out).set 0 _)
    | false =>
      have hd := may_digits hm
      have hr := hsr hd
      rw [hm] at HM1 HP2
      have hp3 := HP2.out
      rw [if_neg Bool.false_ne_true] at hp3
      have HP3 := Lib.hid hp3
      rw [hr] at HRD
      have hgd := good_go hg
      have hnd := read_in' (Nat.le_trans hstl hl) hr
      have HW := Lib.hid (fun W => rwhole_any (normF (decF t)) W hnd.2.1 hnd.2.2.1 hnd.2.2.2)
      rw [whole_norm] at HW
      obtain ⟨y, hy⟩ : ∃ y, normF (decF t) = y := ⟨_, rfl⟩
      rw [hy] at HRD HW
      clear hsr hg hm hp3 HP2 hd hr hgd hnd hy hstl
      obtain ⟨wh, hwh⟩ : ∃ q, wholeF (decF t) = q := ⟨_, rfl⟩
      rw [hwh] at HP3 HW
      clear hwh
      obtain ⟨yn, yd, ye⟩ := y
      unfold readV dcV at HRD
      unfold dcV at HW
      dsimp only at HRD HW
      generalize bs yd = ys at *
      generalize bs (standF sc) = sts at *
      go_wp2_with fail
      with_reducible refine (HM1.out _).mono ?_
      rintro e1 w3 ⟨rfl, hb3⟩
      have HX3 := Lib.hid (HXX.out.below hb3 HXX.out.lt)
      have HB3 := Lib.hid (HBX.out.trans (hb3.mono HBX.out.size))
      clear hb3 HXX HBX HM1
      go_wp2_with fail
      with_reducible refine (HST.out _).mono ?_
      rintro e1 w4 ⟨rfl, rfl⟩
      go_wp2_with fail
      with_reducible refine (HRD.out _).mono ?_
      rintro e1 w4 ⟨rfl, hb4⟩
      have HX4 := Lib.hid ((HX3.out.below hb4 HX3.out.lt).alloc (.cells #[.bool yn, .string ys, .int .i64 ye] 52))
      have HB4 := Lib.hid ((HB3.out.trans (hb4.mono HB3.out.size)).alloc (HB3.out.trans (hb4.mono HB3.out.size)).size (.cells #[.bool yn, .string ys, .int .i64 ye] 52))
      clear hb4 HX3 HB3 HRD
      go_wp2_with fail
      with_reducible refine (HW.out _).mono ?_
      rintro e1 w5 ⟨rfl, hb5⟩
      have HX5 := Lib.hid (HX4.out.below hb5 HX4.out.lt)
      have HB5 := Lib.hid (HB4.out.trans (hb5.mono HB4.out.size))
      clear hb5 HX4 HB4 HW
      cases wh with
      | true =>
        go_wp2_with fail
        go_ret
        exact push_post (HP3.out.trans (if_pos trivial)) rfl (fun h => absurd h (by decide)) (fun _ => HSS.out _ HX5.out) (But.of_below HB5.out)
      | false =>
        go_wp2_with fail
        go_ret
        exact push_post (HP3.out.trans (if_neg Bool.false_ne_true)) rfl (fun h => absurd h (by decide)) (fun _ => HSS.out _ HX5.out) (But.of_below HB5.out)
end Go.Proofs.YtiibfejgiilakaaDoor
