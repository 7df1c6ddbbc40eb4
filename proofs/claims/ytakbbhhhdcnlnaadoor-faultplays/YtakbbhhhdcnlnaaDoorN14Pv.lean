/- An error of the program by what it reads as: nil, or a row of links; the calls over it. -/
import Derived.Test.YtakbbhhhdcnlnaaDoorN14Awk
namespace Go.Proofs.YtakbbhhhdcnlnaaDoor
set_option maxRecDepth 100000
open Go.RowKit
set_option linter.unusedVariables false
set_option linter.unusedSimpArgs false

def Pv (w : World) (v : Value) (i : Bool) (c a n : Int) (t : ByteArray) : Prop :=
  (i = false ∧ v = .nilIface ∧ c = 0 ∧ a = 0 ∧ n = 0 ∧ t = ⟨#[]⟩) ∨
  ∃ F b, i = true ∧ v = hdV (Ec F b c a) ∧ Lies w (Ec F b c a) ∧ (∀ x ∈ F, isF x) ∧ (∀ x ∈ Ec F b c a, szL x) ∧ inN (Ec F b c a) = n ∧ t = bs (txt (Ec F b c a))
def wrT (i : Bool) (s t : ByteArray) : ByteArray := if i then bs (L8 s ++ [58, 32] ++ L8 t) else t
theorem Pv.go {w w' : World} {v : Value} {i : Bool} {c a n : Int} {t : ByteArray} (h : Pv w v i c a n t) (hb : Below w.heap.size w w') : Pv w' v i c a n t := by
  rcases h with h | ⟨F, b, h1, h2, h3, h4⟩
  · exact .inl h
  · exact .inr ⟨F, b, h1, h2, h3.go hb, h4⟩
theorem Pv.but {w w' : World} {v : Value} {i : Bool} {c a n : Int} {t : ByteArray} {g : Nat} {cs : Array Value} (h : Pv w v i c a n t) (hb : But g w w') (hg : Blk w g 32 cs) : Pv w' v i c a n t := by
  rcases h with h | ⟨F, b, h1, h2, h3, h4⟩
  · exact .inl h
  · exact .inr ⟨F, b, h1, h2, h3.but hb hg (by decide), h4⟩
theorem Pv.neq {w : World} {v : Value} {i : Bool} {c a n : Int} {t : ByteArray} (h : Pv w v i c a n t) (W : World) : (binOp .neq 26 v .nilIface).run Tryd.prog W = .ok (.bool i) W := by
  rcases h with ⟨rfl, rfl, _⟩ | ⟨F, b, rfl, rfl, _⟩
  · exact hd_neq [] W
  · obtain ⟨x, l, hx⟩ := Ec.ne F b c a
    rw [hx]
    exact hd_neq (x :: l) W
theorem Pv.neG {w : World} {v : Value} {i : Bool} {c a n : Int} {t : ByteArray} (h : Pv w v i c a n t) (x : Operand) (W : World) : (eqGuard .neq 26 x (.const .nilIface) v .nilIface).run Tryd.prog W = .ok () W := by
  rcases h with ⟨rfl, rfl, _⟩ | ⟨F, b, rfl, rfl, _⟩
  · exact hd_neG [] _ x W
  · exact hd_neG _ _ x W
theorem ec_nil (F : List Lay) (b : Nat) (c a : Int) : Ec F b c a ≠ [] := by
  obtain ⟨x, l, hx⟩ := Ec.ne F b c a
  rw [hx]; simp
theorem txt_app (F G : List Lay) : txt (F ++ G) = txt F ++ txt G := by
  induction F with
  | nil => rfl
  | cons x F ih => simp only [List.cons_append, txt, ih, List.append_assoc]
theorem txt_ne (F : List Lay) (b : Nat) (c a : Int) : txt (Ec F b c a) ≠ [] := by
  unfold Ec
  rw [txt_app]
  simp [txt, wdS]
theorem new_p (c a : Int) (ha : -9223372036854775808 ≤ a ∧ a ≤ 9223372036854775807) (w : World) : Calls Tryd.prog 8 #[.int .i64 c, .int .i64 a] w fun e w' => ∃ v, e = .returned v ∧ Pv w' v (decide (c ≠ 0)) c (if c = 0 then 0 else a) 0 (if c = 0 then ⟨#[]⟩ else bs (wdS (.pl 0 c a))) ∧ Below w.heap.size w w' := by
  by_cases hc : c = 0
  · subst hc
    exact (new_ok a w).mono fun e w' ⟨h1, h2⟩ => ⟨_, h1, .inl ⟨rfl, rfl, rfl, rfl, rfl, rfl⟩, by rw [h2]; exact Below.refl _ _⟩
  · rw [if_neg hc, if_neg hc]
    refine (new_l c a hc w).mono fun e w' ⟨b, h1, h2, h3⟩ => ⟨_, h1, .inr ⟨[], b, decide_eq_true hc, rfl, h2, fun x hx => (by cases hx), fun x hx => ?_, rfl, ?_⟩, h3⟩
    · simp [Ec] at hx
      rcases hx with rfl | rfl
      · exact ha
      · exact trivial
    · simp [Ec, txt, wdS]
theorem wrap_p {w : World} {v : Value} {i : Bool} {c a n : Int} {t : ByteArray} (h : Pv w v i c a n t) (s : ByteArray) (hs : s.size ≤ 60) : Calls Tryd.prog 10 #[v, .string s] w fun e w' => ∃ v', e = .returned v' ∧ Pv w' v' i c a n (wrT i s t) ∧ Below w.heap.size w w' := by
  rcases h with ⟨rfl, rfl, h⟩ | ⟨F, b, rfl, rfl, hl, hf, hz, hn, rfl⟩
  · exact (wrap_nil s w).mono fun e w' ⟨h1, h2⟩ => ⟨_, h1, .inl ⟨rfl, rfl, h⟩, by rw [h2]; exact Below.refl _ _⟩
  · refine (wrap_l (Ec F b c a) (ec_nil F b c a) s w hl).mono fun e w' ⟨g, h1, h2, h3⟩ => ⟨_, h1, .inr ⟨.wr g s :: F, b, rfl, rfl, h2, fun x hx => ?_, fun x hx => ?_, hn, ?_⟩, h3⟩
    · rcases List.mem_cons.1 hx with rfl | hx
      · exact trivial
      · exact hf x hx
    · rw [Ec.cons] at hx
      rcases List.mem_cons.1 hx with rfl | hx
      · show s.size ≤ 1000000
        omega
      · exact hz x hx
    · unfold wrT
      rw [if_pos rfl, Ec.cons, txt, L8_bs]
      rfl
theorem input_p {w : World} {v : Value} {i : Bool} {c a n : Int} {t : ByteArray} (h : Pv w v i c a n t) (m : Int) : Calls Tryd.prog 12 #[v, .int .i64 m] w fun e w' => ∃ v', e = .returned v' ∧ Pv w' v' i c a (if i then m else n) t ∧ Below w.heap.size w w' := by
  rcases h with ⟨rfl, rfl, h⟩ | ⟨F, b, rfl, rfl, hl, hf, hz, hn, rfl⟩
  · exact (input_nil m w).mono fun e w' ⟨h1, h2⟩ => ⟨_, h1, .inl ⟨rfl, rfl, h⟩, by rw [h2]; exact Below.refl _ _⟩
  · refine (input_l (Ec F b c a) (ec_nil F b c a) m w hl).mono fun e w' ⟨g, h1, h2, h3⟩ => ⟨_, h1, .inr ⟨.inp g m :: F, b, rfl, rfl, h2, fun x hx => ?_, fun x hx => ?_, rfl, ?_⟩, h3⟩
    · rcases List.mem_cons.1 hx with rfl | hx
      · exact trivial
      · exact hf x hx
    · rw [Ec.cons] at hx
      rcases List.mem_cons.1 hx with rfl | hx
      · exact trivial
      · exact hz x hx
    · rw [Ec.cons, txt]
      rfl
theorem of_p {w : World} {v : Value} {i : Bool} {c a n : Int} {t : ByteArray} (h : Pv w v i c a n t) (hV : Vs w) : Calls Tryd.prog 14 #[v] w fun e w' => e = .returned (.agg #[.int .i64 c, .int .i64 a, .int .i64 n]) ∧ Below w.heap.size w w' := by
  rcases h with ⟨rfl, rfl, rfl, rfl, rfl, rfl⟩ | ⟨F, b, rfl, rfl, hl, hf, hz, rfl, rfl⟩
  · exact of_nil w
  · exact of_any F hf b c a w hV.e hl
theorem text_p {w : World} {v : Value} {i : Bool} {c a n : Int} {t : ByteArray} (h : Pv w v i c a n t) (hV : Vs w) (ht : t.size ≤ 100000000000) : Calls Tryd.prog 15 #[v] w fun e w' => e = .returned (.string t) ∧ Below w.heap.size w w' := by
  rcases h with ⟨rfl, rfl, rfl, rfl, rfl, rfl⟩ | ⟨F, b, rfl, rfl, hl, hf, hz, rfl, rfl⟩
  · exact text_nil w
  · exact text_any _ w hl hz hV.n (txt_ne F b c a) (by rw [← bs_size]; exact ht)
theorem is_p {w : World} {v : Value} {i : Bool} {c a n : Int} {t : ByteArray} (h : Pv w v i c a n t) (hV : Vs w) (k : Int) : Calls Tryd.prog 16 #[v, .int .i64 k] w fun e w' => e = .returned (.bool (i && c == k)) ∧ Below w.heap.size w w' := by
  rcases h with ⟨rfl, rfl, rfl, rfl, rfl, rfl⟩ | ⟨F, b, rfl, rfl, hl, hf, hz, rfl, rfl⟩
  · exact (is_nil k w).mono fun e w' ⟨h1, h2⟩ => ⟨h1, by rw [h2]; exact Below.refl _ _⟩
  · exact is_any F hf b c a k w hV.e hl
theorem rnew_p (c a : Int) (ha : -9223372036854775808 ≤ a ∧ a ≤ 9223372036854775807) (w : World) : Calls Tryd.prog 9 #[.int .i64 c, .int .i64 a] w fun e w' => e = .returned (eV (decide (c ≠ 0)) c (if c = 0 then 0 else a) 0 (if c = 0 then ⟨#[]⟩ else bs (wdS (.pl 0 c a)))) ∧ Below w.heap.size w w' := by
  by_cases hc : c = 0
  · subst hc
    exact rnew_ok a w
  · rw [if_neg hc, if_neg hc, decide_eq_true (show c ≠ 0 from hc)]
    exact rnew_any c a hc ha.1 ha.2 w
theorem wrT_size (i : Bool) (s t : ByteArray) : (wrT i s t).size ≤ s.size + 2 + t.size := by
  unfold wrT
  cases i with
  | false => simp
  | true => simp only [if_true, bs_size, List.length_append, L8_len]; simp
end Go.Proofs.YtakbbhhhdcnlnaaDoor
