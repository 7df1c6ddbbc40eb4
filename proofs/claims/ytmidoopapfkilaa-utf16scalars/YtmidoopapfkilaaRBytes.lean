/- Contract of the document's Bytes (orthoepyref02), where package utf8 is not in the seat; the string of a row of bytes. -/
import Derived.Test.YtmidoopapfkilaaU16Units
import Derived.Test.YtmidoopapfkilaaU8Math
import Derived.Test.YtmidoopapfkilaaRefIs
import Derived.Laws.BytesArg
import Derived.Lib.SlBytesConst
namespace Go.Proofs.Ytmidoopapfkilaa
open Go.ChangeShapes Go.WideShapes Go.ChangeAt Go.RowKit
set_option linter.unusedVariables false

theorem own_lit (w : World) (base : Nat) (t : TypeId) (k : IntKind) (ys : List Int) (hb : base ≤ w.heap.size) (hm : ys.length ≤ maxLen) :
    Own (w.alloc (.cells (ys.map (Value.int k)).toArray t)) base t k (.slice (some ⟨w.heap.size, 0, none⟩) ys.length ys.length) ys := by
  have := World.ownsRow_lit (size := 1) (e := t) w (ys.map (Value.int k)).toArray ys.length hb hm (by simp)
  simpa using this

set_option maxHeartbeats 1000000 in
theorem r_bytes_any (c : Int) (w : World) : Calls Try.prog 21 #[.int .i32 c] w (RowRes 5 .u8 w (byt c)) := by
  cases hi : isB c with
  | false =>
    have HE : Hid (byt c = []) := by simp [Hid, byt, hi]
    go_enter Try.func21, Try.ntmps21
    go_wp2_with fail
    with_reducible refine (r_is_any _ _).mono ?_
    rintro e w' ⟨rfl, rfl⟩
    go_wp2
    go_ret
    exact ⟨_, rfl, by rw [HE.out]; exact World.ownsRow_nil _ _ _ _, Below.refl _ _⟩
  | true =>
    have hc := of_decide_eq_true hi
    have hc0 : 0 ≤ c := by omega
    have hc1 : c ≤ 1114111 := by omega
    by_cases h1 : c < 128
    · have HE : Hid (byt c = [c]) := by simp [Hid, byt, hi, h1]
      clear hc
      go_enter Try.func21, Try.ntmps21
      go_wp2_with fail
      with_reducible refine (r_is_any _ _).mono ?_
      rintro e w' ⟨rfl, rfl⟩
      go_wp2
      go_ret
      exact ⟨_, rfl, by rw [HE.out]; exact own_lit w _ 5 .u8 [c] (Nat.le_refl _) (by simp [maxLen]), (Below.refl _ _).alloc (Nat.le_refl _) _⟩
    · by_cases h2 : c < 2048
      · have HE : Hid (byt c = [192 + c / 64, 128 + c % 64]) := by simp [Hid, byt, hi, h1, h2]
        clear hc
        go_enter Try.func21, Try.ntmps21
        go_wp2_with fail
        with_reducible refine (r_is_any _ _).mono ?_
        rintro e w' ⟨rfl, rfl⟩
        go_wp2
        go_ret
        exact ⟨_, rfl, by rw [HE.out]; exact own_lit w _ 5 .u8 [192 + c / 64, 128 + c % 64] (Nat.le_refl _) (by simp [maxLen]), (Below.refl _ _).alloc (Nat.le_refl _) _⟩
      · by_cases h3 : c < 65536
        · have HE : Hid (byt c = [224 + c / 4096, 128 + c / 64 % 64, 128 + c % 64]) := by simp [Hid, byt, hi, h1, h2, h3]
          clear hc
          go_enter Try.func21, Try.ntmps21
          go_wp2_with fail
          with_reducible refine (r_is_any _ _).mono ?_
          rintro e w' ⟨rfl, rfl⟩
          go_wp2
          go_ret
          exact ⟨_, rfl, by rw [HE.out]; exact own_lit w _ 5 .u8 [224 + c / 4096, 128 + c / 64 % 64, 128 + c % 64] (Nat.le_refl _) (by simp [maxLen]), (Below.refl _ _).alloc (Nat.le_refl _) _⟩
        · have HE : Hid (byt c = [240 + c / 262144, 128 + c / 4096 % 64, 128 + c / 64 % 64, 128 + c % 64]) := by simp [Hid, byt, hi, h1, h2, h3]
          clear hc
          go_enter Try.func21, Try.ntmps21
          go_wp2_with fail
          with_reducible refine (r_is_any _ _).mono ?_
          rintro e w' ⟨rfl, rfl⟩
          go_wp2
          go_ret
          exact ⟨_, rfl, by rw [HE.out]; exact own_lit w _ 5 .u8 [240 + c / 262144, 128 + c / 4096 % 64, 128 + c / 64 % 64, 128 + c % 64] (Nat.le_refl _) (by simp [maxLen]), (Below.refl _ _).alloc (Nat.le_refl _) _⟩

theorem conv_str (w : World) (B : Nat) (A : Option Addr) (n c : Nat) (xs : List Int) (hn : xs.length = n) (hI : Ints w B .u8 A xs) : (convert 39 9 (.slice A n c)).run Try.prog w = .ok (.string (strOfNums xs)) w := by
  subst hn
  cases A with
  | none =>
    have hx : xs = [] := by
      rcases hI with h | ⟨b, o, e, _⟩
      · exact h
      · cases e
    subst hx
    exact run_convert_bytes_nil w 39 5 Try.underlying39 Try.underlying5 _ _ _ Try.underlying9
  | some ad =>
    rcases hI with h | ⟨b, o, e, _, hc⟩
    · subst h
      rw [run_convert_bytes_string w _ _ 5 _ _ _ Try.underlying39 Try.underlying5 Try.underlying9]
      exact run_bytesToString w ad 0 c [] (by simpa using run_loadCells_list (P := Try.prog) w ad [] (fun j v hj => by simp at hj))
    · injection e with e
      subst e
      exact run_convert_bytes_arg w 39 5 Try.underlying39 Try.underlying5 b o _ c xs rfl hc _ Try.underlying9

/-- a row, and the string of it in every later world -/
def RowStr (w : World) (zs : List Int) (e : Ending) (w' : World) : Prop :=
  ∃ v, e = .returned v ∧ (∀ W : World, Below w'.heap.size w' W → (convert 39 9 v).run Try.prog W = .ok (.string (strOfNums zs)) W) ∧ Below w.heap.size w w'
theorem RowRes.str {w w' : World} {zs : List Int} {e : Ending} (h : RowRes 5 .u8 w zs e w') : RowStr w zs e w' := by
  obtain ⟨v, rfl, hO, hb⟩ := h
  obtain ⟨A, c, rfl, hc, hcm⟩ := own_form hO
  exact ⟨_, rfl, fun W hW => conv_str W w'.heap.size A _ c zs rfl ((Ints.own hO).below hW (Nat.le_refl _)), hb⟩
end Go.Proofs.Ytmidoopapfkilaa
