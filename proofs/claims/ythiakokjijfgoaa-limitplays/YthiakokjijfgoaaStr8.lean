/- Strings by the list of their bytes. No program in it. -/
import Derived.Test.YthiakokjijfgoaaMem
import Derived.Laws.Strings2
import Derived.Laws.Concat
namespace Go.Proofs.Ythiakokjijfgoaa
set_option linter.unusedVariables false

/-- a string's bytes -/
def L8 (s : ByteArray) : List UInt8 := s.data.toList
/-- the string of bytes -/
def bs (l : List UInt8) : ByteArray := ⟨l.toArray⟩
theorem L8_bs (l : List UInt8) : L8 (bs l) = l := rfl
theorem bs_L8 (s : ByteArray) : bs (L8 s) = s := by
  apply ByteArray.ext
  simp [bs, L8]
theorem L8_len (s : ByteArray) : (L8 s).length = s.size := by simp [L8]
theorem bs_size (l : List UInt8) : (bs l).size = l.length := by rw [← L8_len, L8_bs]
theorem L8_inj {a b : ByteArray} (h : L8 a = L8 b) : a = b := by rw [← bs_L8 a, ← bs_L8 b, h]
theorem L8_at (s : ByteArray) (k : Nat) (h : k < s.size) : (L8 s)[k]? = some s[k] := by
  have h' : k < (L8 s).length := by rw [L8_len]; exact h
  rw [List.getElem?_eq_getElem h']
  rfl
theorem L8_get (s : ByteArray) (k : Nat) (h : k < s.size) : (L8 s)[k]'(by rw [L8_len]; exact h) = s[k] := rfl
theorem L8_take (s : ByteArray) (k : Nat) (h : k < s.size) : (L8 s).take (k + 1) = (L8 s).take k ++ [s[k]] := by
  rw [List.take_succ_eq_append_getElem (by rw [L8_len]; exact h), L8_get s k h]
theorem L8_drop (s : ByteArray) (k : Nat) (h : k < s.size) : (L8 s).drop k = s[k] :: (L8 s).drop (k + 1) := by
  rw [List.drop_eq_getElem_cons (by rw [L8_len]; exact h), L8_get s k h]
theorem L8_cut (s : ByteArray) (a b : Nat) : L8 (s.extract a b) = ((L8 s).drop a).take (b - a) := by
  have h := ByteArray.extract_mk (L8 s) a b
  have e : ByteArray.mk (L8 s).toArray = s := bs_L8 s
  rw [e] at h
  rw [h]
  rfl
theorem L8_app (a b : ByteArray) : L8 (a ++ b) = L8 a ++ L8 b := by
  have h := ByteArray.mk_append_mk (L8 a) (L8 b)
  have e1 : ByteArray.mk (L8 a).toArray = a := bs_L8 a
  have e2 : ByteArray.mk (L8 b).toArray = b := bs_L8 b
  rw [e1, e2] at h
  rw [h]
  rfl
theorem L8_toList (s : ByteArray) : s.toList = L8 s := by
  rw [ByteArray.toList_eq]; rfl
/-- a struct in a block of its own, as the one result -/
theorem results_one {P : Program} {fn : Func} {p : Tmp} {ty : TypeId} (h : fn.results = #[.cell p ty]) (tmps : Array Value) (w : World) (g : Nat) (t : TypeId) (cs : Array Value) (d : TypeDesc)
    (hp : tmps.getD p undef = .pointer (some ⟨g, 0, none⟩)) (hg : Blk w g t cs) (hu : P.underlying ty = some d) (hd : (match d with | .struct _ | .array _ _ => true | _ => false) = true) (hi : (P.info? ty).map (·.size) = some cs.size) :
    (results fn tmps).run P w = .ok (.agg cs) w := by
  have e : (results fn tmps).run P w = ((asAddr (tmps.getD p undef)).run P w).andThen fun a w₁ => (loadVar ty a).run P w₁ := by
    simp only [results, h]
    simp [Sem.run_bind, Result.andThen]
  rw [e, hp]
  simp [asAddr, run_loadVar_row w g t ty cs (0, 0) d hg hu hd hi, Result.andThen]
/-- how long a string is that lies in a cell -/
def strLen : Option Value → Nat
  | some (.string s) => s.size
  | _ => 0
end Go.Proofs.Ythiakokjijfgoaa
