/- The string constants of a piece of code, in their order. -/
import Derived.Test.YtmphfdnpnhlpjaaRows
namespace Go.Proofs.Ytmphfdnpnhlpjaa
def textOf : Operand → List ByteArray
  | .const (.string s) => [s]
  | _ => []
def textsOp : Op → List ByteArray
  | .build _ ps => ps.toList.flatMap fun p => textOf p.2
  | .call c => c.args.toList.flatMap textOf
  | _ => []
def textsOf : Nat → Code → List ByteArray
  | 0, _ => []
  | n + 1, .seq a b => textsOf n a ++ textsOf n b
  | _ + 1, .region _ ops _ => ops.toList.flatMap fun o => textsOp o.op
  | n + 1, .cond _ a b => textsOf n a ++ textsOf n b
  | n + 1, .loop a => textsOf n a
  | n + 1, .block _ a => textsOf n a
  | _, _ => []
def bytesOf (s : ByteArray) : List Nat := s.data.toList.map UInt8.toNat
theorem bytesOf_len (s : ByteArray) : (bytesOf s).length = s.size := by simp [bytesOf]
theorem bytesOf_at (s : ByteArray) (k : Nat) (h : k < s.size) : (bytesOf s).getD k 0 = s[k].toNat := by
  have h' : k < s.data.toList.length := by simpa using h
  rw [bytesOf, List.getD_eq_getElem?_getD, List.getElem?_map, List.getElem?_eq_getElem h']
  rfl
end Go.Proofs.Ytmphfdnpnhlpjaa
