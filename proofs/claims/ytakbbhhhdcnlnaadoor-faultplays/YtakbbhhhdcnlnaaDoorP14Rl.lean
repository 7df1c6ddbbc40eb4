/- Closed facts on the model's entries for internal/reflectlite at this program's types (as the worked ToyasAs lays them at its own). Printed by wip/gen_p14as.py. -/
import Derived.Test.YtakbbhhhdcnlnaaDoorP14Own
namespace Go.Proofs.YtakbbhhhdcnlnaaDoor
set_option maxRecDepth 100000
open Go.RowKit Go.Extern.Stop Go.Stop Go.Extern
set_option linter.unusedVariables false
set_option linter.unusedSimpArgs false

theorem meKind (h : Value) (w : World) : (Go.method 240 100 (.agg #[h]) "Kind").run Tryd.prog w = .ok (57, h) w := by kernel_rfl
theorem meElem (h : Value) (w : World) : (Go.method 240 100 (.agg #[h]) "Elem").run Tryd.prog w = .ok (74, .agg #[h]) w := by kernel_rfl
theorem meImplements (h : Value) (w : World) : (Go.method 240 100 (.agg #[h]) "Implements").run Tryd.prog w = .ok (75, .agg #[h]) w := by kernel_rfl
theorem meAssignableTo (h : Value) (w : World) : (Go.method 240 100 (.agg #[h]) "AssignableTo").run Tryd.prog w = .ok (72, .agg #[h]) w := by kernel_rfl
theorem meComparable (h : Value) (w : World) : (Go.method 240 100 (.agg #[h]) "Comparable").run Tryd.prog w = .ok (73, .agg #[h]) w := by kernel_rfl
theorem typeOfW (v : Value) (w : World) : (ReflectliteType.typeOf #[.iface 52 v]).run Tryd.prog w = .ok (.iface 100 (.agg #[.pointer (some ⟨2, 52, none⟩)])) w := by kernel_rfl
theorem noAsW (v : Value) (xT : TypeId) (w : World) : (Instr.typeAssert (.iface 52 v) xT 109 true).run Tryd.prog w = .ok (.tuple #[.nilIface, .bool false]) w := run_typeAssert_lacksB Tryd.underlying109 (by kernel_rfl) (by kernel_rfl) v xT w
theorem noIsW (v : Value) (xT : TypeId) (w : World) : (Instr.typeAssert (.iface 52 v) xT 102 true).run Tryd.prog w = .ok (.tuple #[.nilIface, .bool false]) w := run_typeAssert_lacksB Tryd.underlying102 (by kernel_rfl) (by kernel_rfl) v xT w
theorem typeOfT (v : Value) (w : World) : (ReflectliteType.typeOf #[.iface 55 v]).run Tryd.prog w = .ok (.iface 100 (.agg #[.pointer (some ⟨2, 55, none⟩)])) w := by kernel_rfl
theorem noAsT (v : Value) (xT : TypeId) (w : World) : (Instr.typeAssert (.iface 55 v) xT 109 true).run Tryd.prog w = .ok (.tuple #[.nilIface, .bool false]) w := run_typeAssert_lacksB Tryd.underlying109 (by kernel_rfl) (by kernel_rfl) v xT w
theorem noIsT (v : Value) (xT : TypeId) (w : World) : (Instr.typeAssert (.iface 55 v) xT 102 true).run Tryd.prog w = .ok (.tuple #[.nilIface, .bool false]) w := run_typeAssert_lacksB Tryd.underlying102 (by kernel_rfl) (by kernel_rfl) v xT w
theorem typeOfP (v : Value) (w : World) : (ReflectliteType.typeOf #[.iface 48 v]).run Tryd.prog w = .ok (.iface 100 (.agg #[.pointer (some ⟨2, 48, none⟩)])) w := by kernel_rfl
theorem noAsP (v : Value) (xT : TypeId) (w : World) : (Instr.typeAssert (.iface 48 v) xT 109 true).run Tryd.prog w = .ok (.tuple #[.nilIface, .bool false]) w := run_typeAssert_lacksB Tryd.underlying109 (by kernel_rfl) (by kernel_rfl) v xT w
theorem noIsP (v : Value) (xT : TypeId) (w : World) : (Instr.typeAssert (.iface 48 v) xT 102 true).run Tryd.prog w = .ok (.tuple #[.nilIface, .bool false]) w := run_typeAssert_lacksB Tryd.underlying102 (by kernel_rfl) (by kernel_rfl) v xT w
theorem typeOfR (v : Value) (w : World) : (ReflectliteType.typeOf #[.iface 49 v]).run Tryd.prog w = .ok (.iface 100 (.agg #[.pointer (some ⟨2, 49, none⟩)])) w := by kernel_rfl
theorem noAsR (v : Value) (xT : TypeId) (w : World) : (Instr.typeAssert (.iface 49 v) xT 109 true).run Tryd.prog w = .ok (.tuple #[.nilIface, .bool false]) w := run_typeAssert_lacksB Tryd.underlying109 (by kernel_rfl) (by kernel_rfl) v xT w
theorem noIsR (v : Value) (xT : TypeId) (w : World) : (Instr.typeAssert (.iface 49 v) xT 102 true).run Tryd.prog w = .ok (.tuple #[.nilIface, .bool false]) w := run_typeAssert_lacksB Tryd.underlying102 (by kernel_rfl) (by kernel_rfl) v xT w
theorem noMany (v : Value) (xT : TypeId) (w : World) : (Instr.typeAssert (.iface 49 v) xT 104 true).run Tryd.prog w = .ok (.tuple #[.nilIface, .bool false]) w := run_typeAssert_lacksB Tryd.underlying104 (by kernel_rfl) (by kernel_rfl) v xT w
theorem cmpR (w : World) : ((ReflectliteType.method fun t => (fun a => Value.bool a.comparable) <$> typeInfo t) #[.agg #[.pointer (some ⟨2, 49, none⟩)]]).run Tryd.prog w = .ok (.bool true) w := by kernel_rfl

/-! the target P -/
theorem valueOf2P (t : Addr) (w : World) : (ReflectliteValue.unpack (.iface 74 (.pointer (some t)))).run Tryd.prog w
    = .ok (.agg #[.pointer (some ⟨2, 74, none⟩), .pointer (some ⟨w.heap.size, 0, none⟩), .int .u64 150]) (w.alloc (.cells #[.pointer (some t)] 74)) := by kernel_rfl
theorem type2P (a : Addr) (w : World) : (ReflectliteValue.methodAny (ReflectliteValue.valueError "reflectlite.Value.Type" 0) (fun t _ _ _ => ReflectliteType.toType t) #[.agg #[.pointer (some ⟨2, 74, none⟩), .pointer (some a), .int .u64 150]]).run Tryd.prog w
    = .ok (.iface 100 (.agg #[.pointer (some ⟨2, 74, none⟩)])) w := by kernel_rfl
theorem kind2P (w : World) : ((ReflectliteType.abiMethod fun t => (fun a : Nat => Value.int IntKind.u8 (a : Int)) <$> Rtype.kind t) #[.pointer (some ⟨2, 74, none⟩)]).run Tryd.prog w = .ok (.int .u8 22) w := by kernel_rfl
theorem kind1P (w : World) : ((ReflectliteType.abiMethod fun t => (fun a : Nat => Value.int IntKind.u8 (a : Int)) <$> Rtype.kind t) #[.pointer (some ⟨2, 48, none⟩)]).run Tryd.prog w = .ok (.int .u8 22) w := by kernel_rfl
theorem parts2P (a : Addr) (w : World) : (ReflectliteValue.parts (.agg #[.pointer (some ⟨2, 74, none⟩), .pointer (some a), .int .u64 150])).run Tryd.prog w = .ok (some (74, a, 150)) w := by kernel_rfl
theorem isNil2P (a p : Addr) (W : World) (ha : W.cell? a = some (.pointer (some p))) :
    (ReflectliteValue.method (ReflectliteValue.valueError "reflectlite.Value.IsNil" 0) ReflectliteValue.isNil #[.agg #[.pointer (some ⟨2, 74, none⟩), .pointer (some a), .int .u64 150]]).run Tryd.prog W = .ok (.bool false) W := by
  change Sem.run Tryd.prog (ReflectliteValue.parts (.agg #[.pointer (some ⟨2, 74, none⟩), .pointer (some a), .int .u64 150]) >>= _) W = _
  rw [Sem.run_bind, parts2P]
  simp only [Result.andThen]
  simp [ReflectliteValue.isNil, loadVar, isAgg, underlying, Tryd.underlying74, ha, Result.andThen]
theorem elem2P (w : World) : (ReflectliteType.method ReflectliteType.elem #[.agg #[.pointer (some ⟨2, 74, none⟩)]]).run Tryd.prog w = .ok (.iface 100 (.agg #[.pointer (some ⟨2, 48, none⟩)])) w := by kernel_rfl
theorem implements1P (w : World) : (ReflectliteType.relation "Implements" ReflectliteType.implements_ #[.agg #[.pointer (some ⟨2, 48, none⟩)], .iface 100 (.agg #[.pointer (some ⟨2, 26, none⟩)])]).run Tryd.prog w = .ok (.bool true) w := by kernel_rfl
theorem assignableWP (w : World) : (ReflectliteType.relation "AssignableTo" ReflectliteType.assignableTo #[.agg #[.pointer (some ⟨2, 52, none⟩)], .iface 100 (.agg #[.pointer (some ⟨2, 48, none⟩)])]).run Tryd.prog w = .ok (.bool false) w := by kernel_rfl
theorem assignableTP (w : World) : (ReflectliteType.relation "AssignableTo" ReflectliteType.assignableTo #[.agg #[.pointer (some ⟨2, 55, none⟩)], .iface 100 (.agg #[.pointer (some ⟨2, 48, none⟩)])]).run Tryd.prog w = .ok (.bool false) w := by kernel_rfl
theorem assignablePP (w : World) : (ReflectliteType.relation "AssignableTo" ReflectliteType.assignableTo #[.agg #[.pointer (some ⟨2, 48, none⟩)], .iface 100 (.agg #[.pointer (some ⟨2, 48, none⟩)])]).run Tryd.prog w = .ok (.bool true) w := by kernel_rfl
theorem assignableRP (w : World) : (ReflectliteType.relation "AssignableTo" ReflectliteType.assignableTo #[.agg #[.pointer (some ⟨2, 49, none⟩)], .iface 100 (.agg #[.pointer (some ⟨2, 48, none⟩)])]).run Tryd.prog w = .ok (.bool false) w := by kernel_rfl
theorem valueOf1P (e : Addr) (w : World) : (ReflectliteValue.unpack (.iface 48 (.pointer (some e)))).run Tryd.prog w
    = .ok (.agg #[.pointer (some ⟨2, 48, none⟩), .pointer (some ⟨w.heap.size, 0, none⟩), .int .u64 150]) (w.alloc (.cells #[.pointer (some e)] 48)) := by kernel_rfl
theorem elemOf2P (w : World) : (Rtype.elem? 74).run Tryd.prog w = .ok (some 48) w := by kernel_rfl
theorem mk1P (p : Addr) (w : World) : (ReflectliteValue.mk 48 p ReflectliteValue.flagAddr).run Tryd.prog w = .ok (.agg #[.pointer (some ⟨2, 48, none⟩), .pointer (some p), .int .u64 406]) w := by kernel_rfl
theorem elemV2P (a p : Addr) (W : World) (ha : W.cell? a = some (.pointer (some p))) :
    (ReflectliteValue.method (ReflectliteValue.valueError "reflectlite.Value.Elem" 0) ReflectliteValue.elem #[.agg #[.pointer (some ⟨2, 74, none⟩), .pointer (some a), .int .u64 150]]).run Tryd.prog W
      = .ok (.agg #[.pointer (some ⟨2, 48, none⟩), .pointer (some p), .int .u64 406]) W := by
  change Sem.run Tryd.prog (ReflectliteValue.parts (.agg #[.pointer (some ⟨2, 74, none⟩), .pointer (some a), .int .u64 150]) >>= _) W = _
  rw [Sem.run_bind, parts2P]
  simp only [Result.andThen]
  simp [ReflectliteValue.elem, loadVar, isAgg, underlying, Tryd.underlying74, ha, Result.andThen, elemOf2P, mk1P]
theorem parts1aP (a : Addr) (w : World) : (ReflectliteValue.parts (.agg #[.pointer (some ⟨2, 48, none⟩), .pointer (some a), .int .u64 406])).run Tryd.prog w = .ok (some (48, a, 406)) w := by kernel_rfl
theorem parts1P (a : Addr) (w : World) : (ReflectliteValue.parts (.agg #[.pointer (some ⟨2, 48, none⟩), .pointer (some a), .int .u64 150])).run Tryd.prog w = .ok (some (48, a, 150)) w := by kernel_rfl
theorem direct1P (w : World) : (Rtype.directlyAssignable 48 48).run Tryd.prog w = .ok true w := by kernel_rfl
theorem set1P (ta b e : Addr) (old : Value) (W : World) (hb : W.cell? b = some (.pointer (some e))) (ht : W.cell? ta = some old) (hf : W.frozen? ta = false) :
    (ReflectliteValue.set #[.agg #[.pointer (some ⟨2, 48, none⟩), .pointer (some ta), .int .u64 406], .agg #[.pointer (some ⟨2, 48, none⟩), .pointer (some b), .int .u64 150]]).run Tryd.prog W
      = .ok (.tuple #[]) (W.setCell ta (.pointer (some e))) := by
  change Sem.run Tryd.prog (ReflectliteValue.parts (.agg #[.pointer (some ⟨2, 48, none⟩), .pointer (some ta), .int .u64 406]) >>= _) W = _
  rw [Sem.run_bind, parts1aP]
  change Sem.run Tryd.prog (ReflectliteValue.parts (.agg #[.pointer (some ⟨2, 48, none⟩), .pointer (some b), .int .u64 150]) >>= _) W = _
  rw [Sem.run_bind, parts1P]
  simp only [Result.andThen]
  simp [ReflectliteValue.flagAddr, loadVar, isAgg, underlying, Tryd.underlying48, hb, Result.andThen, direct1P, storeVar, Value.cells, storeCells, Addr.add]
  rw [run_store Tryd.prog W ta _ _ (by rfl)]
  simp [ht, hf]

/-! the target T -/
theorem valueOf2T (t : Addr) (w : World) : (ReflectliteValue.unpack (.iface 75 (.pointer (some t)))).run Tryd.prog w
    = .ok (.agg #[.pointer (some ⟨2, 75, none⟩), .pointer (some ⟨w.heap.size, 0, none⟩), .int .u64 150]) (w.alloc (.cells #[.pointer (some t)] 75)) := by kernel_rfl
theorem type2T (a : Addr) (w : World) : (ReflectliteValue.methodAny (ReflectliteValue.valueError "reflectlite.Value.Type" 0) (fun t _ _ _ => ReflectliteType.toType t) #[.agg #[.pointer (some ⟨2, 75, none⟩), .pointer (some a), .int .u64 150]]).run Tryd.prog w
    = .ok (.iface 100 (.agg #[.pointer (some ⟨2, 75, none⟩)])) w := by kernel_rfl
theorem kind2T (w : World) : ((ReflectliteType.abiMethod fun t => (fun a : Nat => Value.int IntKind.u8 (a : Int)) <$> Rtype.kind t) #[.pointer (some ⟨2, 75, none⟩)]).run Tryd.prog w = .ok (.int .u8 22) w := by kernel_rfl
theorem kind1T (w : World) : ((ReflectliteType.abiMethod fun t => (fun a : Nat => Value.int IntKind.u8 (a : Int)) <$> Rtype.kind t) #[.pointer (some ⟨2, 55, none⟩)]).run Tryd.prog w = .ok (.int .u8 22) w := by kernel_rfl
theorem parts2T (a : Addr) (w : World) : (ReflectliteValue.parts (.agg #[.pointer (some ⟨2, 75, none⟩), .pointer (some a), .int .u64 150])).run Tryd.prog w = .ok (some (75, a, 150)) w := by kernel_rfl
theorem isNil2T (a p : Addr) (W : World) (ha : W.cell? a = some (.pointer (some p))) :
    (ReflectliteValue.method (ReflectliteValue.valueError "reflectlite.Value.IsNil" 0) ReflectliteValue.isNil #[.agg #[.pointer (some ⟨2, 75, none⟩), .pointer (some a), .int .u64 150]]).run Tryd.prog W = .ok (.bool false) W := by
  change Sem.run Tryd.prog (ReflectliteValue.parts (.agg #[.pointer (some ⟨2, 75, none⟩), .pointer (some a), .int .u64 150]) >>= _) W = _
  rw [Sem.run_bind, parts2T]
  simp only [Result.andThen]
  simp [ReflectliteValue.isNil, loadVar, isAgg, underlying, Tryd.underlying75, ha, Result.andThen]
theorem elem2T (w : World) : (ReflectliteType.method ReflectliteType.elem #[.agg #[.pointer (some ⟨2, 75, none⟩)]]).run Tryd.prog w = .ok (.iface 100 (.agg #[.pointer (some ⟨2, 55, none⟩)])) w := by kernel_rfl
theorem implements1T (w : World) : (ReflectliteType.relation "Implements" ReflectliteType.implements_ #[.agg #[.pointer (some ⟨2, 55, none⟩)], .iface 100 (.agg #[.pointer (some ⟨2, 26, none⟩)])]).run Tryd.prog w = .ok (.bool true) w := by kernel_rfl
theorem assignableWT (w : World) : (ReflectliteType.relation "AssignableTo" ReflectliteType.assignableTo #[.agg #[.pointer (some ⟨2, 52, none⟩)], .iface 100 (.agg #[.pointer (some ⟨2, 55, none⟩)])]).run Tryd.prog w = .ok (.bool false) w := by kernel_rfl
theorem assignableTT (w : World) : (ReflectliteType.relation "AssignableTo" ReflectliteType.assignableTo #[.agg #[.pointer (some ⟨2, 55, none⟩)], .iface 100 (.agg #[.pointer (some ⟨2, 55, none⟩)])]).run Tryd.prog w = .ok (.bool true) w := by kernel_rfl
theorem assignablePT (w : World) : (ReflectliteType.relation "AssignableTo" ReflectliteType.assignableTo #[.agg #[.pointer (some ⟨2, 48, none⟩)], .iface 100 (.agg #[.pointer (some ⟨2, 55, none⟩)])]).run Tryd.prog w = .ok (.bool false) w := by kernel_rfl
theorem assignableRT (w : World) : (ReflectliteType.relation "AssignableTo" ReflectliteType.assignableTo #[.agg #[.pointer (some ⟨2, 49, none⟩)], .iface 100 (.agg #[.pointer (some ⟨2, 55, none⟩)])]).run Tryd.prog w = .ok (.bool false) w := by kernel_rfl
theorem valueOf1T (e : Addr) (w : World) : (ReflectliteValue.unpack (.iface 55 (.pointer (some e)))).run Tryd.prog w
    = .ok (.agg #[.pointer (some ⟨2, 55, none⟩), .pointer (some ⟨w.heap.size, 0, none⟩), .int .u64 150]) (w.alloc (.cells #[.pointer (some e)] 55)) := by kernel_rfl
theorem elemOf2T (w : World) : (Rtype.elem? 75).run Tryd.prog w = .ok (some 55) w := by kernel_rfl
theorem mk1T (p : Addr) (w : World) : (ReflectliteValue.mk 55 p ReflectliteValue.flagAddr).run Tryd.prog w = .ok (.agg #[.pointer (some ⟨2, 55, none⟩), .pointer (some p), .int .u64 406]) w := by kernel_rfl
theorem elemV2T (a p : Addr) (W : World) (ha : W.cell? a = some (.pointer (some p))) :
    (ReflectliteValue.method (ReflectliteValue.valueError "reflectlite.Value.Elem" 0) ReflectliteValue.elem #[.agg #[.pointer (some ⟨2, 75, none⟩), .pointer (some a), .int .u64 150]]).run Tryd.prog W
      = .ok (.agg #[.pointer (some ⟨2, 55, none⟩), .pointer (some p), .int .u64 406]) W := by
  change Sem.run Tryd.prog (ReflectliteValue.parts (.agg #[.pointer (some ⟨2, 75, none⟩), .pointer (some a), .int .u64 150]) >>= _) W = _
  rw [Sem.run_bind, parts2T]
  simp only [Result.andThen]
  simp [ReflectliteValue.elem, loadVar, isAgg, underlying, Tryd.underlying75, ha, Result.andThen, elemOf2T, mk1T]
theorem parts1aT (a : Addr) (w : World) : (ReflectliteValue.parts (.agg #[.pointer (some ⟨2, 55, none⟩), .pointer (some a), .int .u64 406])).run Tryd.prog w = .ok (some (55, a, 406)) w := by kernel_rfl
theorem parts1T (a : Addr) (w : World) : (ReflectliteValue.parts (.agg #[.pointer (some ⟨2, 55, none⟩), .pointer (some a), .int .u64 150])).run Tryd.prog w = .ok (some (55, a, 150)) w := by kernel_rfl
theorem direct1T (w : World) : (Rtype.directlyAssignable 55 55).run Tryd.prog w = .ok true w := by kernel_rfl
theorem set1T (ta b e : Addr) (old : Value) (W : World) (hb : W.cell? b = some (.pointer (some e))) (ht : W.cell? ta = some old) (hf : W.frozen? ta = false) :
    (ReflectliteValue.set #[.agg #[.pointer (some ⟨2, 55, none⟩), .pointer (some ta), .int .u64 406], .agg #[.pointer (some ⟨2, 55, none⟩), .pointer (some b), .int .u64 150]]).run Tryd.prog W
      = .ok (.tuple #[]) (W.setCell ta (.pointer (some e))) := by
  change Sem.run Tryd.prog (ReflectliteValue.parts (.agg #[.pointer (some ⟨2, 55, none⟩), .pointer (some ta), .int .u64 406]) >>= _) W = _
  rw [Sem.run_bind, parts1aT]
  change Sem.run Tryd.prog (ReflectliteValue.parts (.agg #[.pointer (some ⟨2, 55, none⟩), .pointer (some b), .int .u64 150]) >>= _) W = _
  rw [Sem.run_bind, parts1T]
  simp only [Result.andThen]
  simp [ReflectliteValue.flagAddr, loadVar, isAgg, underlying, Tryd.underlying55, hb, Result.andThen, direct1T, storeVar, Value.cells, storeCells, Addr.add]
  rw [run_store Tryd.prog W ta _ _ (by rfl)]
  simp [ht, hf]
end Go.Proofs.YtakbbhhhdcnlnaaDoor
