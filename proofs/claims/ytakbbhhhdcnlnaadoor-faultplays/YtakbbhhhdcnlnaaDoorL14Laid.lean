/- Layer 14: what the row's list of variables gives. -/
import Derived.Test.YtakbbhhhdcnlnaaDoorRows
import Derived.Test.YtakbbhhhdcnlnaaDoorN14Awk
import Derived.OpenShut
import Derived.ChangeArms
import Derived.LaidHandle
namespace Go.Proofs.YtakbbhhhdcnlnaaDoor
set_option maxRecDepth 100000
open Go.ChangeShapes Go.WideShapes Go.RowKit
set_option linter.unusedVariables false
set_option linter.unusedSimpArgs false

theorem gNames : Tryd.prog.globalNamed "orthoepy/fault.names" = some 0 := by kernel_rfl
theorem gNamesT : (Tryd.prog.globals[0]?).map (·.type) = some 70 := by kernel_rfl
theorem gErr : Tryd.prog.globalNamed "errors.errorType" = some 1 := by kernel_rfl
theorem rtRow : (Tryd.prog.cutTypes.find? (·.1 == "internal/reflectlite.rtype")).map (·.2) = some 100 := by kernel_rfl
theorem nTypes : Tryd.prog.types.size = 140 := by kernel_rfl
theorem errRow : ((List.range 140).filter fun t => Tryd.prog.rowNamed t [101, 114, 114, 111, 114]) = [26] := by kernel_rfl
theorem errHandle : typeHandle Tryd.prog 26 = .pointer (some ⟨2, 26, none⟩) := by kernel_rfl
theorem names_lit : Rows.laid_orthoepy_fault_names (H := Unit) = .agg (nameL.map fun l => .lit (.string l)) := rfl
theorem nameA_list : nameA.toList = nameL.map fun l => Value.string (bs l) := rfl
theorem var_at {w : World} {nm : String} {g : Nat} {cs : Array Value} (hg : Tryd.prog.globalNamed nm = some g) (h : w.var? Tryd.prog nm = some cs) : VarAt w g cs := by
  unfold World.var? at h
  rw [hg] at h
  simp only [Option.bind_some] at h
  split at h
  · rename_i cs' t' fr' hh
    injection h with h
    subst h
    exact ⟨_, _, hh⟩
  · cases h
/-- what the variable errors.errorType holds, for a witness -/
def errA : Array Value := #[.iface 100 (.agg #[.pointer (some ⟨2, 26, none⟩)])]
/-- a row of strings, by what it reads as -/
theorem strs_cells {H : Type} {enc : TypeId × Value → H} {w : World} {base : Nat} {sp : Nat → Bool} {held : Bool} {fuel : Nat} {cs : List Value} {ds : List (List UInt8)} {p : List MemPlace}
    (h : DataW.trod enc Tryd.prog w base sp held fuel 70 cs = some (.agg (ds.map fun l => .lit (.string l)), p)) : cs = ds.map fun l => Value.string (bs l) := by
  have c1 : Tryd.prog.cellsOf 9 = 1 := by kernel_rfl
  have c20 : Tryd.prog.cellsOf 70 = 20 := by kernel_rfl
  obtain ⟨xs, m, _, hx, hlen, hxl, hel⟩ := DataW.trod_array Tryd.underlying70 h
  rw [c20] at hlen
  rw [c1] at hel
  have e1 := congrArg Prod.fst hx
  simp only [DataW.agg.injEq] at e1
  have hdl : ds.length = 20 := by have := congrArg List.length e1; simpa [hxl] using this
  refine List.ext_getElem? fun i => ?_
  by_cases hi : i < 20
  · have k := hel i hi
    have hxi : i < xs.length := by omega
    have hdi : i < ds.length := by omega
    rw [List.getElem?_eq_getElem hxi] at k
    obtain ⟨s, hs, hp, _⟩ := DataW.trod_string Tryd.underlying9 k
    have e2 : (xs.map (·.1))[i]? = (ds.map fun l => DataW.lit (H := H) (.string l))[i]? := by rw [e1]
    rw [List.getElem?_map, List.getElem?_map, List.getElem?_eq_getElem hxi, List.getElem?_eq_getElem hdi, hp] at e2
    simp only [Option.map_some, Option.some.injEq, DataW.lit.injEq, Lit.string.injEq] at e2
    have e3 : ((cs.drop (i * 1)).take 1)[0]? = some (.string s) := by rw [hs]; rfl
    rw [List.getElem?_take, if_pos (by omega), List.getElem?_drop] at e3
    simp only [Nat.mul_one, Nat.add_zero] at e3
    rw [e3, List.getElem?_map, List.getElem?_eq_getElem hdi, Option.map_some, ← e2]
    congr 2
  · rw [List.getElem?_eq_none (by omega), List.getElem?_eq_none (by rw [List.length_map]; omega)]
theorem vs_of_laid {W : World} (h : laidMetH Tryd.prog [("errors.errorType", Rows.laid_errors_errorType), ("orthoepy/fault.names", Rows.laid_orthoepy_fault_names)] W) : Vs W := by
  have h' : laidMet Tryd.prog [("orthoepy/fault.names", Rows.laid_orthoepy_fault_names)] W ∧ handlesMet Tryd.prog [("errors.errorType", Rows.laid_errors_errorType)] W := h
  refine ⟨?_, ?_⟩
  · obtain ⟨name, u, ty, e1, e2, e3, e4, e5⟩ := h'.2 _ (List.mem_singleton.2 rfl)
    have en : name = [101, 114, 114, 111, 114] := (Option.some.inj e1).symm
    subst en
    obtain rfl := Option.some.inj (rtRow.symm.trans e2)
    have hm : ty ∈ (List.range 140).filter fun t => Tryd.prog.rowNamed t [101, 114, 114, 111, 114] := List.mem_filter.2 ⟨List.mem_range.2 (by rw [← nTypes]; exact e3), e4⟩
    rw [errRow] at hm
    obtain rfl := List.mem_singleton.1 hm
    rw [errHandle] at e5
    exact var_at gErr e5
  · obtain ⟨ps, ⟨g', t', cs, fuel, p, q, hg', ht', hvar, hd, _, _⟩, _⟩ := h'.1
    obtain rfl := Option.some.inj (gNamesT.symm.trans (by rw [Option.some.inj (gNames.symm.trans hg')]; exact ht'))
    rw [names_lit] at hd
    have hc := strs_cells hd
    have hcs : cs = nameA := by
      apply Array.toList_inj.1
      rw [nameA_list]
      exact hc
    subst hcs
    exact var_at gNames hvar
end Go.Proofs.YtakbbhhhdcnlnaaDoor
