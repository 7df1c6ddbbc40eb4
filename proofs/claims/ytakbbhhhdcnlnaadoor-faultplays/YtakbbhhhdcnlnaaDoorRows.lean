/-
  NARROWER THAN 'FOR EVERY INPUT', by the rows' own cells (each row's printed sentence says how): FaultPlays: laid · FaultNames: laid · FaultDeep: laid · FaultNone: laid.
  DERIVED. THE GIVEN ROWS OF THIS SEAT. 4 by the template 'for every input the law returns true; each argument reads behind the call as it read before'; 0 by the template 'total and deterministic' (their statements: YtakbbhhhdcnlnaaDoorTotals.lean).
  GIVEN WITH THE SEED: the statements are not yours to turn. If you find one false, say at which input.
  Laid BY PROGRAM, IN A SANDBOX (cutbox-rows.mjs): the forced cells as the released guide's own fill.sh prints them over the translation 068339b09cc95d44… (all of the seat's roots in one cut). By AI agents, Wed Nov 11 2026. No macro, syntax, notation, axiom, sorry.
-/
import Derived.Test.YtakbbhhhdcnlnaaDoorChecked
import GoSem.Claim
import GoSem.ClaimJoined
import GoSem.ClaimMapViews
import Derived.JoinedTies
import Derived.KernelRfl
namespace Go.Proofs.YtakbbhhhdcnlnaaDoor
/- THE CELL 'sum', in the pinned program and in every row, IS THE sha256 OF THE DUMP (.gsa) THAT YtakbbhhhdcnlnaaDoorProg.lean LOADS. Nothing in Lean hashes anything: it is a label: what it is worth is what the hold of that sum in a sandbox is worth. -/
noncomputable def Tryd.pinned : Pinned := { name := "ytakbbhhhdcnlnaadoor", sum := "068339b09cc95d44389c84c8eb30c13ad33aa83d86e208668deae0ec7ff8d1ea", checked := Tryd.checked }
namespace Rows
def none {H : Type} : Left H := { results := [], args := [] }

/- WHAT THE LISTED PACKAGE-LEVEL VARIABLES READ AS WHEN THE CALL BEGINS. Each datum BY PROGRAM (the guide's laid-datum.mjs) off the statement by which the dump's own 'gosem.cut.vars' lays the variable. In a bare row this is a premise. The card (YtakbbhhhdcnlnaaDoorCards.lean) ties it to the program's text. -/
def laid_errors_errorType {H : Type} : DataW H := .iface "internal/reflectlite.rtype" (.agg [.ptr (.lit (.string [101, 114, 114, 111, 114]))])
def laid_orthoepy_fault_names {H : Type} : DataW H := .agg [.lit (.string [111, 107]), .lit (.string [97, 114, 103, 117, 109, 101, 110, 116]), .lit (.string [116, 101, 120, 116]), .lit (.string [101, 110, 100]), .lit (.string [117, 116, 102, 56]), .lit (.string [115, 117, 114, 114, 111, 103, 97, 116, 101]), .lit (.string [110, 111, 110, 99, 104, 97, 114, 97, 99, 116, 101, 114]), .lit (.string [102, 114, 97, 99, 116, 105, 111, 110]), .lit (.string [114, 97, 110, 103, 101]), .lit (.string [116, 119, 105, 99, 101]), .lit (.string [98, 121, 116, 101, 115]), .lit (.string [100, 101, 112, 116, 104]), .lit (.string [110, 111, 100, 101, 115]), .lit (.string [107, 101, 121]), .lit (.string [108, 111, 110, 103]), .lit (.string [112, 111, 105, 110, 116, 101, 114]), .lit (.string [110, 111, 110, 101]), .lit (.string [115, 116, 97, 116, 101]), .lit (.string [98, 105, 103]), .lit (.string [108, 105, 110, 101])]

/-- 'orthoepylaw14.FaultPlays': WHATEVER THE INPUT: true; the input reads as it did. -/
def faultPlaysSpec : ChangeSpec := { name := "faultPlays", fn := fun _ => fun
  | [d1, d2, d3, d4, d5] => { results := [.lit (.bool true)], args := [d1, d2, d3, d4, d5] }
  | _ => none }
def faultPlaysRow : OpenClaim := { program := "ytakbbhhhdcnlnaadoor", sum := "068339b09cc95d44389c84c8eb30c13ad33aa83d86e208668deae0ec7ff8d1ea", func := "orthoepy/orthoepylaw14.FaultPlays", spec := "faultPlays", inPlace := ["internal/reflectlite.ValueOf", "(internal/reflectlite.Value).Type", "(internal/reflectlite.Value).IsNil", "internal/reflectlite.TypeOf", "(internal/reflectlite.Value).Elem", "(internal/reflectlite.Value).Set", "internal/abi.NoEscape"], unfollowed := true, recurses := true, named := ["errors.errorType", "orthoepy/fault.names"], apart := false, laid := [("errors.errorType", laid_errors_errorType), ("orthoepy/fault.names", laid_orthoepy_fault_names)] }
def FaultPlaysSaid : Prop := faultPlaysRow.holds Tryd.pinned (OpenSpec.ofChange faultPlaysSpec)

/-- ITS FALSE NEIGHBOUR: 'it returns false'. Refute it at one input. -/
def faultPlaysWrong : ChangeSpec := { name := "faultPlays", fn := fun _ => fun
  | [d1, d2, d3, d4, d5] => { results := [.lit (.bool false)], args := [d1, d2, d3, d4, d5] }
  | _ => none }
def FaultPlaysWrongFalsely : Prop := faultPlaysRow.holds Tryd.pinned (OpenSpec.ofChange faultPlaysWrong)

/-- 'orthoepylaw14.FaultNames': WHATEVER THE INPUT: true; the input reads as it did. -/
def faultNamesSpec : ChangeSpec := { name := "faultNames", fn := fun _ => fun
  | [d1, d2] => { results := [.lit (.bool true)], args := [d1, d2] }
  | _ => none }
def faultNamesRow : OpenClaim := { program := "ytakbbhhhdcnlnaadoor", sum := "068339b09cc95d44389c84c8eb30c13ad33aa83d86e208668deae0ec7ff8d1ea", func := "orthoepy/orthoepylaw14.FaultNames", spec := "faultNames", inPlace := ["internal/reflectlite.ValueOf", "(internal/reflectlite.Value).Type", "(internal/reflectlite.Value).IsNil", "internal/reflectlite.TypeOf", "(internal/reflectlite.Value).Elem", "(internal/reflectlite.Value).Set", "internal/abi.NoEscape"], unfollowed := true, recurses := true, named := ["orthoepy/fault.names", "errors.errorType"], apart := false, laid := [("errors.errorType", laid_errors_errorType), ("orthoepy/fault.names", laid_orthoepy_fault_names)] }
def FaultNamesSaid : Prop := faultNamesRow.holds Tryd.pinned (OpenSpec.ofChange faultNamesSpec)

/-- ITS FALSE NEIGHBOUR: 'it returns false'. Refute it at one input. -/
def faultNamesWrong : ChangeSpec := { name := "faultNames", fn := fun _ => fun
  | [d1, d2] => { results := [.lit (.bool false)], args := [d1, d2] }
  | _ => none }
def FaultNamesWrongFalsely : Prop := faultNamesRow.holds Tryd.pinned (OpenSpec.ofChange faultNamesWrong)

/-- 'orthoepylaw14.FaultDeep': WHATEVER THE INPUT: true; the input reads as it did. -/
def faultDeepSpec : ChangeSpec := { name := "faultDeep", fn := fun _ => fun
  | [d1, d2, d3, d4] => { results := [.lit (.bool true)], args := [d1, d2, d3, d4] }
  | _ => none }
def faultDeepRow : OpenClaim := { program := "ytakbbhhhdcnlnaadoor", sum := "068339b09cc95d44389c84c8eb30c13ad33aa83d86e208668deae0ec7ff8d1ea", func := "orthoepy/orthoepylaw14.FaultDeep", spec := "faultDeep", inPlace := ["internal/reflectlite.ValueOf", "(internal/reflectlite.Value).Type", "(internal/reflectlite.Value).IsNil", "internal/reflectlite.TypeOf", "(internal/reflectlite.Value).Elem", "(internal/reflectlite.Value).Set", "internal/abi.NoEscape"], unfollowed := true, recurses := true, named := ["errors.errorType", "orthoepy/fault.names"], apart := false, laid := [("errors.errorType", laid_errors_errorType), ("orthoepy/fault.names", laid_orthoepy_fault_names)] }
def FaultDeepSaid : Prop := faultDeepRow.holds Tryd.pinned (OpenSpec.ofChange faultDeepSpec)

/-- ITS FALSE NEIGHBOUR: 'it returns false'. Refute it at one input. -/
def faultDeepWrong : ChangeSpec := { name := "faultDeep", fn := fun _ => fun
  | [d1, d2, d3, d4] => { results := [.lit (.bool false)], args := [d1, d2, d3, d4] }
  | _ => none }
def FaultDeepWrongFalsely : Prop := faultDeepRow.holds Tryd.pinned (OpenSpec.ofChange faultDeepWrong)

/-- 'orthoepylaw14.FaultNone': WHATEVER THE INPUT: true; the input reads as it did. -/
def faultNoneSpec : ChangeSpec := { name := "faultNone", fn := fun _ => fun
  | [d1, d2, d3, d4] => { results := [.lit (.bool true)], args := [d1, d2, d3, d4] }
  | _ => none }
def faultNoneRow : OpenClaim := { program := "ytakbbhhhdcnlnaadoor", sum := "068339b09cc95d44389c84c8eb30c13ad33aa83d86e208668deae0ec7ff8d1ea", func := "orthoepy/orthoepylaw14.FaultNone", spec := "faultNone", inPlace := ["internal/reflectlite.ValueOf", "(internal/reflectlite.Value).Type", "(internal/reflectlite.Value).IsNil", "internal/reflectlite.TypeOf", "(internal/reflectlite.Value).Elem", "(internal/reflectlite.Value).Set", "internal/abi.NoEscape"], unfollowed := true, recurses := true, named := ["errors.errorType", "orthoepy/fault.names"], apart := false, laid := [("errors.errorType", laid_errors_errorType), ("orthoepy/fault.names", laid_orthoepy_fault_names)] }
def FaultNoneSaid : Prop := faultNoneRow.holds Tryd.pinned (OpenSpec.ofChange faultNoneSpec)

/-- ITS FALSE NEIGHBOUR: 'it returns false'. Refute it at one input. -/
def faultNoneWrong : ChangeSpec := { name := "faultNone", fn := fun _ => fun
  | [d1, d2, d3, d4] => { results := [.lit (.bool false)], args := [d1, d2, d3, d4] }
  | _ => none }
def FaultNoneWrongFalsely : Prop := faultNoneRow.holds Tryd.pinned (OpenSpec.ofChange faultNoneWrong)

/- THE SECOND FORM. 'bulk': how many values and letters a reading holds, each counted each time it is reached (what is shared counts as often as it is met; a slice's spare places count too). A statement '..UptoSaid' is the law's where the arguments, and the package variables that the reading takes, are together of bulk at most 1048576: NARROWER than '..Said'. Prove '..Said' where nothing that the law and all that it calls make is longer than what came in: it says more and counts as full. Else prove '..UptoSaid'. A law counts once. -/
mutual
def uptoBulk {H : Type} : DataW H → Nat
  | .lit (.string bytes) => bytes.length + 1
  | .lit _ => 1
  | .nil => 1
  | .ptr d => uptoBulk d + 1
  | .slice elems spare => uptoBulkAll elems + uptoBulkAll spare + 1
  | .agg parts => uptoBulkAll parts + 1
  | .iface _ d => uptoBulk d + 1
  | .map entries => uptoBulkEntries entries + 1
  | .held _ => 1
def uptoBulkAll {H : Type} : List (DataW H) → Nat
  | [] => 0
  | d :: r => uptoBulk d + uptoBulkAll r
def uptoBulkEntries {H : Type} : List (Lit × DataW H) → Nat
  | [] => 0
  | x :: r => uptoBulkEntry x + uptoBulkEntries r
def uptoBulkEntry {H : Type} : Lit × DataW H → Nat
  | (.string bytes, d) => bytes.length + uptoBulk d + 1
  | (_, d) => uptoBulk d + 1
 end
def uptoSmall : (H : Type) → List (DataW H) → Bool := fun _ ds => decide (uptoBulkAll ds ≤ 1048576)
def OpenSpec.upto (s : _root_.Go.ChangeSpec) : _root_.Go.OpenSpec := { _root_.Go.OpenSpec.ofChange s with cond := some uptoSmall }

/-- 'orthoepylaw14.FaultPlays', WHERE WHAT IT READS IS OF BULK AT MOST 1048576: true; the input reads as it did. -/
def faultPlaysUptoRow : OpenClaim := { program := "ytakbbhhhdcnlnaadoor", sum := "068339b09cc95d44389c84c8eb30c13ad33aa83d86e208668deae0ec7ff8d1ea", func := "orthoepy/orthoepylaw14.FaultPlays", spec := "faultPlays", inPlace := ["internal/reflectlite.ValueOf", "(internal/reflectlite.Value).Type", "(internal/reflectlite.Value).IsNil", "internal/reflectlite.TypeOf", "(internal/reflectlite.Value).Elem", "(internal/reflectlite.Value).Set", "internal/abi.NoEscape"], unfollowed := true, recurses := true, named := ["errors.errorType", "orthoepy/fault.names"], apart := false, laid := [("errors.errorType", laid_errors_errorType), ("orthoepy/fault.names", laid_orthoepy_fault_names)], narrowed := true }
def FaultPlaysUptoSaid : Prop := faultPlaysUptoRow.holds Tryd.pinned (OpenSpec.upto faultPlaysSpec)

/-- 'orthoepylaw14.FaultNames', WHERE WHAT IT READS IS OF BULK AT MOST 1048576: true; the input reads as it did. -/
def faultNamesUptoRow : OpenClaim := { program := "ytakbbhhhdcnlnaadoor", sum := "068339b09cc95d44389c84c8eb30c13ad33aa83d86e208668deae0ec7ff8d1ea", func := "orthoepy/orthoepylaw14.FaultNames", spec := "faultNames", inPlace := ["internal/reflectlite.ValueOf", "(internal/reflectlite.Value).Type", "(internal/reflectlite.Value).IsNil", "internal/reflectlite.TypeOf", "(internal/reflectlite.Value).Elem", "(internal/reflectlite.Value).Set", "internal/abi.NoEscape"], unfollowed := true, recurses := true, named := ["orthoepy/fault.names", "errors.errorType"], apart := false, laid := [("errors.errorType", laid_errors_errorType), ("orthoepy/fault.names", laid_orthoepy_fault_names)], narrowed := true }
def FaultNamesUptoSaid : Prop := faultNamesUptoRow.holds Tryd.pinned (OpenSpec.upto faultNamesSpec)

/-- 'orthoepylaw14.FaultDeep', WHERE WHAT IT READS IS OF BULK AT MOST 1048576: true; the input reads as it did. -/
def faultDeepUptoRow : OpenClaim := { program := "ytakbbhhhdcnlnaadoor", sum := "068339b09cc95d44389c84c8eb30c13ad33aa83d86e208668deae0ec7ff8d1ea", func := "orthoepy/orthoepylaw14.FaultDeep", spec := "faultDeep", inPlace := ["internal/reflectlite.ValueOf", "(internal/reflectlite.Value).Type", "(internal/reflectlite.Value).IsNil", "internal/reflectlite.TypeOf", "(internal/reflectlite.Value).Elem", "(internal/reflectlite.Value).Set", "internal/abi.NoEscape"], unfollowed := true, recurses := true, named := ["errors.errorType", "orthoepy/fault.names"], apart := false, laid := [("errors.errorType", laid_errors_errorType), ("orthoepy/fault.names", laid_orthoepy_fault_names)], narrowed := true }
def FaultDeepUptoSaid : Prop := faultDeepUptoRow.holds Tryd.pinned (OpenSpec.upto faultDeepSpec)

/-- 'orthoepylaw14.FaultNone', WHERE WHAT IT READS IS OF BULK AT MOST 1048576: true; the input reads as it did. -/
def faultNoneUptoRow : OpenClaim := { program := "ytakbbhhhdcnlnaadoor", sum := "068339b09cc95d44389c84c8eb30c13ad33aa83d86e208668deae0ec7ff8d1ea", func := "orthoepy/orthoepylaw14.FaultNone", spec := "faultNone", inPlace := ["internal/reflectlite.ValueOf", "(internal/reflectlite.Value).Type", "(internal/reflectlite.Value).IsNil", "internal/reflectlite.TypeOf", "(internal/reflectlite.Value).Elem", "(internal/reflectlite.Value).Set", "internal/abi.NoEscape"], unfollowed := true, recurses := true, named := ["errors.errorType", "orthoepy/fault.names"], apart := false, laid := [("errors.errorType", laid_errors_errorType), ("orthoepy/fault.names", laid_orthoepy_fault_names)], narrowed := true }
def FaultNoneUptoSaid : Prop := faultNoneUptoRow.holds Tryd.pinned (OpenSpec.upto faultNoneSpec)

end Rows
end Go.Proofs.YtakbbhhhdcnlnaaDoor
