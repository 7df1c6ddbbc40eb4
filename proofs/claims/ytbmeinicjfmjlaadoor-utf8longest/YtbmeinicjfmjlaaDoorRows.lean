/-
  NARROWER THAN 'FOR EVERY INPUT', by the rows' own cells (each row's printed sentence says how): Utf8All: laid · Utf8Back: laid · Utf8Longest: laid · Utf8Reader: laid · Utf8Turned: laid.
  DERIVED. THE GIVEN ROWS OF THIS SEAT. 5 by the template 'for every input the law returns true; each argument reads behind the call as it read before'; 0 by the template 'total and deterministic' (their statements: YtbmeinicjfmjlaaDoorTotals.lean).
  GIVEN WITH THE SEED: the statements are not yours to turn. If you find one false, say at which input.
  Laid BY PROGRAM, IN A SANDBOX (cutbox-rows.mjs): the forced cells as the released guide's own fill.sh prints them over the translation 19a3a3f41a996918… (all of the seat's roots in one cut). By AI agents, Wed Nov 11 2026. No macro, syntax, notation, axiom, sorry.
-/
import Derived.Test.YtbmeinicjfmjlaaDoorChecked
import GoSem.Claim
import GoSem.ClaimJoined
import GoSem.ClaimMapViews
import Derived.JoinedTies
import Derived.KernelRfl
namespace Go.Proofs.YtbmeinicjfmjlaaDoor
/- THE CELL 'sum', in the pinned program and in every row, IS THE sha256 OF THE DUMP (.gsa) THAT YtbmeinicjfmjlaaDoorProg.lean LOADS. Nothing in Lean hashes anything: it is a label: what it is worth is what the hold of that sum in a sandbox is worth. -/
noncomputable def Tryd.pinned : Pinned := { name := "ytbmeinicjfmjlaadoor", sum := "19a3a3f41a996918f906347c6ebe22872705d33f6ede40d751f48b39e63a8b24", checked := Tryd.checked }
namespace Rows
def none {H : Type} : Left H := { results := [], args := [] }

/- WHAT THE LISTED PACKAGE-LEVEL VARIABLES READ AS WHEN THE CALL BEGINS. Each datum BY PROGRAM (the guide's laid-datum.mjs) off the statement by which the dump's own 'gosem.cut.vars' lays the variable. In a bare row this is a premise. The card (YtbmeinicjfmjlaaDoorCards.lean) ties it to the program's text. -/
def laid_orthoepy_utf8_leads {H : Type} : DataW H := .agg [.agg [.lit (.int .u8 0), .lit (.int .u8 127), .lit (.int .u8 0), .lit (.int .i64 1), .lit (.int .u8 0), .lit (.int .u8 0)], .agg [.lit (.int .u8 194), .lit (.int .u8 223), .lit (.int .u8 192), .lit (.int .i64 2), .lit (.int .u8 128), .lit (.int .u8 191)], .agg [.lit (.int .u8 224), .lit (.int .u8 224), .lit (.int .u8 224), .lit (.int .i64 3), .lit (.int .u8 160), .lit (.int .u8 191)], .agg [.lit (.int .u8 225), .lit (.int .u8 236), .lit (.int .u8 224), .lit (.int .i64 3), .lit (.int .u8 128), .lit (.int .u8 191)], .agg [.lit (.int .u8 237), .lit (.int .u8 237), .lit (.int .u8 224), .lit (.int .i64 3), .lit (.int .u8 128), .lit (.int .u8 159)], .agg [.lit (.int .u8 238), .lit (.int .u8 239), .lit (.int .u8 224), .lit (.int .i64 3), .lit (.int .u8 128), .lit (.int .u8 191)], .agg [.lit (.int .u8 240), .lit (.int .u8 240), .lit (.int .u8 240), .lit (.int .i64 4), .lit (.int .u8 144), .lit (.int .u8 191)], .agg [.lit (.int .u8 241), .lit (.int .u8 243), .lit (.int .u8 240), .lit (.int .i64 4), .lit (.int .u8 128), .lit (.int .u8 191)], .agg [.lit (.int .u8 244), .lit (.int .u8 244), .lit (.int .u8 240), .lit (.int .i64 4), .lit (.int .u8 128), .lit (.int .u8 143)]]

/-- 'orthoepylaw02.Utf8All': WHATEVER THE INPUT: true; the input reads as it did. -/
def utf8AllSpec : ChangeSpec := { name := "utf8All", fn := fun _ => fun
  | [d1, d2, d3] => { results := [.lit (.bool true)], args := [d1, d2, d3] }
  | _ => none }
def utf8AllRow : OpenClaim := { program := "ytbmeinicjfmjlaadoor", sum := "19a3a3f41a996918f906347c6ebe22872705d33f6ede40d751f48b39e63a8b24", func := "orthoepy/orthoepylaw02.Utf8All", spec := "utf8All", named := ["orthoepy/utf8.leads"], apart := false, laid := [("orthoepy/utf8.leads", laid_orthoepy_utf8_leads)] }
def Utf8AllSaid : Prop := utf8AllRow.holds Tryd.pinned (OpenSpec.ofChange utf8AllSpec)

/-- ITS FALSE NEIGHBOUR: 'it returns false'. Refute it at one input. -/
def utf8AllWrong : ChangeSpec := { name := "utf8All", fn := fun _ => fun
  | [d1, d2, d3] => { results := [.lit (.bool false)], args := [d1, d2, d3] }
  | _ => none }
def Utf8AllWrongFalsely : Prop := utf8AllRow.holds Tryd.pinned (OpenSpec.ofChange utf8AllWrong)

/-- 'orthoepylaw02.Utf8Back': WHATEVER THE INPUT: true; the input reads as it did. -/
def utf8BackSpec : ChangeSpec := { name := "utf8Back", fn := fun _ => fun
  | [d] => { results := [.lit (.bool true)], args := [d] }
  | _ => none }
def utf8BackRow : OpenClaim := { program := "ytbmeinicjfmjlaadoor", sum := "19a3a3f41a996918f906347c6ebe22872705d33f6ede40d751f48b39e63a8b24", func := "orthoepy/orthoepylaw02.Utf8Back", spec := "utf8Back", named := ["orthoepy/utf8.leads"], apart := false, laid := [("orthoepy/utf8.leads", laid_orthoepy_utf8_leads)] }
def Utf8BackSaid : Prop := utf8BackRow.holds Tryd.pinned (OpenSpec.ofChange utf8BackSpec)

/-- ITS FALSE NEIGHBOUR: 'it returns false'. Refute it at one input. -/
def utf8BackWrong : ChangeSpec := { name := "utf8Back", fn := fun _ => fun
  | [d] => { results := [.lit (.bool false)], args := [d] }
  | _ => none }
def Utf8BackWrongFalsely : Prop := utf8BackRow.holds Tryd.pinned (OpenSpec.ofChange utf8BackWrong)

/-- 'orthoepylaw02.Utf8Longest': WHATEVER THE INPUT: true; the input reads as it did. -/
def utf8LongestSpec : ChangeSpec := { name := "utf8Longest", fn := fun _ => fun
  | [d1, d2] => { results := [.lit (.bool true)], args := [d1, d2] }
  | _ => none }
def utf8LongestRow : OpenClaim := { program := "ytbmeinicjfmjlaadoor", sum := "19a3a3f41a996918f906347c6ebe22872705d33f6ede40d751f48b39e63a8b24", func := "orthoepy/orthoepylaw02.Utf8Longest", spec := "utf8Longest", named := ["orthoepy/utf8.leads"], apart := false, laid := [("orthoepy/utf8.leads", laid_orthoepy_utf8_leads)] }
def Utf8LongestSaid : Prop := utf8LongestRow.holds Tryd.pinned (OpenSpec.ofChange utf8LongestSpec)

/-- ITS FALSE NEIGHBOUR: 'it returns false'. Refute it at one input. -/
def utf8LongestWrong : ChangeSpec := { name := "utf8Longest", fn := fun _ => fun
  | [d1, d2] => { results := [.lit (.bool false)], args := [d1, d2] }
  | _ => none }
def Utf8LongestWrongFalsely : Prop := utf8LongestRow.holds Tryd.pinned (OpenSpec.ofChange utf8LongestWrong)

/-- 'orthoepylaw02.Utf8Reader': WHATEVER THE INPUT: true; the input reads as it did. -/
def utf8ReaderSpec : ChangeSpec := { name := "utf8Reader", fn := fun _ => fun
  | [d] => { results := [.lit (.bool true)], args := [d] }
  | _ => none }
def utf8ReaderRow : OpenClaim := { program := "ytbmeinicjfmjlaadoor", sum := "19a3a3f41a996918f906347c6ebe22872705d33f6ede40d751f48b39e63a8b24", func := "orthoepy/orthoepylaw02.Utf8Reader", spec := "utf8Reader", named := ["orthoepy/utf8.leads"], apart := false, laid := [("orthoepy/utf8.leads", laid_orthoepy_utf8_leads)] }
def Utf8ReaderSaid : Prop := utf8ReaderRow.holds Tryd.pinned (OpenSpec.ofChange utf8ReaderSpec)

/-- ITS FALSE NEIGHBOUR: 'it returns false'. Refute it at one input. -/
def utf8ReaderWrong : ChangeSpec := { name := "utf8Reader", fn := fun _ => fun
  | [d] => { results := [.lit (.bool false)], args := [d] }
  | _ => none }
def Utf8ReaderWrongFalsely : Prop := utf8ReaderRow.holds Tryd.pinned (OpenSpec.ofChange utf8ReaderWrong)

/-- 'orthoepylaw02.Utf8Turned': WHATEVER THE INPUT: true; the input reads as it did. -/
def utf8TurnedSpec : ChangeSpec := { name := "utf8Turned", fn := fun _ => fun
  | [d1, d2, d3] => { results := [.lit (.bool true)], args := [d1, d2, d3] }
  | _ => none }
def utf8TurnedRow : OpenClaim := { program := "ytbmeinicjfmjlaadoor", sum := "19a3a3f41a996918f906347c6ebe22872705d33f6ede40d751f48b39e63a8b24", func := "orthoepy/orthoepylaw02.Utf8Turned", spec := "utf8Turned", named := ["orthoepy/utf8.leads"], apart := false, laid := [("orthoepy/utf8.leads", laid_orthoepy_utf8_leads)] }
def Utf8TurnedSaid : Prop := utf8TurnedRow.holds Tryd.pinned (OpenSpec.ofChange utf8TurnedSpec)

/-- ITS FALSE NEIGHBOUR: 'it returns false'. Refute it at one input. -/
def utf8TurnedWrong : ChangeSpec := { name := "utf8Turned", fn := fun _ => fun
  | [d1, d2, d3] => { results := [.lit (.bool false)], args := [d1, d2, d3] }
  | _ => none }
def Utf8TurnedWrongFalsely : Prop := utf8TurnedRow.holds Tryd.pinned (OpenSpec.ofChange utf8TurnedWrong)

/- THE SECOND FORM. 'bulk': how many values and letters a reading holds, each counted each time it is reached (what is shared counts as often as it is met; a slice's spare places count too). A statement '..UptoSaid' is the law's where the arguments, and the package variables that the reading takes, are together of bulk at most 1048576: NARROWER than '..Said'. Prove '..Said' where nothing that the law and all that it calls make is longer than what came in: it says more and counts as full. Else prove '..UptoSaid'. A law counts once. -/
mutual
def uptoBulk {H : Type} : DataW H → Nat
  | .lit (.string bytes) => bytes.length + 1
  | .lit _ => 1
  | .nil => 1
  | .ptr d => uptoBulk d + 1
  | .slice elems spare => uptoBulkAll elems + uptoBulkAll spare + 1
  | .agg parts => uptoBulkAll parts + 1
  | .iface _ d => uptoBulk d + 1
  | .map entries => uptoBulkEntries entries + 1
  | .held _ => 1
def uptoBulkAll {H : Type} : List (DataW H) → Nat
  | [] => 0
  | d :: r => uptoBulk d + uptoBulkAll r
def uptoBulkEntries {H : Type} : List (Lit × DataW H) → Nat
  | [] => 0
  | x :: r => uptoBulkEntry x + uptoBulkEntries r
def uptoBulkEntry {H : Type} : Lit × DataW H → Nat
  | (.string bytes, d) => bytes.length + uptoBulk d + 1
  | (_, d) => uptoBulk d + 1
 end
def uptoSmall : (H : Type) → List (DataW H) → Bool := fun _ ds => decide (uptoBulkAll ds ≤ 1048576)
def OpenSpec.upto (s : _root_.Go.ChangeSpec) : _root_.Go.OpenSpec := { _root_.Go.OpenSpec.ofChange s with cond := some uptoSmall }

/-- 'orthoepylaw02.Utf8All', WHERE WHAT IT READS IS OF BULK AT MOST 1048576: true; the input reads as it did. -/
def utf8AllUptoRow : OpenClaim := { program := "ytbmeinicjfmjlaadoor", sum := "19a3a3f41a996918f906347c6ebe22872705d33f6ede40d751f48b39e63a8b24", func := "orthoepy/orthoepylaw02.Utf8All", spec := "utf8All", named := ["orthoepy/utf8.leads"], apart := false, laid := [("orthoepy/utf8.leads", laid_orthoepy_utf8_leads)], narrowed := true }
def Utf8AllUptoSaid : Prop := utf8AllUptoRow.holds Tryd.pinned (OpenSpec.upto utf8AllSpec)

/-- 'orthoepylaw02.Utf8Back', WHERE WHAT IT READS IS OF BULK AT MOST 1048576: true; the input reads as it did. -/
def utf8BackUptoRow : OpenClaim := { program := "ytbmeinicjfmjlaadoor", sum := "19a3a3f41a996918f906347c6ebe22872705d33f6ede40d751f48b39e63a8b24", func := "orthoepy/orthoepylaw02.Utf8Back", spec := "utf8Back", named := ["orthoepy/utf8.leads"], apart := false, laid := [("orthoepy/utf8.leads", laid_orthoepy_utf8_leads)], narrowed := true }
def Utf8BackUptoSaid : Prop := utf8BackUptoRow.holds Tryd.pinned (OpenSpec.upto utf8BackSpec)

/-- 'orthoepylaw02.Utf8Longest', WHERE WHAT IT READS IS OF BULK AT MOST 1048576: true; the input reads as it did. -/
def utf8LongestUptoRow : OpenClaim := { program := "ytbmeinicjfmjlaadoor", sum := "19a3a3f41a996918f906347c6ebe22872705d33f6ede40d751f48b39e63a8b24", func := "orthoepy/orthoepylaw02.Utf8Longest", spec := "utf8Longest", named := ["orthoepy/utf8.leads"], apart := false, laid := [("orthoepy/utf8.leads", laid_orthoepy_utf8_leads)], narrowed := true }
def Utf8LongestUptoSaid : Prop := utf8LongestUptoRow.holds Tryd.pinned (OpenSpec.upto utf8LongestSpec)

/-- 'orthoepylaw02.Utf8Reader', WHERE WHAT IT READS IS OF BULK AT MOST 1048576: true; the input reads as it did. -/
def utf8ReaderUptoRow : OpenClaim := { program := "ytbmeinicjfmjlaadoor", sum := "19a3a3f41a996918f906347c6ebe22872705d33f6ede40d751f48b39e63a8b24", func := "orthoepy/orthoepylaw02.Utf8Reader", spec := "utf8Reader", named := ["orthoepy/utf8.leads"], apart := false, laid := [("orthoepy/utf8.leads", laid_orthoepy_utf8_leads)], narrowed := true }
def Utf8ReaderUptoSaid : Prop := utf8ReaderUptoRow.holds Tryd.pinned (OpenSpec.upto utf8ReaderSpec)

/-- 'orthoepylaw02.Utf8Turned', WHERE WHAT IT READS IS OF BULK AT MOST 1048576: true; the input reads as it did. -/
def utf8TurnedUptoRow : OpenClaim := { program := "ytbmeinicjfmjlaadoor", sum := "19a3a3f41a996918f906347c6ebe22872705d33f6ede40d751f48b39e63a8b24", func := "orthoepy/orthoepylaw02.Utf8Turned", spec := "utf8Turned", named := ["orthoepy/utf8.leads"], apart := false, laid := [("orthoepy/utf8.leads", laid_orthoepy_utf8_leads)], narrowed := true }
def Utf8TurnedUptoSaid : Prop := utf8TurnedUptoRow.holds Tryd.pinned (OpenSpec.upto utf8TurnedSpec)

end Rows
end Go.Proofs.YtbmeinicjfmjlaaDoor
