/-
  NARROWER THAN 'FOR EVERY INPUT', by the rows' own cells (each row's printed sentence says how): StrPlays: laid · StrHopes: laid · StrWrites: laid · StrUnits: laid · StrScalars: laid.
  DERIVED. THE GIVEN ROWS OF THIS SEAT. 5 by the template 'for every input the law returns true; each argument reads behind the call as it read before'; 0 by the template 'total and deterministic' (their statements: YtdcfhkiajeiaoaaDoorTotals.lean).
  GIVEN WITH THE SEED: the statements are not yours to turn. If you find one false, say at which input.
  Laid BY PROGRAM, IN A SANDBOX (cutbox-rows.mjs): the forced cells as the released guide's own fill.sh prints them over the translation 3800c58d8953b8ab… (all of the seat's roots in one cut). By AI agents, Wed Nov 11 2026. No macro, syntax, notation, axiom, sorry.
-/
import Derived.Test.YtdcfhkiajeiaoaaDoorChecked
import GoSem.Claim
import GoSem.ClaimJoined
import GoSem.ClaimMapViews
import Derived.JoinedTies
import Derived.KernelRfl
namespace Go.Proofs.YtdcfhkiajeiaoaaDoor
/- THE CELL 'sum', in the pinned program and in every row, IS THE sha256 OF THE DUMP (.gsa) THAT YtdcfhkiajeiaoaaDoorProg.lean LOADS. Nothing in Lean hashes anything: it is a label: what it is worth is what the hold of that sum in a sandbox is worth. -/
noncomputable def Tryd.pinned : Pinned := { name := "ytdcfhkiajeiaoaadoor", sum := "3800c58d8953b8ab4ef8f4a423b6790655752430e1db1e502734b4ea31724d6b", checked := Tryd.checked }
namespace Rows
def none {H : Type} : Left H := { results := [], args := [] }

/- WHAT THE LISTED PACKAGE-LEVEL VARIABLES READ AS WHEN THE CALL BEGINS. Each datum BY PROGRAM (the guide's laid-datum.mjs) off the statement by which the dump's own 'gosem.cut.vars' lays the variable. In a bare row this is a premise. The card (YtdcfhkiajeiaoaaDoorCards.lean) ties it to the program's text. -/
def laid_orthoepy_utf8_leads {H : Type} : DataW H := .agg [.agg [.lit (.int .u8 0), .lit (.int .u8 127), .lit (.int .u8 0), .lit (.int .i64 1), .lit (.int .u8 0), .lit (.int .u8 0)], .agg [.lit (.int .u8 194), .lit (.int .u8 223), .lit (.int .u8 192), .lit (.int .i64 2), .lit (.int .u8 128), .lit (.int .u8 191)], .agg [.lit (.int .u8 224), .lit (.int .u8 224), .lit (.int .u8 224), .lit (.int .i64 3), .lit (.int .u8 160), .lit (.int .u8 191)], .agg [.lit (.int .u8 225), .lit (.int .u8 236), .lit (.int .u8 224), .lit (.int .i64 3), .lit (.int .u8 128), .lit (.int .u8 191)], .agg [.lit (.int .u8 237), .lit (.int .u8 237), .lit (.int .u8 224), .lit (.int .i64 3), .lit (.int .u8 128), .lit (.int .u8 159)], .agg [.lit (.int .u8 238), .lit (.int .u8 239), .lit (.int .u8 224), .lit (.int .i64 3), .lit (.int .u8 128), .lit (.int .u8 191)], .agg [.lit (.int .u8 240), .lit (.int .u8 240), .lit (.int .u8 240), .lit (.int .i64 4), .lit (.int .u8 144), .lit (.int .u8 191)], .agg [.lit (.int .u8 241), .lit (.int .u8 243), .lit (.int .u8 240), .lit (.int .i64 4), .lit (.int .u8 128), .lit (.int .u8 191)], .agg [.lit (.int .u8 244), .lit (.int .u8 244), .lit (.int .u8 240), .lit (.int .i64 4), .lit (.int .u8 128), .lit (.int .u8 143)]]

/-- 'orthoepylaw12.StrPlays': WHATEVER THE INPUT: true; the input reads as it did. -/
def strPlaysSpec : ChangeSpec := { name := "strPlays", fn := fun _ => fun
  | [d] => { results := [.lit (.bool true)], args := [d] }
  | _ => none }
def strPlaysRow : OpenClaim := { program := "ytdcfhkiajeiaoaadoor", sum := "3800c58d8953b8ab4ef8f4a423b6790655752430e1db1e502734b4ea31724d6b", func := "orthoepy/orthoepylaw12.StrPlays", spec := "strPlays", unfollowed := true, recurses := true, named := ["orthoepy/utf8.leads"], apart := false, laid := [("orthoepy/utf8.leads", laid_orthoepy_utf8_leads)] }
def StrPlaysSaid : Prop := strPlaysRow.holds Tryd.pinned (OpenSpec.ofChange strPlaysSpec)

/-- ITS FALSE NEIGHBOUR: 'it returns false'. Refute it at one input. -/
def strPlaysWrong : ChangeSpec := { name := "strPlays", fn := fun _ => fun
  | [d] => { results := [.lit (.bool false)], args := [d] }
  | _ => none }
def StrPlaysWrongFalsely : Prop := strPlaysRow.holds Tryd.pinned (OpenSpec.ofChange strPlaysWrong)

/-- 'orthoepylaw12.StrHopes': WHATEVER THE INPUT: true; the input reads as it did. -/
def strHopesSpec : ChangeSpec := { name := "strHopes", fn := fun _ => fun
  | [d] => { results := [.lit (.bool true)], args := [d] }
  | _ => none }
def strHopesRow : OpenClaim := { program := "ytdcfhkiajeiaoaadoor", sum := "3800c58d8953b8ab4ef8f4a423b6790655752430e1db1e502734b4ea31724d6b", func := "orthoepy/orthoepylaw12.StrHopes", spec := "strHopes", unfollowed := true, recurses := true, named := ["orthoepy/utf8.leads"], apart := false, laid := [("orthoepy/utf8.leads", laid_orthoepy_utf8_leads)] }
def StrHopesSaid : Prop := strHopesRow.holds Tryd.pinned (OpenSpec.ofChange strHopesSpec)

/-- ITS FALSE NEIGHBOUR: 'it returns false'. Refute it at one input. -/
def strHopesWrong : ChangeSpec := { name := "strHopes", fn := fun _ => fun
  | [d] => { results := [.lit (.bool false)], args := [d] }
  | _ => none }
def StrHopesWrongFalsely : Prop := strHopesRow.holds Tryd.pinned (OpenSpec.ofChange strHopesWrong)

/-- 'orthoepylaw12.StrWrites': WHATEVER THE INPUT: true; the input reads as it did. -/
def strWritesSpec : ChangeSpec := { name := "strWrites", fn := fun _ => fun
  | [d1, d2] => { results := [.lit (.bool true)], args := [d1, d2] }
  | _ => none }
def strWritesRow : OpenClaim := { program := "ytdcfhkiajeiaoaadoor", sum := "3800c58d8953b8ab4ef8f4a423b6790655752430e1db1e502734b4ea31724d6b", func := "orthoepy/orthoepylaw12.StrWrites", spec := "strWrites", unfollowed := true, recurses := true, named := ["orthoepy/utf8.leads"], apart := false, laid := [("orthoepy/utf8.leads", laid_orthoepy_utf8_leads)] }
def StrWritesSaid : Prop := strWritesRow.holds Tryd.pinned (OpenSpec.ofChange strWritesSpec)

/-- ITS FALSE NEIGHBOUR: 'it returns false'. Refute it at one input. -/
def strWritesWrong : ChangeSpec := { name := "strWrites", fn := fun _ => fun
  | [d1, d2] => { results := [.lit (.bool false)], args := [d1, d2] }
  | _ => none }
def StrWritesWrongFalsely : Prop := strWritesRow.holds Tryd.pinned (OpenSpec.ofChange strWritesWrong)

/-- 'orthoepylaw12.StrUnits': WHATEVER THE INPUT: true; the input reads as it did. -/
def strUnitsSpec : ChangeSpec := { name := "strUnits", fn := fun _ => fun
  | [d1, d2, d3] => { results := [.lit (.bool true)], args := [d1, d2, d3] }
  | _ => none }
def strUnitsRow : OpenClaim := { program := "ytdcfhkiajeiaoaadoor", sum := "3800c58d8953b8ab4ef8f4a423b6790655752430e1db1e502734b4ea31724d6b", func := "orthoepy/orthoepylaw12.StrUnits", spec := "strUnits", unfollowed := true, recurses := true, named := ["orthoepy/utf8.leads"], apart := false, laid := [("orthoepy/utf8.leads", laid_orthoepy_utf8_leads)] }
def StrUnitsSaid : Prop := strUnitsRow.holds Tryd.pinned (OpenSpec.ofChange strUnitsSpec)

/-- ITS FALSE NEIGHBOUR: 'it returns false'. Refute it at one input. -/
def strUnitsWrong : ChangeSpec := { name := "strUnits", fn := fun _ => fun
  | [d1, d2, d3] => { results := [.lit (.bool false)], args := [d1, d2, d3] }
  | _ => none }
def StrUnitsWrongFalsely : Prop := strUnitsRow.holds Tryd.pinned (OpenSpec.ofChange strUnitsWrong)

/-- 'orthoepylaw12.StrScalars': WHATEVER THE INPUT: true; the input reads as it did. -/
def strScalarsSpec : ChangeSpec := { name := "strScalars", fn := fun _ => fun
  | [d] => { results := [.lit (.bool true)], args := [d] }
  | _ => none }
def strScalarsRow : OpenClaim := { program := "ytdcfhkiajeiaoaadoor", sum := "3800c58d8953b8ab4ef8f4a423b6790655752430e1db1e502734b4ea31724d6b", func := "orthoepy/orthoepylaw12.StrScalars", spec := "strScalars", unfollowed := true, recurses := true, named := ["orthoepy/utf8.leads"], apart := false, laid := [("orthoepy/utf8.leads", laid_orthoepy_utf8_leads)] }
def StrScalarsSaid : Prop := strScalarsRow.holds Tryd.pinned (OpenSpec.ofChange strScalarsSpec)

/-- ITS FALSE NEIGHBOUR: 'it returns false'. Refute it at one input. -/
def strScalarsWrong : ChangeSpec := { name := "strScalars", fn := fun _ => fun
  | [d] => { results := [.lit (.bool false)], args := [d] }
  | _ => none }
def StrScalarsWrongFalsely : Prop := strScalarsRow.holds Tryd.pinned (OpenSpec.ofChange strScalarsWrong)

/- THE SECOND FORM. 'bulk': how many values and letters a reading holds, each counted each time it is reached (what is shared counts as often as it is met; a slice's spare places count too). A statement '..UptoSaid' is the law's where the arguments, and the package variables that the reading takes, are together of bulk at most 1048576: NARROWER than '..Said'. Prove '..Said' where nothing that the law and all that it calls make is longer than what came in: it says more and counts as full. Else prove '..UptoSaid'. A law counts once. -/
mutual
def uptoBulk {H : Type} : DataW H → Nat
  | .lit (.string bytes) => bytes.length + 1
  | .lit _ => 1
  | .nil => 1
  | .ptr d => uptoBulk d + 1
  | .slice elems spare => uptoBulkAll elems + uptoBulkAll spare + 1
  | .agg parts => uptoBulkAll parts + 1
  | .iface _ d => uptoBulk d + 1
  | .map entries => uptoBulkEntries entries + 1
  | .held _ => 1
def uptoBulkAll {H : Type} : List (DataW H) → Nat
  | [] => 0
  | d :: r => uptoBulk d + uptoBulkAll r
def uptoBulkEntries {H : Type} : List (Lit × DataW H) → Nat
  | [] => 0
  | x :: r => uptoBulkEntry x + uptoBulkEntries r
def uptoBulkEntry {H : Type} : Lit × DataW H → Nat
  | (.string bytes, d) => bytes.length + uptoBulk d + 1
  | (_, d) => uptoBulk d + 1
 end
def uptoSmall : (H : Type) → List (DataW H) → Bool := fun _ ds => decide (uptoBulkAll ds ≤ 1048576)
def OpenSpec.upto (s : _root_.Go.ChangeSpec) : _root_.Go.OpenSpec := { _root_.Go.OpenSpec.ofChange s with cond := some uptoSmall }

/-- 'orthoepylaw12.StrPlays', WHERE WHAT IT READS IS OF BULK AT MOST 1048576: true; the input reads as it did. -/
def strPlaysUptoRow : OpenClaim := { program := "ytdcfhkiajeiaoaadoor", sum := "3800c58d8953b8ab4ef8f4a423b6790655752430e1db1e502734b4ea31724d6b", func := "orthoepy/orthoepylaw12.StrPlays", spec := "strPlays", unfollowed := true, recurses := true, named := ["orthoepy/utf8.leads"], apart := false, laid := [("orthoepy/utf8.leads", laid_orthoepy_utf8_leads)], narrowed := true }
def StrPlaysUptoSaid : Prop := strPlaysUptoRow.holds Tryd.pinned (OpenSpec.upto strPlaysSpec)

/-- 'orthoepylaw12.StrHopes', WHERE WHAT IT READS IS OF BULK AT MOST 1048576: true; the input reads as it did. -/
def strHopesUptoRow : OpenClaim := { program := "ytdcfhkiajeiaoaadoor", sum := "3800c58d8953b8ab4ef8f4a423b6790655752430e1db1e502734b4ea31724d6b", func := "orthoepy/orthoepylaw12.StrHopes", spec := "strHopes", unfollowed := true, recurses := true, named := ["orthoepy/utf8.leads"], apart := false, laid := [("orthoepy/utf8.leads", laid_orthoepy_utf8_leads)], narrowed := true }
def StrHopesUptoSaid : Prop := strHopesUptoRow.holds Tryd.pinned (OpenSpec.upto strHopesSpec)

/-- 'orthoepylaw12.StrWrites', WHERE WHAT IT READS IS OF BULK AT MOST 1048576: true; the input reads as it did. -/
def strWritesUptoRow : OpenClaim := { program := "ytdcfhkiajeiaoaadoor", sum := "3800c58d8953b8ab4ef8f4a423b6790655752430e1db1e502734b4ea31724d6b", func := "orthoepy/orthoepylaw12.StrWrites", spec := "strWrites", unfollowed := true, recurses := true, named := ["orthoepy/utf8.leads"], apart := false, laid := [("orthoepy/utf8.leads", laid_orthoepy_utf8_leads)], narrowed := true }
def StrWritesUptoSaid : Prop := strWritesUptoRow.holds Tryd.pinned (OpenSpec.upto strWritesSpec)

/-- 'orthoepylaw12.StrUnits', WHERE WHAT IT READS IS OF BULK AT MOST 1048576: true; the input reads as it did. -/
def strUnitsUptoRow : OpenClaim := { program := "ytdcfhkiajeiaoaadoor", sum := "3800c58d8953b8ab4ef8f4a423b6790655752430e1db1e502734b4ea31724d6b", func := "orthoepy/orthoepylaw12.StrUnits", spec := "strUnits", unfollowed := true, recurses := true, named := ["orthoepy/utf8.leads"], apart := false, laid := [("orthoepy/utf8.leads", laid_orthoepy_utf8_leads)], narrowed := true }
def StrUnitsUptoSaid : Prop := strUnitsUptoRow.holds Tryd.pinned (OpenSpec.upto strUnitsSpec)

/-- 'orthoepylaw12.StrScalars', WHERE WHAT IT READS IS OF BULK AT MOST 1048576: true; the input reads as it did. -/
def strScalarsUptoRow : OpenClaim := { program := "ytdcfhkiajeiaoaadoor", sum := "3800c58d8953b8ab4ef8f4a423b6790655752430e1db1e502734b4ea31724d6b", func := "orthoepy/orthoepylaw12.StrScalars", spec := "strScalars", unfollowed := true, recurses := true, named := ["orthoepy/utf8.leads"], apart := false, laid := [("orthoepy/utf8.leads", laid_orthoepy_utf8_leads)], narrowed := true }
def StrScalarsUptoSaid : Prop := strScalarsUptoRow.holds Tryd.pinned (OpenSpec.upto strScalarsSpec)

end Rows
end Go.Proofs.YtdcfhkiajeiaoaaDoor
