/-
  NARROWER THAN 'FOR EVERY INPUT', by the rows' own cells (each row's printed sentence says how): NfcAll: laid · NfcNumbers: laid · NfcQuick: laid · NfcParts: laid · NfcEqual: laid.
  DERIVED. THE GIVEN ROWS OF THIS SEAT. 5 by the template 'for every input the law returns true; each argument reads behind the call as it read before'; 0 by the template 'total and deterministic' (their statements: YtdmcidljjfogjaaDoorTotals.lean).
  GIVEN WITH THE SEED: the statements are not yours to turn. If you find one false, say at which input.
  Laid BY PROGRAM, IN A SANDBOX (cutbox-rows.mjs): the forced cells as the released guide's own fill.sh prints them over the translation f400d593305119ff… (all of the seat's roots in one cut). By AI agents, Wed Nov 11 2026. No macro, syntax, notation, axiom, sorry.
-/
import Derived.Test.YtdmcidljjfogjaaDoorChecked
import GoSem.Claim
import GoSem.ClaimJoined
import GoSem.ClaimMapViews
import Derived.JoinedTies
import Derived.KernelRfl
namespace Go.Proofs.YtdmcidljjfogjaaDoor
/- THE CELL 'sum', in the pinned program and in every row, IS THE sha256 OF THE DUMP (.gsa) THAT YtdmcidljjfogjaaDoorProg.lean LOADS. Nothing in Lean hashes anything: it is a label: what it is worth is what the hold of that sum in a sandbox is worth. -/
noncomputable def Tryd.pinned : Pinned := { name := "ytdmcidljjfogjaadoor", sum := "f400d593305119ff12d487baff1838e8d08fcdc1e261e5f5dac810d786f6d185", checked := Tryd.checked }
namespace Rows
def none {H : Type} : Left H := { results := [], args := [] }

/- WHAT THE LISTED PACKAGE-LEVEL VARIABLES READ AS WHEN THE CALL BEGINS. Each datum BY PROGRAM (the guide's laid-datum.mjs) off the statement by which the dump's own 'gosem.cut.vars' lays the variable. In a bare row this is a premise. The card (YtdmcidljjfogjaaDoorCards.lean) ties it to the program's text. -/
def laid_orthoepy_utf8_leads {H : Type} : DataW H := .agg [.agg [.lit (.int .u8 0), .lit (.int .u8 127), .lit (.int .u8 0), .lit (.int .i64 1), .lit (.int .u8 0), .lit (.int .u8 0)], .agg [.lit (.int .u8 194), .lit (.int .u8 223), .lit (.int .u8 192), .lit (.int .i64 2), .lit (.int .u8 128), .lit (.int .u8 191)], .agg [.lit (.int .u8 224), .lit (.int .u8 224), .lit (.int .u8 224), .lit (.int .i64 3), .lit (.int .u8 160), .lit (.int .u8 191)], .agg [.lit (.int .u8 225), .lit (.int .u8 236), .lit (.int .u8 224), .lit (.int .i64 3), .lit (.int .u8 128), .lit (.int .u8 191)], .agg [.lit (.int .u8 237), .lit (.int .u8 237), .lit (.int .u8 224), .lit (.int .i64 3), .lit (.int .u8 128), .lit (.int .u8 159)], .agg [.lit (.int .u8 238), .lit (.int .u8 239), .lit (.int .u8 224), .lit (.int .i64 3), .lit (.int .u8 128), .lit (.int .u8 191)], .agg [.lit (.int .u8 240), .lit (.int .u8 240), .lit (.int .u8 240), .lit (.int .i64 4), .lit (.int .u8 144), .lit (.int .u8 191)], .agg [.lit (.int .u8 241), .lit (.int .u8 243), .lit (.int .u8 240), .lit (.int .i64 4), .lit (.int .u8 128), .lit (.int .u8 191)], .agg [.lit (.int .u8 244), .lit (.int .u8 244), .lit (.int .u8 240), .lit (.int .i64 4), .lit (.int .u8 128), .lit (.int .u8 143)]]

/-- 'orthoepylaw09.NfcAll': WHATEVER THE INPUT: true; the input reads as it did. -/
def nfcAllSpec : ChangeSpec := { name := "nfcAll", fn := fun _ => fun
  | [d1, d2, d3] => { results := [.lit (.bool true)], args := [d1, d2, d3] }
  | _ => none }
def nfcAllRow : OpenClaim := { program := "ytdmcidljjfogjaadoor", sum := "f400d593305119ff12d487baff1838e8d08fcdc1e261e5f5dac810d786f6d185", func := "orthoepy/orthoepylaw09.NfcAll", spec := "nfcAll", unfollowed := true, recurses := true, named := ["orthoepy/utf8.leads"], plainKeys := false, apart := false, laid := [("orthoepy/utf8.leads", laid_orthoepy_utf8_leads)] }
def NfcAllSaid : Prop := nfcAllRow.holds Tryd.pinned (OpenSpec.ofChange nfcAllSpec)

/-- ITS FALSE NEIGHBOUR: 'it returns false'. Refute it at one input. -/
def nfcAllWrong : ChangeSpec := { name := "nfcAll", fn := fun _ => fun
  | [d1, d2, d3] => { results := [.lit (.bool false)], args := [d1, d2, d3] }
  | _ => none }
def NfcAllWrongFalsely : Prop := nfcAllRow.holds Tryd.pinned (OpenSpec.ofChange nfcAllWrong)

/-- 'orthoepylaw09.NfcNumbers': WHATEVER THE INPUT: true; the input reads as it did. -/
def nfcNumbersSpec : ChangeSpec := { name := "nfcNumbers", fn := fun _ => fun
  | [d] => { results := [.lit (.bool true)], args := [d] }
  | _ => none }
def nfcNumbersRow : OpenClaim := { program := "ytdmcidljjfogjaadoor", sum := "f400d593305119ff12d487baff1838e8d08fcdc1e261e5f5dac810d786f6d185", func := "orthoepy/orthoepylaw09.NfcNumbers", spec := "nfcNumbers", unfollowed := true, recurses := true, named := ["orthoepy/utf8.leads"], plainKeys := false, apart := false, laid := [("orthoepy/utf8.leads", laid_orthoepy_utf8_leads)] }
def NfcNumbersSaid : Prop := nfcNumbersRow.holds Tryd.pinned (OpenSpec.ofChange nfcNumbersSpec)

/-- ITS FALSE NEIGHBOUR: 'it returns false'. Refute it at one input. -/
def nfcNumbersWrong : ChangeSpec := { name := "nfcNumbers", fn := fun _ => fun
  | [d] => { results := [.lit (.bool false)], args := [d] }
  | _ => none }
def NfcNumbersWrongFalsely : Prop := nfcNumbersRow.holds Tryd.pinned (OpenSpec.ofChange nfcNumbersWrong)

/-- 'orthoepylaw09.NfcQuick': WHATEVER THE INPUT: true; the input reads as it did. -/
def nfcQuickSpec : ChangeSpec := { name := "nfcQuick", fn := fun _ => fun
  | [d] => { results := [.lit (.bool true)], args := [d] }
  | _ => none }
def nfcQuickRow : OpenClaim := { program := "ytdmcidljjfogjaadoor", sum := "f400d593305119ff12d487baff1838e8d08fcdc1e261e5f5dac810d786f6d185", func := "orthoepy/orthoepylaw09.NfcQuick", spec := "nfcQuick", unfollowed := true, recurses := true, named := ["orthoepy/utf8.leads"], plainKeys := false, apart := false, laid := [("orthoepy/utf8.leads", laid_orthoepy_utf8_leads)] }
def NfcQuickSaid : Prop := nfcQuickRow.holds Tryd.pinned (OpenSpec.ofChange nfcQuickSpec)

/-- ITS FALSE NEIGHBOUR: 'it returns false'. Refute it at one input. -/
def nfcQuickWrong : ChangeSpec := { name := "nfcQuick", fn := fun _ => fun
  | [d] => { results := [.lit (.bool false)], args := [d] }
  | _ => none }
def NfcQuickWrongFalsely : Prop := nfcQuickRow.holds Tryd.pinned (OpenSpec.ofChange nfcQuickWrong)

/-- 'orthoepylaw09.NfcParts': WHATEVER THE INPUT: true; the input reads as it did. -/
def nfcPartsSpec : ChangeSpec := { name := "nfcParts", fn := fun _ => fun
  | [d1, d2, d3] => { results := [.lit (.bool true)], args := [d1, d2, d3] }
  | _ => none }
def nfcPartsRow : OpenClaim := { program := "ytdmcidljjfogjaadoor", sum := "f400d593305119ff12d487baff1838e8d08fcdc1e261e5f5dac810d786f6d185", func := "orthoepy/orthoepylaw09.NfcParts", spec := "nfcParts", unfollowed := true, recurses := true, named := ["orthoepy/utf8.leads"], plainKeys := false, apart := false, laid := [("orthoepy/utf8.leads", laid_orthoepy_utf8_leads)] }
def NfcPartsSaid : Prop := nfcPartsRow.holds Tryd.pinned (OpenSpec.ofChange nfcPartsSpec)

/-- ITS FALSE NEIGHBOUR: 'it returns false'. Refute it at one input. -/
def nfcPartsWrong : ChangeSpec := { name := "nfcParts", fn := fun _ => fun
  | [d1, d2, d3] => { results := [.lit (.bool false)], args := [d1, d2, d3] }
  | _ => none }
def NfcPartsWrongFalsely : Prop := nfcPartsRow.holds Tryd.pinned (OpenSpec.ofChange nfcPartsWrong)

/-- 'orthoepylaw09.NfcEqual': WHATEVER THE INPUT: true; the input reads as it did. -/
def nfcEqualSpec : ChangeSpec := { name := "nfcEqual", fn := fun _ => fun
  | [d1, d2, d3] => { results := [.lit (.bool true)], args := [d1, d2, d3] }
  | _ => none }
def nfcEqualRow : OpenClaim := { program := "ytdmcidljjfogjaadoor", sum := "f400d593305119ff12d487baff1838e8d08fcdc1e261e5f5dac810d786f6d185", func := "orthoepy/orthoepylaw09.NfcEqual", spec := "nfcEqual", unfollowed := true, recurses := true, named := ["orthoepy/utf8.leads"], plainKeys := false, apart := false, laid := [("orthoepy/utf8.leads", laid_orthoepy_utf8_leads)] }
def NfcEqualSaid : Prop := nfcEqualRow.holds Tryd.pinned (OpenSpec.ofChange nfcEqualSpec)

/-- ITS FALSE NEIGHBOUR: 'it returns false'. Refute it at one input. -/
def nfcEqualWrong : ChangeSpec := { name := "nfcEqual", fn := fun _ => fun
  | [d1, d2, d3] => { results := [.lit (.bool false)], args := [d1, d2, d3] }
  | _ => none }
def NfcEqualWrongFalsely : Prop := nfcEqualRow.holds Tryd.pinned (OpenSpec.ofChange nfcEqualWrong)

/- THE SECOND FORM. 'bulk': how many values and letters a reading holds, each counted each time it is reached (what is shared counts as often as it is met; a slice's spare places count too). A statement '..UptoSaid' is the law's where the arguments, and the package variables that the reading takes, are together of bulk at most 1048576: NARROWER than '..Said'. Prove '..Said' where nothing that the law and all that it calls make is longer than what came in: it says more and counts as full. Else prove '..UptoSaid'. A law counts once. -/
mutual
def uptoBulk {H : Type} : DataW H → Nat
  | .lit (.string bytes) => bytes.length + 1
  | .lit _ => 1
  | .nil => 1
  | .ptr d => uptoBulk d + 1
  | .slice elems spare => uptoBulkAll elems + uptoBulkAll spare + 1
  | .agg parts => uptoBulkAll parts + 1
  | .iface _ d => uptoBulk d + 1
  | .map entries => uptoBulkEntries entries + 1
  | .held _ => 1
def uptoBulkAll {H : Type} : List (DataW H) → Nat
  | [] => 0
  | d :: r => uptoBulk d + uptoBulkAll r
def uptoBulkEntries {H : Type} : List (Lit × DataW H) → Nat
  | [] => 0
  | x :: r => uptoBulkEntry x + uptoBulkEntries r
def uptoBulkEntry {H : Type} : Lit × DataW H → Nat
  | (.string bytes, d) => bytes.length + uptoBulk d + 1
  | (_, d) => uptoBulk d + 1
 end
def uptoSmall : (H : Type) → List (DataW H) → Bool := fun _ ds => decide (uptoBulkAll ds ≤ 1048576)
def OpenSpec.upto (s : _root_.Go.ChangeSpec) : _root_.Go.OpenSpec := { _root_.Go.OpenSpec.ofChange s with cond := some uptoSmall }

/-- 'orthoepylaw09.NfcAll', WHERE WHAT IT READS IS OF BULK AT MOST 1048576: true; the input reads as it did. -/
def nfcAllUptoRow : OpenClaim := { program := "ytdmcidljjfogjaadoor", sum := "f400d593305119ff12d487baff1838e8d08fcdc1e261e5f5dac810d786f6d185", func := "orthoepy/orthoepylaw09.NfcAll", spec := "nfcAll", unfollowed := true, recurses := true, named := ["orthoepy/utf8.leads"], plainKeys := false, apart := false, laid := [("orthoepy/utf8.leads", laid_orthoepy_utf8_leads)], narrowed := true }
def NfcAllUptoSaid : Prop := nfcAllUptoRow.holds Tryd.pinned (OpenSpec.upto nfcAllSpec)

/-- 'orthoepylaw09.NfcNumbers', WHERE WHAT IT READS IS OF BULK AT MOST 1048576: true; the input reads as it did. -/
def nfcNumbersUptoRow : OpenClaim := { program := "ytdmcidljjfogjaadoor", sum := "f400d593305119ff12d487baff1838e8d08fcdc1e261e5f5dac810d786f6d185", func := "orthoepy/orthoepylaw09.NfcNumbers", spec := "nfcNumbers", unfollowed := true, recurses := true, named := ["orthoepy/utf8.leads"], plainKeys := false, apart := false, laid := [("orthoepy/utf8.leads", laid_orthoepy_utf8_leads)], narrowed := true }
def NfcNumbersUptoSaid : Prop := nfcNumbersUptoRow.holds Tryd.pinned (OpenSpec.upto nfcNumbersSpec)

/-- 'orthoepylaw09.NfcQuick', WHERE WHAT IT READS IS OF BULK AT MOST 1048576: true; the input reads as it did. -/
def nfcQuickUptoRow : OpenClaim := { program := "ytdmcidljjfogjaadoor", sum := "f400d593305119ff12d487baff1838e8d08fcdc1e261e5f5dac810d786f6d185", func := "orthoepy/orthoepylaw09.NfcQuick", spec := "nfcQuick", unfollowed := true, recurses := true, named := ["orthoepy/utf8.leads"], plainKeys := false, apart := false, laid := [("orthoepy/utf8.leads", laid_orthoepy_utf8_leads)], narrowed := true }
def NfcQuickUptoSaid : Prop := nfcQuickUptoRow.holds Tryd.pinned (OpenSpec.upto nfcQuickSpec)

/-- 'orthoepylaw09.NfcParts', WHERE WHAT IT READS IS OF BULK AT MOST 1048576: true; the input reads as it did. -/
def nfcPartsUptoRow : OpenClaim := { program := "ytdmcidljjfogjaadoor", sum := "f400d593305119ff12d487baff1838e8d08fcdc1e261e5f5dac810d786f6d185", func := "orthoepy/orthoepylaw09.NfcParts", spec := "nfcParts", unfollowed := true, recurses := true, named := ["orthoepy/utf8.leads"], plainKeys := false, apart := false, laid := [("orthoepy/utf8.leads", laid_orthoepy_utf8_leads)], narrowed := true }
def NfcPartsUptoSaid : Prop := nfcPartsUptoRow.holds Tryd.pinned (OpenSpec.upto nfcPartsSpec)

/-- 'orthoepylaw09.NfcEqual', WHERE WHAT IT READS IS OF BULK AT MOST 1048576: true; the input reads as it did. -/
def nfcEqualUptoRow : OpenClaim := { program := "ytdmcidljjfogjaadoor", sum := "f400d593305119ff12d487baff1838e8d08fcdc1e261e5f5dac810d786f6d185", func := "orthoepy/orthoepylaw09.NfcEqual", spec := "nfcEqual", unfollowed := true, recurses := true, named := ["orthoepy/utf8.leads"], plainKeys := false, apart := false, laid := [("orthoepy/utf8.leads", laid_orthoepy_utf8_leads)], narrowed := true }
def NfcEqualUptoSaid : Prop := nfcEqualUptoRow.holds Tryd.pinned (OpenSpec.upto nfcEqualSpec)

end Rows
end Go.Proofs.YtdmcidljjfogjaaDoor
