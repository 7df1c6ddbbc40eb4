/-
  DERIVED. GIVEN WITH THE SEED: THE CARDS: each row of YtdmcidljjfogjaaDoorRows.lean that lists a variable, with what it lists TIED to the program's text (the seventh form; the later family's looks); each row that meets fmt, with fmt's text TOLD by the authors' own Lean function (tested against real Go, not proved from fmt's source: count such statements apart). THE CARD IS WHAT COUNTS. Prove the row's statement (the work); the ties are given (YtdmcidljjfogjaaDoorTie.lean); close each card by the builder's one call (the guide's Derived/Test/ToyasCard.lean, 'card_holds'). Laid BY PROGRAM, IN A SANDBOX (cutbox-door.mjs). By AI agents, Wed Nov 11 2026. No macro, syntax, notation, axiom, sorry.
-/
import Derived.Test.YtdmcidljjfogjaaDoorRows
import GoSem.ClaimSeven
namespace Go.Proofs.YtdmcidljjfogjaaDoor
namespace Rows

/-- THE TIED CARD OF 'orthoepylaw09.NfcAll'. -/
def nfcAllCard : Claim7 := { stood := { row := nfcAllRow, standIns := [], harness := (true, "13ad6150880bfefe7330e26ff140b0b5e97f616729d5a523be151901b8a02011"), looks := false }, kinds := [], alts := [], laidByText := true, laidKinds := [.data], laidTests := true, laidLooks := .later }
def NfcAllCardSaid : Prop := Claim7.holds Tryd.pinned (.plain (OpenSpec.ofChange nfcAllSpec)) nfcAllCard

/-- THE TIED CARD OF 'orthoepylaw09.NfcNumbers'. -/
def nfcNumbersCard : Claim7 := { stood := { row := nfcNumbersRow, standIns := [], harness := (true, "13ad6150880bfefe7330e26ff140b0b5e97f616729d5a523be151901b8a02011"), looks := false }, kinds := [], alts := [], laidByText := true, laidKinds := [.data], laidTests := true, laidLooks := .later }
def NfcNumbersCardSaid : Prop := Claim7.holds Tryd.pinned (.plain (OpenSpec.ofChange nfcNumbersSpec)) nfcNumbersCard

/-- THE TIED CARD OF 'orthoepylaw09.NfcQuick'. -/
def nfcQuickCard : Claim7 := { stood := { row := nfcQuickRow, standIns := [], harness := (true, "13ad6150880bfefe7330e26ff140b0b5e97f616729d5a523be151901b8a02011"), looks := false }, kinds := [], alts := [], laidByText := true, laidKinds := [.data], laidTests := true, laidLooks := .later }
def NfcQuickCardSaid : Prop := Claim7.holds Tryd.pinned (.plain (OpenSpec.ofChange nfcQuickSpec)) nfcQuickCard

/-- THE TIED CARD OF 'orthoepylaw09.NfcParts'. -/
def nfcPartsCard : Claim7 := { stood := { row := nfcPartsRow, standIns := [], harness := (true, "13ad6150880bfefe7330e26ff140b0b5e97f616729d5a523be151901b8a02011"), looks := false }, kinds := [], alts := [], laidByText := true, laidKinds := [.data], laidTests := true, laidLooks := .later }
def NfcPartsCardSaid : Prop := Claim7.holds Tryd.pinned (.plain (OpenSpec.ofChange nfcPartsSpec)) nfcPartsCard

/-- THE TIED CARD OF 'orthoepylaw09.NfcEqual'. -/
def nfcEqualCard : Claim7 := { stood := { row := nfcEqualRow, standIns := [], harness := (true, "13ad6150880bfefe7330e26ff140b0b5e97f616729d5a523be151901b8a02011"), looks := false }, kinds := [], alts := [], laidByText := true, laidKinds := [.data], laidTests := true, laidLooks := .later }
def NfcEqualCardSaid : Prop := Claim7.holds Tryd.pinned (.plain (OpenSpec.ofChange nfcEqualSpec)) nfcEqualCard

/-- THE SECOND FORM's CARD OF 'orthoepylaw09.NfcAll'. -/
def nfcAllUptoCard : Claim7 := { stood := { row := nfcAllUptoRow, standIns := [], harness := (true, "13ad6150880bfefe7330e26ff140b0b5e97f616729d5a523be151901b8a02011"), looks := false }, kinds := [], alts := [], laidByText := true, laidKinds := [.data], laidTests := true, laidLooks := .later }
def NfcAllUptoCardSaid : Prop := Claim7.holds Tryd.pinned (.plain (OpenSpec.upto nfcAllSpec)) nfcAllUptoCard

/-- THE SECOND FORM's CARD OF 'orthoepylaw09.NfcNumbers'. -/
def nfcNumbersUptoCard : Claim7 := { stood := { row := nfcNumbersUptoRow, standIns := [], harness := (true, "13ad6150880bfefe7330e26ff140b0b5e97f616729d5a523be151901b8a02011"), looks := false }, kinds := [], alts := [], laidByText := true, laidKinds := [.data], laidTests := true, laidLooks := .later }
def NfcNumbersUptoCardSaid : Prop := Claim7.holds Tryd.pinned (.plain (OpenSpec.upto nfcNumbersSpec)) nfcNumbersUptoCard

/-- THE SECOND FORM's CARD OF 'orthoepylaw09.NfcQuick'. -/
def nfcQuickUptoCard : Claim7 := { stood := { row := nfcQuickUptoRow, standIns := [], harness := (true, "13ad6150880bfefe7330e26ff140b0b5e97f616729d5a523be151901b8a02011"), looks := false }, kinds := [], alts := [], laidByText := true, laidKinds := [.data], laidTests := true, laidLooks := .later }
def NfcQuickUptoCardSaid : Prop := Claim7.holds Tryd.pinned (.plain (OpenSpec.upto nfcQuickSpec)) nfcQuickUptoCard

/-- THE SECOND FORM's CARD OF 'orthoepylaw09.NfcParts'. -/
def nfcPartsUptoCard : Claim7 := { stood := { row := nfcPartsUptoRow, standIns := [], harness := (true, "13ad6150880bfefe7330e26ff140b0b5e97f616729d5a523be151901b8a02011"), looks := false }, kinds := [], alts := [], laidByText := true, laidKinds := [.data], laidTests := true, laidLooks := .later }
def NfcPartsUptoCardSaid : Prop := Claim7.holds Tryd.pinned (.plain (OpenSpec.upto nfcPartsSpec)) nfcPartsUptoCard

/-- THE SECOND FORM's CARD OF 'orthoepylaw09.NfcEqual'. -/
def nfcEqualUptoCard : Claim7 := { stood := { row := nfcEqualUptoRow, standIns := [], harness := (true, "13ad6150880bfefe7330e26ff140b0b5e97f616729d5a523be151901b8a02011"), looks := false }, kinds := [], alts := [], laidByText := true, laidKinds := [.data], laidTests := true, laidLooks := .later }
def NfcEqualUptoCardSaid : Prop := Claim7.holds Tryd.pinned (.plain (OpenSpec.upto nfcEqualSpec)) nfcEqualUptoCard
end Rows
end Go.Proofs.YtdmcidljjfogjaaDoor
