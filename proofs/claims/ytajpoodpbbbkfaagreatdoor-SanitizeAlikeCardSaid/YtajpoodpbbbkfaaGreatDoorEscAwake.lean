/-
  The chapter's examples, as the statements of layer 21 ask for them.
-/
import Derived.Test.YtajpoodpbbbkfaaGreatDoorEscCode
import Derived.Test.YtajpoodpbbbkfaaGreatDoorEscSign
import Derived.KernelRfl
import Derived.WalkKit
namespace Go.Proofs.YtajpoodpbbbkfaaGreatDoor
open Go.RowKit Go.Lib
theorem dP (l:List UInt8):∃A:ByteArray,(⟨l.toArray⟩:ByteArray)=A∧A.data.toList=l∧A.size=l.length:=⟨_,rfl,by rw [List.toList_toArray],by rw [Lib.size_eq,List.toList_toArray]⟩
end Go.Proofs.YtajpoodpbbbkfaaGreatDoor
