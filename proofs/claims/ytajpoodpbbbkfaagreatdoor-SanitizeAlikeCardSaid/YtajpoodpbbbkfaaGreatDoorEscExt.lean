/-
  What is written, and read as bytes that are marked up: plain mathematics.
-/
import Derived.Test.YtajpoodpbbbkfaaGreatDoorSG
import Derived.Test.YtajpoodpbbbkfaaGreatDoorEscRef
import Derived.Test.YtajpoodpbbbkfaaGreatDoorEscSign
namespace Go.Proofs.YtajpoodpbbbkfaaGreatDoor
open Go.RowKit Go.Lib
theorem My (x:ab):p7 [d9 x]=(cP false io x).told:=by
 unfold p7
 rw [mC,Jv,dE lK (d9 x) rfl,if_pos (show lK.opn=[] from rfl)];rfl
end Go.Proofs.YtajpoodpbbbkfaaGreatDoor
