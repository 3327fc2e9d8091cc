/-
  The chapter's example, as the statements of layer 22 ask for it; what is left of a text handed over as bytes.
-/
import Derived.Test.YtajpoodpbbbkfaaGreatDoorSanCode
import Derived.Lib.SlBytesConst
set_option maxHeartbeats 2000000
set_option maxRecDepth 100000
namespace Go.Proofs.YtajpoodpbbbkfaaGreatDoor
open Go.RowKit Go.Lib
def Et:ab:=[60,98,62,97,60,47,98,62,32,38,108,116,59,105,62]
def NF:Array Value:=#[.int .u8 60,.int .u8 98,.int .u8 62,.int .u8 97,.int .u8 60,.int .u8 47,.int .u8 98,.int .u8 62,.int .u8 32,.int .u8 38,.int .u8 108,.int .u8 116,.int .u8 59,.int .u8 105,.int .u8 62]
theorem KM:NF.toList=Lib.byteCells Et:=rfl
theorem gN (l:ab) (h:l.length≤300):(cT l).length≤1000:=by have:=xR l;omega
theorem bT (w:World) (h:bn w):Calls Tryz.prog 8 #[] w fun e w'=>e= .returned (.bool true)∧Below w.heap.size w w':=by
 have HW:=Lib.hid h
 clear h
 obtain ⟨t1,t2⟩:=PL
 have T1:Hid (bB 0 Et=[97,32,38,108,116,59,105,38,103,116,59]):=Lib.hid t1
 have T2:=Lib.hid t2
 clear t1 t2
 have kc:=fun (w:World) (C:Array Value) (n c:Nat)=>Lib.run_convert_bytes_const (P:=Tryz.prog) w 22 5 C n c Tryz.underlying22 Tryz.underlying5
 go_enter Tryz.func8,Tryz.ntmps8
 go_wp2_with (fail)
 refine (fX 0 _ Et _ (by decide) (yh _ NF _ Et _ KM (by decide)) (iU _ (by decide)) (gN _ (by decide)) (HW.out.below ((Below.refl w.heap.size w).alloc (Nat.le_refl _) _))).mono ?_
 rintro e w1 ⟨rfl,c1⟩
 rw [T1.out]
 have B1:=Lib.hid (((Below.refl w.heap.size w).alloc (Nat.le_refl _) _).trans (c1.mono (by simp)))
 clear c1
 go_wp2_with (fail)
 refine (fX 1 _ [] _ (by decide) (.inl ⟨rfl,rfl⟩) (iU _ (by decide)) (gN _ (by decide)) (HW.out.below B1.out)).mono ?_
 rintro e w2 ⟨rfl,c2⟩
 rw [T2.out]
 have B2:=Lib.hid (B1.out.trans (c2.mono B1.out.size))
 clear c2
 go_wp2
 go_ret
 exact ⟨rfl,B2.out⟩
end Go.Proofs.YtajpoodpbbbkfaaGreatDoor
