/-
  The chapter's example, as the statements of layer 20 ask for it; what is told of a text handed over as bytes.
-/
import Derived.Test.YtpmdcppnlggckaaGreatDoorExtCode
import Derived.Test.YtpmdcppnlggckaaGreatDoorUB
import Derived.KernelRfl
import Derived.Lib.SlBytesConst
set_option maxHeartbeats 2000000
set_option maxRecDepth 1000000
namespace Go.Proofs.YtpmdcppnlggckaaGreatDoor
open Go.RowKit Go.Lib
theorem vw (w:World) (C:Array Value) (t:TypeId) (l:List UInt8) (fr:Nat × Nat) (h:C.toList=Lib.byteCells l) (hm:l.length≤maxLen):ay (w.alloc (.cells C t fr)) (.slice (some ⟨w.heap.size,0,none⟩) l.length l.length) l:=by
 refine .inr ⟨_,_,rfl,Nat.le_refl _,hm,fun i hi=>?_⟩
 have e:(⟨w.heap.size,0,none⟩:Addr).add i=⟨w.heap.size,i,none⟩:=by simp [Addr.add];omega
 rw [e,World.cell?_alloc_mark,←Array.getElem?_toList,h,Lib.byteCells,List.getElem?_map,List.getElem?_eq_getElem hi]
 rfl
def Bi:ab:=[60,112,62,97,32,38,97,109,112,59,32,98,60,47,112,62,60,115,99,114,105,112,116,62,120,60,47,115,99,114,105,112,116,62,99]
def JG:Array Value:=#[.int .u8 60,.int .u8 112,.int .u8 62,.int .u8 97,.int .u8 32,.int .u8 38,.int .u8 97,.int .u8 109,.int .u8 112,.int .u8 59,.int .u8 32,.int .u8 98,.int .u8 60,.int .u8 47,.int .u8 112,.int .u8 62,.int .u8 60,.int .u8 115,.int .u8 99,.int .u8 114,.int .u8 105,.int .u8 112,.int .u8 116,.int .u8 62,.int .u8 120,.int .u8 60,.int .u8 47,.int .u8 115,.int .u8 99,.int .u8 114,.int .u8 105,.int .u8 112,.int .u8 116,.int .u8 62,.int .u8 99]
theorem GQ:JG.toList=Lib.byteCells Bi:=rfl
theorem Ds:qX Bi=[97,32,38,32,98,10,10,99]∧qX []=[]:=by refine ⟨?_,?_⟩<;>kernel_rfl
theorem nt (w:World) (h:cc w):Calls Tryz.prog 9 #[] w fun e w'=>e= .returned (.bool true)∧Below w.heap.size w w':=by
 have HW:=Lib.hid h
 clear h
 obtain ⟨t1,t2⟩:=Ds
 have T1:=Lib.hid t1
 have T2:=Lib.hid t2
 clear t1 t2
 have kc:=fun (w:World) (C:Array Value) (n c:Nat)=>Lib.run_convert_bytes_const (P:=Tryz.prog) w 22 5 C n c Tryz.underlying22 Tryz.underlying5
 go_enter Tryz.func9,Tryz.ntmps9
 go_wp2_with (fail)
 refine (vt _ Bi _ (vw _ JG _ Bi _ GQ (by decide)) (zH _ (by decide)) (HW.out.below ((Below.refl w.heap.size w).alloc (Nat.le_refl _) _))).mono ?_
 rintro e w1 ⟨rfl,c1⟩
 rw [T1.out]
 have B1:=Lib.hid (((Below.refl w.heap.size w).alloc (Nat.le_refl _) _).trans (c1.mono (by simp)))
 clear c1
 go_wp2_with (fail)
 refine (vt _ [] _ (.inl ⟨rfl,rfl⟩) (zH _ (by decide)) (HW.out.below B1.out)).mono ?_
 rintro e w2 ⟨rfl,c2⟩
 rw [T2.out]
 have B2:=Lib.hid (B1.out.trans (c2.mono B1.out.size))
 clear c2
 go_wp2
 go_ret
 exact ⟨rfl,B2.out⟩
end Go.Proofs.YtpmdcppnlggckaaGreatDoor
