/-
  Texts laid together: KndMath, KndRef, KndCode.
-/
import Derived.Test.YtajpoodpbbbkfaaGreatDoorP1
import Derived.Test.YtajpoodpbbbkfaaGreatDoorProg
import Derived.WalkKit
import Derived.Below
set_option maxHeartbeats 8000000
set_option maxRecDepth 100000
namespace Go.Proofs.YtajpoodpbbbkfaaGreatDoor
open Go.RowKit Go.Lib
def kI:List (List UInt8):=[[104,101,97,100],[105,102,114,97,109,101],[110,111,101,109,98,101,100],[110,111,102,114,97,109,101,115],[110,111,115,99,114,105,112,116],[115,99,114,105,112,116],[115,116,121,108,101],[116,101,109,112,108,97,116,101],[116,105,116,108,101]]
def oS:List (List UInt8):=[[108,105,115,116,105,110,103],[112,108,97,105,110,116,101,120,116],[112,114,101],[116,101,120,116,97,114,101,97],[120,109,112]]
def gY:List (List UInt8):=[[98,108,111,99,107,113,117,111,116,101],[104,49],[104,50],[104,51],[104,52],[104,53],[104,54],[108,105,115,116,105,110,103],[111,108],[112],[112,108,97,105,110,116,101,120,116],[112,114,101],[116,97,98,108,101],[117,108],[120,109,112]]
def dy:List (List UInt8):=[[97,100,100,114,101,115,115],[97,114,116,105,99,108,101],[97,115,105,100,101],[98,111,100,121],[99,101,110,116,101,114],[100,100],[100,101,116,97,105,108,115],[100,105,97,108,111,103],[100,105,114],[100,105,118],[100,108],[100,116],[102,105,101,108,100,115,101,116],[102,105,103,99,97,112,116,105,111,110],[102,105,103,117,114,101],[102,111,111,116,101,114],[102,111,114,109],[104,101,97,100,101,114],[104,103,114,111,117,112],[104,114],[104,116,109,108],[108,101,103,101,110,100],[108,105],[109,97,105,110],[109,101,110,117],[110,97,118],[111,112,116,105,111,110],[115,101,97,114,99,104],[115,101,99,116,105,111,110],[115,117,109,109,97,114,121],[116,114]]
def pX (nm:(List UInt8)):Bool:=decide (nm∈kI)
def k5 (nm:(List UInt8)):Bool:=decide (nm∈oS)
def il (nm:(List UInt8)):Int:=if nm∈gY then 2 else if nm∈dy then 1 else 0
theorem pY (nm:(List UInt8)):0≤il nm∧il nm≤2:=by
 unfold il
 split
 ·decide
 ·split<;>decide
end Go.Proofs.YtajpoodpbbbkfaaGreatDoor
namespace Go.Proofs.YtajpoodpbbbkfaaGreatDoor
open Go.RowKit Go.Lib
theorem L5 (nm:ByteArray) (h:nm.data.toList∉kI):((nm.toList==[104,101,97,100])=false)∧((nm.toList==[105,102,114,97,109,101])=false)∧((nm.toList==[110,111,101,109,98,101,100])=false)∧((nm.toList==[110,111,102,114,97,109,101,115])=false)∧((nm.toList==[110,111,115,99,114,105,112,116])=false)∧((nm.toList==[115,99,114,105,112,116])=false)∧((nm.toList==[115,116,121,108,101])=false)∧((nm.toList==[116,101,109,112,108,97,116,101])=false)∧((nm.toList==[116,105,116,108,101])=false):=by
 have hk:∀p∈kI,(nm.toList==p)=false:=fun p hp=>by
  rw [beq_eq_false_iff_ne,ByteArray.toList_eq];exact fun e=>h (e▸hp)
 exact ⟨hk [104,101,97,100] (by simp [kI]),hk [105,102,114,97,109,101] (by simp [kI]),hk [110,111,101,109,98,101,100] (by simp [kI]),hk [110,111,102,114,97,109,101,115] (by simp [kI]),hk [110,111,115,99,114,105,112,116] (by simp [kI]),hk [115,99,114,105,112,116] (by simp [kI]),hk [115,116,121,108,101] (by simp [kI]),hk [116,101,109,112,108,97,116,101] (by simp [kI]),hk [116,105,116,108,101] (by simp [kI])⟩
theorem sV (nm:ByteArray) (w:World):Calls Tryz.prog 75 #[.string nm] w fun e w'=>e= .returned (.bool (pX nm.data.toList))∧w'=w:=by
 by_cases h:nm.data.toList∈kI
 ·rw [show pX nm.data.toList=true from decide_eq_true h]
  obtain ⟨n,hn,e⟩:∃n∈kI,n=nm.data.toList:=⟨_,h,rfl⟩
  have hnm:nm=⟨n.toArray⟩:=bl (by rw [List.toList_toArray];exact e.symm)
  subst hnm
  clear h e
  simp only [kI,List.mem_cons,List.not_mem_nil,or_false] at hn
  rcases hn with rfl|rfl|rfl|rfl|rfl|rfl|rfl|rfl|rfl
  all_goals
   go_enter Tryz.func75,Tryz.ntmps75
   go_wp2
   go_ret
   exact ⟨rfl,rfl⟩
 ·rw [show pX nm.data.toList=false from decide_eq_false h]
  obtain ⟨e0,e1,e2,e3,e4,e5,e6,e7,e8⟩:=L5 nm h
  clear h
  go_enter Tryz.func75,Tryz.ntmps75
  go_wp2
  go_ret
  exact ⟨rfl,rfl⟩
theorem L7 (nm:ByteArray) (h:nm.data.toList∉oS):((nm.toList==[108,105,115,116,105,110,103])=false)∧((nm.toList==[112,108,97,105,110,116,101,120,116])=false)∧((nm.toList==[112,114,101])=false)∧((nm.toList==[116,101,120,116,97,114,101,97])=false)∧((nm.toList==[120,109,112])=false):=by
 have hk:∀p∈oS,(nm.toList==p)=false:=fun p hp=>by
  rw [beq_eq_false_iff_ne,ByteArray.toList_eq];exact fun e=>h (e▸hp)
 exact ⟨hk [108,105,115,116,105,110,103] (by simp [oS]),hk [112,108,97,105,110,116,101,120,116] (by simp [oS]),hk [112,114,101] (by simp [oS]),hk [116,101,120,116,97,114,101,97] (by simp [oS]),hk [120,109,112] (by simp [oS])⟩
theorem sZ (nm:ByteArray) (w:World):Calls Tryz.prog 73 #[.string nm] w fun e w'=>e= .returned (.bool (k5 nm.data.toList))∧w'=w:=by
 by_cases h:nm.data.toList∈oS
 ·rw [show k5 nm.data.toList=true from decide_eq_true h]
  obtain ⟨n,hn,e⟩:∃n∈oS,n=nm.data.toList:=⟨_,h,rfl⟩
  have hnm:nm=⟨n.toArray⟩:=bl (by rw [List.toList_toArray];exact e.symm)
  subst hnm
  clear h e
  simp only [oS,List.mem_cons,List.not_mem_nil,or_false] at hn
  rcases hn with rfl|rfl|rfl|rfl|rfl
  all_goals
   go_enter Tryz.func73,Tryz.ntmps73
   go_wp2
   go_ret
   exact ⟨rfl,rfl⟩
 ·rw [show k5 nm.data.toList=false from decide_eq_false h]
  obtain ⟨e0,e1,e2,e3,e4⟩:=L7 nm h
  clear h
  go_enter Tryz.func73,Tryz.ntmps73
  go_wp2
  go_ret
  exact ⟨rfl,rfl⟩
theorem L8 (nm:ByteArray) (h:nm.data.toList∉gY):((nm.toList==[98,108,111,99,107,113,117,111,116,101])=false)∧((nm.toList==[104,49])=false)∧((nm.toList==[104,50])=false)∧((nm.toList==[104,51])=false)∧((nm.toList==[104,52])=false)∧((nm.toList==[104,53])=false)∧((nm.toList==[104,54])=false)∧((nm.toList==[108,105,115,116,105,110,103])=false)∧((nm.toList==[111,108])=false)∧((nm.toList==[112])=false)∧((nm.toList==[112,108,97,105,110,116,101,120,116])=false)∧((nm.toList==[112,114,101])=false)∧((nm.toList==[116,97,98,108,101])=false)∧((nm.toList==[117,108])=false)∧((nm.toList==[120,109,112])=false):=by
 have hk:∀p∈gY,(nm.toList==p)=false:=fun p hp=>by
  rw [beq_eq_false_iff_ne,ByteArray.toList_eq];exact fun e=>h (e▸hp)
 exact ⟨hk [98,108,111,99,107,113,117,111,116,101] (by simp [gY]),hk [104,49] (by simp [gY]),hk [104,50] (by simp [gY]),hk [104,51] (by simp [gY]),hk [104,52] (by simp [gY]),hk [104,53] (by simp [gY]),hk [104,54] (by simp [gY]),hk [108,105,115,116,105,110,103] (by simp [gY]),hk [111,108] (by simp [gY]),hk [112] (by simp [gY]),hk [112,108,97,105,110,116,101,120,116] (by simp [gY]),hk [112,114,101] (by simp [gY]),hk [116,97,98,108,101] (by simp [gY]),hk [117,108] (by simp [gY]),hk [120,109,112] (by simp [gY])⟩
theorem L9 (nm:ByteArray) (h:nm.data.toList∉dy):((nm.toList==[97,100,100,114,101,115,115])=false)∧((nm.toList==[97,114,116,105,99,108,101])=false)∧((nm.toList==[97,115,105,100,101])=false)∧((nm.toList==[98,111,100,121])=false)∧((nm.toList==[99,101,110,116,101,114])=false)∧((nm.toList==[100,100])=false)∧((nm.toList==[100,101,116,97,105,108,115])=false)∧((nm.toList==[100,105,97,108,111,103])=false)∧((nm.toList==[100,105,114])=false)∧((nm.toList==[100,105,118])=false)∧((nm.toList==[100,108])=false)∧((nm.toList==[100,116])=false)∧((nm.toList==[102,105,101,108,100,115,101,116])=false)∧((nm.toList==[102,105,103,99,97,112,116,105,111,110])=false)∧((nm.toList==[102,105,103,117,114,101])=false)∧((nm.toList==[102,111,111,116,101,114])=false)∧((nm.toList==[102,111,114,109])=false)∧((nm.toList==[104,101,97,100,101,114])=false)∧((nm.toList==[104,103,114,111,117,112])=false)∧((nm.toList==[104,114])=false)∧((nm.toList==[104,116,109,108])=false)∧((nm.toList==[108,101,103,101,110,100])=false)∧((nm.toList==[108,105])=false)∧((nm.toList==[109,97,105,110])=false)∧((nm.toList==[109,101,110,117])=false)∧((nm.toList==[110,97,118])=false)∧((nm.toList==[111,112,116,105,111,110])=false)∧((nm.toList==[115,101,97,114,99,104])=false)∧((nm.toList==[115,101,99,116,105,111,110])=false)∧((nm.toList==[115,117,109,109,97,114,121])=false)∧((nm.toList==[116,114])=false):=by
 have hk:∀p∈dy,(nm.toList==p)=false:=fun p hp=>by
  rw [beq_eq_false_iff_ne,ByteArray.toList_eq];exact fun e=>h (e▸hp)
 exact ⟨hk [97,100,100,114,101,115,115] (by simp [dy]),hk [97,114,116,105,99,108,101] (by simp [dy]),hk [97,115,105,100,101] (by simp [dy]),hk [98,111,100,121] (by simp [dy]),hk [99,101,110,116,101,114] (by simp [dy]),hk [100,100] (by simp [dy]),hk [100,101,116,97,105,108,115] (by simp [dy]),hk [100,105,97,108,111,103] (by simp [dy]),hk [100,105,114] (by simp [dy]),hk [100,105,118] (by simp [dy]),hk [100,108] (by simp [dy]),hk [100,116] (by simp [dy]),hk [102,105,101,108,100,115,101,116] (by simp [dy]),hk [102,105,103,99,97,112,116,105,111,110] (by simp [dy]),hk [102,105,103,117,114,101] (by simp [dy]),hk [102,111,111,116,101,114] (by simp [dy]),hk [102,111,114,109] (by simp [dy]),hk [104,101,97,100,101,114] (by simp [dy]),hk [104,103,114,111,117,112] (by simp [dy]),hk [104,114] (by simp [dy]),hk [104,116,109,108] (by simp [dy]),hk [108,101,103,101,110,100] (by simp [dy]),hk [108,105] (by simp [dy]),hk [109,97,105,110] (by simp [dy]),hk [109,101,110,117] (by simp [dy]),hk [110,97,118] (by simp [dy]),hk [111,112,116,105,111,110] (by simp [dy]),hk [115,101,97,114,99,104] (by simp [dy]),hk [115,101,99,116,105,111,110] (by simp [dy]),hk [115,117,109,109,97,114,121] (by simp [dy]),hk [116,114] (by simp [dy])⟩
theorem s6 (nm:ByteArray) (w:World):Calls Tryz.prog 119 #[.string nm] w fun e w'=>e= .returned (.int .i64 (il nm.data.toList))∧w'=w:=by
 by_cases h:nm.data.toList∈gY
 ·rw [show il nm.data.toList=2 from if_pos h]
  obtain ⟨n,hn,e⟩:∃n∈gY,n=nm.data.toList:=⟨_,h,rfl⟩
  have hnm:nm=⟨n.toArray⟩:=bl (by rw [List.toList_toArray];exact e.symm)
  subst hnm
  clear h e
  simp only [gY,List.mem_cons,List.not_mem_nil,or_false] at hn
  rcases hn with rfl|rfl|rfl|rfl|rfl|rfl|rfl|rfl|rfl|rfl|rfl|rfl|rfl|rfl|rfl
  all_goals
   go_enter Tryz.func119,Tryz.ntmps119
   go_wp2
   go_ret
   exact ⟨rfl,rfl⟩
 ·have hl:il nm.data.toList=(if nm.data.toList∈dy then 1 else 0):=if_neg h
  rw [hl]
  clear hl
  obtain ⟨e0,e1,e2,e3,e4,e5,e6,e7,e8,e9,e10,e11,e12,e13,e14⟩:=L8 nm h
  by_cases h2:nm.data.toList∈dy
  ·rw [if_pos h2]
   clear e0 e1 e2 e3 e4 e5 e6 e7 e8 e9 e10 e11 e12 e13 e14
   obtain ⟨n,hn,e⟩:∃n∈dy,n=nm.data.toList:=⟨_,h2,rfl⟩
   have hnm:nm=⟨n.toArray⟩:=bl (by rw [List.toList_toArray];exact e.symm)
   subst hnm
   clear h h2 e
   simp only [dy,List.mem_cons,List.not_mem_nil,or_false] at hn
   rcases hn with rfl|rfl|rfl|rfl|rfl|rfl|rfl|rfl|rfl|rfl|rfl|rfl|rfl|rfl|rfl|rfl|rfl|rfl|rfl|rfl|rfl|rfl|rfl|rfl|rfl|rfl|rfl|rfl|rfl|rfl|rfl
   all_goals
    go_enter Tryz.func119,Tryz.ntmps119
    go_wp2
    go_ret
    exact ⟨rfl,rfl⟩
  ·rw [if_neg h2]
   obtain ⟨f0,f1,f2,f3,f4,f5,f6,f7,f8,f9,f10,f11,f12,f13,f14,f15,f16,f17,f18,f19,f20,f21,f22,f23,f24,f25,f26,f27,f28,f29,f30⟩:=L9 nm h2
   clear h h2
   go_enter Tryz.func119,Tryz.ntmps119
   go_wp2
   go_ret
   exact ⟨rfl,rfl⟩
end Go.Proofs.YtajpoodpbbbkfaaGreatDoor
namespace Go.Proofs.YtajpoodpbbbkfaaGreatDoor
open Go.RowKit Go.Lib
def im (_:World):Prop:=True
theorem im.below {w w':World} {n:Nat} (h:im w) (_:Below n w w'):im w':=h
theorem lD (w:World):im w:=trivial
theorem mx (nm:ByteArray) (L:List (List UInt8)) (A:Array Value) (n g:Nat) (w:World) (hn:L.length=n) (hm:n≤1000) (hA:A=(L.map fun n=>Value.string ⟨n.toArray⟩).toArray) (h:w.heap[g]? =some (.cells A 9 (0,0))):Calls Tryz.prog 175 #[.string nm,.slice (some ⟨g,0,none⟩) n n] w fun e w'=>e= .returned (.bool (decide (nm.data.toList∈L)))∧w'=w:=by
 obtain ⟨B,hB⟩:∃B,decide (nm.data.toList∈L)=B:=⟨_,rfl⟩
 rw [hB]
 have HB:=Lib.hid hB
 have HA:=Lib.hid hA
 have HH:=Lib.hid h
 have HN:=Lib.hid hn
 clear hB hA h hn
 go_enter Tryz.func175,Tryz.ntmps175
 go_wp2
 go_loopw [9] (fun v wr=>∃i:Nat,v= .int .i64 (i:Int)∧w=wr∧i≤n∧Hid (∀k (h:k<L.length),k<i→L[k]≠nm.data.toList)) (fun v _=>n-(ae v).toNat)
 case atStart=>exact ⟨0,rfl,rfl,Nat.zero_le _,Lib.hid fun k _ h=>by omega⟩
 case round=>
  obtain ⟨i,rfl,rfl,hi,hno⟩:=hrel
  by_cases hlt:i<n
  ·have hL:i<L.length:=by rw [HN.out];exact hlt
   obtain ⟨X,hX⟩:∃X:ByteArray,(⟨(L[i]).toArray⟩:ByteArray)=X:=⟨_,rfl⟩
   have hXL:X.data.toList=L[i]:=by rw [←hX,List.toList_toArray]
   have hc:w.cell? ⟨g,i,none⟩=some (.string X):=by
    rw [cell_of_row _ _ _ _ _ _ HH.out,HA.out,List.getElem?_toArray,List.getElem?_map,List.getElem?_eq_getElem hL,←hX];rfl
   have HX:=Lib.hid hXL
   clear hX hXL
   by_cases he:nm.toList=X.toList
   ·have b1:(nm.toList==X.toList)=true:=by simpa using he
    obtain rfl:B=true:=by
     rw [←HB.out,decide_eq_true_eq,←ByteArray.toList_eq,he,ByteArray.toList_eq,HX.out];exact List.getElem_mem _
    clear he
    go_wp2
    go_ret
    exact ⟨rfl,rfl⟩
   ·have b1:(nm.toList==X.toList)=false:=by simpa using he
    have HE:=Lib.hid he
    clear he
    go_wp2
    go_roundw
    case rel=>
     refine ⟨i+1,by simp,trivial,by omega,Lib.hid fun k hk hki=>?_⟩
     by_cases hk2:k<i
     ·exact hno.out k hk hk2
     ·obtain rfl:k=i:=by omega
      rw [←HX.out,←ByteArray.toList_eq,←ByteArray.toList_eq];exact fun e=>HE.out e.symm
    case measure=>simp [ae];omega
  ·obtain rfl:B=false:=by
    rw [←HB.out,decide_eq_false_iff_not]
    intro hm
    obtain ⟨k,hk,e⟩:=List.getElem_of_mem hm
    exact hno.out k hk (by rw [HN.out] at hk;omega) e
   go_wp2
   go_ret
   exact ⟨rfl,rfl⟩
theorem PC (nm:ByteArray) (w:World):Calls Tryz.prog 138 #[.string nm] w fun e w'=>e= .returned (.bool (decide (nm.data.toList∈kI)))∧Below w.heap.size w w':=by
 have HM:=fun (v:World) (h:v.heap[w.heap.size]? =some (.cells #[.string ⟨#[104,101,97,100]⟩,.string ⟨#[105,102,114,97,109,101]⟩,.string ⟨#[110,111,101,109,98,101,100]⟩,.string ⟨#[110,111,102,114,97,109,101,115]⟩,.string ⟨#[110,111,115,99,114,105,112,116]⟩,.string ⟨#[115,99,114,105,112,116]⟩,.string ⟨#[115,116,121,108,101]⟩,.string ⟨#[116,101,109,112,108,97,116,101]⟩,.string ⟨#[116,105,116,108,101]⟩] 9 (0,0)))=>Lib.hid (mx nm kI _ 9 w.heap.size v rfl (by decide) rfl h)
 obtain ⟨B,hB⟩:∃B,decide (nm.data.toList∈kI)=B:=⟨_,rfl⟩
 rw [hB] at HM⊢
 clear hB
 go_enter Tryz.func138,Tryz.ntmps138
 go_wp2_with (fail)
 refine (HM _ (heap_alloc_new w _)).out.mono ?_
 rintro e w' ⟨rfl,rfl⟩
 go_wp2
 go_ret
 exact ⟨rfl,(Below.refl _ w).alloc (Nat.le_refl _) _⟩
theorem PD (nm:ByteArray) (w:World):Calls Tryz.prog 179 #[.string nm] w fun e w'=>e= .returned (.bool (decide (nm.data.toList∈oS)))∧Below w.heap.size w w':=by
 have HM:=fun (v:World) (h:v.heap[w.heap.size]? =some (.cells #[.string ⟨#[108,105,115,116,105,110,103]⟩,.string ⟨#[112,108,97,105,110,116,101,120,116]⟩,.string ⟨#[112,114,101]⟩,.string ⟨#[116,101,120,116,97,114,101,97]⟩,.string ⟨#[120,109,112]⟩] 9 (0,0)))=>Lib.hid (mx nm oS _ 5 w.heap.size v rfl (by decide) rfl h)
 obtain ⟨B,hB⟩:∃B,decide (nm.data.toList∈oS)=B:=⟨_,rfl⟩
 rw [hB] at HM⊢
 clear hB
 go_enter Tryz.func179,Tryz.ntmps179
 go_wp2_with (fail)
 refine (HM _ (heap_alloc_new w _)).out.mono ?_
 rintro e w' ⟨rfl,rfl⟩
 go_wp2
 go_ret
 exact ⟨rfl,(Below.refl _ w).alloc (Nat.le_refl _) _⟩
theorem PE (nm:ByteArray) (w:World):Calls Tryz.prog 202 #[.string nm] w fun e w'=>e= .returned (.bool (decide (nm.data.toList∈gY)))∧Below w.heap.size w w':=by
 have HM:=fun (v:World) (h:v.heap[w.heap.size]? =some (.cells #[.string ⟨#[98,108,111,99,107,113,117,111,116,101]⟩,.string ⟨#[104,49]⟩,.string ⟨#[104,50]⟩,.string ⟨#[104,51]⟩,.string ⟨#[104,52]⟩,.string ⟨#[104,53]⟩,.string ⟨#[104,54]⟩,.string ⟨#[108,105,115,116,105,110,103]⟩,.string ⟨#[111,108]⟩,.string ⟨#[112]⟩,.string ⟨#[112,108,97,105,110,116,101,120,116]⟩,.string ⟨#[112,114,101]⟩,.string ⟨#[116,97,98,108,101]⟩,.string ⟨#[117,108]⟩,.string ⟨#[120,109,112]⟩] 9 (0,0)))=>Lib.hid (mx nm gY _ 15 w.heap.size v rfl (by decide) rfl h)
 obtain ⟨B,hB⟩:∃B,decide (nm.data.toList∈gY)=B:=⟨_,rfl⟩
 rw [hB] at HM⊢
 clear hB
 go_enter Tryz.func202,Tryz.ntmps202
 go_wp2_with (fail)
 refine (HM _ (heap_alloc_new w _)).out.mono ?_
 rintro e w' ⟨rfl,rfl⟩
 go_wp2
 go_ret
 exact ⟨rfl,(Below.refl _ w).alloc (Nat.le_refl _) _⟩
theorem PF (nm:ByteArray) (w:World):Calls Tryz.prog 203 #[.string nm] w fun e w'=>e= .returned (.bool (decide (nm.data.toList∈dy)))∧Below w.heap.size w w':=by
 have HM:=fun (v:World) (h:v.heap[w.heap.size]? =some (.cells #[.string ⟨#[97,100,100,114,101,115,115]⟩,.string ⟨#[97,114,116,105,99,108,101]⟩,.string ⟨#[97,115,105,100,101]⟩,.string ⟨#[98,111,100,121]⟩,.string ⟨#[99,101,110,116,101,114]⟩,.string ⟨#[100,100]⟩,.string ⟨#[100,101,116,97,105,108,115]⟩,.string ⟨#[100,105,97,108,111,103]⟩,.string ⟨#[100,105,114]⟩,.string ⟨#[100,105,118]⟩,.string ⟨#[100,108]⟩,.string ⟨#[100,116]⟩,.string ⟨#[102,105,101,108,100,115,101,116]⟩,.string ⟨#[102,105,103,99,97,112,116,105,111,110]⟩,.string ⟨#[102,105,103,117,114,101]⟩,.string ⟨#[102,111,111,116,101,114]⟩,.string ⟨#[102,111,114,109]⟩,.string ⟨#[104,101,97,100,101,114]⟩,.string ⟨#[104,103,114,111,117,112]⟩,.string ⟨#[104,114]⟩,.string ⟨#[104,116,109,108]⟩,.string ⟨#[108,101,103,101,110,100]⟩,.string ⟨#[108,105]⟩,.string ⟨#[109,97,105,110]⟩,.string ⟨#[109,101,110,117]⟩,.string ⟨#[110,97,118]⟩,.string ⟨#[111,112,116,105,111,110]⟩,.string ⟨#[115,101,97,114,99,104]⟩,.string ⟨#[115,101,99,116,105,111,110]⟩,.string ⟨#[115,117,109,109,97,114,121]⟩,.string ⟨#[116,114]⟩] 9 (0,0)))=>Lib.hid (mx nm dy _ 31 w.heap.size v rfl (by decide) rfl h)
 obtain ⟨B,hB⟩:∃B,decide (nm.data.toList∈dy)=B:=⟨_,rfl⟩
 rw [hB] at HM⊢
 clear hB
 go_enter Tryz.func203,Tryz.ntmps203
 go_wp2_with (fail)
 refine (HM _ (heap_alloc_new w _)).out.mono ?_
 rintro e w' ⟨rfl,rfl⟩
 go_wp2
 go_ret
 exact ⟨rfl,(Below.refl _ w).alloc (Nat.le_refl _) _⟩
theorem Cf (nm:ByteArray) (w:World) (_:im w):Calls Tryz.prog 138 #[.string nm] w fun e w'=>e= .returned (.bool (pX nm.data.toList))∧Below w.heap.size w w':=PC nm w
theorem s7 (nm:ByteArray) (w:World) (_:im w):Calls Tryz.prog 179 #[.string nm] w fun e w'=>e= .returned (.bool (k5 nm.data.toList))∧Below w.heap.size w w':=PD nm w
theorem Cg (nm:ByteArray) (w:World) (_:im w):Calls Tryz.prog 177 #[.string nm] w fun e w'=>e= .returned (.int .i64 (il nm.data.toList))∧Below w.heap.size w w':=by
 have H2:=fun w=>Lib.hid (PE nm w)
 have H1:=fun w=>Lib.hid (PF nm w)
 unfold il
 by_cases h2:nm.data.toList∈gY
 ·rw [if_pos h2]
  rw [decide_eq_true h2] at H2
  clear h2 H1
  go_enter Tryz.func177,Tryz.ntmps177
  go_wp2_with (fail)
  refine (H2 _).out.mono ?_
  rintro e w1 ⟨rfl,c1⟩
  go_wp2
  go_ret
  exact ⟨rfl,c1⟩
 ·rw [if_neg h2]
  rw [decide_eq_false h2] at H2
  clear h2
  by_cases h1:nm.data.toList∈dy
  ·rw [if_pos h1]
   rw [decide_eq_true h1] at H1
   clear h1
   go_enter Tryz.func177,Tryz.ntmps177
   go_wp2_with (fail)
   refine (H2 _).out.mono ?_
   rintro e w1 ⟨rfl,c1⟩
   go_wp2_with (fail)
   refine (H1 _).out.mono ?_
   rintro e w2 ⟨rfl,c2⟩
   go_wp2
   go_ret
   exact ⟨rfl,c1.trans (c2.mono c1.size)⟩
  ·rw [if_neg h1]
   rw [decide_eq_false h1] at H1
   clear h1
   go_enter Tryz.func177,Tryz.ntmps177
   go_wp2_with (fail)
   refine (H2 _).out.mono ?_
   rintro e w1 ⟨rfl,c1⟩
   go_wp2_with (fail)
   refine (H1 _).out.mono ?_
   rintro e w2 ⟨rfl,c2⟩
   go_wp2
   go_ret
   exact ⟨rfl,c1.trans (c2.mono c1.size)⟩
end Go.Proofs.YtajpoodpbbbkfaaGreatDoor
