/-
  Texts laid together: KndMath, KndRef, KndCode.
-/
import Derived.Test.YtpmdcppnlggckaaGreatDoorP1
import Derived.Test.YtpmdcppnlggckaaGreatDoorProg
import Derived.WalkKit
import Derived.Below
set_option maxHeartbeats 8000000
set_option maxRecDepth 100000
namespace Go.Proofs.YtpmdcppnlggckaaGreatDoor
open Go.RowKit Go.Lib
def jq:List (List UInt8):=[[104,101,97,100],[105,102,114,97,109,101],[110,111,101,109,98,101,100],[110,111,102,114,97,109,101,115],[110,111,115,99,114,105,112,116],[115,99,114,105,112,116],[115,116,121,108,101],[116,101,109,112,108,97,116,101],[116,105,116,108,101]]
def mp:List (List UInt8):=[[108,105,115,116,105,110,103],[112,108,97,105,110,116,101,120,116],[112,114,101],[116,101,120,116,97,114,101,97],[120,109,112]]
def fR:List (List UInt8):=[[98,108,111,99,107,113,117,111,116,101],[104,49],[104,50],[104,51],[104,52],[104,53],[104,54],[108,105,115,116,105,110,103],[111,108],[112],[112,108,97,105,110,116,101,120,116],[112,114,101],[116,97,98,108,101],[117,108],[120,109,112]]
def da:List (List UInt8):=[[97,100,100,114,101,115,115],[97,114,116,105,99,108,101],[97,115,105,100,101],[98,111,100,121],[99,101,110,116,101,114],[100,100],[100,101,116,97,105,108,115],[100,105,97,108,111,103],[100,105,114],[100,105,118],[100,108],[100,116],[102,105,101,108,100,115,101,116],[102,105,103,99,97,112,116,105,111,110],[102,105,103,117,114,101],[102,111,111,116,101,114],[102,111,114,109],[104,101,97,100,101,114],[104,103,114,111,117,112],[104,114],[104,116,109,108],[108,101,103,101,110,100],[108,105],[109,97,105,110],[109,101,110,117],[110,97,118],[111,112,116,105,111,110],[115,101,97,114,99,104],[115,101,99,116,105,111,110],[115,117,109,109,97,114,121],[116,114]]
def nz (nm:(List UInt8)):Bool:=decide (nm∈jq)
def jU (nm:(List UInt8)):Bool:=decide (nm∈mp)
def gk (nm:(List UInt8)):Int:=if nm∈fR then 2 else if nm∈da then 1 else 0
theorem nA (nm:(List UInt8)):0≤gk nm∧gk nm≤2:=by
 unfold gk
 split
 ·decide
 ·split<;>decide
end Go.Proofs.YtpmdcppnlggckaaGreatDoor
namespace Go.Proofs.YtpmdcppnlggckaaGreatDoor
open Go.RowKit Go.Lib
theorem G6 (nm:ByteArray) (h:nm.data.toList∉jq):((nm.toList==[104,101,97,100])=false)∧((nm.toList==[105,102,114,97,109,101])=false)∧((nm.toList==[110,111,101,109,98,101,100])=false)∧((nm.toList==[110,111,102,114,97,109,101,115])=false)∧((nm.toList==[110,111,115,99,114,105,112,116])=false)∧((nm.toList==[115,99,114,105,112,116])=false)∧((nm.toList==[115,116,121,108,101])=false)∧((nm.toList==[116,101,109,112,108,97,116,101])=false)∧((nm.toList==[116,105,116,108,101])=false):=by
 have hk:∀p∈jq,(nm.toList==p)=false:=fun p hp=>by
  rw [beq_eq_false_iff_ne,ByteArray.toList_eq];exact fun e=>h (e▸hp)
 exact ⟨hk [104,101,97,100] (by simp [jq]),hk [105,102,114,97,109,101] (by simp [jq]),hk [110,111,101,109,98,101,100] (by simp [jq]),hk [110,111,102,114,97,109,101,115] (by simp [jq]),hk [110,111,115,99,114,105,112,116] (by simp [jq]),hk [115,99,114,105,112,116] (by simp [jq]),hk [115,116,121,108,101] (by simp [jq]),hk [116,101,109,112,108,97,116,101] (by simp [jq]),hk [116,105,116,108,101] (by simp [jq])⟩
theorem pL (nm:ByteArray) (w:World):Calls Tryz.prog 30 #[.string nm] w fun e w'=>e= .returned (.bool (nz nm.data.toList))∧w'=w:=by
 by_cases h:nm.data.toList∈jq
 ·rw [show nz nm.data.toList=true from decide_eq_true h]
  obtain ⟨n,hn,e⟩:∃n∈jq,n=nm.data.toList:=⟨_,h,rfl⟩
  have hnm:nm=⟨n.toArray⟩:=bu (by rw [List.toList_toArray];exact e.symm)
  subst hnm
  clear h e
  simp only [jq,List.mem_cons,List.not_mem_nil,or_false] at hn
  rcases hn with rfl|rfl|rfl|rfl|rfl|rfl|rfl|rfl|rfl
  all_goals
   go_enter Tryz.func30,Tryz.ntmps30
   go_wp2
   go_ret
   exact ⟨rfl,rfl⟩
 ·rw [show nz nm.data.toList=false from decide_eq_false h]
  obtain ⟨e0,e1,e2,e3,e4,e5,e6,e7,e8⟩:=G6 nm h
  clear h
  go_enter Tryz.func30,Tryz.ntmps30
  go_wp2
  go_ret
  exact ⟨rfl,rfl⟩
theorem G7 (nm:ByteArray) (h:nm.data.toList∉mp):((nm.toList==[108,105,115,116,105,110,103])=false)∧((nm.toList==[112,108,97,105,110,116,101,120,116])=false)∧((nm.toList==[112,114,101])=false)∧((nm.toList==[116,101,120,116,97,114,101,97])=false)∧((nm.toList==[120,109,112])=false):=by
 have hk:∀p∈mp,(nm.toList==p)=false:=fun p hp=>by
  rw [beq_eq_false_iff_ne,ByteArray.toList_eq];exact fun e=>h (e▸hp)
 exact ⟨hk [108,105,115,116,105,110,103] (by simp [mp]),hk [112,108,97,105,110,116,101,120,116] (by simp [mp]),hk [112,114,101] (by simp [mp]),hk [116,101,120,116,97,114,101,97] (by simp [mp]),hk [120,109,112] (by simp [mp])⟩
theorem pM (nm:ByteArray) (w:World):Calls Tryz.prog 28 #[.string nm] w fun e w'=>e= .returned (.bool (jU nm.data.toList))∧w'=w:=by
 by_cases h:nm.data.toList∈mp
 ·rw [show jU nm.data.toList=true from decide_eq_true h]
  obtain ⟨n,hn,e⟩:∃n∈mp,n=nm.data.toList:=⟨_,h,rfl⟩
  have hnm:nm=⟨n.toArray⟩:=bu (by rw [List.toList_toArray];exact e.symm)
  subst hnm
  clear h e
  simp only [mp,List.mem_cons,List.not_mem_nil,or_false] at hn
  rcases hn with rfl|rfl|rfl|rfl|rfl
  all_goals
   go_enter Tryz.func28,Tryz.ntmps28
   go_wp2
   go_ret
   exact ⟨rfl,rfl⟩
 ·rw [show jU nm.data.toList=false from decide_eq_false h]
  obtain ⟨e0,e1,e2,e3,e4⟩:=G7 nm h
  clear h
  go_enter Tryz.func28,Tryz.ntmps28
  go_wp2
  go_ret
  exact ⟨rfl,rfl⟩
theorem G8 (nm:ByteArray) (h:nm.data.toList∉fR):((nm.toList==[98,108,111,99,107,113,117,111,116,101])=false)∧((nm.toList==[104,49])=false)∧((nm.toList==[104,50])=false)∧((nm.toList==[104,51])=false)∧((nm.toList==[104,52])=false)∧((nm.toList==[104,53])=false)∧((nm.toList==[104,54])=false)∧((nm.toList==[108,105,115,116,105,110,103])=false)∧((nm.toList==[111,108])=false)∧((nm.toList==[112])=false)∧((nm.toList==[112,108,97,105,110,116,101,120,116])=false)∧((nm.toList==[112,114,101])=false)∧((nm.toList==[116,97,98,108,101])=false)∧((nm.toList==[117,108])=false)∧((nm.toList==[120,109,112])=false):=by
 have hk:∀p∈fR,(nm.toList==p)=false:=fun p hp=>by
  rw [beq_eq_false_iff_ne,ByteArray.toList_eq];exact fun e=>h (e▸hp)
 exact ⟨hk [98,108,111,99,107,113,117,111,116,101] (by simp [fR]),hk [104,49] (by simp [fR]),hk [104,50] (by simp [fR]),hk [104,51] (by simp [fR]),hk [104,52] (by simp [fR]),hk [104,53] (by simp [fR]),hk [104,54] (by simp [fR]),hk [108,105,115,116,105,110,103] (by simp [fR]),hk [111,108] (by simp [fR]),hk [112] (by simp [fR]),hk [112,108,97,105,110,116,101,120,116] (by simp [fR]),hk [112,114,101] (by simp [fR]),hk [116,97,98,108,101] (by simp [fR]),hk [117,108] (by simp [fR]),hk [120,109,112] (by simp [fR])⟩
theorem G9 (nm:ByteArray) (h:nm.data.toList∉da):((nm.toList==[97,100,100,114,101,115,115])=false)∧((nm.toList==[97,114,116,105,99,108,101])=false)∧((nm.toList==[97,115,105,100,101])=false)∧((nm.toList==[98,111,100,121])=false)∧((nm.toList==[99,101,110,116,101,114])=false)∧((nm.toList==[100,100])=false)∧((nm.toList==[100,101,116,97,105,108,115])=false)∧((nm.toList==[100,105,97,108,111,103])=false)∧((nm.toList==[100,105,114])=false)∧((nm.toList==[100,105,118])=false)∧((nm.toList==[100,108])=false)∧((nm.toList==[100,116])=false)∧((nm.toList==[102,105,101,108,100,115,101,116])=false)∧((nm.toList==[102,105,103,99,97,112,116,105,111,110])=false)∧((nm.toList==[102,105,103,117,114,101])=false)∧((nm.toList==[102,111,111,116,101,114])=false)∧((nm.toList==[102,111,114,109])=false)∧((nm.toList==[104,101,97,100,101,114])=false)∧((nm.toList==[104,103,114,111,117,112])=false)∧((nm.toList==[104,114])=false)∧((nm.toList==[104,116,109,108])=false)∧((nm.toList==[108,101,103,101,110,100])=false)∧((nm.toList==[108,105])=false)∧((nm.toList==[109,97,105,110])=false)∧((nm.toList==[109,101,110,117])=false)∧((nm.toList==[110,97,118])=false)∧((nm.toList==[111,112,116,105,111,110])=false)∧((nm.toList==[115,101,97,114,99,104])=false)∧((nm.toList==[115,101,99,116,105,111,110])=false)∧((nm.toList==[115,117,109,109,97,114,121])=false)∧((nm.toList==[116,114])=false):=by
 have hk:∀p∈da,(nm.toList==p)=false:=fun p hp=>by
  rw [beq_eq_false_iff_ne,ByteArray.toList_eq];exact fun e=>h (e▸hp)
 exact ⟨hk [97,100,100,114,101,115,115] (by simp [da]),hk [97,114,116,105,99,108,101] (by simp [da]),hk [97,115,105,100,101] (by simp [da]),hk [98,111,100,121] (by simp [da]),hk [99,101,110,116,101,114] (by simp [da]),hk [100,100] (by simp [da]),hk [100,101,116,97,105,108,115] (by simp [da]),hk [100,105,97,108,111,103] (by simp [da]),hk [100,105,114] (by simp [da]),hk [100,105,118] (by simp [da]),hk [100,108] (by simp [da]),hk [100,116] (by simp [da]),hk [102,105,101,108,100,115,101,116] (by simp [da]),hk [102,105,103,99,97,112,116,105,111,110] (by simp [da]),hk [102,105,103,117,114,101] (by simp [da]),hk [102,111,111,116,101,114] (by simp [da]),hk [102,111,114,109] (by simp [da]),hk [104,101,97,100,101,114] (by simp [da]),hk [104,103,114,111,117,112] (by simp [da]),hk [104,114] (by simp [da]),hk [104,116,109,108] (by simp [da]),hk [108,101,103,101,110,100] (by simp [da]),hk [108,105] (by simp [da]),hk [109,97,105,110] (by simp [da]),hk [109,101,110,117] (by simp [da]),hk [110,97,118] (by simp [da]),hk [111,112,116,105,111,110] (by simp [da]),hk [115,101,97,114,99,104] (by simp [da]),hk [115,101,99,116,105,111,110] (by simp [da]),hk [115,117,109,109,97,114,121] (by simp [da]),hk [116,114] (by simp [da])⟩
theorem pO (nm:ByteArray) (w:World):Calls Tryz.prog 58 #[.string nm] w fun e w'=>e= .returned (.int .i64 (gk nm.data.toList))∧w'=w:=by
 by_cases h:nm.data.toList∈fR
 ·rw [show gk nm.data.toList=2 from if_pos h]
  obtain ⟨n,hn,e⟩:∃n∈fR,n=nm.data.toList:=⟨_,h,rfl⟩
  have hnm:nm=⟨n.toArray⟩:=bu (by rw [List.toList_toArray];exact e.symm)
  subst hnm
  clear h e
  simp only [fR,List.mem_cons,List.not_mem_nil,or_false] at hn
  rcases hn with rfl|rfl|rfl|rfl|rfl|rfl|rfl|rfl|rfl|rfl|rfl|rfl|rfl|rfl|rfl
  all_goals
   go_enter Tryz.func58,Tryz.ntmps58
   go_wp2
   go_ret
   exact ⟨rfl,rfl⟩
 ·have hl:gk nm.data.toList=(if nm.data.toList∈da then 1 else 0):=if_neg h
  rw [hl]
  clear hl
  obtain ⟨e0,e1,e2,e3,e4,e5,e6,e7,e8,e9,e10,e11,e12,e13,e14⟩:=G8 nm h
  by_cases h2:nm.data.toList∈da
  ·rw [if_pos h2]
   clear e0 e1 e2 e3 e4 e5 e6 e7 e8 e9 e10 e11 e12 e13 e14
   obtain ⟨n,hn,e⟩:∃n∈da,n=nm.data.toList:=⟨_,h2,rfl⟩
   have hnm:nm=⟨n.toArray⟩:=bu (by rw [List.toList_toArray];exact e.symm)
   subst hnm
   clear h h2 e
   simp only [da,List.mem_cons,List.not_mem_nil,or_false] at hn
   rcases hn with rfl|rfl|rfl|rfl|rfl|rfl|rfl|rfl|rfl|rfl|rfl|rfl|rfl|rfl|rfl|rfl|rfl|rfl|rfl|rfl|rfl|rfl|rfl|rfl|rfl|rfl|rfl|rfl|rfl|rfl|rfl
   all_goals
    go_enter Tryz.func58,Tryz.ntmps58
    go_wp2
    go_ret
    exact ⟨rfl,rfl⟩
  ·rw [if_neg h2]
   obtain ⟨f0,f1,f2,f3,f4,f5,f6,f7,f8,f9,f10,f11,f12,f13,f14,f15,f16,f17,f18,f19,f20,f21,f22,f23,f24,f25,f26,f27,f28,f29,f30⟩:=G9 nm h2
   clear h h2
   go_enter Tryz.func58,Tryz.ntmps58
   go_wp2
   go_ret
   exact ⟨rfl,rfl⟩
end Go.Proofs.YtpmdcppnlggckaaGreatDoor
namespace Go.Proofs.YtpmdcppnlggckaaGreatDoor
open Go.RowKit Go.Lib
def gm (_:World):Prop:=True
theorem gm.below {w w':World} {n:Nat} (h:gm w) (_:Below n w w'):gm w':=h
theorem j4 (w:World):gm w:=trivial
theorem kJ (nm:ByteArray) (L:List (List UInt8)) (A:Array Value) (n g:Nat) (w:World) (hn:L.length=n) (hm:n≤1000) (hA:A=(L.map fun n=>Value.string ⟨n.toArray⟩).toArray) (h:w.heap[g]? =some (.cells A 9 (0,0))):Calls Tryz.prog 145 #[.string nm,.slice (some ⟨g,0,none⟩) n n] w fun e w'=>e= .returned (.bool (decide (nm.data.toList∈L)))∧w'=w:=by
 obtain ⟨B,hB⟩:∃B,decide (nm.data.toList∈L)=B:=⟨_,rfl⟩
 rw [hB]
 have HB:=Lib.hid hB
 have HA:=Lib.hid hA
 have HH:=Lib.hid h
 have HN:=Lib.hid hn
 clear hB hA h hn
 go_enter Tryz.func145,Tryz.ntmps145
 go_wp2
 go_loopw [9] (fun v wr=>∃i:Nat,v= .int .i64 (i:Int)∧w=wr∧i≤n∧Hid (∀k (h:k<L.length),k<i→L[k]≠nm.data.toList)) (fun v _=>n-(ae v).toNat)
 case atStart=>exact ⟨0,rfl,rfl,Nat.zero_le _,Lib.hid fun k _ h=>by omega⟩
 case round=>
  obtain ⟨i,rfl,rfl,hi,hno⟩:=hrel
  by_cases hlt:i<n
  ·have hL:i<L.length:=by rw [HN.out];exact hlt
   obtain ⟨X,hX⟩:∃X:ByteArray,(⟨(L[i]).toArray⟩:ByteArray)=X:=⟨_,rfl⟩
   have hXL:X.data.toList=L[i]:=by rw [←hX,List.toList_toArray]
   have hc:w.cell? ⟨g,i,none⟩=some (.string X):=by
    rw [cell_of_row _ _ _ _ _ _ HH.out,HA.out,List.getElem?_toArray,List.getElem?_map,List.getElem?_eq_getElem hL,←hX];rfl
   have HX:=Lib.hid hXL
   clear hX hXL
   by_cases he:nm.toList=X.toList
   ·have b1:(nm.toList==X.toList)=true:=by simpa using he
    obtain rfl:B=true:=by
     rw [←HB.out,decide_eq_true_eq,←ByteArray.toList_eq,he,ByteArray.toList_eq,HX.out];exact List.getElem_mem _
    clear he
    go_wp2
    go_ret
    exact ⟨rfl,rfl⟩
   ·have b1:(nm.toList==X.toList)=false:=by simpa using he
    have HE:=Lib.hid he
    clear he
    go_wp2
    go_roundw
    case rel=>
     refine ⟨i+1,by simp,trivial,by omega,Lib.hid fun k hk hki=>?_⟩
     by_cases hk2:k<i
     ·exact hno.out k hk hk2
     ·obtain rfl:k=i:=by omega
      rw [←HX.out,←ByteArray.toList_eq,←ByteArray.toList_eq];exact fun e=>HE.out e.symm
    case measure=>simp [ae];omega
  ·obtain rfl:B=false:=by
    rw [←HB.out,decide_eq_false_iff_not]
    intro hm
    obtain ⟨k,hk,e⟩:=List.getElem_of_mem hm
    exact hno.out k hk (by rw [HN.out] at hk;omega) e
   go_wp2
   go_ret
   exact ⟨rfl,rfl⟩
theorem Lx (nm:ByteArray) (w:World):Calls Tryz.prog 100 #[.string nm] w fun e w'=>e= .returned (.bool (decide (nm.data.toList∈jq)))∧Below w.heap.size w w':=by
 have HM:=fun (v:World) (h:v.heap[w.heap.size]? =some (.cells #[.string ⟨#[104,101,97,100]⟩,.string ⟨#[105,102,114,97,109,101]⟩,.string ⟨#[110,111,101,109,98,101,100]⟩,.string ⟨#[110,111,102,114,97,109,101,115]⟩,.string ⟨#[110,111,115,99,114,105,112,116]⟩,.string ⟨#[115,99,114,105,112,116]⟩,.string ⟨#[115,116,121,108,101]⟩,.string ⟨#[116,101,109,112,108,97,116,101]⟩,.string ⟨#[116,105,116,108,101]⟩] 9 (0,0)))=>Lib.hid (kJ nm jq _ 9 w.heap.size v rfl (by decide) rfl h)
 obtain ⟨B,hB⟩:∃B,decide (nm.data.toList∈jq)=B:=⟨_,rfl⟩
 rw [hB] at HM⊢
 clear hB
 go_enter Tryz.func100,Tryz.ntmps100
 go_wp2_with (fail)
 refine (HM _ (heap_alloc_new w _)).out.mono ?_
 rintro e w' ⟨rfl,rfl⟩
 go_wp2
 go_ret
 exact ⟨rfl,(Below.refl _ w).alloc (Nat.le_refl _) _⟩
theorem Ly (nm:ByteArray) (w:World):Calls Tryz.prog 149 #[.string nm] w fun e w'=>e= .returned (.bool (decide (nm.data.toList∈mp)))∧Below w.heap.size w w':=by
 have HM:=fun (v:World) (h:v.heap[w.heap.size]? =some (.cells #[.string ⟨#[108,105,115,116,105,110,103]⟩,.string ⟨#[112,108,97,105,110,116,101,120,116]⟩,.string ⟨#[112,114,101]⟩,.string ⟨#[116,101,120,116,97,114,101,97]⟩,.string ⟨#[120,109,112]⟩] 9 (0,0)))=>Lib.hid (kJ nm mp _ 5 w.heap.size v rfl (by decide) rfl h)
 obtain ⟨B,hB⟩:∃B,decide (nm.data.toList∈mp)=B:=⟨_,rfl⟩
 rw [hB] at HM⊢
 clear hB
 go_enter Tryz.func149,Tryz.ntmps149
 go_wp2_with (fail)
 refine (HM _ (heap_alloc_new w _)).out.mono ?_
 rintro e w' ⟨rfl,rfl⟩
 go_wp2
 go_ret
 exact ⟨rfl,(Below.refl _ w).alloc (Nat.le_refl _) _⟩
theorem Lz (nm:ByteArray) (w:World):Calls Tryz.prog 173 #[.string nm] w fun e w'=>e= .returned (.bool (decide (nm.data.toList∈fR)))∧Below w.heap.size w w':=by
 have HM:=fun (v:World) (h:v.heap[w.heap.size]? =some (.cells #[.string ⟨#[98,108,111,99,107,113,117,111,116,101]⟩,.string ⟨#[104,49]⟩,.string ⟨#[104,50]⟩,.string ⟨#[104,51]⟩,.string ⟨#[104,52]⟩,.string ⟨#[104,53]⟩,.string ⟨#[104,54]⟩,.string ⟨#[108,105,115,116,105,110,103]⟩,.string ⟨#[111,108]⟩,.string ⟨#[112]⟩,.string ⟨#[112,108,97,105,110,116,101,120,116]⟩,.string ⟨#[112,114,101]⟩,.string ⟨#[116,97,98,108,101]⟩,.string ⟨#[117,108]⟩,.string ⟨#[120,109,112]⟩] 9 (0,0)))=>Lib.hid (kJ nm fR _ 15 w.heap.size v rfl (by decide) rfl h)
 obtain ⟨B,hB⟩:∃B,decide (nm.data.toList∈fR)=B:=⟨_,rfl⟩
 rw [hB] at HM⊢
 clear hB
 go_enter Tryz.func173,Tryz.ntmps173
 go_wp2_with (fail)
 refine (HM _ (heap_alloc_new w _)).out.mono ?_
 rintro e w' ⟨rfl,rfl⟩
 go_wp2
 go_ret
 exact ⟨rfl,(Below.refl _ w).alloc (Nat.le_refl _) _⟩
theorem LA (nm:ByteArray) (w:World):Calls Tryz.prog 174 #[.string nm] w fun e w'=>e= .returned (.bool (decide (nm.data.toList∈da)))∧Below w.heap.size w w':=by
 have HM:=fun (v:World) (h:v.heap[w.heap.size]? =some (.cells #[.string ⟨#[97,100,100,114,101,115,115]⟩,.string ⟨#[97,114,116,105,99,108,101]⟩,.string ⟨#[97,115,105,100,101]⟩,.string ⟨#[98,111,100,121]⟩,.string ⟨#[99,101,110,116,101,114]⟩,.string ⟨#[100,100]⟩,.string ⟨#[100,101,116,97,105,108,115]⟩,.string ⟨#[100,105,97,108,111,103]⟩,.string ⟨#[100,105,114]⟩,.string ⟨#[100,105,118]⟩,.string ⟨#[100,108]⟩,.string ⟨#[100,116]⟩,.string ⟨#[102,105,101,108,100,115,101,116]⟩,.string ⟨#[102,105,103,99,97,112,116,105,111,110]⟩,.string ⟨#[102,105,103,117,114,101]⟩,.string ⟨#[102,111,111,116,101,114]⟩,.string ⟨#[102,111,114,109]⟩,.string ⟨#[104,101,97,100,101,114]⟩,.string ⟨#[104,103,114,111,117,112]⟩,.string ⟨#[104,114]⟩,.string ⟨#[104,116,109,108]⟩,.string ⟨#[108,101,103,101,110,100]⟩,.string ⟨#[108,105]⟩,.string ⟨#[109,97,105,110]⟩,.string ⟨#[109,101,110,117]⟩,.string ⟨#[110,97,118]⟩,.string ⟨#[111,112,116,105,111,110]⟩,.string ⟨#[115,101,97,114,99,104]⟩,.string ⟨#[115,101,99,116,105,111,110]⟩,.string ⟨#[115,117,109,109,97,114,121]⟩,.string ⟨#[116,114]⟩] 9 (0,0)))=>Lib.hid (kJ nm da _ 31 w.heap.size v rfl (by decide) rfl h)
 obtain ⟨B,hB⟩:∃B,decide (nm.data.toList∈da)=B:=⟨_,rfl⟩
 rw [hB] at HM⊢
 clear hB
 go_enter Tryz.func174,Tryz.ntmps174
 go_wp2_with (fail)
 refine (HM _ (heap_alloc_new w _)).out.mono ?_
 rintro e w' ⟨rfl,rfl⟩
 go_wp2
 go_ret
 exact ⟨rfl,(Below.refl _ w).alloc (Nat.le_refl _) _⟩
theorem yM (nm:ByteArray) (w:World) (_:gm w):Calls Tryz.prog 100 #[.string nm] w fun e w'=>e= .returned (.bool (nz nm.data.toList))∧Below w.heap.size w w':=Lx nm w
theorem pP (nm:ByteArray) (w:World) (_:gm w):Calls Tryz.prog 149 #[.string nm] w fun e w'=>e= .returned (.bool (jU nm.data.toList))∧Below w.heap.size w w':=Ly nm w
theorem yN (nm:ByteArray) (w:World) (_:gm w):Calls Tryz.prog 147 #[.string nm] w fun e w'=>e= .returned (.int .i64 (gk nm.data.toList))∧Below w.heap.size w w':=by
 have H2:=fun w=>Lib.hid (Lz nm w)
 have H1:=fun w=>Lib.hid (LA nm w)
 unfold gk
 by_cases h2:nm.data.toList∈fR
 ·rw [if_pos h2]
  rw [decide_eq_true h2] at H2
  clear h2 H1
  go_enter Tryz.func147,Tryz.ntmps147
  go_wp2_with (fail)
  refine (H2 _).out.mono ?_
  rintro e w1 ⟨rfl,c1⟩
  go_wp2
  go_ret
  exact ⟨rfl,c1⟩
 ·rw [if_neg h2]
  rw [decide_eq_false h2] at H2
  clear h2
  by_cases h1:nm.data.toList∈da
  ·rw [if_pos h1]
   rw [decide_eq_true h1] at H1
   clear h1
   go_enter Tryz.func147,Tryz.ntmps147
   go_wp2_with (fail)
   refine (H2 _).out.mono ?_
   rintro e w1 ⟨rfl,c1⟩
   go_wp2_with (fail)
   refine (H1 _).out.mono ?_
   rintro e w2 ⟨rfl,c2⟩
   go_wp2
   go_ret
   exact ⟨rfl,c1.trans (c2.mono c1.size)⟩
  ·rw [if_neg h1]
   rw [decide_eq_false h1] at H1
   clear h1
   go_enter Tryz.func147,Tryz.ntmps147
   go_wp2_with (fail)
   refine (H2 _).out.mono ?_
   rintro e w1 ⟨rfl,c1⟩
   go_wp2_with (fail)
   refine (H1 _).out.mono ?_
   rintro e w2 ⟨rfl,c2⟩
   go_wp2
   go_ret
   exact ⟨rfl,c1.trans (c2.mono c1.size)⟩
end Go.Proofs.YtpmdcppnlggckaaGreatDoor
