/-
  Texts laid together: RenRow, RenMap, RenPage, RenOpen, RenDeed.
-/
import Derived.Test.YtajpoodpbbbkfaaGreatDoorFA
import Derived.Test.YtajpoodpbbbkfaaGreatDoorRA
import Derived.Lib.SliceRun
import Derived.KernelRfl
import Derived.Maps.OwnSet
import Derived.Maps.OwnOps
import Derived.Maps.Views
import Derived.Lib.Hide
import Derived.Test.YtajpoodpbbbkfaaGreatDoorKA
import Derived.Test.YtajpoodpbbbkfaaGreatDoorQD
import Derived.Deep.LoopGhost
set_option maxHeartbeats 16000000
set_option maxRecDepth 100000
namespace Go.Proofs.YtajpoodpbbbkfaaGreatDoor
open Go.RowKit Go.Lib
structure kg (w:World) (g:Nat) (A:List Value) (D:List ab) (R:List Value):Prop where
 heap:w.heap[g]? =some (.cells (A++bA D++R).toArray 9 (0,0))
theorem kg.lt {w:World} {g:Nat} {A R:List Value} {D:List ab} (h:kg w g A D R):g<w.heap.size:=(Array.getElem?_eq_some_iff.1 h.heap).1
theorem kg.cell {w:World} {g:Nat} {A R:List Value} {D:List ab} (h:kg w g A D R) (i:Nat) (hi:i<D.length):w.cell? ⟨g,A.length+i,none⟩=some (.string ⟨D[i].toArray⟩):=by
 rw [cell_of_row _ _ _ _ _ _ h.heap,List.getElem?_toArray,List.append_assoc,List.getElem?_append_right (Nat.le_add_right _ _),Nat.add_sub_cancel_left,List.getElem?_append_left (by rw [bU];exact hi)]
 exact oW D i hi
theorem kg.thawed {w:World} {g:Nat} {A R:List Value} {D:List ab} (h:kg w g A D R) (i:Nat):w.frozen? ⟨g,i,none⟩=false:=Lib.frozen_of_heap h.heap i
theorem Gt (D:List ab) (i:Nat) (x:ab):bA (D.set i x)=(bA D).set i (.string ⟨x.toArray⟩):=by
 unfold bA;rw [List.map_set]
theorem kg.set {w:World} {g:Nat} {A R:List Value} {D:List ab} (h:kg w g A D R) (i:Nat) (hi:i<D.length) (x:ab):kg (w.setCell ⟨g,A.length+i,none⟩ (.string ⟨x.toArray⟩)) g A (D.set i x) R:=by
 refine ⟨?_⟩
 rw [Go.heap_setCell_same w g _ _ _ _ h.heap]
 congr 2
 apply Array.ext'
 rw [Array.toList_setIfInBounds,List.toList_toArray,List.toList_toArray,Gt,List.append_assoc,List.append_assoc,List.set_append_right _ _ (Nat.le_add_right _ _),Nat.add_sub_cancel_left,List.set_append_left _ _ (by rw [bU];exact hi)]
theorem nj (w:World) (g i:Nat) (v:Value):w.grownBy (w.setCell ⟨g,i,none⟩ v) (some g):=
 ⟨rfl,rfl,rfl,by simp,fun k _ hk=>Below.heap_setCell w ⟨g,i,none⟩ v _ (fun e=>hk (congrArg some e))⟩
def tK:Value:= .string ⟨#[]⟩
theorem kg.clear {w:World} {g:Nat} {A R:List Value} {D:List ab} (h:kg w g A D R) (i n:Nat) (hn:i+n=D.length):kg (w.setCells g (A.length+i) (List.replicate n tK)) g A (D.take i++List.replicate n []) R:=by
 refine ⟨?_⟩
 rw [kJ g _ _ _ _ _ _ h.heap (by simp [bU];omega)]
 congr 3
 have e1:bA (D.take i++List.replicate n [])=(bA D).take i++List.replicate n tK:=by
  rw [←jZ]
  congr 1
  ·unfold bA;rw [List.map_take]
  ·unfold bA;rw [List.map_replicate];rfl
 rw [e1,List.toList_toArray,List.length_replicate]
 have e2:(A++bA D++R).take (A.length+i)=A++(bA D).take i:=by
  rw [List.append_assoc,List.take_append,List.take_of_length_le (Nat.le_add_right _ _),Nat.add_sub_cancel_left,List.take_append_of_le_length (by rw [bU];omega)]
 have e3:(A++bA D++R).drop (A.length+i+n)=R:=by
  rw [show A.length+i+n=(A++bA D).length by rw [List.length_append,bU];omega,List.drop_left]
 rw [e2,e3]
 simp only [List.append_assoc]
def dJ (x:ab):Bool:=decide (x=bH)
structure jm (L D:List ab) (j i:Nat):Prop where
 len:D.length=L.length
 ij:i<j
 jl:j≤L.length
 low:D.take i=(L.take j).filter fun q=> !dJ q
 high:D.drop j=L.drop j
theorem jm.get {L D:List ab} {j i:Nat} (h:jm L D j i) (hj:j<L.length):D[j]'(by rw [h.len];exact hj)=L[j]:=by
 have h1:=congrArg (fun l=>l[0]?) h.high
 simp only [List.getElem?_drop,Nat.add_zero] at h1
 rw [List.getElem?_eq_getElem (by rw [h.len];exact hj),List.getElem?_eq_getElem hj] at h1
 exact Option.some.inj h1
theorem jm.keep {L D:List ab} {j i:Nat} (h:jm L D j i) (hj:j<L.length) (hk:dJ L[j]=false):jm L (D.set i L[j]) (j+1) (i+1):=by
 have hlen:=h.len
 have hij:=h.ij
 refine ⟨by rw [List.length_set];exact h.len,by omega,hj,?_,?_⟩
 ·rw [List.take_succ_eq_append_getElem (by rw [List.length_set];omega),List.take_set_of_le (Nat.le_refl _),List.getElem_set_self,h.low,List.take_succ_eq_append_getElem hj,List.filter_append]
  simp [hk]
 ·rw [List.drop_set_of_lt (by omega),←List.drop_drop,h.high,List.drop_drop]
theorem jm.skip {L D:List ab} {j i:Nat} (h:jm L D j i) (hj:j<L.length) (hk:dJ L[j]=true):jm L D (j+1) i:=by
 have hij:=h.ij
 refine ⟨h.len,by omega,hj,?_,?_⟩
 ·rw [h.low,List.take_succ_eq_append_getElem hj,List.filter_append]
  simp [hk]
 ·rw [←List.drop_drop,h.high,List.drop_drop]
theorem pk {L:List ab} {k:Nat} (h:∀j (hj:j<L.length),j<k→dJ L[j]=false) (hk:k≤L.length):(L.take k).filter (fun q=> !dJ q)=L.take k:=by
 refine List.filter_eq_self.2 fun q hq=>?_
 obtain ⟨j,hj,rfl⟩:=List.getElem_of_mem hq
 rw [List.length_take] at hj
 rw [List.getElem_take,h j (by omega) (by omega)];rfl
theorem jm.start {L:List ab} {k:Nat} (h:∀j (hj:j<L.length),j<k→dJ L[j]=false) (hk:k<L.length) (hs:dJ L[k]=true):jm L L (k+1) k:=by
 refine ⟨rfl,by omega,hk,?_,rfl⟩
 rw [List.take_succ_eq_append_getElem hk,List.filter_append,pk h (by omega)]
 simp [hs]
theorem jm.done {L D:List ab} {i:Nat} (h:jm L D L.length i):D.take i=L.filter fun q=> !dJ q:=by
 have:=h.low
 rwa [List.take_length] at this
theorem tL (s:ByteArray) (w:World):Calls Tryz.prog 174 #[.string s] w fun e w'=>e= .returned (.bool (dJ s.data.toList))∧w'=w:=by
 have hb:(s.toList==[104,101,97,100])=dJ s.data.toList:=by
  rw [ByteArray.toList_eq]
  exact Bool.eq_iff_iff.2 (by unfold dJ;rw [beq_iff_eq,decide_eq_true_iff];exact Iff.rfl)
 obtain ⟨b,hbb⟩:∃b,dJ s.data.toList=b:=⟨_,rfl⟩
 rw [hbb] at hb⊢
 clear hbb
 go_enter Tryz.func174,Tryz.ntmps174
 go_wp2
 go_ret
 exact ⟨rfl,rfl⟩
theorem tM (w:World) (f:Value):Calls Tryz.prog 200 #[.slice none 0 0,f] w fun e w'=>e= .returned (.int .i64 (-1))∧w'=w:=by
 go_enter Tryz.func200,Tryz.ntmps200
 go_wp2
 go_loopw [5,8] (fun _ v wr=>v= .int .i64 0∧w=wr) (fun _ _ _=>0)
 case atStart=>exact ⟨rfl,rfl⟩
 case round=>
  obtain ⟨rfl,rfl⟩:=hrel
  go_wp2
  go_ret
  exact ⟨rfl,rfl⟩
theorem uQ (g o c n:Nat) (A:List Value) (D:List ab) (R:List Value) (w:World) (h:kg w g A D R) (ho:A.length=o) (hn:D.length=n) (hnc:n≤c) (hc:c≤9223372036854775807):Calls Tryz.prog 200 #[.slice (some ⟨g,o,none⟩) n c,.func (.func 174) #[] #[]] w fun e w'=>(∃r:Int,e= .returned (.int .i64 r)∧((r= -1∧∀j (hj:j<D.length),dJ D[j]=false)∨∃k:Nat,∃hk:k<D.length,r=k∧dJ D[k]=true∧∀j (hj:j<D.length),j<k→dJ D[j]=false))∧w'=w:=by
 have H:=Lib.hid h
 have HO:=Lib.hid ho
 have HN:=Lib.hid hn
 clear h hn ho
 go_enter Tryz.func200,Tryz.ntmps200
 go_wp2
 go_loopw [5,8] (fun _ v wr=>∃i:Nat,v= .int .i64 (i:Int)∧i≤n∧w=wr∧Hid (∀j (hj:j<D.length),j<i→dJ D[j]=false)) (fun _ v _=>n-(ae v).toNat)
 case atStart=>exact ⟨0,rfl,Nat.zero_le _,rfl,Lib.hid fun j _ h=>absurd h (by omega)⟩
 case round=>
  obtain ⟨i,rfl,hi,rfl,HS⟩:=hrel
  by_cases hlt:i<n
  ·have hiD:i<D.length:=by rw [HN.out];exact hlt
   have x0:=H.out.cell i hiD
   rw [HO.out] at x0
   obtain ⟨S,hS⟩:∃S:ByteArray,(⟨D[i].toArray⟩:ByteArray)=S:=⟨_,rfl⟩
   have hS2:S.data.toList=D[i]:=by rw [←hS,List.toList_toArray]
   rw [hS] at x0
   have HC:=fun w=>Lib.hid (tL S w)
   rw [hS2] at HC
   obtain ⟨b,hb⟩:∃b,dJ D[i]=b:=⟨_,rfl⟩
   rw [hb] at HC
   have HBB:=Lib.hid hb
   clear hS hS2 hb
   cases b
   ·have HS1:Hid (∀j (hj:j<D.length),j<i+1→dJ D[j]=false):=Lib.hid fun j hj hji=>by
     rcases Nat.lt_or_eq_of_le (Nat.le_of_lt_succ hji) with h1|rfl
     ·exact HS.out j hj h1
     ·exact HBB.out
    go_wp2_with (fail)
    refine (HC _).out.mono ?_
    rintro e w1 ⟨rfl,rfl⟩
    go_wp2
    go_roundw
    case rel=>exact ⟨i+1,by go_num,by omega,by first|rfl|trivial,HS1⟩
    case measure=>simp [ae];omega
   ·go_wp2_with (fail)
    refine (HC _).out.mono ?_
    rintro e w1 ⟨rfl,rfl⟩
    go_wp2
    go_ret
    exact ⟨⟨_,rfl,.inr ⟨i,hiD,rfl,HBB.out,HS.out⟩⟩,rfl⟩
  ·have hin:i=n:=by omega
   go_wp2
   go_ret
   exact ⟨⟨_,rfl,.inl ⟨rfl,fun j hj=>HS.out j hj (by have:=HN.out;omega)⟩⟩,rfl⟩
theorem rk (w:World) (f:Value):Calls Tryz.prog 173 #[.slice none 0 0,f] w fun e w'=>e= .returned (.slice none 0 0)∧w'=w:=by
 have HI:=fun w=>Lib.hid (tM w f)
 go_enter Tryz.func173,Tryz.ntmps173
 go_wp2_with (fail)
 refine (HI _).out.mono ?_
 rintro e w1 ⟨rfl,rfl⟩
 go_wp2
 go_ret
 exact ⟨rfl,rfl⟩
theorem l5 (g o c n:Nat) (A:List Value) (D:List ab) (R:List Value) (w:World) (h:kg w g A D R) (ho:A.length=o) (hn:D.length=n) (hnc:n≤c) (hc:c≤9223372036854775807):Calls Tryz.prog 173 #[.slice (some ⟨g,o,none⟩) n c,.func (.func 174) #[] #[]] w fun e w'=>∃E m,e= .returned (.slice (some ⟨g,o,none⟩) m c)∧kg w' g A E R∧m≤n∧E.length=n∧E.take m=(D.filter fun q=> !dJ q)∧w.grownBy w' (some g):=by
 have H:=Lib.hid h
 have HO:=Lib.hid ho
 have HN:=Lib.hid hn
 have HI:=fun w h=>Lib.hid (uQ g o c n A D R w h ho hn hnc hc)
 have hz:∀w,(zeroValue 9).run Tryz.prog w= .ok tK w:=fun w=>by kernel_rfl
 have HZ:=Lib.hid hz
 clear h hn ho hz
 go_enter Tryz.func173,Tryz.ntmps173
 go_wp2_with (fail)
 refine (HI _ H.out).out.mono ?_
 rintro e w1 ⟨⟨r,rfl,hr⟩,hw1⟩
 obtain rfl:=hw1.symm
 clear HI
 rcases hr with ⟨rfl,hall⟩|⟨k,hk,rfl,hs,hall⟩
 ·have HA:=Lib.hid hall
  clear hall
  go_wp2
  go_ret
  refine ⟨D,n,rfl,H.out,Nat.le_refl _,HN.out,?_,World.grownBy.refl _ _⟩
  have:=pk (L:=D) (k:=D.length) (fun j hj _=>HA.out j hj) (Nat.le_refl _)
  rw [List.take_length] at this
  rw [this,List.take_of_length_le (by rw [HN.out];exact Nat.le_refl _)]
 ·have HK0:=Lib.hid (jm.start hall hk hs)
  have hkn:k<n:=by rw [←HN.out];exact hk
  have hne:((k:Int)== -1)=false:=beq_eq_false_iff_ne.2 (by omega)
  clear hall hk hs
  go_wp2
  clear hne
  go_loopw [5,6,7] (fun v5 v6 _ wr=>∃(i j:Nat) (E:List ab),v5= .int .i64 (i:Int)∧v6= .int .i64 (j:Int)∧i<j∧j≤n∧kg wr g A E R∧w.grownBy wr (some g)∧Hid (jm D E j i)) (fun _ v _ _=>n-(ae v).toNat)
  case atStart=>exact ⟨k,k+1,D,rfl,by go_num,by omega,by omega,H.out,World.grownBy.refl _ _,HK0⟩
  case round=>
   obtain ⟨i,j,E,rfl,rfl,hij,hjn,hrow,hb,HK⟩:=hrel
   have HR:=Lib.hid hrow
   have HB:=Lib.hid hb
   have hE:=HK.out.len
   rw [HN.out] at hE
   clear hrow hb HK0
   by_cases hlt:j<n
   ·have hjE:j<E.length:=by omega
    have hjD:j<D.length:=by rw [HN.out];exact hlt
    have hiE:i<E.length:=by omega
    have x0:=HR.out.cell j hjE
    have y0:=HR.out.cell i hiE
    have f0:=HR.out.thawed (o+i)
    rw [HO.out] at x0 y0
    have hget:=HK.out.get hjD
    have HST:=Lib.hid (HR.out.set i hiE E[j])
    rw [HO.out] at HST
    obtain ⟨old,hold⟩:∃old:Value,Value.string ⟨E[i].toArray⟩=old:=⟨_,rfl⟩
    rw [hold] at y0
    obtain ⟨S,hS⟩:∃S:ByteArray,(⟨E[j].toArray⟩:ByteArray)=S:=⟨_,rfl⟩
    have hS2:S.data.toList=D[j]:=by rw [←hS,List.toList_toArray,hget]
    rw [hS] at x0 HST
    have HC:=fun w=>Lib.hid (tL S w)
    rw [hS2] at HC
    obtain ⟨b,hb⟩:∃b,dJ D[j]=b:=⟨_,rfl⟩
    rw [hb] at HC
    have HG:=Lib.hid hget
    have HDB:=Lib.hid hb
    have HGR:=Lib.hid (HB.out.andThen (nj wr g (o+i) (.string S)) (fun _ h=> .inr h))
    clear hS hS2 hb hget hold
    cases b
    ·have HK1:=Lib.hid (HK.out.keep hjD HDB.out)
     rw [←HG.out] at HK1
     go_wp2_with (fail)
     refine (HC _).out.mono ?_
     rintro e w3 ⟨rfl,hw3⟩
     obtain rfl:=hw3.symm
     go_wp2
     go_roundw
     case rel=>exact ⟨i+1,j+1,_,by go_num,by go_num,by omega,by omega,HST.out,HGR.out,HK1⟩
     case measure=>simp [ae];omega
    ·have HK1:=Lib.hid (HK.out.skip hjD HDB.out)
     clear HST HGR
     go_wp2_with (fail)
     refine (HC _).out.mono ?_
     rintro e w3 ⟨rfl,hw3⟩
     obtain rfl:=hw3.symm
     go_wp2
     go_roundw
     case rel=>exact ⟨i,j+1,E,rfl,by go_num,by omega,by omega,HR.out,HB.out,HK1⟩
     case measure=>simp [ae];omega
   ·obtain rfl:j=n:=by omega
    have HD1:Hid (E.take i=D.filter fun q=> !dJ q):=Lib.hid (by
     have:=HK.out
     have hl:=HN.out
     rw [←hl] at this
     exact this.done)
    have hin:i≤j:=by omega
    have hcl:∀ty,(Builtin.clear_ #[92] ty #[.slice (some ⟨g,o+i,none⟩) (j-i) (c-i)]).run Tryz.prog wr= .ok (.tuple #[]) (wr.setCells g (o+i) (List.replicate (j-i) tK)):=
     fun ty=>Lib.run_clear_slice wr _ _ ty _ Tryz.underlying92 HZ.out rfl rfl g (o+i) _ _ (by omega) (fun t ht=>by
      have:=HR.out.cell (i+t) (by omega)
      rw [HO.out] at this
      rw [show o+i+t=o+(i+t) by omega,this];rfl) (fun t ht=>HR.out.thawed _)
    have HRC:=Lib.hid (HR.out.clear i (j-i) (by omega))
    rw [HO.out] at HRC
    have HGR:=Lib.hid (HB.out.andThen (js g (List.replicate (j-i) tK) (o+i) wr) (fun _ h=> .inr h))
    go_wp2
    go_ret
    refine ⟨_,i,rfl,HRC.out,hin,by simp;omega,?_,HGR.out⟩
    rw [List.take_append_of_le_length (by rw [List.length_take];omega),List.take_of_length_le (by rw [List.length_take];omega)]
    exact HD1.out
end Go.Proofs.YtajpoodpbbbkfaaGreatDoor
namespace Go.Proofs.YtajpoodpbbbkfaaGreatDoor
open Go.RowKit Go.Lib Go.WideMaps Go.Maps
def OJ (w:World) (b n:Nat) (f:ab→Nat):Prop:=
 ∃D:DataW Unit,w.ownsMap Tryz.prog 9 (plainElem Tryz.prog 3) b n D∧IsMap D∧∀t:ab,D.atKey (.string t) (.lit (.int .i64 0))= .lit (.int .i64 (f t:Int))
def tN (b n:Nat) (f:ab→Nat):Own:=fun w F=>OJ w b n f∧∀k,F k↔k=b
theorem dd (b n:Nat) (f:ab→Nat):bC (tN b n f):=by
 refine ⟨?_,?_⟩
 ·rintro w F ⟨⟨D,h1,-⟩,hF⟩ k hk
  rw [(hF k).1 hk];exact h1.lt
 ·rintro w w' F ⟨⟨D,⟨es,cl,hb,h4⟩,h2⟩,hF⟩ hk
  exact ⟨⟨D,⟨es,cl,(hk b ((hF b).2 rfl)).trans hb,h4⟩,h2⟩,hF⟩
theorem Gu {w0 w:World} {R:Own} (h:ax w0 w R) (hR:bC R):ax w0 (w.alloc (.map #[] 0)) (bI (tN w.heap.size 0 (fun _=>0)) R):=
 h.more hR ((Below.refl w.heap.size w).alloc (Nat.le_refl _) _) (S:=tN w.heap.size 0 (fun _=>0)) (F:=fun k=>k=w.heap.size) ⟨⟨.map [],World.ownsMap_made _ _ _ _,isMap_empty,fun _=>rfl⟩,fun _=>Iff.rfl⟩ (fun k hk=>by omega)
theorem eK {b n:Nat} {f g:ab→Nat} (h:∀t,f t=g t):ff (tN b n f) (tN b n g):=by
 have:f=g:=funext h
 subst this
 exact fun _ _ h=>h
theorem wu {P:Program} {H:Type} {t k e:TypeId} {d:TypeDesc} {R:Value→Option (DataW H × List MemPlace)} {es:Array MapEntry} {clock b:Nat} {w:World} {z:Value} (c:Bool) (hd:P.underlying k=some d) (hkp:∀v,keyOf P k v=mapKey P k v) (ht:P.underlying t=some (.map k e)) (hz:(zeroValue e).run P w= .ok z w) (hb:w.heap[b]? =some (.map es clock)) (F:WideElems.Fit P k R es clock) {key:Value} (hkey:MapKept.IsKey d key) (hno:keyOf P k key=none):(Instr.lookup t (.map (some b)) key c).run P w= .ok (if c then .tuple #[z,.bool false] else z) w:=by
 have hks:∀x∈es.toList,MapKept.IsKey d x.key:=fun x hx=>by
  obtain ⟨l,hl⟩:=F.keys x hx
  rw [hkp] at hl
  obtain ⟨d',hd',h1,-⟩:=WideShapes.mapKey_isKey hl
  rw [hd] at hd'
  cases hd'
  exact h1
 rcases MapKept.findNow_spec hkey es.toList 0 hks with ⟨h1,-⟩|⟨j,e0,-,h2,h3⟩
 ·simp [Instr.lookup,run_underlying ht,MapKept.run_getObj_map hb,MapKept.run_checkKey hd hkey,MapKept.run_findKey hd h1,hz,Result.andThen]
 ·obtain ⟨l,hl⟩:=F.keys e0 (List.mem_of_getElem? h2)
  rw [h3,hno] at hl
  cases hl
theorem yb {P:Program} {H:Type} {k:TypeId} {R:Value→Option (DataW H × List MemPlace)} {es:Array MapEntry} {clock:Nat} (K:Keyed P k) (F:WideElems.Fit P k R es clock) (kl:Lit) (hkl:WideAt.IsKeyLit kl) (hno:∀v,keyOf P k v≠some kl) (zd:DataW H):(DataW.map ((es.toList.map (WideElems.rg P k R)).foldr DataW.insert [])).atKey kl zd=zd:=by
 refine (WideShapes.atKey_sorted (es.toList.map (WideElems.rg P k R)) (fit_rising K F) kl hkl).1 (fun p hp e1=>?_) zd
 obtain ⟨x,hx,rfl⟩:=List.mem_map.1 hp
 obtain ⟨y,hy⟩:=F.reads x hx
 have m1:=WideElems.rd_key hy
 rw [WideElems.rg_of hy] at e1
 rw [e1] at m1
 exact hno _ m1
theorem Bg (w:World):(zeroValue 3).run Tryz.prog w= .ok (.int .i64 0) w:=by kernel_rfl
section
variable {ops:Array Oper} {rest:List Oper} {o:Oper} {a:Act} {w0 w:World} {Q:Exit→Act→World→Prop} {R:Own} {b n:Nat} {f:ab→Nat}
theorem pl (hM:ax w0 w (bI (tN b n f) R)) (s:ByteArray):(Instr.lookup 109 (.map (some b)) (.string s) false).run Tryz.prog w= .ok (.int .i64 (f s.data.toList:Int)) w:=by
 obtain ⟨F,⟨⟨D,h1,h2,h3⟩,-⟩,-,-⟩:=hM.first
 have hkp:∀v,keyOf Tryz.prog 9 v=mapKey Tryz.prog 9 v:=fun v=>by simp [keyOf,Tryz.underlying9]
 by_cases hs:s.size≤maxLen
 case neg=>
  obtain ⟨es,cl,hb,hF,hn,rfl⟩:=h1
  have hno:∀v,keyOf Tryz.prog 9 v≠some (.string s.data.toList):=fun v hv=>by
   rw [hkp] at hv
   unfold mapKey at hv
   rw [Tryz.underlying9] at hv
   cases v<;>simp at hv
   obtain ⟨h5,h6⟩:=hv
   exact hs (by rw [Lib.size_eq,←h6,←Lib.size_eq];exact h5)
  have h4:=h3 s.data.toList
  rw [yb (string_keyed Tryz.underlying9) hF (.string s.data.toList) trivial hno] at h4
  simp only [DataW.lit.injEq,Lit.int.injEq,true_and] at h4
  rw [←h4]
  exact wu false Tryz.underlying9 hkp Tryz.underlying109 (Bg w) hb hF trivial (by rw [hkp];unfold mapKey;rw [Tryz.underlying9];simp [hs])
 obtain ⟨c,hr,hc,-⟩:=h1.lookup_int (string_keyed Tryz.underlying9) Tryz.underlying109 Tryz.underlying3 (Bg w) (keyOf_string_mk Tryz.underlying9 hs)
 rw [h3] at hc
 simp only [DataW.lit.injEq,Lit.int.injEq,true_and] at hc
 rw [hc];exact hr
theorem bZ (hg:o.guard=none) (m x:Operand) (hop:o.op=Op.lookup 109 m x false) (hM:ax w0 w (bI (tN b n f) R)) (hm:a.eval m= .map (some b)) (s:ByteArray) (hx:a.eval x= .string s) (hK:wpList Tryz.prog ops Q rest (a.put o.dst (.int .i64 (f s.data.toList:Int))) w):wpList Tryz.prog ops Q (o::rest) a w:=by
 refine wpList_plain hg fun K' hK'=>?_
 unfold Oper.wp
 simp [execOp,hop,hm,hx,pl hM s,Result.andThen]
 exact hK' _ _ hK
def C6 (f:ab→Nat) (s:ab) (c:Nat):ab→Nat:=fun u=>if u=s then c else f u
theorem eQ (hg:o.guard=none) (m x v:Operand) (hop:o.op=Op.mapUpdate 109 m x v) (hM:ax w0 w (bI (tN b n f) R)) (hR:bC R) (hn:n≤16777216) (hm:a.eval m= .map (some b)) (s:ByteArray) (hs:s.size≤16777216) (hx:a.eval x= .string s) (q:Int) (hv:a.eval v= .int .i64 q) (c:Nat) (hc:c≤16777216) (hq:q=(c:Int)) (hK:∀w',ax w0 w' (bI (tN b (n+1) (C6 f s.data.toList c)) R)→wpList Tryz.prog ops Q rest (a.put o.dst undef) w'):wpList Tryz.prog ops Q (o::rest) a w:=by
 subst hq
 obtain ⟨F,⟨⟨D,h1,h2,h3⟩,hF⟩,-,hk⟩:=hM.first
 have hw:(Lit.int .i64 (c:Int)).wf=true:=by
  have e1:IntKind.i64.min= -9223372036854775808:=by decide
  have e2:IntKind.i64.max=9223372036854775807:=by decide
  show (decide (IntKind.i64.min≤(c:Int))&&decide ((c:Int)≤IntKind.i64.max))=true
  rw [e1,e2,decide_eq_true (by omega),decide_eq_true (by omega)];rfl
 refine wpList_mapUpdate_own w hg m x v 109 hop 9 3 (string_keyed Tryz.underlying9) Tryz.underlying109 (plainElem Tryz.prog 3) b n D hm h1 (by unfold maxLen;omega) (.string s) (.int .i64 (c:Int)) _ hx hv (keyOf_string_mk Tryz.underlying9 (by unfold maxLen;omega)) (.lit (.int .i64 (c:Int))) [] (plainElem_int Tryz.underlying3 hw) ?_
 intro w' h1' hgr
 refine hK w' (hk w' (tN b (n+1) (C6 f s.data.toList c)) (fun k=>k=b) hR ⟨⟨_,h1',h2.put _ _,fun u=>?_⟩,fun _=>Iff.rfl⟩ ⟨hgr.os,hgr.tape,hgr.output,hgr.size,fun k hkk hFk=>hgr.block k hkk (fun e=>hFk ((hF k).2 (Option.some.inj e))),fun k hkk=> .inl ((hF k).2 hkk)⟩)
 show _=DataW.lit (Lit.int .i64 ((if u=s.data.toList then c else f u:Nat):Int))
 by_cases hu:u=s.data.toList
 ·rw [if_pos hu,hu]
  exact atKey_put_same h2 (show WideAt.IsKeyLit (.string s.data.toList) from trivial) _ _
 ·rw [if_neg hu,atKey_put_other (fun e=>hu (by injection e)) _ _,h3]
end
def Er (v:Value):Option (DataW Value × List MemPlace):=some (.held v,[])
def kW (w:World) (b n:Nat) (z:Value) (f:Int→Option Value):Prop:=
 ∃D:DataW Value,w.ownsMap Tryz.prog 3 Er b n D∧IsMap D∧∀k:Int,D.atKey (.int .i64 k) (.held z)= .held ((f k).getD z)∧Maps.has D (.int .i64 k)=(f k).isSome
theorem C7 (w:World) (z:Value):kW (w.alloc (.map #[] 0)) w.heap.size 0 z (fun _=>none):=
 ⟨.map [],World.ownsMap_made _ _ _ _,isMap_empty,fun _=>⟨rfl,rfl⟩⟩
theorem kW.lt {w:World} {b n:Nat} {z:Value} {f:Int→Option Value} (h:kW w b n z f):b<w.heap.size:=by
 obtain ⟨D,h1,-⟩:=h
 exact h1.lt
theorem kW.same {w w':World} {b n:Nat} {z:Value} {f:Int→Option Value} (h:kW w b n z f) (hb:w'.heap[b]? =w.heap[b]?):kW w' b n z f:=by
 obtain ⟨D,⟨es,cl,h1,h4⟩,h2⟩:=h
 exact ⟨D,⟨es,cl,hb.trans h1,h4⟩,h2⟩
def Na (b n:Nat) (z:Value) (f:Int→Option Value):Own:=fun w F=>kW w b n z f∧∀k,F k↔k=b
theorem Ky (b n:Nat) (z:Value) (f:Int→Option Value):bC (Na b n z f):=by
 refine ⟨?_,?_⟩
 ·rintro w F ⟨h,hF⟩ k hk
  rw [(hF k).1 hk];exact h.lt
 ·rintro w w' F ⟨h,hF⟩ hk
  exact ⟨h.same (hk b ((hF b).2 rfl)),hF⟩
theorem Kz {w0 w:World} {R:Own} (h:ax w0 w R) (hR:bC R) (z:Value):ax w0 (w.alloc (.map #[] 0)) (bI (Na w.heap.size 0 z (fun _=>none)) R):=
 h.more hR ((Below.refl w.heap.size w).alloc (Nat.le_refl _) _) (S:=Na w.heap.size 0 z (fun _=>none)) (F:=fun k=>k=w.heap.size) ⟨C7 w z,fun _=>Iff.rfl⟩ (fun k hk=>by omega)
theorem OK {w0 w:World} {b n:Nat} {z:Value} {f:Int→Option Value} {R:Own} (h:ax w0 w (bI (Na b n z f) R)):kW w b n z f:=by
 obtain ⟨F,hF,-,-⟩:=h.first
 exact hF.1
section
variable {ops:Array Oper} {rest:List Oper} {o:Oper} {a:Act} {w:World} {Q:Exit→Act→World→Prop} {b n:Nat} {z:Value} {f:Int→Option Value}
theorem qq (hg:o.guard=none) (t e:TypeId) (ht:Tryz.prog.underlying t=some (.map 3 e)) (m x v:Operand) (hop:o.op=Op.insert t m x v) (hown:kW w b n z f) (hn:n≤100) (hm:a.eval m= .map (some b)) (k:Int) (hw:(Lit.int .i64 k).wf=true) (hx:a.eval x= .int .i64 k) (F:Value) (hv:a.eval v=F) (hK:∀w',kW w' b (n+1) z (fun j=>if j=k then some F else f j)→w.grownBy w' (some b)→wpList Tryz.prog ops Q rest (a.put o.dst undef) w'):wpList Tryz.prog ops Q (o::rest) a w:=by
 obtain ⟨D,h1,h2,h3⟩:=hown
 obtain ⟨w',hrun,r,g⟩:=h1.update (int_keyed Tryz.underlying3) ht (by unfold maxLen;omega) (keyOf_int_mk Tryz.underlying3 hw) (show Er F=some (.held F,[]) from rfl)
 refine wpList_plain hg fun K' hK'=>?_
 unfold Oper.wp
 simp [execOp,hop,hm,hx,hv,hrun,Result.andThen]
 refine hK' _ _ (hK w' ⟨_,r,h2.put _ _,fun j=>?_⟩ g)
 by_cases hu:j=k
 ·simp only [if_pos hu]
  rw [hu]
  exact ⟨atKey_put_same h2 (show WideAt.IsKeyLit (.int .i64 k) from trivial) _ _,has_put_same h2 (show WideAt.IsKeyLit (.int .i64 k) from trivial) _⟩
 ·simp only [if_neg hu]
  rw [atKey_put_other (fun e=>hu (by injection e)) _ _,has_put_other (fun e=>hu (by injection e)) _]
  exact h3 j
theorem fV (hg:o.guard=none) (t e:TypeId) (ht:Tryz.prog.underlying t=some (.map 3 e)) (hz:(zeroValue e).run Tryz.prog w= .ok z w) (m x:Operand) (hop:o.op=Op.lookup t m x true) (hown:kW w b n z f) (hm:a.eval m= .map (some b)) (k:Int) (hx:a.eval x= .int .i64 k) (hK:wpList Tryz.prog ops Q rest (a.put o.dst (.tuple #[(f k).getD z,.bool (f k).isSome])) w):wpList Tryz.prog ops Q (o::rest) a w:=by
 obtain ⟨D,h1,h2,h3⟩:=hown
 obtain ⟨e1,e2⟩:=h3 k
 have hkp:∀v,keyOf Tryz.prog 3 v=mapKey Tryz.prog 3 v:=fun v=>by simp [keyOf,Tryz.underlying3]
 by_cases hw:(Lit.int .i64 k).wf=true
 case neg=>
  obtain ⟨es,cl,hb,hF,hn,rfl⟩:=h1
  have hno:∀v,keyOf Tryz.prog 3 v≠some (.int .i64 k):=fun v hv=>by
   rw [hkp] at hv
   unfold mapKey at hv
   rw [Tryz.underlying3] at hv
   cases v<;>simp at hv
   obtain ⟨⟨h5,h6⟩,h7⟩:=hv
   subst h5;subst h7
   exact hw h6
  have h4:=yb (int_keyed Tryz.underlying3) hF (.int .i64 k) trivial hno (.held z)
  rw [e1] at h4
  have e3:(f k).isSome=false:=by rw [←e2];exact has_false_of_atKey (yb (int_keyed Tryz.underlying3) hF (.int .i64 k) trivial hno)
  simp only [DataW.held.injEq] at h4
  rw [h4,e3] at hK
  refine wpList_plain hg fun K' hK'=>?_
  unfold Oper.wp
  simp [execOp,hop,hm,hx,wu true Tryz.underlying3 hkp ht hz hb hF (show MapKept.IsKey (.int .i64) (.int .i64 k) from rfl) (by rw [hkp];unfold mapKey;rw [Tryz.underlying3];simp [hw]),Result.andThen]
  exact hK' _ _ hK
 refine wpList_lookup_own_ok w hg m x t hop 3 e (int_keyed Tryz.underlying3) ht Er hz (.held z) [] rfl b n D hm h1 _ _ hx (keyOf_int_mk Tryz.underlying3 hw) ?_
 intro v ps hv
 unfold Er at hv
 rw [e1] at hv
 simp only [Option.some.injEq,Prod.mk.injEq,DataW.held.injEq] at hv
 rw [hv.1,e2]
 exact hK
def Pr (f:Int→Option Value) (k:Int) (F:Value):Int→Option Value:=fun j=>if j=k then some F else f j
theorem fW {w0:World} {R:Own} (hg:o.guard=none) (t e:TypeId) (ht:Tryz.prog.underlying t=some (.map 3 e)) (m x v:Operand) (hop:o.op=Op.insert t m x v) (hM:ax w0 w (bI (Na b n z f) R)) (hR:bC R) (hn:n≤100) (hm:a.eval m= .map (some b)) (k:Int) (hw:(Lit.int .i64 k).wf=true) (hx:a.eval x= .int .i64 k) (F:Value) (hv:a.eval v=F) (hK:∀w',ax w0 w' (bI (Na b (n+1) z (Pr f k F)) R)→wpList Tryz.prog ops Q rest (a.put o.dst undef) w'):wpList Tryz.prog ops Q (o::rest) a w:=by
 obtain ⟨F1,⟨h1,hF⟩,-,hk⟩:=hM.first
 refine qq hg t e ht m x v hop h1 hn hm k hw hx F hv fun w' h2 hgr=>hK w' (hk w' (Na b (n+1) z (Pr f k F)) F1 hR ⟨h2,hF⟩ (bv.of_grown hgr ((hF b).2 rfl)))
end
end Go.Proofs.YtajpoodpbbbkfaaGreatDoor
namespace Go.Proofs.YtajpoodpbbbkfaaGreatDoor
open Go.RowKit Go.Lib
def bo:List ab→ab→Nat
 |[],_=>0
 |x::l,t=>(if x=t then 1 else 0)+bo l t
theorem gD (t:ab) (m:List ab):∀l:List ab,bo (l++m) t=bo l t+bo m t
 |[]=>by show bo m t=0+bo m t;omega
 |x::l=>by
  show (if x=t then 1 else 0)+bo (l++m) t=(if x=t then 1 else 0)+bo l t+bo m t
  rw [gD t m l];omega
theorem jn (x t:ab):bo [x] t=if x=t then 1 else 0:=by show (if x=t then 1 else 0)+0=_;omega
theorem yd (t:ab):∀l:List ab,bo l t≤l.length
 |[]=>Nat.le_refl _
 |x::l=>by
  have:=yd t l
  show (if x=t then 1 else 0)+bo l t≤_
  rw [List.length_cons]
  split<;>omega
theorem tP (t:ab):∀l:List ab,bo l t=0↔t∉l
 |[]=>⟨fun _ h=>(by cases h),fun _=>rfl⟩
 |x::l=>by
  have ih:=tP t l
  show (if x=t then 1 else 0)+bo l t=0↔_
  rw [List.mem_cons]
  by_cases hx:x=t
  ·rw [if_pos hx]
   exact ⟨fun h=>by omega,fun h=>absurd (.inl hx.symm) h⟩
  ·rw [if_neg hx,Nat.zero_add,ih]
   exact ⟨fun h e=>e.elim (fun e=>hx e.symm) h,fun h e=>h (.inr e)⟩
theorem tQ (nm t:ab):∀l:List ab,bo (l.filter fun x=>decide (x≠nm)) t=if t=nm then 0 else bo l t
 |[]=>by split<;>rfl
 |x::l=>by
  have ih:=tQ nm t l
  rw [List.filter_cons]
  by_cases hx:x=nm
  ·rw [if_neg (by simpa using hx),ih]
   by_cases ht:t=nm
   ·rw [if_pos ht,if_pos ht]
   ·rw [if_neg ht,if_neg ht]
    show _=(if x=t then 1 else 0)+bo l t
    rw [if_neg (fun e=>ht (by rw [←e,hx]))];omega
  ·rw [if_pos (by simpa using hx)]
   show (if x=t then 1 else 0)+bo _ t=_
   rw [ih]
   by_cases ht:t=nm
   ·rw [if_pos ht,if_pos ht,if_neg (fun e=>hx (by rw [e,ht]))]
   ·rw [if_neg ht,if_neg ht];rfl
theorem Bh (nm:ab):∀(l:List ab) (k:Nat),dn l nm=some k→∀j (h:j<l.length),k<j→l[j]≠nm
 |[],_,h=>by cases h
 |x::l,k,h=>by
  intro j hj hkj
  obtain ⟨i,rfl⟩:∃i,j=i+1:=⟨j-1,by omega⟩
  rw [List.getElem_cons_succ]
  have hi:i<l.length:=by simpa using hj
  unfold dn at h
  cases h1:dn l nm with
  |some q=>
   rw [h1] at h
   have:q+1=k:=by simpa using h
   exact Bh nm l q h1 i hi (by omega)
  |none=>
   intro e
   exact (Ac nm l).1 h1 (e▸List.getElem_mem hi)
def nk (g:Addr) (v:Value) (b:Nat) (k:Nat):Obj:= .cells #[.pointer (some g),v,.map (some b),.int .i64 (k:Int)] 111 (0,0)
def bM (pg:Nat) (g:Addr) (b:Nat) (v:Value) (l:List ab) (k:Nat) (fl:aC) (n:Nat) (f:ab→Nat) (R:Own):Own:=
 bI (cF pg (nk g v b k)) (bI (gx v l) (bI (tN b n f) (bI (lJ g fl) R)))
theorem ax.fourth {w0 w:World} {A B C D R:Own} (h:ax w0 w (bI A (bI B (bI C (bI D R))))):ax w0 w (bI D (bI A (bI B (bI C R)))):=
 (h.imp (ff.right A (ff.right B (ff.turn C D R)))).third
theorem ax.fourthB {w0 w:World} {A B C D R:Own} (h:ax w0 w (bI D (bI A (bI B (bI C R))))):ax w0 w (bI A (bI B (bI C (bI D R)))):=
 h.back.imp (ff.right A (ff.right B (ff.turn D C R)))
theorem ff.left {S S':Own} (T:Own) (h:ff S S'):ff (bI S T) (bI S' T):=by
 rintro w F ⟨F1,F2,h1,h2,hd,hF⟩
 exact ⟨F1,F2,h w F1 h1,h2,hd,hF⟩
theorem qr {w0 w:World} {pg:Nat} {cs:Array Value} {T:TypeId} {S:Own} (h:ax w0 w (bI (cF pg (.cells cs T (0,0))) S)) (hS:bC S) (i:Nat) (x:Value):ax w0 (w.setCell ⟨pg,i,none⟩ x) (bI (cF pg (.cells (cs.setIfInBounds i x) T (0,0))) S):=by
 obtain ⟨F,hF,-,hk⟩:=h.first
 exact hk _ (cF pg (.cells (cs.setIfInBounds i x) T (0,0))) F hS ⟨Go.heap_setCell_same w pg i cs T x hF.1,hF.2⟩ (bv.of_grown (nj w pg i x) ((hF.2 pg).2 rfl))
theorem tR {w0 w:World} {a:Option Addr} {n c m:Nat} {l:List ab} {S:Own} (h:ax w0 w (bI (gx (.slice a n c) l) S)) (hm:m≤l.length):ax w0 w (bI (gx (.slice a m c) (l.take m)) S):=by
 refine h.imp ?_
 rintro w F ⟨F1,F2,⟨h1,hF1⟩,h2,hd,hF⟩
 refine ⟨F1,F2,⟨⟨by rw [bU,Nat.mul_one],?_⟩,fun k=>?_⟩,h2,hd,hF⟩
 ·rcases h1.2 with ⟨e,e0⟩|⟨g,cap,cur,e,hb,hg,hn,hmx,hs,ht⟩
  ·injection e with e1 e2 e3
   subst e1;subst e3
   obtain rfl:m=0:=by omega
   exact .inl ⟨rfl,by simp⟩
  ·injection e with e1 e2 e3
   subst e1;subst e3
   have hl:(l.take m).length=m:=by rw [List.length_take];omega
   refine .inr ⟨g,c,cur,by rw [hl],hb,hg,by omega,hmx,hs,?_⟩
   have e4:bA (l.take m)=(bA l).take m:=by unfold bA;rw [List.map_take]
   rw [hl,e4,←ht,Nat.mul_one,Nat.mul_one,List.take_take,Nat.min_eq_left hm]
 ·rw [hF1 k]
  cases a<;>rfl
section
variable {w0 w:World} {pg:Nat} {g:Addr} {b:Nat} {v:Value} {l:List ab} {k:Nat} {fl:aC} {n:Nat} {f:ab→Nat} {R S:Own}
theorem de (pg:Nat) (g:Addr) (b:Nat) (v:Value) (l:List ab) (k:Nat) (fl:aC) (n:Nat) (f:ab→Nat) (hR:bC R):bC (bM pg g b v l k fl n f R):=
 (aI pg _).sep ((aS v l).sep ((dd b n f).sep ((cQ g fl).sep hR)))
theorem bg (h:ax w0 w (bI (cF pg (nk g v b k)) S)):w.cell? ⟨pg,0,none⟩=some (.pointer (some g))∧w.cell? ⟨pg,1,none⟩=some v∧w.cell? ⟨pg,2,none⟩=some (.map (some b))∧w.cell? ⟨pg,3,none⟩=some (.int .i64 (k:Int)):=by
 have h1:=dX h
 unfold nk at h1
 refine ⟨?_,?_,?_,?_⟩<;>(rw [Lib.cell_of_heap h1];rfl)
theorem qR (h:ax w0 w (bI (cF pg (nk g v b k)) S)) (i:Nat):w.frozen? ⟨pg,i,none⟩=false:=Lib.frozen_of_heap (dX h) i
theorem cy {ops:Array Oper} {rest:List Oper} {o:Oper} {a:Act} {Q:Exit→Act→World→Prop} (hg:o.guard=none) (x y:Operand) (ho:o.op= .store 92 x y) (hM:ax w0 w (bI (cF pg (nk g v b k)) S)) (hS:bC S) (hx:a.eval x= .pointer (some ⟨pg,1,none⟩)) (ad:Option Addr) (m c:Nat) (v':Value) (hy:a.eval y=v') (hv:v'= .slice ad m c) (hK:∀w',ax w0 w' (bI (cF pg (nk g v' b k)) S)→wpList Tryz.prog ops Q rest (a.put o.dst undef) w'):wpList Tryz.prog ops Q (o::rest) a w:=by
 subst hv
 refine wpList_plain hg fun K' hK'=>?_
 unfold Oper.wp execOp
 have h1:=dX hM
 unfold nk at h1
 simp only [ho,hx,hy,Instr.storeAt,Instr.sureAddr,Sem.run_bind,Sem.run_pure,Result.andThen_ok,jQ (P:=Tryz.prog) pg 1 _ _ 92 (.slice ad m c) h1 (by simp) (by kernel_rfl) rfl rfl]
 exact hK' _ _ (hK _ (qr hM hS 1 _))
theorem KA (hM:ax w0 w (bM pg g b v l k fl n f R)) (hR:bC R) (hs:fl.size≤1073741824):Calls Tryz.prog 176 #[.pointer (some g)] w fun e w'=>e= .returned (.tuple #[])∧ax w0 w' (bM pg g b v l k (jU fl) n f R):=by
 refine (ax.call hM.fourth ((aI pg _).sep ((aS v l).sep ((dd b n f).sep hR))) (S':=lJ g (jU fl)) (Q:=fun e=>e= .returned (.tuple #[])) fun F hF=>z6 g fl w F hF hs).mono ?_
 rintro e w' ⟨rfl,m⟩
 exact ⟨rfl,m.fourthB⟩
theorem Gw (hM:ax w0 w (bM pg g b v l k fl n f R)) (hR:bC R) (hs:fl.size≤1073741824) (m:Int) (hm: -9223372036854775808≤m∧m≤9223372036854775807):Calls Tryz.prog 178 #[.pointer (some g),.int .i64 m] w fun e w'=>e= .returned (.tuple #[])∧ax w0 w' (bM pg g b v l k (nC m fl) n f R):=by
 refine (ax.call hM.fourth ((aI pg _).sep ((aS v l).sep ((dd b n f).sep hR))) (S':=lJ g (nC m fl)) (Q:=fun e=>e= .returned (.tuple #[])) fun F hF=>xI g fl m w F hF hs hm).mono ?_
 rintro e w' ⟨rfl,m⟩
 exact ⟨rfl,m.fourthB⟩
theorem Nb (hM:ax w0 w (bM pg g b v l k fl n f R)) (hR:bC R) (s:ByteArray) (keep:Bool) (hs:fl.size+s.size≤1073741824):Calls Tryz.prog 146 #[.pointer (some g),.string s,.bool keep] w fun e w'=>e= .returned (.tuple #[])∧ax w0 w' (bM pg g b v l k (cP keep fl s.data.toList) n f R):=by
 refine (ax.call hM.fourth ((aI pg _).sep ((aS v l).sep ((dd b n f).sep hR))) (S':=lJ g (cP keep fl s.data.toList)) (Q:=fun e=>e= .returned (.tuple #[])) fun F hF=>Cn g fl s keep w F hF hs).mono ?_
 rintro e w' ⟨rfl,m⟩
 exact ⟨rfl,m.fourthB⟩
theorem KB (hM:ax w0 w (bM pg g b v l k fl n f R)) (hR:bC R) (hs:fl.size≤1073741824):Calls Tryz.prog 94 #[.pointer (some g)] w fun e w'=>e= .returned (.string ⟨fl.told.toArray⟩)∧ax w0 w' (bM pg g b v l k fl n f R):=by
 refine (ax.call hM.fourth ((aI pg _).sep ((aS v l).sep ((dd b n f).sep hR))) (S':=lJ g fl) (Q:=fun e=>e= .returned (.string ⟨fl.told.toArray⟩)) fun F hF=>z7 g fl w F hF hs).mono ?_
 rintro e w' ⟨rfl,m⟩
 exact ⟨rfl,m.fourthB⟩
end
theorem kO {w0 w:World} {pg:Nat} {g:Addr} {b:Nat} {v:Value} {l:List ab} {k:Nat} {fl:aC} {n:Nat} {f:ab→Nat} {R:Own} (hM:ax w0 w (bM pg g b v l k fl n f R)):Calls Tryz.prog 140 #[.pointer (some ⟨pg,0,none⟩)] w fun e w'=>e= .returned (.bool (decide (l≠[])))∧w'=w:=by
 obtain ⟨c0,c1,c2,c3⟩:=bg hM
 obtain ⟨a,cap,hv,-⟩:=fP hM.turn
 subst hv
 obtain ⟨m,hm⟩:∃m,l.length=m:=⟨_,rfl⟩
 have hd:decide (0<m)=decide (l≠[]):=by
  rw [←hm]
  exact Bool.eq_iff_iff.2 (by rw [decide_eq_true_iff,decide_eq_true_iff];exact List.length_pos_iff)
 obtain ⟨B,hB⟩:∃B,decide (l≠[])=B:=⟨_,rfl⟩
 rw [hB] at hd⊢
 rw [hm] at c1
 have HD:=Lib.hid hd
 clear hM c0 c2 c3 hm hB hd
 go_enter Tryz.func140,Tryz.ntmps140
 go_wp2
 go_ret
 exact ⟨au HD.out,rfl⟩
theorem tS {w0 w:World} {pg:Nat} {g:Addr} {b:Nat} {v:Value} {l:List ab} {k:Nat} {fl:aC} {n:Nat} {f:ab→Nat} {R:Own} (hM:ax w0 w (bM pg g b v l k fl n f R)) (hR:bC R) (nm:ByteArray) (hs:fl.size≤1073741000):Calls Tryz.prog 141 #[.pointer (some ⟨pg,0,none⟩),.string nm] w fun e w'=>e= .returned (.tuple #[])∧ax w0 w' (bM pg g b v l k (bN nm.data.toList fl) n f R):=by
 have H:=Lib.hid hM
 have hb2:(nm.toList==[98,114])=decide (nm.data.toList=Ju):=by
  rw [ByteArray.toList_eq]
  exact Bool.eq_iff_iff.2 (by rw [beq_iff_eq,decide_eq_true_iff];exact Iff.rfl)
 have hs1:=jW fl
 have hbr:(pt nm.data.toList fl).size≤fl.size+1:=by unfold pt;split<;>omega
 have hlr:=pY nm.data.toList
 have C1:=fun w' h=>Lib.hid (KA (w0:=w0) (w:=w') (pg:=pg) (g:=g) (b:=b) (v:=v) (l:=l) (k:=k) (fl:=fl) (n:=n) (f:=f) (R:=R) h hR (by omega))
 have C2:=fun w' h=>Lib.hid (Gw (w0:=w0) (w:=w') (pg:=pg) (g:=g) (b:=b) (v:=v) (l:=l) (k:=k) (fl:=pt nm.data.toList fl) (n:=n) (f:=f) (R:=R) h hR (by omega) (il nm.data.toList) (by omega))
 have CL:=fun w=>Lib.hid (Cg nm w (lD w))
 have HP:=Lib.hid (fun fl=>de pg g b v l k fl n f hR)
 have hlf:bN nm.data.toList fl=if 0<il nm.data.toList then nC (il nm.data.toList) (pt nm.data.toList fl) else pt nm.data.toList fl:=rfl
 obtain ⟨G,hG⟩:∃G,bN nm.data.toList fl=G:=⟨_,rfl⟩
 obtain ⟨B,hB⟩:∃B,pt nm.data.toList fl=B:=⟨_,rfl⟩
 obtain ⟨N,hN⟩:∃N,il nm.data.toList=N:=⟨_,rfl⟩
 have hbe:B=if nm.data.toList=Ju then jU fl else fl:=by rw [←hB];rfl
 rw [hG,hN,hB] at hlf
 rw [hN,hB] at C2
 rw [hN] at CL hlr
 rw [hG]
 clear hG hB hN hM hs hs1 hbr hR
 obtain ⟨c0,c1,c2,c3⟩:=bg H.out
 clear c1 c2 c3
 by_cases hx:nm.data.toList=Ju
 ·rw [decide_eq_true hx] at hb2
  rw [if_pos hx] at hbe
  rw [←hbe] at C1
  clear hx hbe
  by_cases hn:0<N
  ·rw [if_pos hn] at hlf
   rw [←hlf] at C2
   have hn2:(N==0)=false:=beq_eq_false_iff_ne.2 (by omega)
   have hn3:(N != 0)=true:=by rw [bne,hn2];rfl
   clear hlf
   go_enter Tryz.func141,Tryz.ntmps141
   go_wp2_with (fail)
   refine (C1 _ H.out).out.mono ?_
   rintro e w1 ⟨rfl,m1⟩
   have M1:=Lib.hid m1
   clear m1 c0
   go_wp2_with (fail)
   refine (CL _).out.mono ?_
   rintro e w2 ⟨rfl,b2⟩
   have M2:=Lib.hid (M1.out.below (HP.out _) b2)
   obtain ⟨c0,c1,c2,c3⟩:=bg M2.out
   clear b2 c1 c2 c3
   go_wp2_with (fail)
   refine (C2 _ M2.out).out.mono ?_
   rintro e w3 ⟨rfl,m3⟩
   go_wp2
   refine bodyPost_end (results_none rfl _ _ _) rfl ?_
   exact ⟨rfl,m3⟩
  ·rw [if_neg hn] at hlf
   obtain rfl:N=0:=by omega
   subst hlf
   go_enter Tryz.func141,Tryz.ntmps141
   go_wp2_with (fail)
   refine (C1 _ H.out).out.mono ?_
   rintro e w1 ⟨rfl,m1⟩
   have M1:=Lib.hid m1
   clear m1 c0
   go_wp2_with (fail)
   refine (CL _).out.mono ?_
   rintro e w2 ⟨rfl,b2⟩
   have M2:=Lib.hid (M1.out.below (HP.out _) b2)
   clear b2
   go_wp2
   refine bodyPost_end (results_none rfl _ _ _) rfl ?_
   exact ⟨rfl,M2.out⟩
 ·rw [decide_eq_false hx] at hb2
  rw [if_neg hx] at hbe
  subst hbe
  clear hx C1
  by_cases hn:0<N
  ·rw [if_pos hn] at hlf
   rw [←hlf] at C2
   have hn2:(N==0)=false:=beq_eq_false_iff_ne.2 (by omega)
   have hn3:(N != 0)=true:=by rw [bne,hn2];rfl
   clear hlf c0
   go_enter Tryz.func141,Tryz.ntmps141
   go_wp2_with (fail)
   refine (CL _).out.mono ?_
   rintro e w2 ⟨rfl,b2⟩
   have M2:=Lib.hid (H.out.below (HP.out _) b2)
   obtain ⟨c0,c1,c2,c3⟩:=bg M2.out
   clear b2 c1 c2 c3
   go_wp2_with (fail)
   refine (C2 _ M2.out).out.mono ?_
   rintro e w3 ⟨rfl,m3⟩
   go_wp2
   refine bodyPost_end (results_none rfl _ _ _) rfl ?_
   exact ⟨rfl,m3⟩
  ·rw [if_neg hn] at hlf
   obtain rfl:N=0:=by omega
   subst hlf
   clear c0
   go_enter Tryz.func141,Tryz.ntmps141
   go_wp2_with (fail)
   refine (CL _).out.mono ?_
   rintro e w2 ⟨rfl,b2⟩
   have M2:=Lib.hid (H.out.below (HP.out _) b2)
   clear b2
   go_wp2
   refine bodyPost_end (results_none rfl _ _ _) rfl ?_
   exact ⟨rfl,M2.out⟩
theorem pm {w0 w:World} {pg:Nat} {g:Addr} {b:Nat} {v:Value} {l:List ab} {k:Nat} {fl:aC} {n:Nat} {f:ab→Nat} {R:Own} (hM:ax w0 w (bM pg g b v l k fl n f R)) (hR:bC R) (nm:ByteArray) (hk:k≤1000000):Calls Tryz.prog 142 #[.pointer (some ⟨pg,0,none⟩),.string nm,.int .i64 1] w fun e w'=>e= .returned (.tuple #[])∧ax w0 w' (bM pg g b v l (k+j0 (k5 nm.data.toList)) fl n f R):=by
 have CK:=fun w=>Lib.hid (s7 nm w (lD w))
 have H:=Lib.hid hM
 have HP:=Lib.hid (de pg g b v l k fl n f hR)
 have HT:=Lib.hid ((aS v l).sep ((dd b n f).sep ((cQ g fl).sep hR)))
 obtain ⟨kb,hkb⟩:∃kb,k5 nm.data.toList=kb:=⟨_,rfl⟩
 rw [hkb] at CK⊢
 clear hkb hM hR
 cases kb
 ·go_enter Tryz.func142,Tryz.ntmps142
  go_wp2_with (fail)
  refine (CK _).out.mono ?_
  rintro e w2 ⟨rfl,b2⟩
  have M2:=Lib.hid (H.out.below HP.out b2)
  clear b2
  go_wp2
  refine bodyPost_end (results_none rfl _ _ _) rfl ?_
  exact ⟨rfl,M2.out⟩
 ·have e1:max (0:Int) ((k:Int)+1)=(k:Int)+1:=by omega
  go_enter Tryz.func142,Tryz.ntmps142
  go_wp2_with (fail)
  refine (CK _).out.mono ?_
  rintro e w2 ⟨rfl,b2⟩
  have M2:=Lib.hid (H.out.below HP.out b2)
  obtain ⟨c0,c1,c2,c3⟩:=bg M2.out
  have f3:=qR M2.out 3
  have M3:=Lib.hid (qr M2.out HT.out 3 (.int .i64 ((k:Int)+1)))
  clear b2 c0 c1 c2
  go_wp2
  refine bodyPost_end (results_none rfl _ _ _) rfl ?_
  exact ⟨rfl,M3.out⟩
theorem yf {w0 w:World} {pg:Nat} {g:Addr} {b:Nat} {v:Value} {l:List ab} {k:Nat} {fl:aC} {n:Nat} {f:ab→Nat} {R:Own} (hM:ax w0 w (bM pg g b v l k fl n f R)) (hR:bC R) (nm:ByteArray) (hk:k≤1000000):Calls Tryz.prog 142 #[.pointer (some ⟨pg,0,none⟩),.string nm,.int .i64 (-1)] w fun e w'=>e= .returned (.tuple #[])∧ax w0 w' (bM pg g b v l (k-j0 (k5 nm.data.toList)) fl n f R):=by
 have CK:=fun w=>Lib.hid (s7 nm w (lD w))
 have H:=Lib.hid hM
 have HP:=Lib.hid (de pg g b v l k fl n f hR)
 have HT:=Lib.hid ((aS v l).sep ((dd b n f).sep ((cQ g fl).sep hR)))
 obtain ⟨kb,hkb⟩:∃kb,k5 nm.data.toList=kb:=⟨_,rfl⟩
 rw [hkb] at CK⊢
 clear hkb hM hR
 cases kb
 ·go_enter Tryz.func142,Tryz.ntmps142
  go_wp2_with (fail)
  refine (CK _).out.mono ?_
  rintro e w2 ⟨rfl,b2⟩
  have M2:=Lib.hid (H.out.below HP.out b2)
  clear b2
  go_wp2
  refine bodyPost_end (results_none rfl _ _ _) rfl ?_
  exact ⟨rfl,M2.out⟩
 ·obtain ⟨q,hq⟩:∃q:Nat,k-j0 true=q:=⟨_,rfl⟩
  have e1:max (0:Int) ((k:Int)+ -1)=(q:Int):=by rw [←hq];unfold j0;rw [if_pos rfl];omega
  rw [hq]
  clear hq
  go_enter Tryz.func142,Tryz.ntmps142
  go_wp2_with (fail)
  refine (CK _).out.mono ?_
  rintro e w2 ⟨rfl,b2⟩
  have M2:=Lib.hid (H.out.below HP.out b2)
  obtain ⟨c0,c1,c2,c3⟩:=bg M2.out
  have f3:=qR M2.out 3
  have M3:=Lib.hid (qr M2.out HT.out 3 (.int .i64 (q:Int)))
  clear b2 c0 c1 c2
  go_wp2
  refine bodyPost_end (results_none rfl _ _ _) rfl ?_
  exact ⟨rfl,M3.out⟩
end Go.Proofs.YtajpoodpbbbkfaaGreatDoor
namespace Go.Proofs.YtajpoodpbbbkfaaGreatDoor
open Go.RowKit Go.Lib
theorem Gx {w0 w:World} {pg:Nat} {g:Addr} {b:Nat} {v:Value} {l:List ab} {k:Nat} {fl:aC} {n:Nat} {R:Own} (hM:ax w0 w (bM pg g b v l k fl n (bo l) R)) (hR:bC R) (nm:ByteArray) (hnm:nm.size≤16777216) (hl:l.length≤1000000) (hn:n≤1000000):Calls Tryz.prog 139 #[.pointer (some ⟨pg,0,none⟩),.string nm] w fun e w'=>e= .returned (.tuple #[])∧∃v',ax w0 w' (bM pg g b v' (l++[nm.data.toList]) k fl (n+1) (bo (l++[nm.data.toList])) R):=by
 have H:=Lib.hid hM
 have HR:=Lib.hid hR
 obtain ⟨c0,c1,c2,c3⟩:=bg hM
 obtain ⟨a,cap,hv,hlc,hm,-⟩:=fP hM.turn
 subst hv
 obtain ⟨m,hml⟩:∃m,l.length=m:=⟨_,rfl⟩
 have HML:=Lib.hid hml
 rw [hml] at hlc hl c1
 unfold maxLen at hm
 have HT:=Lib.hid ((dd b n (bo l)).sep ((cQ g fl).sep hR))
 obtain ⟨c,hc⟩:∃c,bo l nm.data.toList=c:=⟨_,rfl⟩
 have hcm:c≤m:=by rw [←hc,←hml];exact yd _ _
 have HC:=Lib.hid hc
 have HLS:=Lib.hid ((aI pg (nk g (.slice a l.length cap) b k)).sep HT.out)
 have M1:=Lib.hid (hM.turn.below ((aS _ l).sep HLS.out) ((Below.refl w.heap.size w).alloc (Nat.le_refl _) (.cells #[.string nm] 9)))
 rw [hml] at M1 HLS
 clear hM hR hml hc c0 c2 c3
 go_enter Tryz.func139,Tryz.ntmps139
 go_wp2_with (first
  |(at_builtin;refine fk rfl _ _ rfl (.slice a m cap) l [nm.data.toList] _ HLS.out rfl M1.out ⟨w.heap.size,0,none⟩ 1 1 rfl rfl ?c1 ?c2 ?_)
  |fail)
 case c1=>
  intro j hj
  have:j=0:=by simpa using hj
  subst this
  rw [show ((⟨w.heap.size,0,none⟩:Addr).add 0)=⟨w.heap.size,0,none⟩ from rfl,Lib.cell_of_heap (heap_alloc_new w _)]
  rfl
 case c2=>rw [HML.out];simp;omega
 intro v8 w8 m8
 have M8:=Lib.hid m8.turn
 clear m8 M1
 obtain ⟨a8,cap8,hv8,-⟩:=fP M8.out.turn
 have HV8:=Lib.hid hv8
 have HS8:=Lib.hid ((aS v8 (l++[nm.data.toList])).sep HT.out)
 clear hv8
 go_wp2_with (first
  |(refine cy rfl _ _ rfl M8.out HS8.out rfl _ _ _ _ rfl HV8.out ?_;intro w9 m9;have M9:=Lib.hid m9;obtain ⟨z0,z1,z2,z3⟩:=bg m9;clear m9 z0 z1 z3)
  |(at_lookup;refine bZ rfl _ _ rfl M9.out.third rfl nm rfl ?_;rw [HC.out])
  |(at_mapUpdate;refine eQ rfl _ _ _ rfl M9.out.third ((aI pg _).sep ((aS _ _).sep ((cQ g fl).sep HR.out))) (by omega) rfl nm hnm rfl _ rfl (c+1) (by omega) (by first|rfl|omega) ?_;intro w10 m10;have M10:=Lib.hid m10;clear m10))
 refine bodyPost_end (results_none rfl _ _ _) rfl ?_
 refine ⟨rfl,v8,(M10.out.imp (ff.left _ (eK fun t=>?_))).back⟩
 unfold C6
 rw [gD,jn]
 by_cases ht:t=nm.data.toList
 ·rw [if_pos ht,if_pos ht.symm,ht,HC.out]
 ·rw [if_neg ht,if_neg (fun e=>ht e.symm)];rfl
theorem Gy (l:List ab) (i j:Nat) (hi:i<l.length) (hj:j=i+1) (c:Nat) (hc:bo (l.take j) l[i]=c) (t:ab):C6 (bo (l.take j)) l[i] (c-1) t=bo (l.take i) t:=by
 subst hj
 rw [List.take_succ_eq_append_getElem hi] at hc⊢
 rw [gD,jn,if_pos rfl] at hc
 unfold C6
 rw [gD,jn]
 by_cases ht:t=l[i]
 ·rw [if_pos ht,←hc,ht];omega
 ·rw [if_neg ht,if_neg (fun e=>ht e.symm)];rfl
theorem Gz {w0 w:World} {pg:Nat} {g:Addr} {b:Nat} {v:Value} {l:List ab} {k:Nat} {fl:aC} {n:Nat} {R:Own} (hM:ax w0 w (bM pg g b v l k fl n (bo l) R)) (hR:bC R) (nm:ByteArray) (hl:l.length≤1000000) (hn:n≤1000000) (hsz:∀x∈l,x.length≤16777216) (k0:Nat) (hk0:dn l nm.data.toList=some k0):Calls Tryz.prog 144 #[.pointer (some ⟨pg,0,none⟩),.string nm] w fun e w'=>e= .returned (.tuple #[])∧∃v',ax w0 w' (bM pg g b v' (l.take k0) k fl (n+(l.length-k0)) (bo (l.take k0)) R):=by
 have HR:=Lib.hid hR
 have HSZ:=Lib.hid hsz
 have HK:=Lib.hid (Bh _ _ _ hk0)
 obtain ⟨hkl,hke⟩:=mF _ _ _ hk0
 have HKE:=Lib.hid hke
 have M0:=Lib.hid (show ax w0 w (bM pg g b v (l.take l.length) k fl (n+(l.length-l.length)) (bo (l.take l.length)) R) by rw [List.take_length,Nat.sub_self,Nat.add_zero];exact hM)
 obtain ⟨m,hml⟩:∃m,l.length=m:=⟨_,rfl⟩
 have HML:=Lib.hid hml
 rw [hml] at M0 hl hkl⊢
 clear hM hR hsz hk0 hke hml
 go_enter Tryz.func144,Tryz.ntmps144
 go_wp2
 go_loopg [4,5] m (fun gg _ _ wr=>∃(j:Nat) (v':Value),j≤gg∧k0<j∧j≤m∧Hid (ax w0 wr (bM pg g b v' (l.take j) k fl (n+(m-j)) (bo (l.take j)) R)))
 case atStart=>exact ⟨m,v,Nat.le_refl _,hkl,Nat.le_refl _,M0⟩
 case round=>
  obtain ⟨j,v',hjg,hkj,hjm,M⟩:=hrel
  clear M0
  obtain ⟨i,hij⟩:∃i:Nat,j=i+1:=⟨j-1,by omega⟩
  have hil:i<l.length:=by rw [HML.out];omega
  have hjl:(l.take j).length=j:=by rw [List.length_take,HML.out];omega
  obtain ⟨c0,c1,c2,c3⟩:=bg M.out
  obtain ⟨a,cap,hv,hlc,hm,hce⟩:=fP M.out.turn
  subst hv
  obtain ⟨x,rfl,xc⟩:=hce i (by rw [hjl];omega)
  rw [hjl] at hlc c1 M
  rw [List.getElem_take] at xc
  have hls:=HSZ.out _ (List.getElem_mem hil)
  have hcn:∃c,bo (l.take j) l[i]=c∧1≤c∧c≤j:=by
   refine ⟨_,rfl,?_,by have:=yd l[i] (l.take j);rw [hjl] at this;exact this⟩
   rw [hij,List.take_succ_eq_append_getElem hil,gD,jn,if_pos rfl];omega
  obtain ⟨c,hc,hc1,hcj⟩:=hcn
  have HUP:=Lib.hid (Gy l i j hil hij c hc)
  have HC:=hc
  obtain ⟨S,hS⟩:∃S:ByteArray,(⟨l[i].toArray⟩:ByteArray)=S:=⟨_,rfl⟩
  have hS2:S.data.toList=l[i]:=by rw [←hS,List.toList_toArray]
  have hSs:S.size≤16777216:=by rw [Lib.size_eq,hS2];exact hls
  have HBQ:=lL l[i] nm
  rw [hS] at HBQ xc
  rw [←hS2] at HC HUP
  have HC:=Lib.hid HC
  have HT:=Lib.hid ((aS (.slice (some x) j cap) (l.take j)).sep ((dd b (n+(m-j)) (bo (l.take j))).sep ((cQ g fl).sep HR.out)))
  have e1:(j:Int)-1=(i:Int):=by omega
  have e2:(c:Int)-1=((c-1:Nat):Int):=by omega
  unfold maxLen at hm
  have hic:i≤cap:=by omega
  have HTI:=Lib.hid (show (l.take j).take i=l.take i by rw [List.take_take,Nat.min_eq_left (by omega)])
  obtain ⟨B,hB⟩:∃B,decide (l[i]=nm.data.toList)=B:=⟨_,rfl⟩
  rw [hB] at HBQ
  have HB:=Lib.hid hB
  have HIM:=Lib.hid (show i≤(l.take j).length by rw [hjl];omega)
  clear hjl hce hls hc hS hS2 hB c0 c2 c3
  cases B
  ·go_wp2_with (first
    |(refine cy rfl _ _ rfl M.out HT.out rfl (some x) i cap (.slice (some x) i cap) (by first|rfl|go_num) rfl ?_;intro w9 m9;have M9:=Lib.hid (tR m9.turn HIM.out).turn;rw [HTI.out] at M9;obtain ⟨z0,z1,z2,z3⟩:=bg M9.out;clear m9 z0 z1 z3)
    |(at_lookup;refine bZ rfl _ _ rfl M9.out.third rfl S rfl ?_;rw [HC.out])
    |(at_mapUpdate;refine eQ rfl _ _ _ rfl M9.out.third ((aI pg _).sep ((aS _ _).sep ((cQ g fl).sep HR.out))) (by omega) rfl S hSs rfl _ rfl (c-1) (by omega) (by first|rfl|omega) ?_;intro w10 m10;have M10:=Lib.hid (m10.imp (ff.left _ (eK HUP.out))).back;clear m10))
   go_roundg i
   case measure=>omega
   case rel=>
    have hki:k0≠i:=fun e=>by
     subst e
     exact absurd HKE.out (of_decide_eq_false HB.out)
    refine ⟨i,.slice (some x) i cap,Nat.le_refl _,by omega,by omega,?_⟩
    have e3:n+(m-j)+1=n+(m-i):=by omega
    rw [e3] at M10
    exact M10
  ·go_wp2_with (first
    |(refine cy rfl _ _ rfl M.out HT.out rfl (some x) i cap (.slice (some x) i cap) (by first|rfl|go_num) rfl ?_;intro w9 m9;have M9:=Lib.hid (tR m9.turn HIM.out).turn;rw [HTI.out] at M9;obtain ⟨z0,z1,z2,z3⟩:=bg M9.out;clear m9 z0 z1 z3)
    |(at_lookup;refine bZ rfl _ _ rfl M9.out.third rfl S rfl ?_;rw [HC.out])
    |(at_mapUpdate;refine eQ rfl _ _ _ rfl M9.out.third ((aI pg _).sep ((aS _ _).sep ((cQ g fl).sep HR.out))) (by omega) rfl S hSs rfl _ rfl (c-1) (by omega) (by first|rfl|omega) ?_;intro w10 m10;have M10:=Lib.hid (m10.imp (ff.left _ (eK HUP.out))).back;clear m10))
   refine bodyPost_ret (results_none rfl _ _ _) rfl ?_
   have hki:i=k0:=by
    rcases Nat.lt_or_eq_of_le (show k0≤i by omega) with h|h
    ·exact absurd (of_decide_eq_true HB.out) (HK.out i hil h)
    ·exact h.symm
   subst hki
   have e3:n+(m-j)+1=n+(m-i):=by omega
   rw [e3] at M10
   exact ⟨rfl,_,M10.out⟩
theorem GA {w0 w:World} {ga m cap:Nat} {l:List ab} {S:Own} (h:ax w0 w (bI (gx (.slice (some ⟨ga,0,none⟩) m cap) l) S)) (hS:bC S) (j:Nat) (hj:j≤l.length):∃R,kg w ga (bA (l.take j)) (l.drop j) R∧kg w ga [] [] (bA l++R)∧∀w' E,kg w' ga (bA (l.take j)) E R→E.length=l.length-j→w.grownBy w' (some ga)→ax w0 w' (bI (gx (.slice (some ⟨ga,0,none⟩) m cap) (l.take j++E)) S):=by
 obtain ⟨F,⟨h1,hF⟩,-,hk⟩:=h.first
 rcases h1.2 with ⟨e,-⟩|⟨g',cap',cur,e,hb,hg,hn,hm,hs,ht⟩
 ·cases e
 ·injection e with e1 e2 e3
  injection e1 with e1
  injection e1 with e1 _ _
  subst e1;subst e2;subst e3
  rw [Nat.mul_one] at ht hs
  have hd:bA l=bA (l.take j)++bA (l.drop j):=by rw [jZ,List.take_append_drop]
  have hcur:cur.toList=bA l++cur.toList.drop l.length:=by rw [←ht,List.take_append_drop]
  have hcl:cur.toList.length=cap:=by rw [Array.length_toList,hs]
  refine ⟨cur.toList.drop l.length,⟨?_⟩,⟨?_⟩,fun w' E hr hE hgr=>?_⟩
  ·rw [hg]
   congr 2
   apply Array.ext'
   rw [List.toList_toArray,←hd];exact hcur
  ·rw [hg]
   congr 2
   apply Array.ext'
   rw [List.toList_toArray];exact hcur
  ·have hlen:(l.take j++E).length=l.length:=by rw [List.length_append,List.length_take,hE];omega
   refine hk w' (gx _ (l.take j++E)) F hS ⟨⟨by rw [bU,Nat.mul_one],.inr ⟨ga,cap,_,by rw [hlen],Nat.zero_le _,hr.heap,by rw [hlen];exact hn,hm,?_,?_⟩⟩,hF⟩ (bv.of_grown hgr ((hF ga).2 rfl))
   ·have h5:=congrArg List.length hcur
    rw [List.length_append,bU,hcl] at h5
    rw [List.size_toArray,List.length_append,List.length_append,bU,bU,List.length_take,hE,h5];omega
   ·rw [List.toList_toArray,Nat.mul_one,jZ,hlen,List.take_append_of_le_length (by rw [bU,hlen];exact Nat.le_refl _),List.take_of_length_le (by rw [bU,hlen];exact Nat.le_refl _)]
def mU (l:List ab) (j:Nat):ab→Nat:=fun t=>if t=bH then bo (l.take j) bH else bo l t
theorem GB (l:List ab) (j:Nat):mU l j bH=bo (l.take j) bH:=if_pos rfl
theorem KC (l:List ab) (t:ab):bo l t=mU l l.length t:=by
 unfold mU
 rw [List.take_length]
 by_cases h:t=bH
 ·rw [if_pos h,h]
 ·rw [if_neg h]
theorem GC (l:List ab) (j:Nat) (h:bo (l.take j) bH=0) (t:ab):mU l j t=bo (l.filter fun x=>decide (x≠bH)) t:=by
 unfold mU
 rw [tQ,h]
theorem GD (l:List ab) (i:Nat) (hi:i<l.length) (h:l[i]≠bH) (t:ab):mU l (i+1) t=mU l i t:=by
 unfold mU
 rw [List.take_succ_eq_append_getElem hi,gD,jn,if_neg h];rfl
theorem GE (l:List ab) (i:Nat) (hi:i<l.length) (h:l[i]=bH) (c:Nat) (hc:bo (l.take (i+1)) bH=c) (t:ab):C6 (mU l (i+1)) bH (c-1) t=mU l i t:=by
 rw [List.take_succ_eq_append_getElem hi,gD,jn,if_pos h] at hc
 unfold C6 mU
 by_cases ht:t=bH
 ·rw [if_pos ht,if_pos ht];omega
 ·rw [if_neg ht,if_neg ht,if_neg ht]
theorem uR (l:List ab) (j:Nat) (h:bo (l.take j) bH=0):l.take j++(l.drop j).filter (fun q=> !dJ q)=l.filter fun x=>decide (x≠bH):=by
 have e:(fun x:ab=>decide (x≠bH))=fun q=> !dJ q:=by
  funext x
  unfold dJ
  by_cases hx:x=bH
  ·rw [decide_eq_false (fun h=>h hx),decide_eq_true hx];rfl
  ·rw [decide_eq_true hx,decide_eq_false hx];rfl
 conv=>rhs;rw [e,←List.take_append_drop j l,List.filter_append]
 congr 1
 refine (List.filter_eq_self.2 fun q hq=>?_).symm
 have:q≠bH:=fun e=>(tP bH _).1 h (e▸hq)
 unfold dJ
 rw [decide_eq_false this];rfl
theorem ND:(⟨#[104,101,97,100]⟩:ByteArray).data.toList=bH:=rfl
theorem qS {w0 w:World} {ga m cap j mm:Nat} {l E:List ab} {S:Own} (h:ax w0 w (bI (gx (.slice (some ⟨ga,0,none⟩) m cap) (l.take j++E)) S)) (hj:j≤l.length) (hE:E.length=l.length-j) (hm:mm≤l.length-j) (h2:E.take mm=(l.drop j).filter fun q=> !dJ q) (h0:bo (l.take j) bH=0):ax w0 w (bI (gx (.slice (some ⟨ga,0,none⟩) (j+mm) cap) (l.filter fun x=>decide (x≠bH))) S):=by
 have h1:=tR (m:=j+mm) h (by rw [List.length_append,List.length_take];omega)
 have e:(l.take j++E).take (j+mm)=l.filter fun x=>decide (x≠bH):=by
  rw [←uR l j h0,←h2,List.take_append,List.take_of_length_le (by rw [List.length_take];omega),List.length_take,Nat.min_eq_left hj,Nat.add_sub_cancel_left]
 rwa [e] at h1
theorem Bi {w0 w : World} {pg : Nat} {g : Addr} {b : Nat} {v : Value} {l : List ab} {k : Nat} {fl : aC} {n : Nat} {R : Own} (hM : ax w0 w (bM pg g b v l k fl n (bo l) R)) (hR : bC R) (hl : l.length ≤ 1000000) (hn : n ≤ 1000000) :
    Calls Tryz.prog 137 #[.pointer (some ⟨pg, 0, none⟩)] w fun e w' => e = .returned (.tuple #[]) ∧ ∃ v' n', n' ≤ n + bo l bH ∧ ax w0 w' (bM pg g b v' (l.filter fun x => decide (x ≠ bH)) k fl n' (bo (l.filter fun x => decide (x ≠ bH))) R) := by
  have HR := Lib.hid hR
  have M0 := Lib.hid (show ax w0 w (bM pg g b v l k fl n (mU l l.length) R) from (hM.third.imp (ff.left _ (eK (KC l)))).back)
  obtain ⟨c0, c1, c2, c3⟩ := bg hM
  obtain ⟨a, cap, hv, hlc, hm, hce⟩ := fP hM.turn
  subst hv
  have HCE := Lib.hid hce
  have HCT := Lib.hid (show ∀ j, bo (l.take j) bH ≤ bo l bH from fun j => by
    conv => rhs; rw [← List.take_append_drop j l, gD]
    omega)
  have HSN := Lib.hid (show (Value.slice a l.length cap = .slice none 0 0 ∧ l.length = 0) ∨ ∃ ga, a = some ⟨ga, 0, none⟩ from by
    rcases (z9 hM.turn).2 with ⟨e, e0⟩ | ⟨ga, cap', cur, e, -⟩
    · exact .inl ⟨e, e0⟩
    · injection e with e1 e2 e3
      exact .inr ⟨ga, e1⟩)
  obtain ⟨LF, hLF⟩ : ∃ LF, (l.filter fun x => decide (x ≠ bH)) = LF := ⟨_, rfl⟩
  have HLF := Lib.hid hLF
  rw [hLF]
  clear hLF
  obtain ⟨m, hml⟩ : ∃ m, l.length = m := ⟨_, rfl⟩
  have HML := Lib.hid hml
  obtain ⟨C, hC⟩ : ∃ C, bo l bH = C := ⟨_, rfl⟩
  have hCm : C ≤ m := by rw [← hC, ← hml]; exact yd _ _
  have HCC := Lib.hid hC
  rw [hml] at hlc hl c1 M0 HSN
  rw [hC] at HCT ⊢
  unfold maxLen at hm
  have HCJ := Lib.hid (show bo (l.take m) bH = C by rw [← hml, List.take_length]; exact hC)
  clear hM hR hml hC hce c0 c2 c3
  go_enter Tryz.func137, Tryz.ntmps137
  go_wp2
  clear c1
  go_loopw [2] (fun v2 wr => ∃ (j q : Nat), v2 = .int .i64 (j : Int) ∧ j ≤ m ∧ Hid (q + bo (l.take j) bH ≤ n + C) ∧ Hid (ax w0 wr (bM pg g b (.slice a m cap) l k fl q (mU l j) R))) (fun v _ => (ae v).toNat)
  case atStart => exact ⟨m, n, rfl, Nat.le_refl _, Lib.hid (by rw [HCJ.out]; exact Nat.le_refl _), M0⟩
  case round =>
    obtain ⟨j, q, rfl, hj, HQ, M⟩ := hrel
    clear M0 HCJ
    obtain ⟨c0, c1, c2, c3⟩ := bg M.out
    obtain ⟨c, hc⟩ : ∃ c, bo (l.take j) bH = c := ⟨_, rfl⟩
    have hqc : q + c ≤ n + C := by rw [← hc]; exact HQ.out
    have hcC : c ≤ C := by rw [← hc]; exact HCT.out j
    have HC := Lib.hid hc
    have HC2 := Lib.hid (show mU l j (⟨#[104, 101, 97, 100]⟩ : ByteArray).data.toList = c by rw [ND, GB]; exact hc)
    by_cases h0 : c = 0
    · subst h0
      have HIMP := Lib.hid (fun v => show ff (bM pg g b v LF k fl q (mU l j) R) (bM pg g b v LF k fl q (bo LF) R) from
        ff.right _ (ff.right _ (ff.left _ (eK (by rw [← HLF.out]; exact GC l j HC.out)))))
      have HT := Lib.hid ((dd b q (mU l j)).sep ((cQ g fl).sep HR.out))
      have hq : q ≤ n + C := by omega
      rcases HSN.out with ⟨e, e0⟩ | ⟨ga, rfl⟩
      · injection e with e1 e2 e3
        subst e1; subst e2; subst e3
        obtain rfl : j = 0 := by omega
        have HL0 := Lib.hid (List.eq_nil_of_length_eq_zero HML.out)
        have HD := fun w => Lib.hid (rk w (.func (.func 174) #[] #[]))
        clear c0 c3 hqc hc
        go_wp2_with (first
          | (at_lookup; refine bZ rfl _ _ rfl M.out.third rfl ⟨#[104, 101, 97, 100]⟩ rfl ?_; rw [HC2.out])
          | (go_at_call 173; refine (HD _).out.mono ?_; rintro e w5 ⟨rfl, hw5⟩; obtain rfl := hw5.symm)
          | (refine cy rfl _ _ rfl M.out ((aS _ l).sep HT.out) rfl none 0 0 (.slice none 0 0) (by first | rfl | go_num) rfl ?_; intro w9 m9; have M9 := Lib.hid m9; clear m9))
        refine bodyPost_end (results_none rfl _ _ _) (by rfl) ?_
        refine ⟨rfl, .slice none 0 0, q, hq, ?_⟩
        refine ax.imp ?_ (HIMP.out _)
        have h9 := M9.out
        have hlf : LF = [] := by rw [← HLF.out, HL0.out]; rfl
        rw [hlf]
        rw [HL0.out] at h9
        rw [HL0.out]
        exact h9
      · obtain ⟨Rr, hr1, hr2, hr3⟩ := GA M.out.turn ((aI pg _).sep HT.out) j (by rw [HML.out]; exact hj)
        have HR1 := Lib.hid hr1
        have HR2 := Lib.hid hr2
        have HR3 := Lib.hid hr3
        have hjm : j ≤ cap := by omega
        have hdl : (l.drop j).length = m - j := by rw [List.length_drop, HML.out]
        have hjl : (bA (l.take j)).length = j := by rw [bU, List.length_take, HML.out]; omega
        have HDL := Lib.hid hdl
        clear c0 c3 hqc hc hr1 hr2 hr3 hdl
        by_cases he0 : cap = j
        · subst he0
          obtain rfl : m = cap := by omega
          have HD := fun w h => Lib.hid (l5 ga 0 0 0 [] [] (bA l ++ Rr) w h rfl rfl (Nat.le_refl _) (by omega))
          clear hjl hjm
          go_wp2_with (first
            | (at_lookup; refine bZ rfl _ _ rfl M.out.third rfl ⟨#[104, 101, 97, 100]⟩ rfl ?_; rw [HC2.out])
            | fail)
          refine (HD _ HR2.out).out.mono ?_
          rintro e5 w5 ⟨E, mm, rfl, hr, hmm, hE, hEt, hgr⟩
          obtain rfl : mm = 0 := by omega
          obtain rfl : E = [] := List.eq_nil_of_length_eq_zero hE
          have htk : l.take m = l := List.take_of_length_le (by rw [HML.out]; exact Nat.le_refl _)
          have hdr : l.drop m = [] := List.drop_eq_nil_of_le (by rw [HML.out]; exact Nat.le_refl _)
          have hr5 : kg w5 ga (bA (l.take m)) [] Rr := ⟨by rw [hr.heap, htk]; simp [bA]⟩
          have M5 := Lib.hid (qS (mm := 0) (HR3.out w5 [] hr5 (by rw [HML.out, Nat.sub_self]; rfl) hgr) (by rw [HML.out]; exact hj) (by rw [HML.out, Nat.sub_self]; rfl) (Nat.zero_le _) (by rw [hdr]; rfl) HC.out).turn
          rw [HLF.out, Nat.add_zero] at M5
          obtain ⟨c0, c1, c2, c3⟩ := bg M5.out
          clear c0 c2 c3 hr hE hEt hgr hr5 htk hdr
          go_wp2_with (refine cy rfl _ _ rfl M5.out ((aS _ LF).sep HT.out) rfl (some ⟨ga, 0, none⟩) m m (.slice (some ⟨ga, 0, none⟩) m m) (by first | rfl | go_num) rfl ?_; intro w9 m9; have M9 := Lib.hid m9; clear m9)
          refine bodyPost_end (results_none rfl _ _ _) (by rfl) ?_
          exact ⟨rfl, _, q, hq, M9.out.imp (HIMP.out _)⟩
        · have HD := fun w h => Lib.hid (l5 ga j (cap - j) (m - j) (bA (l.take j)) (l.drop j) Rr w h hjl HDL.out (by omega) (by omega))
          clear hjl
          go_wp2_with (first
            | (at_lookup; refine bZ rfl _ _ rfl M.out.third rfl ⟨#[104, 101, 97, 100]⟩ rfl ?_; rw [HC2.out])
            | fail)
          refine (HD _ HR1.out).out.mono ?_
          rintro e5 w5 ⟨E, mm, rfl, hr, hmm, hE, hEt, hgr⟩
          have M5 := Lib.hid (qS (HR3.out w5 E hr (by rw [hE, HML.out]) hgr) (by rw [HML.out]; exact hj) (by rw [hE, HML.out]) (by rw [HML.out]; exact hmm) hEt HC.out).turn
          rw [HLF.out] at M5
          obtain ⟨c0, c1, c2, c3⟩ := bg M5.out
          clear c0 c2 c3 hr hE hEt hgr
          have hjc : j + mm ≤ cap := by omega
          go_wp2_with (refine cy rfl _ _ rfl M5.out ((aS _ LF).sep HT.out) rfl (some ⟨ga, 0, none⟩) (j + mm) cap (.slice (some ⟨ga, 0, none⟩) (j + mm) cap) (by first | rfl | go_num) rfl ?_; intro w9 m9; have M9 := Lib.hid m9; clear m9)
          refine bodyPost_end (results_none rfl _ _ _) (by rfl) ?_
          exact ⟨rfl, _, q, hq, M9.out.imp (HIMP.out _)⟩
    · have hj0 : j ≠ 0 := fun e => h0 (by rw [← hc, e]; rfl)
      have hd : decide ((0 : Int) < (c : Int)) = true := decide_eq_true (by omega)
      have hd2 : decide (0 < c) = true := decide_eq_true (by omega)
      obtain ⟨i, hij⟩ : ∃ i : Nat, j = i + 1 := ⟨j - 1, by omega⟩
      have hil : i < l.length := by rw [HML.out]; omega
      obtain ⟨a', cap', hv', -, -, hce⟩ := fP M.out.turn
      injection hv' with ea em ec
      subst ea; subst ec
      obtain ⟨x, rfl, xc⟩ := hce i hil
      have hbq := lL l[i] ⟨#[104, 101, 97, 100]⟩
      rw [ND, show (⟨#[104, 101, 97, 100]⟩ : ByteArray).toList = [104, 101, 97, 100] by rw [ByteArray.toList_eq]] at hbq
      obtain ⟨S, hS⟩ : ∃ S : ByteArray, (⟨l[i].toArray⟩ : ByteArray) = S := ⟨_, rfl⟩
      rw [hS] at hbq xc
      have hbq2 := hbq
      have e1 : (j : Int) - 1 = (i : Int) := by omega
      have e2 : (c : Int) - 1 = ((c - 1 : Nat) : Int) := by omega
      have hct : bo (l.take (i + 1)) bH = c := by rw [← hij]; exact hc
      have hq0 : q ≤ n + C := by omega
      clear hce hS c0 c3 hbq hqc hc em
      by_cases hx : l[i] = bH
      · rw [decide_eq_true hx] at hbq2
        have HUP := Lib.hid (GE l i hil hx c hct)
        rw [← hij] at HUP
        have HQ2 : Hid (q + 1 + bo (l.take i) bH ≤ n + C) := Lib.hid (by
          have := HQ.out
          rw [hij, List.take_succ_eq_append_getElem hil, gD, jn, if_pos hx] at this
          omega)
        clear hx hct
        go_wp2_with (first
          | (at_lookup; refine bZ rfl _ _ rfl M.out.third rfl ⟨#[104, 101, 97, 100]⟩ rfl ?_; rw [HC2.out])
          | (at_mapUpdate; refine eQ rfl _ _ _ rfl M.out.third ((aI pg _).sep ((aS _ _).sep ((cQ g fl).sep HR.out))) (by omega) rfl ⟨#[104, 101, 97, 100]⟩ (by decide) rfl _ rfl (c - 1) (by omega) (by first | rfl | omega) ?_; intro w10 m10; have M10 := Lib.hid (m10.imp (ff.left _ (eK HUP.out))).back; clear m10))
        go_roundw
        case rel => exact ⟨i, by first | rfl | trivial | go_num, by omega, q + 1, HQ2, M10⟩
        case measure => simp [ae]; omega
      · rw [decide_eq_false hx] at hbq2
        have HUP := Lib.hid (GD l i hil hx)
        rw [← hij] at HUP
        have M10 := Lib.hid (M.out.third.imp (ff.left _ (eK HUP.out))).back
        have HQ2 : Hid (q + bo (l.take i) bH ≤ n + C) := Lib.hid (by
          have := HQ.out
          rw [hij, List.take_succ_eq_append_getElem hil, gD, jn, if_neg hx] at this
          omega)
        clear hx hct
        go_wp2_with (at_lookup; refine bZ rfl _ _ rfl M.out.third rfl ⟨#[104, 101, 97, 100]⟩ rfl ?_; rw [HC2.out])
        go_roundw
        case rel => exact ⟨i, q, by first | rfl | trivial | go_num, by omega, HQ2, M10⟩
        case measure => simp [ae]; omega
end Go.Proofs.YtajpoodpbbbkfaaGreatDoor
namespace Go.Proofs.YtajpoodpbbbkfaaGreatDoor
open Go.RowKit Go.Lib
theorem tT (nm:ab):∀l:List ab,(l.filter fun x=>decide (x≠nm)).length+bo l nm=l.length
 |[]=>rfl
 |x::l=>by
  have ih:=tT nm l
  rw [List.filter_cons]
  show _+((if x=nm then 1 else 0)+bo l nm)=_
  rw [List.length_cons]
  by_cases hx:x=nm
  ·rw [if_neg (by simpa using hx),if_pos hx];omega
  ·rw [if_pos (by simpa using hx),if_neg hx,List.length_cons];omega
theorem wv (nm:ab) (h:pX nm=true):nm.length≤16777216:=by
 have h1:∀x∈kI,x.length≤16777216:=by decide+kernel
 exact h1 nm (of_decide_eq_true h)
def iv (pg:Nat):Obj:= .cells #[.pointer (some ⟨pg,0,none⟩)] 106 (0,0)
def tU (K:Int) (nm X:ByteArray) (ad:Option Addr) (ln cp:Nat) (sf:Bool):Obj:= .cells #[.int .i64 K,.string nm,.string X,.slice ad ln cp,.bool sf] 33 (0,0)
theorem ff.sink (T:Own) (pg:Nat) (g:Addr) (b:Nat) (v:Value) (l:List ab) (k:Nat) (fl:aC) (n:Nat) (f:ab→Nat) (R:Own):ff (bI T (bM pg g b v l k fl n f R)) (bM pg g b v l k fl n f (bI T R)):=
 fun w F h=>ff.right _ (ff.right _ (ff.right _ (ff.turn _ _ _))) w F (ff.right _ (ff.right _ (ff.turn _ _ _)) w F (ff.right _ (ff.turn _ _ _) w F (ff.turn _ _ _ w F h)))
theorem ff.rise (T:Own) (pg:Nat) (g:Addr) (b:Nat) (v:Value) (l:List ab) (k:Nat) (fl:aC) (n:Nat) (f:ab→Nat) (R:Own):ff (bM pg g b v l k fl n f (bI T R)) (bI T (bM pg g b v l k fl n f R)):=
 fun w F h=>ff.turn _ _ _ w F (ff.right _ (ff.turn _ _ _) w F (ff.right _ (ff.right _ (ff.turn _ _ _)) w F (ff.right _ (ff.right _ (ff.right _ (ff.turn _ _ _))) w F h)))
theorem cm {w0 w:World} {pg:Nat} {g:Addr} {b:Nat} {v:Value} {l:List ab} {k:Nat} {fl:aC} {n:Nat} {f:ab→Nat} {R:Own} {tb bx:Nat} {K:Int} {nm X:ByteArray} {ad:Option Addr} {ln cp:Nat} {sf:Bool} (h:ax w0 w (bM pg g b v l k fl n f (bI (cF tb (tU K nm X ad ln cp sf)) (bI (cF bx (iv pg)) R)))):w.cell? ⟨tb,1,none⟩=some (.string nm)∧w.cell? ⟨tb,2,none⟩=some (.string X)∧w.cell? ⟨bx,0,none⟩=some (.pointer (some ⟨pg,0,none⟩)):=by
 have h1:=dX h.rest.rest.rest.rest
 have h2:=dX h.rest.rest.rest.rest.rest
 unfold tU at h1
 unfold iv at h2
 exact ⟨by rw [Lib.cell_of_heap h1];rfl,by rw [Lib.cell_of_heap h1];rfl,by rw [Lib.cell_of_heap h2];rfl⟩
def ww (w0:World) (pg:Nat) (g:Addr) (b:Nat) (r:eN) (m:Nat) (R:Own) (e:Ending) (w':World):Prop:=
 e= .returned (.tuple #[])∧∃v' n',n'+r.opn.length≤m∧ax w0 w' (bM pg g b v' r.opn r.kept r.flow n' (bo r.opn) R)
theorem d7 {w0 w':World} {pg:Nat} {g:Addr} {b:Nat} {r0 r r':eN} {t:aq} {m:Nat} {T R:Own} {v':Value} {n':Nat} (h:dz r0 t=r) (he:dz r0 t=r') (hm:n'+r'.opn.length≤m) (hM:ax w0 w' (bM pg g b v' r'.opn r'.kept r'.flow n' (bo r'.opn) (bI T R))):ww w0 pg g b r m R (.returned (.tuple #[])) w':=by
 rw [←h,he]
 exact ⟨rfl,v',n',hm,(hM.imp (ff.rise _ _ _ _ _ _ _ _ _ _ _)).rest⟩
theorem C8 {w0 w:World} {pg:Nat} {g:Addr} {b:Nat} {v:Value} {l:List ab} {k:Nat} {fl:aC} {n:Nat} {R:Own} {bx:Nat} (hM:ax w0 w (bM pg g b v l k fl n (bo l) (bI (cF bx (iv pg)) R))) (hR:bC R) (t:aq) (hkind:t.kind=1) (ad:Option Addr) (ln cp:Nat) (hs:fl.size+t.text.length≤1073741000) (hk:k≤100000) (hl:l.length≤100000) (hn:n≤100000):Calls Tryz.prog 136 #[eu t ad ln cp,.pointer (some ⟨bx,0,none⟩)] w (ww w0 pg g b (dz ⟨l,k,fl⟩ t) (n+l.length+2) (bI (cF bx (iv pg)) R)):=by
 obtain ⟨RR,hRR⟩:∃RR,dz ⟨l,k,fl⟩ t=RR:=⟨_,rfl⟩
 have HRR:=Lib.hid hRR
 rw [hRR]
 unfold eu
 have HK:=Lib.hid hkind
 rw [hkind]
 obtain ⟨nm,hnmE⟩:∃nm:ByteArray,(⟨t.name.toArray⟩:ByteArray)=nm:=⟨_,rfl⟩
 have hnm2:nm.data.toList=t.name:=by rw [←hnmE,List.toList_toArray]
 obtain ⟨X,hX⟩:∃X:ByteArray,(⟨t.text.toArray⟩:ByteArray)=X:=⟨_,rfl⟩
 have hX2:X.data.toList=t.text:=by rw [←hX,List.toList_toArray]
 have hXs:X.size=t.text.length:=by rw [Lib.size_eq,hX2]
 rw [←hXs] at hs
 obtain ⟨sf,hsf⟩:∃b,t.self=b:=⟨_,rfl⟩
 rw [hnmE,hX,hsf]
 have HNM2:=Lib.hid hnm2
 have HX2:=Lib.hid hX2
 obtain ⟨tb,htb⟩:∃tb,w.heap.size=tb:=⟨_,rfl⟩
 have HRL0:=Lib.hid ((aI bx (iv pg)).sep hR)
 have HRL:=Lib.hid ((aI tb (tU 1 nm X ad ln cp sf)).sep HRL0.out)
 have hm1:=(gw hM (de pg g b v l k fl n (bo l) HRL0.out) (tU 1 nm X ad ln cp sf)).imp (ff.sink _ _ _ _ _ _ _ _ _ _ _)
 rw [htb] at hm1
 obtain ⟨w1,hw1⟩:∃w1,w.alloc (tU 1 nm X ad ln cp sf)=w1:=⟨_,rfl⟩
 rw [hw1] at hm1
 have M1:=Lib.hid hm1
 have HW1:=Lib.hid (show w.alloc (.cells #[.int .i64 1,.string nm,.string X,.slice ad ln cp,.bool sf] 33)=w1 from hw1)
 have y0:(w.alloc (.cells #[.int .i64 1,.string nm,.string X,.slice ad ln cp,.bool sf] 33)).cell? ⟨bx,0,none⟩=some (.pointer (some ⟨pg,0,none⟩)):=by
  rw [HW1.out]
  exact (cm hm1).2.2
 have y00:w.cell? ⟨bx,0,none⟩=some (.pointer (some ⟨pg,0,none⟩)):=by
  have h2:=dX hM.rest.rest.rest.rest
  unfold iv at h2
  rw [Lib.cell_of_heap h2];rfl
 have y000:bx≠w.heap.size:=by
  have h2:=dX hM.rest.rest.rest.rest
  have:=(Array.getElem?_eq_some_iff.1 h2).1
  omega
 have HTB:=Lib.hid htb
 have CH:=fun w=>Lib.hid (Cf nm w (lD w))
 rw [hnm2] at CH
 obtain ⟨hh,hhh⟩:∃hh,pX t.name=hh:=⟨_,rfl⟩
 rw [hhh] at CH
 have HHH:=Lib.hid hhh
 have hbq:(nm.toList==[98,111,100,121])=decide (t.name=qN):=by
  rw [ByteArray.toList_eq,HNM2.out]
  exact Bool.eq_iff_iff.2 (by rw [beq_iff_eq,decide_eq_true_iff];exact Iff.rfl)
 have hs:fl.size≤1073741000:=by omega
 have hk:k≤1000000:=by omega
 by_cases hbody:t.name=qN
 ·rw [decide_eq_true hbody] at hbq
  have hh0:hh=false:=by rw [←HHH.out,hbody];exact (show pX qN=false by decide+kernel)
  subst hh0
  obtain ⟨LF,hLF⟩:∃LF,(l.filter fun x=>decide (x≠bH))=LF:=⟨_,rfl⟩
  have HOP:=Lib.hid (show g9 ⟨l,k,fl⟩ t.name=LF by unfold g9;rw [if_pos hbody];exact hLF)
  have hfc:=tT bH l
  have HUN:=Lib.hid (Bi M1.out HRL.out (by omega) (by omega))
  rw [hLF] at hfc HUN
  clear hbody hhh hLF hnmE hnm2 hX hX2 hsf hw1 hm1 hM hR hRR hkind htb
  go_enter Tryz.func136,Tryz.ntmps136
  go_wp2_with (fail)
  rw [HW1.out]
  refine HUN.out.mono ?_
  rintro e w2 ⟨rfl,v2,n2,hn2,m2⟩
  have M2:=Lib.hid m2
  clear m2 y0
  obtain ⟨y1,y2,y3⟩:=cm M2.out
  try rw [HTB.out]
  go_wp2_with (fail)
  refine ((CH _).out).mono ?_
  rintro e w3 ⟨rfl,b3⟩
  have M3:=Lib.hid (M2.out.below (de pg g b _ LF k fl n2 (bo LF) HRL.out) b3)
  clear b3
  obtain ⟨y1,y2,y3⟩:=cm M3.out
  obtain ⟨B,hB⟩:∃B,decide (LF≠[])=B:=⟨_,rfl⟩
  have HHI:=Lib.hid (kO M3.out)
  rw [hB] at HHI
  have HB:=Lib.hid hB
  clear hB
  go_wp2_with (fail)
  refine HHI.out.mono ?_
  rintro e w4 ⟨rfl,hw4⟩
  obtain rfl:=hw4.symm
  cases B
  ·have hl0:LF=[]:=Classical.byContradiction fun h=>of_decide_eq_false HB.out h
   go_wp2_with (fail)
   refine (tS M3.out HRL.out nm hs).mono ?_
   rintro e w5 ⟨rfl,m5⟩
   have M5:=Lib.hid m5
   clear m5
   rw [HNM2.out] at M5
   obtain ⟨y1,y2,y3⟩:=cm M5.out
   go_wp2_with (fail)
   refine (pm M5.out HRL.out nm hk).mono ?_
   rintro e w6 ⟨rfl,m6⟩
   have M6:=Lib.hid m6
   clear m6
   rw [HNM2.out] at M6
   go_wp2
   refine bodyPost_end (results_none rfl _ _ _) (by rfl) ?_
   exact d7 (n':=n2) (r':=⟨[],k+j0 (k5 t.name),bN t.name fl⟩) HRR.out (by rw [cD _ t HK.out,HHH.out,if_neg Bool.false_ne_true,HOP.out,if_pos hl0]) (by simp only [List.length_nil];omega) (by have h6:=M6.out;rw [hl0] at h6;exact h6)
  ·have hl0:¬LF=[]:=of_decide_eq_true HB.out
   go_wp2
   refine bodyPost_end (results_none rfl _ _ _) (by rfl) ?_
   exact d7 (n':=n2) HRR.out (by rw [cD _ t HK.out,HHH.out,if_neg Bool.false_ne_true,HOP.out,if_neg hl0]) (by simp only;omega) M3.out
 ·rw [decide_eq_false hbody] at hbq
  have HOP:=Lib.hid (show g9 ⟨l,k,fl⟩ t.name=l by unfold g9;rw [if_neg hbody])
  clear hbody hhh hnmE hnm2 hX hX2 hsf hw1 hm1 hM hR hRR hkind htb
  go_enter Tryz.func136,Tryz.ntmps136
  go_wp2_with (fail)
  rw [HW1.out]
  try rw [HTB.out]
  refine ((CH _).out).mono ?_
  rintro e w3 ⟨rfl,b3⟩
  have M3:=Lib.hid (M1.out.below (de pg g b _ l k fl n (bo l) HRL.out) b3)
  clear b3
  obtain ⟨y1,y2,y3⟩:=cm M3.out
  cases hh
  ·obtain ⟨B,hB⟩:∃B,decide (l≠[])=B:=⟨_,rfl⟩
   have HHI:=Lib.hid (kO M3.out)
   rw [hB] at HHI
   have HB:=Lib.hid hB
   clear hB
   go_wp2_with (fail)
   refine HHI.out.mono ?_
   rintro e w4 ⟨rfl,hw4⟩
   obtain rfl:=hw4.symm
   cases B
   ·have hl0:l=[]:=Classical.byContradiction fun h=>of_decide_eq_false HB.out h
    go_wp2_with (fail)
    refine (tS M3.out HRL.out nm hs).mono ?_
    rintro e w5 ⟨rfl,m5⟩
    have M5:=Lib.hid m5
    clear m5
    rw [HNM2.out] at M5
    obtain ⟨y1,y2,y3⟩:=cm M5.out
    go_wp2_with (fail)
    refine (pm M5.out HRL.out nm hk).mono ?_
    rintro e w6 ⟨rfl,m6⟩
    have M6:=Lib.hid m6
    clear m6
    rw [HNM2.out] at M6
    go_wp2
    refine bodyPost_end (results_none rfl _ _ _) (by rfl) ?_
    exact d7 (n':=n) (r':=⟨[],k+j0 (k5 t.name),bN t.name fl⟩) HRR.out (by rw [cD _ t HK.out,HHH.out,if_neg Bool.false_ne_true,HOP.out,if_pos hl0]) (by simp only [List.length_nil];omega) (by have h6:=M6.out;rw [hl0] at h6;exact h6)
   ·have hl0:¬l=[]:=of_decide_eq_true HB.out
    go_wp2
    refine bodyPost_end (results_none rfl _ _ _) (by rfl) ?_
    exact d7 (n':=n) HRR.out (by rw [cD _ t HK.out,HHH.out,if_neg Bool.false_ne_true,HOP.out,if_neg hl0]) (by simp only;omega) M3.out
  ·have hnm:nm.size≤16777216:=by
    rw [Lib.size_eq,HNM2.out];exact wv _ HHH.out
   go_wp2_with (fail)
   refine (Gx M3.out HRL.out nm hnm (by omega) (by omega)).mono ?_
   rintro e w4 ⟨rfl,v4,m4⟩
   have M4:=Lib.hid m4
   clear m4
   rw [HNM2.out] at M4
   go_wp2
   refine bodyPost_end (results_none rfl _ _ _) (by rfl) ?_
   exact d7 (n':=n+1) HRR.out (by rw [cD _ t HK.out,HHH.out,if_pos rfl,HOP.out]) (by simp only [List.length_append,List.length_cons,List.length_nil];omega) M4.out
theorem KD {w0 w : World} {pg : Nat} {g : Addr} {b : Nat} {v : Value} {l : List ab} {k : Nat} {fl : aC} {n : Nat} {R : Own} {bx : Nat} (hM : ax w0 w (bM pg g b v l k fl n (bo l) (bI (cF bx (iv pg)) R))) (hR : bC R) (t : aq) (hkind : t.kind = 2) (ad : Option Addr) (ln cp : Nat)
    (hs : fl.size + t.text.length ≤ 1073741000) (hk : k ≤ 100000) (hl : l.length ≤ 100000) (hn : n ≤ 100000) (hsz : ∀ x ∈ l, x.length ≤ 16777216) :
    Calls Tryz.prog 143 #[eu t ad ln cp, .pointer (some ⟨bx, 0, none⟩)] w (ww w0 pg g b (dz ⟨l, k, fl⟩ t) (n + l.length + 2) (bI (cF bx (iv pg)) R)) := by
  obtain ⟨RR, hRR⟩ : ∃ RR, dz ⟨l, k, fl⟩ t = RR := ⟨_, rfl⟩
  have HRR := Lib.hid hRR
  rw [hRR]
  unfold eu
  have HK := Lib.hid hkind
  rw [hkind]
  obtain ⟨nm, hnmE⟩ : ∃ nm : ByteArray, (⟨t.name.toArray⟩ : ByteArray) = nm := ⟨_, rfl⟩
  have hnm2 : nm.data.toList = t.name := by rw [← hnmE, List.toList_toArray]
  obtain ⟨X, hX⟩ : ∃ X : ByteArray, (⟨t.text.toArray⟩ : ByteArray) = X := ⟨_, rfl⟩
  have hX2 : X.data.toList = t.text := by rw [← hX, List.toList_toArray]
  have hXs : X.size = t.text.length := by rw [Lib.size_eq, hX2]
  rw [← hXs] at hs
  obtain ⟨sf, hsf⟩ : ∃ b, t.self = b := ⟨_, rfl⟩
  rw [hnmE, hX, hsf]
  have HNM2 := Lib.hid hnm2
  have HX2 := Lib.hid hX2
  obtain ⟨tb, htb⟩ : ∃ tb, w.heap.size = tb := ⟨_, rfl⟩
  have HRL0 := Lib.hid ((aI bx (iv pg)).sep hR)
  have HRL := Lib.hid ((aI tb (tU 2 nm X ad ln cp sf)).sep HRL0.out)
  have hm1 := (gw hM (de pg g b v l k fl n (bo l) HRL0.out) (tU 2 nm X ad ln cp sf)).imp (ff.sink _ _ _ _ _ _ _ _ _ _ _)
  rw [htb] at hm1
  obtain ⟨w1, hw1⟩ : ∃ w1, w.alloc (tU 2 nm X ad ln cp sf) = w1 := ⟨_, rfl⟩
  rw [hw1] at hm1
  have M1 := Lib.hid hm1
  have HW1 := Lib.hid (show w.alloc (.cells #[.int .i64 2, .string nm, .string X, .slice ad ln cp, .bool sf] 33) = w1 from hw1)
  have y0 : (w.alloc (.cells #[.int .i64 2, .string nm, .string X, .slice ad ln cp, .bool sf] 33)).cell? ⟨bx, 0, none⟩ = some (.pointer (some ⟨pg, 0, none⟩)) := by
    rw [HW1.out]
    exact (cm hm1).2.2
  have y00 : w.cell? ⟨bx, 0, none⟩ = some (.pointer (some ⟨pg, 0, none⟩)) := by
    have h2 := dX hM.rest.rest.rest.rest
    unfold iv at h2
    rw [Lib.cell_of_heap h2]; rfl
  have y000 : bx ≠ w.heap.size := by
    have h2 := dX hM.rest.rest.rest.rest
    have := (Array.getElem?_eq_some_iff.1 h2).1
    omega
  have HTB := Lib.hid htb
  have hs : fl.size ≤ 1073741000 := by omega
  have hk : k ≤ 1000000 := by omega
  have HSZ := Lib.hid hsz
  obtain ⟨wd, hwd⟩ : ∃ wd, w1.drew = wd := ⟨_, rfl⟩
  have M1d := Lib.hid (show ax w0 wd _ by rw [← hwd]; exact M1.out.below (de pg g b v l k fl n (bo l) HRL.out) (Below.refl _ _).drew)
  have hLK := pl M1d.out.third nm
  rw [← hwd] at hLK
  have HWD := Lib.hid hwd
  clear hwd
  obtain ⟨c, hc⟩ : ∃ c, bo l nm.data.toList = c := ⟨_, rfl⟩
  rw [hc] at hLK
  have hcz : c = 0 ↔ dn l t.name = none := by rw [← hc, hnm2, tP, ← Ac]
  obtain ⟨y1, y2, y3⟩ := cm M1.out
  obtain ⟨z0, z1, z2, z3⟩ := bg M1.out
  clear z0 z1 z3 y2 hc
  by_cases hc0 : c = 0
  · have HLA := Lib.hid (hcz.1 hc0)
    subst hc0
    clear hcz hsz HSZ hnmE hnm2 hX hX2 hsf hw1 hm1 hM hR hRR hkind htb
    go_enter Tryz.func143, Tryz.ntmps143
    go_wp2
    rw [HW1.out]
    try rw [HTB.out]
    go_region
    all_goals
      (rw [HWD.out]
       obtain ⟨y1, y2, y3⟩ := cm M1d.out
       have HHI := Lib.hid (kO M1d.out)
       obtain ⟨B, hB⟩ : ∃ B, decide (l ≠ []) = B := ⟨_, rfl⟩
       rw [hB] at HHI
       have HB := Lib.hid hB
       clear hB
       go_wp2_with (fail)
       refine HHI.out.mono ?_
       rintro e w4 ⟨rfl, hw4⟩
       obtain rfl := hw4.symm
       cases B
       · have hl0 : l = [] := Classical.byContradiction fun h => of_decide_eq_false HB.out h
         go_wp2_with (fail)
         refine (tS M1d.out HRL.out nm hs).mono ?_
         rintro e w5 ⟨rfl, m5⟩
         have M5 := Lib.hid m5
         clear m5
         rw [HNM2.out] at M5
         obtain ⟨y1, y2, y3⟩ := cm M5.out
         go_wp2_with (fail)
         refine (yf M5.out HRL.out nm hk).mono ?_
         rintro e w6 ⟨rfl, m6⟩
         have M6 := Lib.hid m6
         clear m6
         rw [HNM2.out] at M6
         go_wp2
         refine bodyPost_end (results_none rfl _ _ _) (by rfl) ?_
         exact d7 (n' := n) (r' := ⟨[], k - j0 (k5 t.name), bN t.name fl⟩) HRR.out (by rw [fR _ t HK.out]; simp only [HLA.out]; rw [if_pos hl0]) (by simp only [List.length_nil]; omega) (by have h6 := M6.out; rw [hl0] at h6; exact h6)
       · have hl0 : ¬ l = [] := of_decide_eq_true HB.out
         go_wp2
         refine bodyPost_end (results_none rfl _ _ _) (by rfl) ?_
         exact d7 (n' := n) (r' := ⟨l, k, fl⟩) HRR.out (by rw [fR _ t HK.out]; simp only [HLA.out]; rw [if_neg hl0]) (by simp only; omega) M1d.out
)
  · obtain ⟨k0, hk0⟩ : ∃ k0, dn l t.name = some k0 := by
      cases h : dn l t.name with
      | none => exact absurd (hcz.2 h) hc0
      | some k0 => exact ⟨k0, rfl⟩
    have HLA := Lib.hid hk0
    have hd : decide ((0 : Int) < (c : Int)) = true := decide_eq_true (by omega)
    have hd2 : decide (0 < c) = true := decide_eq_true (by omega)
    have hkl : k0 < l.length := (mF _ _ _ hk0).1
    clear hcz hsz hk0 hnmE hnm2 hX hX2 hsf hw1 hm1 hM hR hRR hkind htb
    go_enter Tryz.func143, Tryz.ntmps143
    go_wp2
    rw [HW1.out]
    try rw [HTB.out]
    go_region
    all_goals
      (rw [HWD.out]
       obtain ⟨y1, y2, y3⟩ := cm M1d.out
       go_wp2_with (fail)
       refine (Gz M1d.out HRL.out nm (by omega) (by omega) HSZ.out k0 (by rw [HNM2.out]; exact HLA.out)).mono ?_
       rintro e w5 ⟨rfl, v5, m5⟩
       have M5 := Lib.hid m5
       clear m5
       go_wp2
       refine bodyPost_end (results_none rfl _ _ _) (by rfl) ?_
       exact d7 (n' := n + (l.length - k0)) (r' := ⟨l.take k0, k, fl⟩) HRR.out (by rw [fR _ t HK.out]; simp only [HLA.out]) (by simp only [List.length_take]; omega) M5.out)
theorem GG {w0 w:World} {pg:Nat} {g:Addr} {b:Nat} {v:Value} {l:List ab} {k:Nat} {fl:aC} {n:Nat} {R:Own} {bx:Nat} (hM:ax w0 w (bM pg g b v l k fl n (bo l) (bI (cF bx (iv pg)) R))) (hR:bC R) (t:aq) (hkind:t.kind=0) (ad:Option Addr) (ln cp:Nat) (hs:fl.size+t.text.length≤1073741000) (hk:k≤100000) (hl:l.length≤100000) (_:n≤100000):Calls Tryz.prog 145 #[eu t ad ln cp,.pointer (some ⟨bx,0,none⟩)] w (ww w0 pg g b (dz ⟨l,k,fl⟩ t) (n+l.length+2) (bI (cF bx (iv pg)) R)):=by
 obtain ⟨RR,hRR⟩:∃RR,dz ⟨l,k,fl⟩ t=RR:=⟨_,rfl⟩
 have HRR:=Lib.hid hRR
 rw [hRR]
 unfold eu
 have HK:=Lib.hid hkind
 rw [hkind]
 obtain ⟨nm,hnmE⟩:∃nm:ByteArray,(⟨t.name.toArray⟩:ByteArray)=nm:=⟨_,rfl⟩
 have hnm2:nm.data.toList=t.name:=by rw [←hnmE,List.toList_toArray]
 obtain ⟨X,hX⟩:∃X:ByteArray,(⟨t.text.toArray⟩:ByteArray)=X:=⟨_,rfl⟩
 have hX2:X.data.toList=t.text:=by rw [←hX,List.toList_toArray]
 have hXs:X.size=t.text.length:=by rw [Lib.size_eq,hX2]
 rw [←hXs] at hs
 obtain ⟨sf,hsf⟩:∃b,t.self=b:=⟨_,rfl⟩
 rw [hnmE,hX,hsf]
 have HNM2:=Lib.hid hnm2
 have HX2:=Lib.hid hX2
 obtain ⟨tb,htb⟩:∃tb,w.heap.size=tb:=⟨_,rfl⟩
 have HRL0:=Lib.hid ((aI bx (iv pg)).sep hR)
 have HRL:=Lib.hid ((aI tb (tU 0 nm X ad ln cp sf)).sep HRL0.out)
 have hm1:=(gw hM (de pg g b v l k fl n (bo l) HRL0.out) (tU 0 nm X ad ln cp sf)).imp (ff.sink _ _ _ _ _ _ _ _ _ _ _)
 rw [htb] at hm1
 obtain ⟨w1,hw1⟩:∃w1,w.alloc (tU 0 nm X ad ln cp sf)=w1:=⟨_,rfl⟩
 rw [hw1] at hm1
 have M1:=Lib.hid hm1
 have HW1:=Lib.hid (show w.alloc (.cells #[.int .i64 0,.string nm,.string X,.slice ad ln cp,.bool sf] 33)=w1 from hw1)
 have y0:(w.alloc (.cells #[.int .i64 0,.string nm,.string X,.slice ad ln cp,.bool sf] 33)).cell? ⟨bx,0,none⟩=some (.pointer (some ⟨pg,0,none⟩)):=by
  rw [HW1.out]
  exact (cm hm1).2.2
 have y00:w.cell? ⟨bx,0,none⟩=some (.pointer (some ⟨pg,0,none⟩)):=by
  have h2:=dX hM.rest.rest.rest.rest
  unfold iv at h2
  rw [Lib.cell_of_heap h2];rfl
 have y000:bx≠w.heap.size:=by
  have h2:=dX hM.rest.rest.rest.rest
  have:=(Array.getElem?_eq_some_iff.1 h2).1
  omega
 have HTB:=Lib.hid htb
 have HC:=Lib.hid (show Hid True from Lib.hid trivial)
 clear HC
 have HHI:=Lib.hid (kO M1.out)
 obtain ⟨B,hB⟩:∃B,decide (l≠[])=B:=⟨_,rfl⟩
 rw [hB] at HHI
 have HB:=Lib.hid hB
 clear hB
 cases B
 ·have hl0:l=[]:=Classical.byContradiction fun h=>of_decide_eq_false HB.out h
  have HL0:=Lib.hid hl0
  obtain ⟨wd,hwd⟩:∃wd,w1.drew=wd:=⟨_,rfl⟩
  have M1d:=Lib.hid (show ax w0 wd _ by rw [←hwd];exact M1.out.below (de pg g b v l k fl n (bo l) HRL.out) (Below.refl _ _).drew)
  have HWD:=Lib.hid hwd
  clear hwd
  obtain ⟨kb,hkb⟩:∃kb,decide (0<k)=kb:=⟨_,rfl⟩
  have HKB:=Lib.hid hkb
  have hkb2:decide ((0:Int)<(k:Int))=kb:=by rw [←hkb];exact Bool.eq_iff_iff.2 (by rw [decide_eq_true_iff,decide_eq_true_iff];omega)
  have HP:=Lib.hid (Nb M1d.out HRL.out X kb (by omega))
  obtain ⟨y1,y2,y3⟩:=cm M1.out
  obtain ⟨z0,z1,z2,z3⟩:=bg M1.out
  clear hl0 y1 z1 z2 hnmE hnm2 hX hX2 hsf hw1 hm1 hM hR hRR hkind htb
  go_enter Tryz.func145,Tryz.ntmps145
  go_wp2_with (fail)
  rw [HW1.out]
  try rw [HTB.out]
  refine HHI.out.mono ?_
  rintro e w4 ⟨rfl,hw4⟩
  obtain rfl:=hw4.symm
  go_wp2
  go_still_tail 11,(by kernel_rfl)
  change wpList _ _ _ _ _ w1.drew
  rw [HWD.out]
  clear y2 y3 z0 z3
  go_wp2_with (go_at_call 146;refine HP.out.mono ?_;rintro e w5 ⟨rfl,m5⟩;have M5:=Lib.hid m5;clear m5)
  refine bodyPost_end (results_none rfl _ _ _) (by rfl) ?_
  exact d7 (n':=n) (r':=⟨[],k,cP kb fl t.text⟩) HRR.out (by rw [dE _ t HK.out,if_pos HL0.out,HKB.out]) (by simp only [List.length_nil];omega) (by have h6:=M5.out;rw [HX2.out,HL0.out] at h6;exact h6)
 ·have hl0:¬l=[]:=of_decide_eq_true HB.out
  clear hnmE hnm2 hX hX2 hsf hw1 hm1 hM hR hRR hkind htb
  go_enter Tryz.func145,Tryz.ntmps145
  go_wp2_with (fail)
  rw [HW1.out]
  try rw [HTB.out]
  refine HHI.out.mono ?_
  rintro e w4 ⟨rfl,hw4⟩
  obtain rfl:=hw4.symm
  go_wp2
  refine bodyPost_end (results_none rfl _ _ _) (by rfl) ?_
  exact d7 (n':=n) (r':=⟨l,k,fl⟩) HRR.out (by rw [dE _ t HK.out,if_neg hl0]) (by simp only;omega) M1.out
end Go.Proofs.YtajpoodpbbbkfaaGreatDoor
