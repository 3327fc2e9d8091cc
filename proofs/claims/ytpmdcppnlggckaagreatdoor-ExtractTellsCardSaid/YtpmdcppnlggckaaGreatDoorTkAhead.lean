/-
  What package tok's textAhead and Join answer.
-/
import Derived.Test.YtpmdcppnlggckaaGreatDoorTkDel
import Derived.Test.YtpmdcppnlggckaaGreatDoorQH
import Derived.Test.YtpmdcppnlggckaaGreatDoorP4
import Derived.Test.YtpmdcppnlggckaaGreatDoorQD
import Derived.Shelf.Strings.MapGrows
set_option maxHeartbeats 8000000
set_option maxRecDepth 100000
namespace Go.Proofs.YtpmdcppnlggckaaGreatDoor
open Go.RowKit Go.Lib
theorem zR (M:List am) (n:Nat) (h:M.length≤n):cU (M.drop n)=(0,[]):=by
 rw [List.drop_eq_nil_of_le h];rfl
theorem su (a:Option Addr) (len cap:Nat) (M:List am) (w:World) (hL:fF w a len cap M) (hlen:len≤2097152) (htx:∀t∈M,t.text.length≤16777216):Calls Tryz.prog 97 #[.slice a len cap] w fun e w'=>e= .returned (.tuple #[.string ⟨(cU M).2.toArray⟩,.int .i64 ((cU M).1:Int)])∧Below w.heap.size w w':=by
 have hll:=hL.1
 have HL:=Lib.hid hL
 have HT:=Lib.hid htx
 obtain ⟨H,hH⟩:∃H,cU M=H:=⟨_,rfl⟩
 rw [hH]
 have HH:=Lib.hid hH
 clear hL htx hH
 go_enter Tryz.func97,Tryz.ntmps97
 go_wp2
 go_loopw [3] (fun v wr=>∃(n:Nat) (acc:List UInt8),v= .int .i64 (n:Int)∧Lib.IsBuilderF 72 5 w.heap.size w.heap.size (Lib.byteCells acc) wr∧Below w.heap.size w wr∧n≤len∧acc.length≤n*16777216∧Hid (acc++(cU (M.drop n)).2=H.2∧n+(cU (M.drop n)).1=H.1)) (fun v _=>len-(ae v).toNat)
 case atStart=>exact ⟨0,[],rfl,Lib.IsBuilderF.of (Lib.fresh_isBuilder _ _ w),(Below.refl _ w).alloc (Nat.le_refl _) _,Nat.zero_le _,Nat.zero_le _,Lib.hid ⟨by rw [List.drop_zero,HH.out];rfl,by rw [List.drop_zero,HH.out];omega⟩⟩
 case round=>
  obtain ⟨n,acc,rfl,hI,hb,hn,hac,HK⟩:=hrel
  have HI:=Lib.hid hI
  have HB:=Lib.hid hb
  have hsz:=hb.size
  clear hI hb
  by_cases hlt:n<len
  ·have hnM:n<M.length:=by omega
   obtain ⟨x,ad,ln,cp,rfl,xc,-⟩:=HL.out.2.2.2 n hnM
   obtain ⟨x0,-,x2,-,-⟩:=(xc.below HB.out (Nat.le_refl _)).asked
   simp only at x0 x2
   have htl:=HT.out (M[n]'hnM) (List.getElem_mem hnM)
   have hXt:(⟨(M[n]'hnM).text.toArray⟩:ByteArray).data.toList=(M[n]'hnM).text:=List.toList_toArray
   obtain ⟨X,hX⟩:∃X:ByteArray,(⟨(M[n]'hnM).text.toArray⟩:ByteArray)=X:=⟨_,rfl⟩
   rw [hX] at x2 hXt
   have hXs:X.size≤16777216:=by rw [Lib.size_eq,hXt];exact htl
   have HXT:=Lib.hid hXt
   clear xc htl hXt hX
   by_cases hk:(M[n]'hnM).kind=0
   ·rw [hk] at x0
    have hd:=zw M n hnM hk
    have HK2:Hid ((acc++X.data.toList)++(cU (M.drop (n+1))).2=H.2∧(n+1)+(cU (M.drop (n+1))).1=H.1):=Lib.hid (by
     have h1:=HK.out
     rw [hd] at h1
     rw [HXT.out,List.append_assoc]
     exact ⟨h1.1,by have:=h1.2;omega⟩)
    have HXc:=Lib.hid (show Lib.strCells X=Lib.byteCells X.data.toList from rfl)
    have hXl:X.data.toList.length=X.size:=by rw [Lib.size_eq]
    have HXl:=Lib.hid hXl
    clear hk hd HXT hXl
    go_wp2_with (fail)
    refine (eK w.heap.size w.heap.size _ X _ HI.out (by rw [Lib.byteCells_length];omega) hsz).mono ?_
    rintro e w2 ⟨rfl,h1,b1,-⟩
    rw [HXc.out,←Lib.byteCells_append] at h1
    have HI2:=Lib.hid h1
    have HB2:=Lib.hid (HB.out.trans b1)
    clear h1 b1
    go_wp2
    go_roundw
    case rel=>exact ⟨n+1,acc++X.data.toList,by go_num,.inr HI2.out,HB2.out,by omega,by rw [List.length_append,HXl.out];omega,HK2⟩
    case measure=>simp [ae];omega
   ·have bk:((M[n]'hnM).kind==0)=false:=beq_eq_false_iff_ne.2 hk
    have hd:=zx M n hnM hk
    have HK2:Hid (acc=H.2∧n=H.1):=Lib.hid (by
     have h1:=HK.out
     rw [hd,List.append_nil] at h1
     exact h1)
    clear hk hd HXT HK
    go_wp2_with (fail)
    refine (Tryz.Builder_String_any_k w.heap.size w.heap.size acc _ HI.out hsz).mono ?_
    rintro e w3 ⟨rfl,_,b2,_⟩
    have HB3:=Lib.hid (HB.out.trans b2)
    clear b2
    go_wp2
    go_ret2
    exact ⟨by rw [←HK2.out.1,←HK2.out.2];rfl,HB3.out⟩
  ·have HK2:Hid (acc=H.2∧n=H.1):=Lib.hid (by
    have h1:=HK.out
    rw [zR M n (by omega),List.append_nil] at h1
    exact h1)
   clear HK
   go_wp2_with (fail)
   refine (Tryz.Builder_String_any_k w.heap.size w.heap.size acc _ HI.out hsz).mono ?_
   rintro e w3 ⟨rfl,_,b2,_⟩
   have HB3:=Lib.hid (HB.out.trans b2)
   clear b2
   go_wp2
   go_ret2
   exact ⟨by rw [←HK2.out.1,←HK2.out.2];rfl,HB3.out⟩
def ic (B:Nat) (q:aV):Prop:=q.t.attrs=[]∨∀k,(Value.slice q.ad q.len q.cap).ownBlock=some k→B≤k
theorem I6 (x:Addr) (n m:Nat):(x.add n).add m=x.add (n+m):=by
 unfold Addr.add
 by_cases h:n=0
 ·subst h;simp
 ·by_cases h2:m=0
  ·subst h2;simp [h]
  ·simp [h,h2];omega
theorem bS.nothing (w:World) (B:Nat) (a:Option Addr) (c:Nat) (h:c≤maxLen):bS w B a 0 c []:=⟨rfl,Nat.zero_le _,h,fun i h=>by cases h⟩
theorem bS.cut {w:World} {B:Nat} {x:Addr} {len cap:Nat} {M:List am} (h:bS w B (some x) len cap M) (k:Nat) (hk:k≤len):bS w B (some (x.add (k*5))) (len-k) (cap-k) (M.drop k):=by
 obtain ⟨h1,h2,h3,h4⟩:=h
 refine ⟨by rw [List.length_drop];omega,by omega,by omega,fun i hi=>?_⟩
 rw [List.length_drop] at hi
 obtain ⟨y,ad,ln,cp,hy,hc,hr,hn⟩:=h4 (k+i) (by omega)
 obtain rfl:=Option.some.inj hy
 have e:(M.drop k)[i]'(by rw [List.length_drop];exact hi)=M[k+i]'(by omega):=List.getElem_drop
 refine ⟨x.add (k*5),ad,ln,cp,rfl,?_,by rw [e];exact hr,by rw [e];exact hn⟩
 rw [e]
 have ea:∀j,(x.add (k*5)).add (i*5+j)=x.add ((k+i)*5+j):=fun j=>by rw [I6];congr 1;omega
 exact ⟨by rw [←Nat.add_zero (i*5),ea];exact hc.c0,by rw [ea];exact hc.c1,by rw [ea];exact hc.c2,by rw [ea];exact hc.c3,by rw [ea];exact hc.c4⟩
theorem gV.toks {w:World} {B g cap:Nat} {E:List aV} {R:List Value} (h:gV w g cap E R) (m:Nat) (hm:m≤E.length) (hB:∀q∈E.take m,ic B q):bS w B (some ⟨g,0,none⟩) m cap ((E.take m).map aV.t):=by
 refine ⟨by rw [List.length_map,List.length_take];omega,by have:=h.fits;omega,h.most,fun i hi=>?_⟩
 rw [List.length_map,List.length_take] at hi
 have hiE:i<E.length:=by omega
 have e:((E.take m).map aV.t)[i]'(by rw [List.length_map,List.length_take];exact hi)=E[i].t:=by rw [List.getElem_map,List.getElem_take]
 have hmem:E[i]∈E.take m:=by
  rw [←List.getElem_take (h:=by rw [List.length_take];exact hi)]
  exact List.getElem_mem _
 refine ⟨_,E[i].ad,E[i].len,E[i].cap,rfl,by rw [e];exact h.cells i hiE,by rw [e];exact (h.atts _ (List.getElem_mem hiE)).1,by rw [e];exact hB _ hmem⟩
def yt:Value→Nat
 | .slice _ n _=>n
 |_=>0
end Go.Proofs.YtpmdcppnlggckaaGreatDoor
