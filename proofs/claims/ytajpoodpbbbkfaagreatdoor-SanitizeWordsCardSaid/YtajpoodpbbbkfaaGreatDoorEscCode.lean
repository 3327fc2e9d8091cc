/-
  What package escape's functions answer.
-/
import Derived.Test.YtajpoodpbbbkfaaGreatDoorEscMath
import Derived.Test.YtajpoodpbbbkfaaGreatDoorP4
import Derived.Test.YtajpoodpbbbkfaaGreatDoorUA
import Derived.Shelf.Strings.MapGrows
set_option maxHeartbeats 4000000
set_option maxRecDepth 100000
namespace Go.Proofs.YtajpoodpbbbkfaaGreatDoor
open Go.RowKit Go.Lib
def k7:List (List UInt8 × List UInt8)→List UInt8→List UInt8 × Nat
 |[],l=>(l.take 1,1)
 |p::r,l=>if p.1.isPrefixOf l=true then (p.2,p.1.length) else k7 r l
def nN:List (List UInt8 × List UInt8):=
 [([38],[38,97,109,112,59]),([60],[38,108,116,59]),([62],[38,103,116,59]),([34],[38,113,117,111,116,59]),([39],[38,35,51,57,59]),([13],[38,35,49,51,59]),([0],[239,191,189]),(bw,qg)]
theorem Es (a c:UInt8) (t:List UInt8):[a].isPrefixOf (c::t)=(a==c):=by
 show (a==c&&[].isPrefixOf t)=_
 rw [List.isPrefixOf,Bool.and_true]
theorem KF (c:UInt8) (t:List UInt8):k7 nN (c::t)=if bw.isPrefixOf (c::t)=true then (qg,3) else (dq c,1):=by
 unfold nN dq
 simp only [k7,Es]
 cases hm:bw.isPrefixOf (c::t)
 ·by_cases h38:c=38
  ·subst h38;rfl
  rw [if_neg (show ¬((38:UInt8)==c)=true from fun e=>h38 (beq_iff_eq.1 e).symm),if_neg h38]
  by_cases h60:c=60
  ·subst h60;rfl
  rw [if_neg (show ¬((60:UInt8)==c)=true from fun e=>h60 (beq_iff_eq.1 e).symm),if_neg h60]
  by_cases h62:c=62
  ·subst h62;rfl
  rw [if_neg (show ¬((62:UInt8)==c)=true from fun e=>h62 (beq_iff_eq.1 e).symm),if_neg h62]
  by_cases h34:c=34
  ·subst h34;rfl
  rw [if_neg (show ¬((34:UInt8)==c)=true from fun e=>h34 (beq_iff_eq.1 e).symm),if_neg h34]
  by_cases h39:c=39
  ·subst h39;rfl
  rw [if_neg (show ¬((39:UInt8)==c)=true from fun e=>h39 (beq_iff_eq.1 e).symm),if_neg h39]
  by_cases h13:c=13
  ·subst h13;rfl
  rw [if_neg (show ¬((13:UInt8)==c)=true from fun e=>h13 (beq_iff_eq.1 e).symm),if_neg h13]
  by_cases h0:c=0
  ·subst h0;rfl
  rw [if_neg (show ¬((0:UInt8)==c)=true from fun e=>h0 (beq_iff_eq.1 e).symm),if_neg h0]
  rfl
 ·obtain ⟨u,hu⟩:=List.isPrefixOf_iff_prefix.1 hm
  obtain rfl:(239:UInt8)=c:=(List.cons.inj hu).1
  rfl
theorem KH (l acc:List UInt8) (i:Nat) (hi:i<l.length) (heq:acc++ba (l.drop i)=ba l):(acc++(k7 nN (l.drop i)).1)++ba (l.drop (i+(k7 nN (l.drop i)).2))=ba l∧i<i+(k7 nN (l.drop i)).2∧i+(k7 nN (l.drop i)).2≤l.length∧(k7 nN (l.drop i)).1.length≤8:=by
 have hl:(l.drop i).length=l.length-i:=List.length_drop
 rw [←heq,←List.drop_drop]
 rcases eP (l.drop i) with e|⟨t,e,e2⟩|⟨c,t,e,e1,e2⟩
 ·rw [e] at hl;simp at hl;omega
 ·rw [e2,e]
  rw [e] at hl
  have h:bw.isPrefixOf (239::187::191::t)=true:=List.isPrefixOf_iff_prefix.2 ⟨t,rfl⟩
  rw [show k7 nN (bw++t)=(qg,3) from by rw [show bw++t=239::187::191::t from rfl,KF,if_pos h]]
  rw [List.length_append] at hl
  refine ⟨by rw [List.append_assoc];rfl,by omega,?_,by decide⟩
  have:bw.length=3:=rfl
  simp only
  omega
 ·rw [e2,e]
  rw [e] at hl e1
  rw [KF,if_neg (by rw [e1];exact Bool.false_ne_true)]
  rw [List.length_cons] at hl
  have:=tl c
  refine ⟨by rw [List.append_assoc];rfl,by omega,?_,?_⟩<;>simp only<;>omega
theorem Da (x:Addr) (n:Nat):x.add (n+1)=⟨(x.add n).block,(x.add n).off+1,none⟩:=by
 unfold Addr.add
 by_cases h:n=0
 ·subst h;rfl
 ·rw [if_neg h,if_neg (by omega)];rfl
def qT (w:World) (x:Addr) (P:List (List UInt8 × List UInt8)):Prop:=
 ∀i (h:i<P.length),w.cell? (x.add (i*2))=some (.string ⟨P[i].1.toArray⟩)∧w.cell? ⟨(x.add (i*2)).block,(x.add (i*2)).off+1,none⟩=some (.string ⟨P[i].2.toArray⟩)
theorem qT.below {w w':World} {B:Nat} {x:Addr} {P:List (List UInt8 × List UInt8)} (h:qT w x P) (hb:Below B w w') (hB:w.heap.size≤B):qT w' x P:=fun i hi=>by
 obtain ⟨h1,h2⟩:=h i hi
 have b1:=block_lt_of_cell h1
 have b2:=block_lt_of_cell h2
 exact ⟨(hb.cell (by omega)).trans h1,(hb.cell (by omega)).trans h2⟩
theorem yi (P:List (List UInt8 × List UInt8)) (x:Addr) (n:Nat) (s:ByteArray) (w:World) (hn:P.length=n) (hm:n≤1000) (hs:1≤s.size) (hs2:s.size≤1099511627776) (hP:qT w x P):Calls Tryz.prog 135 #[.string s,.slice (some x) n n] w fun e w'=>e= .returned (.tuple #[.string ⟨(k7 P s.data.toList).1.toArray⟩,.int .i64 ((k7 P s.data.toList).2:Int)])∧Below w.heap.size w w':=by
 obtain ⟨R,hR⟩:∃R,k7 P s.data.toList=R:=⟨_,rfl⟩
 rw [hR]
 have HR:=Lib.hid (show k7 (P.drop 0) s.data.toList=R from hR)
 have HP:=Lib.hid hP
 have HN:=Lib.hid hn
 clear hR hP hn
 go_enter Tryz.func135,Tryz.ntmps135
 go_wp2
 go_loopw [10] (fun v wr=>∃i:Nat,v= .int .i64 (i:Int)∧Below w.heap.size w wr∧i≤n∧Hid (k7 (P.drop i) s.data.toList=R)) (fun v _=>n-(ae v).toNat)
 case atStart=>exact ⟨0,rfl,Below.refl _ _,Nat.zero_le _,HR⟩
 case round=>
  obtain ⟨i,rfl,hb,hi,hno⟩:=hrel
  have HB:=Lib.hid hb
  have hsz:=hb.size
  by_cases hlt:i<n
  ·have hL:i<P.length:=by rw [HN.out];exact hlt
   obtain ⟨c1,c2⟩:=(HP.out.below hb (Nat.le_refl _)) i hL
   have hst:=hno.out
   rw [List.drop_eq_getElem_cons hL,k7] at hst
   obtain ⟨X,hX⟩:∃X:ByteArray,(⟨(P[i].1).toArray⟩:ByteArray)=X:=⟨_,rfl⟩
   obtain ⟨Y,hY⟩:∃Y:ByteArray,(⟨(P[i].2).toArray⟩:ByteArray)=Y:=⟨_,rfl⟩
   rw [hX] at c1
   rw [hY] at c2
   have hXl:P[i].1=X.data.toList:=by rw [←hX,List.toList_toArray]
   have hYl:P[i].2=Y.data.toList:=by rw [←hY,List.toList_toArray]
   rw [hXl,hYl,←Lib.size_eq] at hst
   clear hX hY hXl hYl hL
   have HH:=fun w=>Lib.hid (Tryz.strings_HasPrefix s X w)
   unfold Lib.hasPrefix at HH
   obtain ⟨b,hbb⟩:∃b,X.data.toList.isPrefixOf s.data.toList=b:=⟨_,rfl⟩
   rw [hbb] at HH hst
   have HS:=Lib.hid hst
   clear hbb hst hno hb
   cases b
   ·go_wp2_with (fail)
    refine (HH _).out.mono ?_
    rintro e w' ⟨rfl,rfl⟩
    go_wp2
    go_roundw
    case rel=>exact ⟨i+1,by simp,HB.out.alloc hsz _,by omega,Lib.hid (by have:=HS.out;simpa using this)⟩
    case measure=>simp [ae];omega
   ·go_wp2_with (fail)
    refine (HH _).out.mono ?_
    rintro e w' ⟨rfl,rfl⟩
    go_wp2
    go_quiet (fail)
    go_wp2
    go_ret2
    refine ⟨?_,(HB.out.alloc hsz _).trans ⟨rfl,rfl,rfl,Nat.le_refl _,fun _ _=>rfl⟩⟩
    have:=HS.out
    rw [if_pos trivial] at this
    rw [←this]
    rfl
  ·have HS:=Lib.hid hno.out
   have h0:P.drop i=[]:=List.drop_eq_nil_of_le (by rw [HN.out];omega)
   rw [h0] at HS
   clear h0 hb hno
   go_wp2
   go_ret2
   refine ⟨?_,HB.out⟩
   rw [←HS.out]
   have e1:s.data.toList.take 1=(s.extract 0 1).data.toList:=by rw [Lib.extract_data];rfl
   unfold k7
   rw [e1]
   rfl
theorem rl (x:Addr) (s:ByteArray) (w:World) (hs:s.size≤1048576) (hP:qT w x nN):Calls Tryz.prog 84 #[.string s,.slice (some x) 8 8] w fun e w'=>e= .returned (.string ⟨(ba s.data.toList).toArray⟩)∧Below w.heap.size w w':=by
 have HP:=Lib.hid hP
 clear hP
 go_enter Tryz.func84,Tryz.ntmps84
 go_wp2_with (fail)
 refine (Tryz.Builder_Grow_fresh w.heap.size w.heap.size s.size _ (Nat.le_refl _) (heap_alloc_new w _) (by simp) (by omega)).mono ?_
 rintro e w2 ⟨rfl,hB0,hbel0⟩
 have hI0:Lib.IsBuilderF 54 5 w.heap.size w.heap.size [] w2:=Lib.IsBuilderF.of (.inr hB0)
 have hb0:Below w.heap.size w w2:=((Below.refl _ w).alloc (Nat.le_refl _) _).trans hbel0
 clear hB0 hbel0
 go_wp2
 go_loopw [6] (fun v wr=>∃(i:Nat) (acc:List UInt8),v= .int .i64 (i:Int)∧Lib.IsBuilderF 54 5 w.heap.size w.heap.size (Lib.byteCells acc) wr∧Below w.heap.size w wr∧i≤s.size∧acc++ba (s.data.toList.drop i)=ba s.data.toList∧acc.length≤8*i) (fun v _=>s.size-(ae v).toNat)
 case atStart=>exact ⟨0,[],rfl,hI0,hb0,Nat.zero_le _,rfl,Nat.zero_le _⟩
 case round=>
  obtain ⟨i,acc,rfl,hI,hbw,hle,heq,hacc⟩:=hrel
  have hsz:=hbw.size
  by_cases hlt:i<s.size
  ·obtain ⟨k1,k2,k3,k4⟩:=KH s.data.toList acc i (by rw [←Lib.size_eq];exact hlt) heq
   rw [←Lib.size_eq] at k3
   have hxs:(s.extract i s.size).size=s.size-i:=by rw [ByteArray.size_extract];omega
   have hxd:(s.extract i s.size).data.toList=s.data.toList.drop i:=by rw [Lib.extract_data,List.take_of_length_le (by rw [List.length_drop,←Lib.size_eq];omega)]
   have HF:=fun w (h:qT w x nN)=>Lib.hid (yi nN x 8 (s.extract i s.size) w rfl (by decide) (by omega) (by omega) h)
   rw [hxd] at HF
   obtain ⟨A,hA⟩:∃A,(k7 nN (s.data.toList.drop i)).1=A:=⟨_,rfl⟩
   obtain ⟨N,hN⟩:∃N,(k7 nN (s.data.toList.drop i)).2=N:=⟨_,rfl⟩
   rw [hA,hN] at HF k1
   rw [hN] at k2 k3
   rw [hA] at k4
   obtain ⟨X,hX⟩:∃X:ByteArray,(⟨A.toArray⟩:ByteArray)=X:=⟨_,rfl⟩
   have hXl:X.data.toList=A:=by rw [←hX,List.toList_toArray]
   have hXs:X.size≤8:=by rw [Lib.size_eq,hXl];exact k4
   have HXc:=Lib.hid (show Lib.strCells X=Lib.byteCells A by rw [←hXl];rfl)
   have HK:=Lib.hid k1
   have HA8:=Lib.hid k4
   rw [hX] at HF
   clear heq k1 k4 hxs hxd hA hN hX hXl
   go_wp2_with (fail)
   refine (HF _ (HP.out.below hbw (Nat.le_refl _))).out.mono ?_
   rintro e w1 ⟨rfl,c1⟩
   have B1:=hbw.trans (c1.mono hsz)
   have hI1:=Lib.IsBuilderF.below hI c1
   go_wp2_with (fail)
   refine (et w.heap.size w.heap.size _ X _ hI1 (by rw [byteCells_length];omega) B1.size).mono ?_
   rintro e w2 ⟨rfl,h1,b1,-⟩
   rw [HXc.out,←byteCells_append] at h1
   go_wp2
   go_roundw
   case rel=>exact ⟨i+N,acc++A,by simp,.inr h1,B1.trans b1,k3,HK.out,by have:=HA8.out;rw [List.length_append];omega⟩
   case measure=>simp [ae];omega
  ·have HE:=Lib.hid heq
   clear heq
   go_wp2_with (fail)
   refine (Tryz.Builder_String_any_k w.heap.size w.heap.size acc _ hI (by omega)).mono ?_
   rintro e W1 ⟨rfl,_,b1,_⟩
   go_wp2
   go_ret
   refine ⟨aO ?_,hbw.trans b1⟩
   have:=HE.out
   rw [List.drop_eq_nil_of_le (by rw [←Lib.size_eq];omega),Ar,List.append_nil] at this
   rw [this]
theorem Nd (w:World) (T:Nat) (A:Array Value) (hA:A=#[.string ⟨#[38]⟩,.string ⟨#[38,97,109,112,59]⟩,.string ⟨#[60]⟩,.string ⟨#[38,108,116,59]⟩,.string ⟨#[62]⟩,.string ⟨#[38,103,116,59]⟩,.string ⟨#[34]⟩,.string ⟨#[38,113,117,111,116,59]⟩,.string ⟨#[39]⟩,.string ⟨#[38,35,51,57,59]⟩,.string ⟨#[13]⟩,.string ⟨#[38,35,49,51,59]⟩,.string ⟨#[0]⟩,.string ⟨#[239,191,189]⟩,.string ⟨#[239,187,191]⟩,.string ⟨#[38,35,54,53,50,55,57,59]⟩]):qT (w.alloc (.cells A T)) ⟨w.heap.size,0,none⟩ nN:=fun i hi=>by
 subst hA
 rw [←Da,show ∀k,(⟨w.heap.size,0,none⟩:Addr).add k=⟨w.heap.size,k,none⟩ from fun k=>by simp [Addr.add];omega]
 rw [World.cell?_alloc_mark,show (⟨w.heap.size,0,none⟩:Addr).add (i*2+1)=⟨w.heap.size,i*2+1,none⟩ by simp [Addr.add],World.cell?_alloc_mark]
 have h8:i<8:=hi
 match i,h8 with
 |0,_=>exact ⟨rfl,rfl⟩
 |1,_=>exact ⟨rfl,rfl⟩
 |2,_=>exact ⟨rfl,rfl⟩
 |3,_=>exact ⟨rfl,rfl⟩
 |4,_=>exact ⟨rfl,rfl⟩
 |5,_=>exact ⟨rfl,rfl⟩
 |6,_=>exact ⟨rfl,rfl⟩
 |7,_=>exact ⟨rfl,rfl⟩
theorem tV (s:ByteArray) (w:World) (hs:s.size≤1048576):Calls Tryz.prog 41 #[.string s] w fun e w'=>e= .returned (.string ⟨(ba s.data.toList).toArray⟩)∧Below w.heap.size w w':=by
 have HS:=fun w=>Lib.hid (J0 65279 w)
 rw [show encodeRune 65279=[239,187,191] by decide] at HS
 have HR:=fun (v:World) (h:qT v ⟨w.heap.size,0,none⟩ nN)=>Lib.hid (rl ⟨w.heap.size,0,none⟩ s v hs h)
 obtain ⟨T,hT⟩:∃T:ByteArray,(⟨(ba s.data.toList).toArray⟩:ByteArray)=T:=⟨_,rfl⟩
 rw [hT] at HR⊢
 clear hT
 go_enter Tryz.func41,Tryz.ntmps41
 go_wp2_with (fail)
 refine (HS _).out.mono ?_
 rintro e w1 ⟨rfl,rfl⟩
 go_wp2_with (fail)
 refine (HR _ (Nd w _ _ rfl)).out.mono ?_
 rintro e w2 ⟨rfl,c2⟩
 go_wp2
 go_ret
 exact ⟨rfl,((Below.refl _ w).alloc (Nat.le_refl _) _).trans (c2.mono (by simp))⟩
theorem yj (s:ByteArray) (w:World):Calls Tryz.prog 42 #[.string s] w fun e w'=>e= .returned (.string ⟨(if s.data.toList.head?=some 10 then [10] else []:List UInt8).toArray⟩)∧w'=w:=by
 have HH:=fun w=>Lib.hid (Tryz.strings_HasPrefix s ⟨#[10]⟩ w)
 have hb:Lib.hasPrefix s.data.toList (ByteArray.mk #[10]).data.toList=decide (s.data.toList.head?=some 10):=by
  cases s.data.toList with
  |nil=>rfl
  |cons c t=>
   show [10].isPrefixOf (c::t)=_
   rw [Es,List.head?_cons,Bool.eq_iff_iff,beq_iff_eq,decide_eq_true_eq,Option.some.injEq]
   exact ⟨fun e=>e.symm,fun e=>e.symm⟩
 rw [hb] at HH
 clear hb
 by_cases h:s.data.toList.head?=some 10
 ·rw [decide_eq_true h] at HH
  rw [if_pos h]
  clear h
  go_enter Tryz.func42,Tryz.ntmps42
  go_wp2_with (fail)
  refine (HH _).out.mono ?_
  rintro e w' ⟨rfl,rfl⟩
  go_wp2
  go_ret
  exact ⟨rfl,rfl⟩
 ·rw [decide_eq_false h] at HH
  rw [if_neg h]
  clear h
  go_enter Tryz.func42,Tryz.ntmps42
  go_wp2_with (fail)
  refine (HH _).out.mono ?_
  rintro e w' ⟨rfl,rfl⟩
  go_wp2
  go_ret
  exact ⟨rfl,rfl⟩
theorem Db (d:Int) (s:ByteArray) (w:World) (hd: -9223372036854775808≤d∧d≤9223372036854775807) (hs:s.size≤1048576):Calls Tryz.prog 21 #[.int .i64 d,.string s] w fun e w'=>e= .returned (.string ⟨(fC d s.data.toList).toArray⟩)∧Below w.heap.size w w':=by
 have HE:=fun w=>Lib.hid (tV s w hs)
 by_cases hin:0≤d∧d≤2
 ·have he:=o4 d s.data.toList hin
  have hl:=lQ _ s.data.toList (Nat.le_refl _)
  rw [←Lib.size_eq] at hl
  obtain ⟨X,hX⟩:∃X:ByteArray,(⟨(ba s.data.toList).toArray⟩:ByteArray)=X:=⟨_,rfl⟩
  have hXl:X.data.toList=ba s.data.toList:=by rw [←hX,List.toList_toArray]
  have hXs:X.size≤6291456:=by rw [Lib.size_eq,hXl];omega
  rw [hX] at HE
  obtain hk|rfl:(d=0∨d=1)∨d=2:=by omega
  ·rw [if_neg (fun e=>by have:=e.1;omega),List.nil_append] at he
   rw [he,hX]
   clear he hl hX hXl hin
   rcases hk with rfl|rfl
   all_goals
    go_enter Tryz.func21,Tryz.ntmps21
    go_wp2_with (fail)
    refine (HE _).out.mono ?_
    rintro e w1 ⟨rfl,c1⟩
    go_wp2
    go_ret
    exact ⟨rfl,c1⟩
  ·have HA:=fun w=>Lib.hid (yj s w)
   obtain ⟨A,hA⟩:∃A:List UInt8,(if s.data.toList.head?=some 10 then [10] else [])=A:=⟨_,rfl⟩
   have hA1:A.length≤1:=by rw [←hA];split<;>decide
   obtain ⟨Y,hY⟩:∃Y:ByteArray,(⟨A.toArray⟩:ByteArray)=Y:=⟨_,rfl⟩
   have hYl:Y.data.toList=A:=by rw [←hY,List.toList_toArray]
   have hYs:Y.size≤1:=by rw [Lib.size_eq,hYl];exact hA1
   rw [hA,hY] at HA
   have he2:fC 2 s.data.toList=A++ba s.data.toList:=by
    rw [he,←hA]
    by_cases h:s.data.toList.head?=some 10
    ·rw [if_pos ⟨rfl,h⟩,if_pos h]
    ·rw [if_neg (fun e=>h e.2),if_neg h]
   have HF:=Lib.hid (show (⟨(fC 2 s.data.toList).toArray⟩:ByteArray)=Y++X from bl (by rw [List.toList_toArray,ByteArray.data_append,Array.toList_append,hYl,hXl,he2]))
   have p1:¬9223372036854775807<Y.size+X.size:=by omega
   clear he he2 hl hX hXl hin hA hA1 hY hYl
   go_enter Tryz.func21,Tryz.ntmps21
   go_wp2_with (fail)
   refine (HA _).out.mono ?_
   rintro e w1 ⟨rfl,rfl⟩
   go_wp2_with (fail)
   refine (HE _).out.mono ?_
   rintro e w2 ⟨rfl,c2⟩
   go_wp2
   go_ret
   exact ⟨aO HF.out.symm,c2⟩
 ·have he:fC d s.data.toList=[]:=by unfold fC;rw [if_pos (by omega)]
  rw [he]
  have b0:(d==0)=false:=beq_eq_false_iff_ne.2 (by omega)
  have b1:(d==1)=false:=beq_eq_false_iff_ne.2 (by omega)
  have b2:(d==2)=false:=beq_eq_false_iff_ne.2 (by omega)
  clear he hin
  go_enter Tryz.func21,Tryz.ntmps21
  go_wp2
  go_ret
  exact ⟨rfl,Below.refl _ _⟩
end Go.Proofs.YtajpoodpbbbkfaaGreatDoor
