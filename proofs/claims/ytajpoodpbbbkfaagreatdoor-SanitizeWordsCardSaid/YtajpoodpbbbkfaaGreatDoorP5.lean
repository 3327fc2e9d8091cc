/-
  Texts laid together: NamMath, NamInt, NamCode, NamFind, NamLast, NamRef, NamRefB, NamRefC, NamNth.
-/
import Derived.Test.YtajpoodpbbbkfaaGreatDoorNamRows
import Derived.Test.YtajpoodpbbbkfaaGreatDoorP1
import Derived.Test.YtajpoodpbbbkfaaGreatDoorP3
import Derived.Test.YtajpoodpbbbkfaaGreatDoorShelf
import Derived.Lib.ConvBytes
import Derived.Lib.AtoiErrMem
import Derived.Laws.Strings3
import Derived.Laws.Closers25
import Derived.Laws.Closers25b
import Derived.Lib.OthersKept
import Derived.BigCall
import Derived.BigGuard
import Derived.BigQuiet
set_option maxHeartbeats 8000000
set_option maxRecDepth 1000000
namespace Go.Proofs.YtajpoodpbbbkfaaGreatDoor
open Go.RowKit Go.Lib
theorem yO:du af=NP.data.toList++[10]:=wN _ _ Hk
theorem La:NP.data.toList=aZ af:=by unfold aZ;rw [yO];simp
structure qX (r:Ln):Prop where
 ne:r.1≠[]
 len:r.1.length≤32
 key:∀c∈r.1,c≠32∧c≠10
 semi:∀c∈r.1.dropLast,c≠59
 firNe:fx r.2≠[]
 firLen:(fx r.2).length≤5
 firHex:∀c∈fx r.2,kt c=true
 secLen:(iX r.2).length≤5
 secHex:∀c∈iX r.2,kt c=true
 form:r.2=fx r.2∧iX r.2=[]∨r.2=fx r.2++32::iX r.2∧(∃c∈iX r.2,c≠48)∧3≤r.1.length
 firPos:∃c∈fx r.2,c≠48
theorem NT (r:Ln) (h:NQ r=true):qX r:=by
 unfold NQ at h
 simp only [Bool.and_eq_true,Bool.or_eq_true,Bool.not_eq_true',List.all_eq_true,List.any_eq_true,Nat.ble_eq,List.isEmpty_eq_false_iff,List.isEmpty_iff,Bool.or_eq_false_iff,beq_eq_false_iff_ne,ne_eq] at h
 obtain ⟨⟨⟨⟨⟨⟨⟨h1,h2⟩,h3⟩,h4⟩,⟨⟨h5,h6⟩,h7⟩⟩,⟨h8,h9⟩⟩,h10⟩,h11⟩:=h
 refine ⟨h1,h2,h3,h4,h5,h6,h7,h8,h9,?_,h11⟩
 rcases h10 with ⟨a,b⟩|⟨⟨a,b⟩,c⟩
 ·exact .inl ⟨wN _ _ a,b⟩
 ·exact .inr ⟨wN _ _ a,b,c⟩
theorem vf:∀(k:ab) (rs:List Ln),Dz k rs=true→(∀r∈rs,k<r.1)∧rs.Pairwise fun a b=>a.1<b.1
 |k,[],_=>⟨by simp,.nil⟩
 |k,r::rs,h=>by
  rw [Dz,Bool.and_eq_true,rp,decide_eq_true_iff] at h
  obtain ⟨h1,h2⟩:=vf r.1 rs h.2
  refine ⟨fun x hx=>?_,List.pairwise_cons.2 ⟨h1,h2⟩⟩
  rcases List.mem_cons.1 hx with rfl|hx
  ·exact h.1
  ·exact List.lt_trans h.1 (h1 x hx)
theorem fH (r:Ln) (hr:r∈af):qX r:=NT r (List.all_eq_true.1 KZ r hr)
theorem dB (c:UInt8) (h:kt c=true):0≤cq (c.toNat:Int)∧cq (c.toNat:Int)<16∧c≠10∧c≠32∧(48≤c.toNat∧c.toNat≤57∧cq (c.toNat:Int)=c.toNat-48∨65≤c.toNat∧c.toNat≤70∧cq (c.toNat:Int)=c.toNat-55):=by
 unfold kt at h
 rw [decide_eq_true_iff] at h
 have e10:c≠10:=by rintro rfl;revert h;decide
 have e32:c≠32:=by rintro rfl;revert h;decide
 unfold cq
 rcases h with h|h
 ·rw [if_pos (by omega)];refine ⟨by omega,by omega,e10,e32,.inl ⟨h.1,h.2,rfl⟩⟩
 ·rw [if_neg (by omega),if_pos (by omega)];refine ⟨by omega,by omega,e10,e32,.inr ⟨h.1,h.2,rfl⟩⟩
theorem qX.no10 {r:Ln} (h:qX r):10∉r.2:=by
 intro hm
 rcases h.form with ⟨a,-⟩|⟨a,-⟩
 ·rw [a] at hm;exact (dB 10 (h.firHex _ hm)).2.2.1 rfl
 ·rw [a,List.mem_append,List.mem_cons] at hm
  rcases hm with hm|hm|hm
  ·exact (dB 10 (h.firHex _ hm)).2.2.1 rfl
  ·revert hm;decide
  ·exact (dB 10 (h.secHex _ hm)).2.2.1 rfl
theorem qX.good {r:Ln} (h:qX r):rR r:=⟨h.ne,fun hm=>(h.key _ hm).1 rfl,fun hm=>(h.key _ hm).2 rfl,h.no10⟩
theorem lm:eV af:=⟨fun r hr=>(fH r hr).good,(vf [] af Hj).2⟩
def gd (n:Nat) (c:UInt8):Nat:=16*n+(cq (c.toNat:Int)).toNat
def ew (l:ab):Nat:=l.foldl gd 0
theorem yP:ew []=0:=rfl
theorem EK (l:ab) (c:UInt8):ew (l++[c])=16*ew l+(cq (c.toNat:Int)).toNat:=by
 unfold ew;rw [List.foldl_append];rfl
theorem yQ:∀(l:ab) (n:Nat),(∀c∈l,kt c=true)→l.foldl gd n<(n+1)*16 ^ l.length
 |[],n,_=>by simp
 |c::l,n,h=>by
  have h1:=dB c (h c List.mem_cons_self)
  have ih:=yQ l (gd n c) (fun x hx=>h x (List.mem_cons_of_mem _ hx))
  rw [List.foldl_cons,List.length_cons,Nat.pow_succ]
  refine Nat.lt_of_lt_of_le ih ?_
  have:gd n c+1≤(n+1)*16:=by unfold gd;omega
  calc (gd n c+1)*16 ^ l.length≤((n+1)*16)*16 ^ l.length:=Nat.mul_le_mul_right _ this
   _=(n+1)*(16 ^ l.length*16):=by rw [Nat.mul_assoc,Nat.mul_comm 16]
theorem rr (l:ab) (h:∀c∈l,kt c=true) (hl:l.length≤5):ew l<1048576:=by
 have h1:=yQ l 0 h
 have h2:16 ^ l.length≤16 ^ 5:=Nat.pow_le_pow_right (by decide) hl
 unfold ew
 omega
def pr:Option ab→Nat|none=>0|some r=>ew (fx r)
def nQ:Option ab→Nat|none=>0|some r=>ew (iX r)
noncomputable def am (name:ab):Option ab:=jx af name
theorem fI {name r:ab} (h:am name=some r):(name,r)∈af:=by
 unfold am jx at h
 cases hf:af.find? (fun x=>x.1==name) with
 |none=>rw [hf] at h;simp at h
 |some q=>
  rw [hf] at h
  have e1:=List.find?_some hf
  have e2:=List.mem_of_find?_eq_some hf
  simp only [beq_iff_eq] at e1
  simp only [Option.map_some,Option.some.injEq] at h
  rw [←e1,←h]
  exact e2
theorem wO {r:Ln} (hr:r∈af):am r.1=some r.2:=by
 obtain ⟨i,hi,rfl⟩:=List.getElem_of_mem hr
 exact yC lm i hi
theorem Hl (name:ab):pr (am name)<1048576:=by
 cases h:am name with
 |none=>decide
 |some r=>have:=fH _ (fI h);exact rr _ this.firHex this.firLen
theorem Hm (name:ab):nQ (am name)<1048576:=by
 cases h:am name with
 |none=>decide
 |some r=>have:=fH _ (fI h);exact rr _ this.secHex this.secLen
theorem Lb:NP.size≤1000000:=by
 have h1:NP.data.toList.length+1=(du af).length:=by rw [yO,List.length_append,List.length_singleton]
 have h2:∀rs:List Ln,(∀r∈rs,qX r)→(du rs).length≤48*rs.length:=by
  intro rs
  induction rs with
  |nil=>simp [du]
  |cons r rs ih=>
   intro h
   have h3:=ih (fun x hx=>h x (List.mem_cons_of_mem _ hx))
   have h4:=h r List.mem_cons_self
   have h5:=h4.len
   have h6:=h4.firLen
   have h7:=h4.secLen
   have h8:r.2.length≤11:=by
    rcases h4.form with ⟨a,-⟩|⟨a,-⟩
    ·rw [a];omega
    ·rw [a];simp;omega
   simp [du,cZ]
   omega
 have h3:=h2 af fH
 rw [NR] at h3
 rw [Lib.size_eq]
 omega
structure wP (T:ByteArray):Prop where
 eq:NP=T
theorem wP.list {T:ByteArray} (h:wP T):T.data.toList=aZ af:=by rw [←h.eq];exact La
theorem wP.size {T:ByteArray} (h:wP T):T.size≤1000000:=by rw [←h.eq];exact Lb
end Go.Proofs.YtajpoodpbbbkfaaGreatDoor
namespace Go.Proofs.YtajpoodpbbbkfaaGreatDoor
open Go.RowKit Go.Lib
theorem Px (q:Int) (h0:65≤q) (h1:q≤70):bits .or .u8 q 32=q+32:=by
 have:q=65∨q=66∨q=67∨q=68∨q=69∨q=70:=by omega
 rcases this with rfl|rfl|rfl|rfl|rfl|rfl<;>decide
theorem Hn (l:ab) (k:Nat) (h:k<l.length):ew (l.take (k+1))=16*ew (l.take k)+(cq (l[k].toNat:Int)).toNat:=by
 rw [List.take_succ_eq_append_getElem h,EK]
theorem NU (t:ByteArray) (w:World) (hne:t.size≠0) (hl:t.size≤5) (hx:∀c∈t.data.toList,kt c=true):Calls Tryz.prog 246 #[.string t,.int .i64 16,.int .i64 64] w fun e w'=>e= .returned (.tuple #[.int .u64 (ew t.data.toList:Int),.nilIface])∧w'=Lib.bytesWorld w 5 t:=by
 have hemp:t.toList.isEmpty=false:=by
  rw [ByteArray.toList_eq]
  cases h:t.data.toList with
  |nil=>exact absurd (by rw [Lib.size_eq,h];rfl) hne
  |cons=>rfl
 have hcv:=Lib.run_convert_string_bytes (P:=Tryz.prog) w 9 22 5 t (u:= .string) Tryz.underlying9 Tryz.underlying22 Tryz.underlying5
 have hB:∀j,j<t.size→(Lib.bytesWorld w 5 t).cell? ⟨w.heap.size,j,none⟩=some (.int .u8 (t.data.toList.getD j 0).toNat):=fun j hj=>Lib.bytesWorld_cell w 5 t j hj
 obtain ⟨W1,hW1⟩:∃W1,W1=Lib.bytesWorld w 5 t:=⟨_,rfl⟩
 rw [←hW1] at hcv hB⊢
 clear hW1
 obtain ⟨bs,hL⟩:∃bs,bs=t.data.toList:=⟨_,rfl⟩
 have hLn:bs.length=t.size:=by rw [hL,Lib.size_eq]
 rw [←hL] at hB hx⊢
 clear hL
 obtain ⟨V,hV⟩:∃V:Int,(ew bs:Int)=V:=⟨_,rfl⟩
 rw [hV]
 have HV:=Lib.hid hV
 have HX:=Lib.hid hx
 clear hV hx
 have hmv:IntKind.u64.wrap (IntKind.u64.wrap 18446744073709551616-1)=18446744073709551615:=by
  rw [IntKind.wrap_u64,IntKind.wrap_u64]
  decide
 go_enter Tryz.func246,Tryz.ntmps246
 go_wp2
 go_loopw [12,13,101] (fun vu vn vi wr=>∃(k:Nat) (a:Int),vu= .bool false∧vn= .int .u64 a∧vi= .int .i64 k∧k≤t.size∧Hid (a=(ew (bs.take k):Int))∧W1=wr) (fun _ _ vi _=>t.size-(ae vi).toNat)
 case atStart=>exact ⟨0,0,rfl,rfl,rfl,by omega,Lib.hid (by simp [yP]),rfl⟩
 case round=>
  obtain ⟨k,a,rfl,rfl,rfl,hk,hh,rfl⟩:=hrel
  have ha:=rr (bs.take k) (fun c hc=>HX.out c (List.mem_of_mem_take hc)) (by rw [List.length_take];omega)
  have a0:0≤a:=by have:=hh.out;omega
  have a1:a<1048576:=by have:=hh.out;omega
  clear ha
  by_cases hkn:k<t.size
  ·have hc:=hB k hkn
   have hkl:k<bs.length:=by omega
   have hget:bs.getD k 0=bs[k]:=by simp [List.getD,List.getElem?_eq_getElem hkl]
   rw [hget] at hc
   have hs:=Hn bs k hkl
   have hm:=HX.out bs[k] (List.getElem_mem _)
   generalize bs[k]=c at hc hs hm
   have hc256:c.toNat<256:=c.toNat_lt
   obtain ⟨q1,q2,-,-,q3⟩:=dB c hm
   clear hB hget hm
   have icut:a<1152921504606846976:=by omega
   rcases q3 with ⟨d0,d1,d2⟩|⟨d0,d1,d2⟩
   ·have HN:Hid (a*16+((c.toNat:Int)-48)=(ew (bs.take (k+1)):Int)):=Lib.hid (by rw [hs,d2];have:=hh.out;omega)
    have iov:a*16+((c.toNat:Int)-48)<18446744073709551616:=by omega
    clear hs q1 q2 d2
    go_wp2
    go_roundw
    case rel=>exact ⟨k+1,a*16+((c.toNat:Int)-48),rfl,(by first|rfl|(congr 1;omega)),(by first|rfl|(congr 1;omega)),by omega,HN,trivial⟩
    case measure=>simp [ae];omega
   ·have HN:Hid (a*16+((c.toNat:Int)-55)=(ew (bs.take (k+1)):Int)):=Lib.hid (by rw [hs,d2];have:=hh.out;omega)
    have iov:a*16+((c.toNat:Int)-55)<18446744073709551616:=by omega
    have ho:=Lib.hid (Px (c.toNat:Int) (by omega) (by omega))
    clear hs q1 q2 d2
    go_wp2_with (go_at_call 251;refine (Tryz.internal_strconv_lower _ _).mono ?_;rintro e w' ⟨rfl,rfl⟩;rw [ho.out])
    go_roundw
    case rel=>exact ⟨k+1,a*16+((c.toNat:Int)-55),rfl,(by first|rfl|(congr 1;omega)),(by first|rfl|(congr 1;omega)),by omega,HN,trivial⟩
    case measure=>simp [ae];omega
  ·have hkk:k=t.size:=by omega
   subst hkk
   obtain rfl:a=V:=by
    have:=hh.out
    rw [List.take_of_length_le (by omega)] at this
    rw [this,HV.out]
   go_wp2
   go_ret2
   exact ⟨rfl,rfl⟩
theorem OZ (t:ByteArray) (w:World) (hne:t.size≠0) (hl:t.size≤5) (hx:∀c∈t.data.toList,kt c=true):Calls Tryz.prog 242 #[.string t,.int .i64 16,.int .i64 64] w fun e w'=>e= .returned (.tuple #[.int .i64 (ew t.data.toList:Int),.nilIface])∧w'=Lib.bytesWorld w 5 t:=by
 have hemp:t.toList.isEmpty=false:=by
  rw [ByteArray.toList_eq]
  cases h:t.data.toList with
  |nil=>exact absurd (by rw [Lib.size_eq,h];rfl) hne
  |cons=>rfl
 have HC:=fun w=>Lib.hid (NU t w hne hl hx)
 have hv:=rr t.data.toList hx (by rw [←Lib.size_eq];exact hl)
 have h0:0<t.size:=by omega
 have hm:=hx t[0] (by rw [show t[0]=t.data.toList[0]'(by rw [←Lib.size_eq];exact h0) from (Array.getElem_toList _).symm];exact List.getElem_mem _)
 obtain ⟨-,-,-,-,q3⟩:=dB _ hm
 have n1:((t[0].toNat:Nat):Int)≠43:=by omega
 have n2:((t[0].toNat:Nat):Int)≠45:=by omega
 clear hm q3 hx
 obtain ⟨V,hV⟩:∃V:Int,(ew t.data.toList:Int)=V:=⟨_,rfl⟩
 have v0:0≤V:=by omega
 have v1:V<1048576:=by omega
 rw [hV] at HC⊢
 clear hV hv
 go_enter Tryz.func242,Tryz.ntmps242
 go_wp2_with (go_at_call 246;refine (HC _).out.mono ?_;rintro e w' ⟨rfl,rfl⟩)
 go_ret2
 exact ⟨rfl,rfl⟩
def ob (w:World):Prop:=2<w.heap.size∧∃te pe,w.cell? ⟨2,0,none⟩=some (.iface te pe)
theorem ob.below {w w':World} (h:ob w) (hb:Below w.heap.size w w'):ob w':=by
 obtain ⟨h1,te,pe,h2⟩:=h
 refine ⟨Nat.lt_of_lt_of_le h1 hb.size,te,pe,?_⟩
 rw [hb.cell (show (⟨2,0,none⟩:Addr).block<w.heap.size from h1),h2]
theorem sa (l:ab) (w:World) (hw:ob w) (hl:l.length≤5) (hx:∀c∈l,kt c=true):Calls Tryz.prog 223 #[fZ l] w fun e w'=>e= .returned (.float .f64 (fl (ew l)))∧Below w.heap.size w w':=by
 unfold fZ
 by_cases h0:l=[]
 ·subst h0
  obtain ⟨h1,te,pe,h2⟩:=hw
  have HE:=fun w=>Lib.hid (Tryz.internal_strconv_ParseInt_empty 16 64 w)
  have HT:=Lib.hid (Tryz.strconv_toError_syntax ⟨#[80,97,114,115,101,73,110,116]⟩ ⟨#[]⟩ 16 64 _ w (by decide) h2 (.inr ⟨te,pe,rfl⟩))
  have hP:Calls Tryz.prog 236 #[.string ⟨#[]⟩,.int .i64 16,.int .i64 64] w fun e w'=>(∃v,e= .returned (.tuple #[.int .i64 0,v]))∧Below w.heap.size w w':=by
   clear h2
   go_enter Tryz.func236,Tryz.ntmps236
   go_wp2_with (first|(go_at_call 242;refine (HE _).out.mono ?_;rintro e w' ⟨rfl,rfl⟩)|(go_at_call 243;refine HT.out.mono ?_;rintro e w' ⟨N,rfl,-,-,b2⟩))
   go_ret2
   exact ⟨⟨_,rfl⟩,b2⟩
  have HP:=Lib.hid hP
  have hf:=G3 0
  clear hP h2 HE HT
  rw [yP]
  go_enter Tryz.func223,Tryz.ntmps223
  go_wp2_with (go_at_call 236;refine HP.out.mono ?_;rintro e w' ⟨⟨v,rfl⟩,b1⟩)
  go_ret
  exact ⟨rfl,b1⟩
 ·have hsz:(⟨l.toArray⟩:ByteArray).size=l.length:=by rw [Lib.size_eq,List.toList_toArray]
  have hd:(⟨l.toArray⟩:ByteArray).data.toList=l:=List.toList_toArray
  have hpos:=List.length_pos_iff.2 h0
  have HI:=fun w=>Lib.hid (OZ ⟨l.toArray⟩ w (by omega) (by omega) (by rw [hd];exact hx))
  rw [hd] at HI
  have hb:=fun w=>Lib.bytesWorld_below w 5 ⟨l.toArray⟩
  generalize (⟨l.toArray⟩:ByteArray)=t at*
  have hf:=G3 (ew l)
  obtain ⟨V,hV⟩:∃V,fl (ew l)=V:=⟨_,rfl⟩
  obtain ⟨n,hn⟩:∃n:Int,(ew l:Int)=n:=⟨_,rfl⟩
  rw [hV]
  rw [hV,hn] at hf
  rw [hn] at HI
  clear hV hn hd hsz hx
  have hP:Calls Tryz.prog 236 #[.string t,.int .i64 16,.int .i64 64] w fun e w'=>e= .returned (.tuple #[.int .i64 n,.nilIface])∧w'=Lib.bytesWorld w 5 t:=by
   clear hf
   go_enter Tryz.func236,Tryz.ntmps236
   go_wp2_with (go_at_call 242;refine (HI _).out.mono ?_;rintro e w' ⟨rfl,rfl⟩)
   go_ret2
   exact ⟨rfl,rfl⟩
  have HP:=Lib.hid hP
  have HBB:=Lib.hid (hb w)
  clear hP HI hb
  go_enter Tryz.func223,Tryz.ntmps223
  go_wp2_with (go_at_call 236;refine HP.out.mono ?_;rintro e w' ⟨rfl,rfl⟩)
  go_ret
  exact ⟨rfl,HBB.out⟩
end Go.Proofs.YtajpoodpbbbkfaaGreatDoor
namespace Go.Proofs.YtajpoodpbbbkfaaGreatDoor
open Go.RowKit Go.Lib
theorem yR {r:Ln} (h:qX r):r.2.length≤11:=by
 have h6:=h.firLen
 have h7:=h.secLen
 rcases h.form with ⟨a,-⟩|⟨a,-⟩
 ·rw [a];omega
 ·rw [a];simp;omega
theorem DA:∀r:ab,∃rest,r=fx r++rest∧32∉fx r∧(rest=[]∨∃z,rest=32::z)∧rest.tail=iX r
 |[]=>⟨[],rfl,by simp [fx],.inl rfl,rfl⟩
 |c::l=>by
  by_cases h:c=32
  ·subst h
   refine ⟨32::l,?_,?_,.inr ⟨l,rfl⟩,?_⟩<;>simp [fx,iX]
  ·obtain ⟨rest,h1,h2,h3,h4⟩:=DA l
   have hb:(c==32)=false:=by simpa using h
   refine ⟨rest,?_,?_,h3,?_⟩
   ·rw [fx,hb];simp only [Bool.false_eq_true,if_false,List.cons_append];rw [←h1]
   ·rw [fx,hb];simp only [Bool.false_eq_true,if_false,List.mem_cons,not_or];exact ⟨fun e=>h e.symm,h2⟩
   ·rw [iX,hb];simpa using h4
theorem EL (name:ByteArray) (w:World) (hw:ob w):Calls Tryz.prog 193 #[.string name] w fun e w'=>e= .returned (.tuple #[.complex .f64 (fl (pr (am name.data.toList))) (fl (nQ (am name.data.toList))),.bool (am name.data.toList).isSome])∧Below w.heap.size w w':=by
 have HR:=fun r h=>Lib.hid (fI (name:=name.data.toList) (r:=r) h)
 obtain ⟨o,ho⟩:∃o,am name.data.toList=o:=⟨_,rfl⟩
 have ho2:jx af name.data.toList=o:=ho
 rw [ho] at HR⊢
 refine calls_of_wp Tryz.func193 rfl ?_
 generalize hT:(ByteArray.mk (List.toArray (List.append _ _)))=T
 have HT:wP T:=⟨by rw [←hT];kernel_rfl⟩
 clear hT
 have HL:=fun w=>Lib.hid (yE T name af w (by have:=HT.size;omega) HT.list lm)
 rw [ho2] at HL
 clear ho ho2 HT
 unfold fZ at*
 cases o with
 |none=>
  have F0:=G4
  clear HR
  simp only [Tryz.ntmps193,List.size_toArray,List.length_cons,List.length_nil,Nat.reduceAdd,Nat.reduceSub,Array.replicate_succ,Array.replicate_zero,List.push_toArray,List.append_toArray,List.nil_append,List.cons_append]
  go_wp2_with (fail)
  refine (HL _).out.mono ?_
  rintro e w1 ⟨rfl,b1⟩
  go_wp2
  go_ret2
  exact ⟨rfl,b1⟩
 |some r=>
  obtain ⟨rest,h1,h2,h3,h4⟩:=DA r
  have hp:=fH _ (HR r rfl).out
  have hx1:=hp.firHex
  have hx2:=hp.secHex
  have hl1:=hp.firLen
  have hl2:=hp.secLen
  have hsz:(⟨r.toArray⟩:ByteArray).size≤1099511627776:=by
   rw [Lib.size_eq,List.toList_toArray]
   have:=yR hp
   simp only at this
   omega
  simp only at hx1 hx2 hl1 hl2
  have HC:=fun w=>Lib.hid (mc ⟨r.toArray⟩ 32 (fx r) rest w hsz (by rw [List.toList_toArray];exact h1) h2 h3)
  have HN1:=fun w h=>Lib.hid (sa (fx r) w h hl1 hx1)
  have HN2:=fun w h=>Lib.hid (sa (iX r) w h hl2 hx2)
  unfold ua at HC
  rw [h4] at HC
  unfold fZ at HN1 HN2
  show Code.wp _ _ (bodyPost _ _ fun e w'=>e= .returned (.tuple #[.complex .f64 (fl (ew (fx r))) (fl (ew (iX r))),.bool true])∧Below w.heap.size w w') _ _
  obtain ⟨A,hA⟩:∃A,fl (ew (fx r))=A:=⟨_,rfl⟩
  obtain ⟨B,hB⟩:∃B,fl (ew (iX r))=B:=⟨_,rfl⟩
  rw [hA] at HN1⊢
  rw [hB] at HN2⊢
  clear hA hB h1 h2 h3 h4 hp hx1 hx2 hl1 hl2 hsz HR
  have HW:=Lib.hid hw
  clear hw
  simp only [Tryz.ntmps193,List.size_toArray,List.length_cons,List.length_nil,Nat.reduceAdd,Nat.reduceSub,Array.replicate_succ,Array.replicate_zero,List.push_toArray,List.append_toArray,List.nil_append,List.cons_append]
  go_wp2_with (fail)
  refine (HL _).out.mono ?_
  rintro e w1 ⟨rfl,b1⟩
  have e1:=Lib.hid (HW.out.below b1)
  go_wp2_with (fail)
  refine (HC _).out.mono ?_
  rintro e w2 ⟨rfl,n,rfl⟩
  have b2:=b1.trans (ai _ w1 n)
  go_wp2_with (fail)
  refine (HN1 _ (HW.out.below b2)).out.mono ?_
  rintro e w3 ⟨rfl,b3⟩
  have b4:=b2.trans (b3.mono b2.size)
  go_wp2_with (fail)
  refine (HN2 _ (HW.out.below b4)).out.mono ?_
  rintro e w5 ⟨rfl,b5⟩
  go_wp2
  go_ret2
  exact ⟨rfl,b4.trans (b5.mono b4.size)⟩
theorem EM (name:ByteArray) (w:World) (hs:name.size≤1099511627776):Calls Tryz.prog 190 #[.string name] w fun e w'=>e= .returned (.bool ((am name.data.toList).isSome&& !Lib.hasSuffix name.data.toList [59]))∧Below w.heap.size w w':=by
 obtain ⟨o,ho⟩:∃o,am name.data.toList=o:=⟨_,rfl⟩
 have ho2:jx af name.data.toList=o:=ho
 rw [ho]
 refine calls_of_wp Tryz.func190 rfl ?_
 generalize hT:(ByteArray.mk (List.toArray (List.append _ _)))=T
 have HT:wP T:=⟨by rw [←hT];kernel_rfl⟩
 clear hT
 have HL:=fun w=>Lib.hid (yE T name af w (by have:=HT.size;omega) HT.list lm)
 rw [ho2] at HL
 obtain ⟨r,hr⟩:∃r,o.getD []=r:=⟨_,rfl⟩
 obtain ⟨b,hb⟩:∃b,o.isSome=b:=⟨_,rfl⟩
 rw [hr,hb] at HL
 rw [hb]
 have HS:=fun w=>Lib.hid (Tryz.strings_HasSuffix name ⟨#[59]⟩ w (by omega))
 obtain ⟨c,hc⟩:∃c,Lib.hasSuffix name.data.toList [59]=c:=⟨_,rfl⟩
 have hc2:Lib.hasSuffix name.data.toList (ByteArray.mk #[59]).data.toList=c:=hc
 rw [hc2] at HS
 rw [hc]
 clear ho ho2 HT hr hb hc hc2 o
 unfold fZ at*
 cases b
 all_goals
  simp only [Tryz.ntmps190,List.size_toArray,List.length_cons,List.length_nil,Nat.reduceAdd,Nat.reduceSub,Array.replicate_succ,Array.replicate_zero,List.push_toArray,List.append_toArray,List.nil_append,List.cons_append]
  go_wp2_with (first|(go_at_call 219;refine (HL _).out.mono ?_;rintro e w1 ⟨rfl,b1⟩)|(go_at_call 220;refine (HS _).out.mono ?_;rintro e w' ⟨rfl,rfl⟩))
  go_ret
  exact ⟨rfl,b1⟩
theorem mW (s:ByteArray) (a:Int) (w:World) (ha: -9223372036854775808≤a∧a≤9223372036854775807):Calls Tryz.prog 189 #[.string s,.int .i64 a] w fun e w'=>e= .returned (.int .i64 (aL af (gO s.data.toList a 32):Int))∧∃n,w'=w.drewN n:=by
 refine calls_of_wp Tryz.func189 rfl ?_
 generalize hT:(ByteArray.mk (List.toArray (List.append _ _)))=T
 have HT:wP T:=⟨by rw [←hT];kernel_rfl⟩
 clear hT
 have HL:=fun w=>Lib.hid (yF T s a 32 af w (by have:=HT.size;omega) ha (by decide) HT.list lm)
 obtain ⟨r,hr⟩:∃r:Int,(aL af (gO s.data.toList a 32):Int)=r:=⟨_,rfl⟩
 rw [hr] at HL⊢
 clear HT hr
 simp only [Tryz.ntmps189,List.size_toArray,List.length_cons,List.length_nil,Nat.reduceAdd,Nat.reduceSub,Array.replicate_succ,Array.replicate_zero,List.push_toArray,List.append_toArray,List.nil_append,List.cons_append]
 go_wp2_with (fail)
 refine (HL _).out.mono ?_
 rintro e w1 ⟨rfl,n,rfl⟩
 go_wp2
 go_ret
 exact ⟨rfl,n,rfl⟩
def dC (x y:Nat):ab:=encodeRune (x:Int)++if y=0 then [] else encodeRune (y:Int)
theorem Lc (y:Nat) (h:y<2 ^ 53):(FloatKind.f64.format.order (fl y) 0==some .eq)=decide (y=0):=by
 have h0:FloatKind.f64.format.order (fl y) 0=some (compare y 0):=by
  have:=lc y 0 h (by omega)
  rwa [G4] at this
 rw [h0]
 by_cases e:y=0
 ·subst e;decide
 ·rw [Nat.compare_eq_gt.2 (by omega),decide_eq_false e];rfl
theorem yS (n:Nat) (hn:n<2 ^ 53) (w:World):(convert 183 3 (.float .f64 (fl n))).run Tryz.prog w= .ok (.int .i64 (n:Int)) w:=
 run_convert_float_int w 183 3 .f64 .i64 (fl n) n (by rw [Tryz.underlying183];rfl) Tryz.underlying3 (G0 n hn)
theorem Hp (x y:Nat) (w:World) (hx:x<2 ^ 53) (hy:y<2 ^ 53):Calls Tryz.prog 194 #[.complex .f64 (fl x) (fl y)] w fun e w'=>e= .returned (.string ⟨(dC x y).toArray⟩)∧w=w':=by
 have hz:=Lc y hy
 have h1:=yS x hx
 have h2:=yS y hy
 have HX:=fun w=>Lib.hid (n8 (x:Int) w)
 have HY:=fun w=>Lib.hid (n8 (y:Int) w)
 obtain ⟨A,hA⟩:∃A:ByteArray,⟨(encodeRune (x:Int)).toArray⟩=A:=⟨_,rfl⟩
 obtain ⟨B,hB⟩:∃B:ByteArray,⟨(encodeRune (y:Int)).toArray⟩=B:=⟨_,rfl⟩
 rw [hA] at HX
 rw [hB] at HY
 obtain ⟨X,hX⟩:∃X,fl x=X:=⟨_,rfl⟩
 obtain ⟨Y,hY⟩:∃Y,fl y=Y:=⟨_,rfl⟩
 rw [hX] at h1⊢
 rw [hY] at h2 hz⊢
 have hAs:A.size<8:=by rw [←hA,Lib.size_eq,List.toList_toArray];have:=eL (x:Int);have:=eL (y:Int);omega
 have hBs:B.size<8:=by rw [←hB,Lib.size_eq,List.toList_toArray];have:=eL (x:Int);have:=eL (y:Int);omega
 have hAB:¬9223372036854775807<A.size+B.size:=by omega
 obtain ⟨R,hR⟩:∃R:ByteArray,⟨(dC x y).toArray⟩=R:=⟨_,rfl⟩
 have HR:Hid (R=if y=0 then A else A++B):=Lib.hid (by
  rw [←hR,←hA,←hB]
  by_cases h:y=0
  ·rw [if_pos h];congr 1;unfold dC;rw [if_pos h,List.append_nil]
  ·rw [if_neg h];refine bl ?_;unfold dC;rw [if_neg h,ByteArray.data_append,Array.toList_append])
 rw [hR]
 clear hA hB hX hY hR
 by_cases h:y=0
 ·rw [decide_eq_true h] at hz
  rw [if_pos h] at HR
  clear h hx hy HY h2 hBs hAB
  go_enter Tryz.func194,Tryz.ntmps194
  go_wp2_with (go_at_call 85;refine (HX _).out.mono ?_;rintro e w' ⟨rfl,rfl⟩)
  go_ret
  exact ⟨aO HR.out.symm,rfl⟩
 ·rw [decide_eq_false h] at hz
  rw [if_neg h] at HR
  clear h hx hy
  go_enter Tryz.func194,Tryz.ntmps194
  go_wp2_with (fail)
  refine (HX _).out.mono ?_
  rintro e w1 ⟨rfl,rfl⟩
  go_wp2_with (fail)
  refine (HY _).out.mono ?_
  rintro e w1 ⟨rfl,rfl⟩
  go_wp2
  go_ret
  exact ⟨aO HR.out.symm,rfl⟩
end Go.Proofs.YtajpoodpbbbkfaaGreatDoor
namespace Go.Proofs.YtajpoodpbbbkfaaGreatDoor
open Go.RowKit Go.Lib
theorem yT (c:UInt8):∀(p q x y:ab),c∉p→c∉q→p++c::x=q++c::y→p=q∧x=y
 |[],[],x,y,_,_,h=>by simpa using h
 |[],b::bs,x,y,_,hb,h=>by
  simp only [List.nil_append,List.cons_append,List.cons.injEq] at h
  exact absurd h.1 (fun e=>hb (by rw [e];exact List.mem_cons_self))
 |a::ps,[],x,y,ha,_,h=>by
  simp only [List.nil_append,List.cons_append,List.cons.injEq] at h
  exact absurd h.1 (fun e=>ha (by rw [←e];exact List.mem_cons_self))
 |a::ps,b::bs,x,y,ha,hb,h=>by
  simp only [List.cons_append,List.cons.injEq] at h
  obtain ⟨h1,h2⟩:=yT c ps bs x y (fun m=>ha (List.mem_cons_of_mem _ m)) (fun m=>hb (List.mem_cons_of_mem _ m)) h.2
  exact ⟨by rw [h.1,h1],h2⟩
theorem EN {rs:List Ln} {i:Nat} (h:i<(aZ rs).length):0<rs.length:=by
 cases rs with
 |nil=>simp [aZ,du] at h
 |cons=>simp
theorem NW {rs:List Ln} (hv:∀r∈rs,rR r) (i:Nat) (hi:i<(aZ rs).length) (h:i=0∨(aZ rs)[i-1]? =some 10):∃k,k<rs.length∧aR rs k=i:=by
 have h0:=EN hi
 have h1:=ix rs
 obtain ⟨k,-,hk,h2,h3⟩:=wJ rs i rs.length (Nat.le_refl _) 0 h0 (by rw [EC];omega) (by rw [rT rs _ (Nat.le_refl _)];omega)
 refine ⟨k,hk,?_⟩
 by_cases e:aR rs k=i
 ·exact e
 ·exfalso
  rcases h with h|h
  ·omega
  ·have:=(oa rs hv k (i-1) hk (by omega) (by omega) (by omega)).1 h
   omega
theorem NX {rs:List Ln} (hv:∀r∈rs,rR r) (k:Nat) (hk:k<rs.length):aR rs k=0∨(aZ rs)[aR rs k-1]? =some 10:=by
 cases k with
 |zero=>exact .inl rfl
 |succ k=>
  right
  have h1:=gl rs k (by omega)
  have h2:=dL rs (k+1) rs.length hk (Nat.le_refl _)
  rw [jd] at h2
  exact (oa rs hv k _ (by omega) (by omega) (by omega) (by omega)).2 (by omega)
theorem md (rs:List Ln) (k:Nat) (hk:k<rs.length):∃z,(aZ rs).drop (aR rs k)=cZ rs[k]++z∧(z=[]∨∃y,z=10::y):=by
 obtain ⟨z,h1,h2⟩:=Dw rs k rs.length hk (Nat.le_refl _)
 rw [jd,List.take_of_length_le (Nat.le_refl _)] at h1
 exact ⟨z,h1,h2⟩
theorem NY {rs:List Ln} (hv:∀r∈rs,rR r) (name:ab) (hn:32∉name) (k:Nat) (hk:k<rs.length) (h:((aZ rs).drop (aR rs k)).take (name.length+1)=name++[32]):rs[k].1=name:=by
 obtain ⟨z,h1,-⟩:=md rs k hk
 rw [h1] at h
 have h2:cZ rs[k]++z=(name++[32])++(cZ rs[k]++z).drop (name.length+1):=by
  rw [←h];exact (List.take_append_drop _ _).symm
 rw [List.append_assoc,cZ,List.append_assoc] at h2
 exact (yT 32 _ _ _ _ (hv _ (List.getElem_mem hk)).2.1 hn h2).1
theorem Ld {rs:List Ln} (k:Nat) (hk:k<rs.length):((aZ rs).drop (aR rs k)).take (rs[k].1.length+1)=rs[k].1++[32]∧aR rs k+rs[k].1.length+1≤(aZ rs).length:=by
 obtain ⟨z,h1,-⟩:=md rs k hk
 have h2:=dL rs k rs.length hk (Nat.le_refl _)
 rw [jd,gk] at h2
 refine ⟨?_,by omega⟩
 rw [h1,cZ,show rs[k].1++32::rs[k].2++z=(rs[k].1++[32])++(rs[k].2++z) by simp]
 rw [List.take_append_of_le_length (by simp),List.take_of_length_le (by simp)]
def EO (rs:List Ln) (name:ab):Int:=match rs.findIdx? (fun r=>r.1==name) with|some k=>(aR rs k:Int)|none=> -1
theorem me {rs:List Ln} (name:ab):(EO rs name= -1∧∀r∈rs,r.1≠name)∨∃k,∃hk:k<rs.length,rs[k].1=name∧EO rs name=(aR rs k:Int):=by
 unfold EO
 cases h:rs.findIdx? (fun r=>r.1==name) with
 |none=>
  left
  rw [List.findIdx?_eq_none_iff] at h
  exact ⟨rfl,fun r hr=>by simpa using h r hr⟩
 |some k=>
  right
  rw [List.findIdx?_eq_some_iff_getElem] at h
  obtain ⟨hk,h1,-⟩:=h
  exact ⟨k,hk,by simpa using h1,rfl⟩
theorem Le {rs:List Ln} (h:eV rs) {i j:Nat} (hi:i<rs.length) (hj:j<rs.length) (e:rs[i].1=rs[j].1):i=j:=by
 rcases Nat.lt_trichotomy i j with h1|h1|h1
 ·have:=h.rise h1 hj;rw [e] at this;exact absurd this (List.lt_irrefl _)
 ·exact h1
 ·have:=h.rise h1 hi;rw [e] at this;exact absurd this (List.lt_irrefl _)
theorem Lg {rs:List Ln} (h:eV rs) (name:ab) (k:Nat) (hk:k<rs.length) (e:rs[k].1=name):EO rs name=(aR rs k:Int):=by
 rcases me (rs:=rs) name with ⟨-,h1⟩|⟨j,hj,h1,h2⟩
 ·exact absurd e (h1 _ (List.getElem_mem hk))
 ·rw [h2,Le h hj hk (h1.trans e.symm)]
theorem NZ {rs:List Ln} (h:eV rs) (name:ab) (hn:32∉name) (i:Nat) (hi:i<(aZ rs).length) (hb:i=0∨(aZ rs)[i-1]? =some 10) (hs:((aZ rs).drop i).take (name.length+1)=name++[32]):EO rs name=(i:Int):=by
 obtain ⟨k,hk,rfl⟩:=NW h.1 i hi hb
 exact Lg h name k hk (NY h.1 name hn k hk hs)
theorem DB {rs:List Ln} (h:eV rs) (name:ab) (i:Nat) (e:EO rs name=(i:Int)):(i=0∨(aZ rs)[i-1]? =some 10)∧((aZ rs).drop i).take (name.length+1)=name++[32]∧i+name.length+1≤(aZ rs).length:=by
 rcases me (rs:=rs) name with ⟨h1,-⟩|⟨k,hk,h1,h2⟩
 ·omega
 ·have:i=aR rs k:=by omega
  subst this
  have h3:=Ld k hk
  rw [h1] at h3
  exact ⟨NX h.1 k hk,h3⟩
theorem sc (name:ab):(EO af name= -1∧am name=none)∨∃k,∃hk:k<af.length,af[k].1=name∧EO af name=(aR af k:Int)∧am name=some af[k].2:=by
 rcases me (rs:=af) name with ⟨h1,h2⟩|⟨k,hk,h1,h2⟩
 ·exact .inl ⟨h1,rY _ _ h2⟩
 ·exact .inr ⟨k,hk,h1,h2,by rw [←h1];exact wO (List.getElem_mem hk)⟩
theorem Bx (name:ab) (h:name=[]∨32<name.length):EO af name= -1∧am name=none:=by
 rcases sc name with h1|⟨k,hk,h1,-⟩
 ·exact h1
 ·exfalso
  have h2:=fH _ (List.getElem_mem hk)
  rw [←h1] at h
  rcases h with h|h
  ·exact h2.ne h
  ·have:=h2.len;omega
theorem Hq (name:ab) (h:∃c∈name,c=10∨c=32):am name=none:=by
 rcases sc name with ⟨-,h1⟩|⟨k,hk,h1,-⟩
 ·exact h1
 ·exfalso
  have h2:=fH _ (List.getElem_mem hk)
  obtain ⟨c,hc,h3⟩:=h
  rw [←h1] at hc
  have:=h2.key c hc
  rcases h3 with rfl|rfl
  ·exact this.2 rfl
  ·exact this.1 rfl
structure O0 where
 a:Nat
 b:Nat
 one:Bool
def fJ (p:O0) (c:UInt8):O0:=if c=32 then ⟨p.a,p.b,false⟩ else if p.one then ⟨gd p.a c,p.b,true⟩ else ⟨p.a,gd p.b c,false⟩
def pC (l:ab):O0:=l.foldl fJ ⟨0,0,true⟩
theorem sd:∀(l:ab) (a:Nat),(∀c∈l,kt c=true)→l.foldl fJ ⟨a,0,true⟩=⟨l.foldl gd a,0,true⟩
 |[],_,_=>rfl
 |c::l,a,h=>by
  have h1:=(dB c (h c List.mem_cons_self)).2.2.2.1
  rw [List.foldl_cons,List.foldl_cons]
  unfold fJ
  rw [if_neg h1,if_pos rfl]
  exact sd l _ (fun x hx=>h x (List.mem_cons_of_mem _ hx))
theorem yV:∀(l:ab) (a b:Nat),(∀c∈l,kt c=true)→l.foldl fJ ⟨a,b,false⟩=⟨a,l.foldl gd b,false⟩
 |[],_,_,_=>rfl
 |c::l,a,b,h=>by
  have h1:=(dB c (h c List.mem_cons_self)).2.2.2.1
  rw [List.foldl_cons,List.foldl_cons]
  unfold fJ
  rw [if_neg h1,if_neg Bool.false_ne_true]
  exact yV l _ _ (fun x hx=>h x (List.mem_cons_of_mem _ hx))
theorem Lh {r:Ln} (h:qX r):(pC r.2).a=ew (fx r.2)∧(pC r.2).b=ew (iX r.2):=by
 unfold pC
 rcases h.form with ⟨h1,h2⟩|⟨h1,-⟩
 ·have e:List.foldl fJ ⟨0,0,true⟩ r.2=⟨ew (fx r.2),0,true⟩:=by
   conv=>lhs;rw [h1]
   rw [sd _ _ h.firHex]
   rfl
  rw [e,h2]
  exact ⟨rfl,rfl⟩
 ·have e:List.foldl fJ ⟨0,0,true⟩ r.2=⟨ew (fx r.2),ew (iX r.2),false⟩:=by
   conv=>lhs;rw [h1]
   rw [List.foldl_append,sd _ _ h.firHex,List.foldl_cons]
   unfold fJ
   rw [if_pos rfl]
   exact yV _ _ _ h.secHex
  rw [e]
  exact ⟨rfl,rfl⟩
theorem vh {r:Ln} (h:qX r):∀c∈r.2,c=32∨kt c=true:=by
 intro c hc
 rcases h.form with ⟨h1,-⟩|⟨h1,-⟩
 ·rw [h1] at hc;exact .inr (h.firHex c hc)
 ·rw [h1,List.mem_append,List.mem_cons] at hc
  rcases hc with hc|hc|hc
  ·exact .inr (h.firHex c hc)
  ·exact .inl hc
  ·exact .inr (h.secHex c hc)
theorem Hs : ∀ (l : ab) (p : O0) (m : Nat), (∀ c ∈ l, c = 32 ∨ kt c = true) → p.a < m → p.b < m → (l.foldl fJ p).a < m * 16 ^ l.length ∧ (l.foldl fJ p).b < m * 16 ^ l.length
  | [], p, m, _, ha, hb => by simp [ha, hb]
  | c :: l, p, m, h, ha, hb => by
    have hs : ∀ n, n < m → c ≠ 32 → gd n c < m * 16 := by
      intro n hn hc
      have := dB c ((h c List.mem_cons_self).resolve_left hc)
      unfold gd; omega
    have ih := Hs l (fJ p c) (m * 16) (fun x hx => h x (List.mem_cons_of_mem _ hx))
      (by unfold fJ; split; · show p.a < _; omega
          · rename_i hc; split; · exact hs _ ha hc
            · show p.a < _; omega)
      (by unfold fJ; split; · show p.b < _; omega
          · rename_i hc; split; · show p.b < _; omega
            · exact hs _ hb hc)
    rw [List.foldl_cons, List.length_cons, Nat.pow_succ, Nat.mul_comm (16 ^ l.length), ← Nat.mul_assoc]
    exact ih
theorem EP {r:Ln} (h:qX r) (j:Nat):(pC (r.2.take j)).a<17592186044416∧(pC (r.2.take j)).b<17592186044416:=by
 have h1:=Hs (r.2.take j) ⟨0,0,true⟩ 1 (fun c hc=>vh h c (List.mem_of_mem_take hc)) (by decide) (by decide)
 have h2:16 ^ (r.2.take j).length≤16 ^ 11:=Nat.pow_le_pow_right (by decide) (by rw [List.length_take];have:=yR h;omega)
 unfold pC
 omega
theorem EQ (l:ab) (j:Nat) (h:j<l.length):pC (l.take (j+1))=fJ (pC (l.take j)) l[j]:=by
 unfold pC
 rw [List.take_succ_eq_append_getElem h,List.foldl_append];rfl
theorem Li {rs:List Ln} (k:Nat) (hk:k<rs.length) (j:Nat) (hj:j<rs[k].2.length):(aZ rs)[aR rs k+rs[k].1.length+1+j]? =some rs[k].2[j]:=by
 obtain ⟨z,h1,-⟩:=md rs k hk
 have h2:(aZ rs)[aR rs k+(rs[k].1.length+1+j)]? =(cZ rs[k]++z)[rs[k].1.length+1+j]? :=by rw [←h1,List.getElem?_drop]
 rw [show aR rs k+rs[k].1.length+1+j=aR rs k+(rs[k].1.length+1+j) by omega,h2,cZ,List.append_assoc,List.getElem?_append_right (by omega)]
 rw [show rs[k].1.length+1+j-rs[k].1.length=j+1 by omega]
 rw [List.cons_append,List.getElem?_cons_succ,List.getElem?_append_left hj,List.getElem?_eq_getElem hj]
theorem Ht {rs:List Ln} (k:Nat) (hk:k<rs.length):aR rs k+rs[k].1.length+1+rs[k].2.length=(aZ rs).length∨(aZ rs)[aR rs k+rs[k].1.length+1+rs[k].2.length]? =some 10:=by
 obtain ⟨z,h1,h3⟩:=md rs k hk
 have h2:(aZ rs)[aR rs k+(rs[k].1.length+1+rs[k].2.length)]? =(cZ rs[k]++z)[rs[k].1.length+1+rs[k].2.length]? :=by rw [←h1,List.getElem?_drop]
 have h4:=gk rs[k]
 rw [show aR rs k+rs[k].1.length+1+rs[k].2.length=aR rs k+(rs[k].1.length+1+rs[k].2.length) by omega,h2,List.getElem?_append_right (by omega)]
 rw [show rs[k].1.length+1+rs[k].2.length-(cZ rs[k]).length=0 by omega]
 have h5:((aZ rs).drop (aR rs k)).length=(cZ rs[k]++z).length:=by rw [h1]
 rw [List.length_drop,List.length_append] at h5
 have h6:=dL rs k rs.length hk (Nat.le_refl _)
 rw [jd] at h6
 rcases h3 with rfl|⟨y,rfl⟩
 ·left;simp at h5;omega
 ·right;rfl
end Go.Proofs.YtajpoodpbbbkfaaGreatDoor
namespace Go.Proofs.YtajpoodpbbbkfaaGreatDoor
open Go.RowKit Go.Lib
theorem yW (s:ByteArray) (j:Nat) (h:j<s.size) (hj:s.size=j+1) (c:UInt8):Lib.hasSuffix s.data.toList [c]=(s[j]==c):=by
 have hl:s.data.toList=s.data.toList.take j++[s[j]]:=by
  conv=>lhs;rw [←List.take_append_drop j s.data.toList]
  congr 1
  rw [aj s j h,List.drop_eq_nil_of_le (by rw [←Lib.size_eq];omega)]
 rw [Bool.eq_iff_iff,Lib.hasSuffix,List.isSuffixOf_iff_suffix,beq_iff_eq]
 constructor
 ·rintro ⟨z,hz⟩
  rw [hl] at hz
  have:=List.append_inj_right' hz rfl
  simpa using this.symm
 ·intro e
  exact ⟨_,by rw [hl,e]⟩
theorem Lj (s:ByteArray) (j:Nat) (h:j<s.size) (hj:s.size=j+1):(((s[j].toNat:Nat):Int) != 59)= !Lib.hasSuffix s.data.toList [59]:=by
 rw [yW s j h hj]
 by_cases e:s[j]=59
 ·rw [e];rfl
 ·have h1:((s[j].toNat:Nat):Int)≠59:=fun h=>e (aT _ 59 (by decide) h)
  rw [show (s[j]==59)=false by simpa using e]
  simpa using h1
theorem Hu {k l:ab} {r:ab} (hk:(k,r)∈af) (he:k<+:l) (q:ab) (hq:l=q++k.drop q.length) (h59:Lib.hasSuffix q [59]=true) (hlen:q.length<k.length) (hp:q<+:k):False:=by
 obtain ⟨z,rfl⟩:=hp
 have h1:=fH _ hk
 rw [Lib.hasSuffix,List.isSuffixOf_iff_suffix] at h59
 obtain ⟨y,rfl⟩:=h59
 have hz:z≠[]:=by rintro rfl;simp at hlen
 have h2:=h1.semi 59 (by
  simp only
  rw [List.dropLast_append_of_ne_nil hz]
  simp)
 exact h2 rfl
theorem vj (q z:ab) (h:(am q).isSome=true) (h59:Lib.hasSuffix q [59]=true):aL af (q++z)=q.length:=by
 obtain ⟨r,hr⟩:=Option.isSome_iff_exists.1 h
 have hrow:=fI hr
 refine ro _ _ _ ?_ (.inr ⟨_,hrow,List.prefix_append _ _,rfl⟩)
 intro x hx hp
 refine Nat.le_of_not_lt fun hlt=>?_
 have hqx:q<+:x.1:=List.prefix_of_prefix_length_le (List.prefix_append q z) hp (Nat.le_of_lt hlt)
 obtain ⟨y,hy⟩:=hqx
 exact Hu (k:=x.1) (l:=x.1) (r:=x.2) hx List.prefix_rfl q (by rw [←hy,List.drop_left]) h59 hlt ⟨y,hy⟩
theorem By (W:ab):aL af (W.take 32)=aL af W:=by
 refine ro _ _ _ (fun x hx hp=>rn _ _ x hx (hp.trans (List.take_prefix _ _))) ?_
 rcases gE af W with h|⟨x,hx,hp,e⟩
 ·exact .inl h
 ·refine .inr ⟨x,hx,?_,e⟩
  exact List.prefix_of_prefix_length_le hp (List.take_prefix _ _) (by
   rw [List.length_take]
   have:=(fH x hx).len
   have:=hp.length_le
   omega)
theorem ES (a q:ab):gO (a++q) (a.length:Int) 32=q.take 32:=by
 unfold gO
 rw [if_neg (by omega),show ((a.length:Nat):Int).toNat=a.length by omega,List.drop_left]
 rfl
theorem Hv (q:ab) (h:(am q).isSome=true):0<(dC (pr (am q)) (nQ (am q))).length∧(dC (pr (am q)) (nQ (am q))).length≤2*q.length+2∧(dC (pr (am q)) (nQ (am q))).length≤8:=by
 obtain ⟨r,hr⟩:=Option.isSome_iff_exists.1 h
 have hrow:=fH _ (fI hr)
 have ha:=eL ((pr (am q):Nat):Int)
 have hb:=eL ((nQ (am q):Nat):Int)
 have hne:=List.length_pos_iff.2 hrow.ne
 simp only at hne
 have hb2:nQ (am q)=0∨3≤q.length:=by
  rw [hr]
  rcases hrow.form with ⟨-,h2⟩|⟨-,-,h2⟩
  ·left;simp only at h2;show ew (iX r)=0;rw [h2];rfl
  ·right;exact h2
 unfold dC
 rw [List.length_append]
 by_cases e:nQ (am q)=0
 ·rw [if_pos e];simp only [List.length_nil];omega
 ·rw [if_neg e];omega
end Go.Proofs.YtajpoodpbbbkfaaGreatDoor
namespace Go.Proofs.YtajpoodpbbbkfaaGreatDoor
open Go.RowKit Go.Lib
structure PR (T W:ByteArray) (R:Int):Prop where
 yes:∀i:Nat,i+W.size≤T.size→(i=0∨∃h:i-1<T.size,((T[i-1].toNat:Nat):Int)=10)→(T.extract i (i+W.size)).toList=W.toList→R=i
 fir:∀(i:Nat) (h:i<T.size) (h0:0<W.size),¬((T[i].toNat:Nat):Int)=((W[0].toNat:Nat):Int)→R≠i
 pre:∀(i:Nat) (h:i<T.size),¬((T[i].toNat:Nat):Int)=10→R≠(i:Int)+1
 sl:∀i:Nat,¬(T.extract i (i+W.size)).toList=W.toList→R≠i
 fin:R= -1∨0≤R∧R+W.size≤T.size
theorem mf (T:ByteArray) (L:ab) (hT:T.data.toList=L) (i:Nat) (h:i<T.size):L[i]? =some T[i]:=by
 rw [←hT,List.getElem?_eq_getElem (by rw [←Lib.size_eq];exact h),je T i h]
theorem PS {T:ByteArray} {rs:List Ln} (hv:eV rs) (hT:T.data.toList=aZ rs) (name:ByteArray) (hn:32∉name.data.toList):PR T (name++⟨#[32]⟩) (EO rs name.data.toList):=by
 have hW:(name++(⟨#[32]⟩:ByteArray)).data.toList=name.data.toList++[32]:=by rw [ByteArray.data_append,Array.toList_append]
 have hWs:(name++(⟨#[32]⟩:ByteArray)).size=name.data.toList.length+1:=by rw [Lib.size_eq,hW];simp
 have hTs:T.size=(aZ rs).length:=by rw [Lib.size_eq,hT]
 have hsl:∀i,(T.extract i (i+(name.data.toList.length+1))).toList=(name++(⟨#[32]⟩:ByteArray)).toList↔((aZ rs).drop i).take (name.data.toList.length+1)=name.data.toList++[32]:=by
  intro i
  rw [ByteArray.toList_eq,ByteArray.toList_eq,hW,extract_data,hT,show i+(name.data.toList.length+1)-i=name.data.toList.length+1 by omega]
 generalize name++(⟨#[32]⟩:ByteArray)=W at*
 refine ⟨?_,?_,?_,?_,?_⟩
 ·intro i hi hb hs
  rw [hWs] at hi hs
  refine NZ hv _ hn i (by omega) ?_ ((hsl i).1 hs)
  rcases hb with hb|⟨hb,h10⟩
  ·exact .inl hb
  ·right
   rw [mf T _ hT _ hb,aT T[i-1] 10 (by decide) h10]
   rfl
 ·intro i h h0 hne e
  have h1:=(DB hv _ i e).2.1
  have h2:(((aZ rs).drop i).take (name.data.toList.length+1))[0]? =(aZ rs)[i]? :=by
   rw [List.getElem?_take,if_pos (by omega),List.getElem?_drop];rfl
  rw [h1,←hW,mf T _ hT i h,mf W _ rfl 0 h0] at h2
  simp only [Option.some.injEq] at h2
  exact hne (by rw [h2])
 ·intro i h hne e
  have h1:=(DB hv name.data.toList (i+1) (by rw [e];push_cast;rfl)).1
  rcases h1 with h1|h1
  ·omega
  ·rw [Nat.add_sub_cancel,mf T _ hT i h] at h1
   simp only [Option.some.injEq] at h1
   exact hne (by rw [h1];rfl)
 ·intro i hne e
  rw [hWs] at hne
  exact hne ((hsl i).2 (DB hv _ i e).2.1)
 ·rcases me (rs:=rs) name.data.toList with ⟨h1,-⟩|⟨k,hk,h1,h2⟩
  ·exact .inl h1
  ·have:=(DB hv _ _ h2).2.2
   omega
theorem ET (name:ByteArray) (w:World) (h32:32∉name.data.toList) (hs:name.size≤1099511627776):Calls Tryz.prog 244 #[.string name] w fun e w'=>e= .returned (.int .i64 (EO af name.data.toList))∧∃n,w'=w.drewN n:=by
 refine calls_of_wp Tryz.func244 rfl ?_
 generalize hT:(ByteArray.mk (List.toArray (List.append _ _)))=T
 have HT:wP T:=⟨by rw [←hT];kernel_rfl⟩
 clear hT
 have hI:=PS lm HT.list name h32
 have hTs:=HT.size
 have HZ:=fun h=>Lib.hid (Bx name.data.toList h).1
 obtain ⟨R,hR⟩:∃R,EO af name.data.toList=R:=⟨_,rfl⟩
 rw [hR] at hI HZ⊢
 have hne:(name++(⟨#[32]⟩:ByteArray)).size=name.size+1:=by rw [ByteArray.size_append];rfl
 clear HT hR h32
 by_cases h0:name.size=0
 ·obtain rfl:=(HZ (.inl (by rw [←List.length_eq_zero_iff,←Lib.size_eq];exact h0))).out
  clear HZ hI
  simp only [Tryz.ntmps244,List.size_toArray,List.length_cons,List.length_nil,Nat.reduceAdd,Nat.reduceSub,Array.replicate_succ,Array.replicate_zero,List.push_toArray,List.append_toArray,List.nil_append,List.cons_append]
  go_wp2
  go_ret
  exact ⟨rfl,0,rfl⟩
 by_cases h1:32<name.size
 ·obtain rfl:=(HZ (.inr (by rw [←Lib.size_eq];exact h1))).out
  clear HZ hI
  simp only [Tryz.ntmps244,List.size_toArray,List.length_cons,List.length_nil,Nat.reduceAdd,Nat.reduceSub,Array.replicate_succ,Array.replicate_zero,List.push_toArray,List.append_toArray,List.nil_append,List.cons_append]
  go_wp2
  go_ret
  exact ⟨rfl,0,rfl⟩
 have HI:=Lib.hid hI
 have b0:((name.size:Int)==0)=false:=by rw [beq_eq_false_iff_ne];omega
 have b1:decide ((32:Int)<(name.size:Int))=false:=decide_eq_false (by omega)
 clear HZ hI
 simp only [Tryz.ntmps244,List.size_toArray,List.length_cons,List.length_nil,Nat.reduceAdd,Nat.reduceSub,Array.replicate_succ,Array.replicate_zero,List.push_toArray,List.append_toArray,List.nil_append,List.cons_append]
 go_wp2
 generalize name++(⟨#[32]⟩:ByteArray)=W at*
 clear b0 b1
 have hW0:0<W.size:=by omega
 have hW1:W.size≤33:=by omega
 clear hne hs h0 h1
 go_loopw [5] (fun v wr=>∃(i n:Nat),v= .int .i64 (i:Int)∧wr=w.drewN n∧i≤T.size∧(R= -1∨(i:Int)≤R)) (fun v _=>T.size-(ae v).toNat)
 case atStart=>exact ⟨0,0,rfl,rfl,Nat.zero_le _,by have:=HI.out.fin;omega⟩
 case round=>
  obtain ⟨i,n,rfl,rfl,hi,hR⟩:=hrel
  by_cases hend:i+W.size≤T.size
  ·have hiT:i<T.size:=by omega
   by_cases hc0:((T[i].toNat:Nat):Int)=((W[0].toNat:Nat):Int)
   ·have b0:(((T[i].toNat:Nat):Int) != ((W[0].toNat:Nat):Int))=false:=by simpa using hc0
    clear hc0
    by_cases hz:i=0
    ·subst hz
     by_cases hsl:(T.extract 0 (0+W.size)).toList=W.toList
     ·have b1:((T.extract 0 (0+W.size)).toList==W.toList)=true:=by simpa using hsl
      have HR:=Lib.hid (HI.out.yes 0 hend (.inl rfl) hsl)
      rw [Nat.zero_add] at b1
      clear hsl HI
      go_wp2
      go_quiet (fail)
      go_wp2
      go_ret
      exact ⟨az HR.out.symm,_,rfl⟩
     ·have b1:((T.extract 0 (0+W.size)).toList==W.toList)=false:=by simpa using hsl
      have HR:=Lib.hid (HI.out.sl 0 hsl)
      rw [Nat.zero_add] at b1
      clear hsl
      go_wp2
      go_quiet (fail)
      go_wp2
      go_roundw
      case rel=>exact ⟨1,_,rfl,rfl,by omega,by have:=HR.out;omega⟩
      case measure=>simp [ae];omega
    ·obtain ⟨j,hj⟩:∃j:Nat,(i:Int)-1=(j:Int):=⟨i-1,by omega⟩
     have hjT:j<T.size:=by omega
     have hi1:(0:Int)<(i:Int):=by omega
     have hij:i-1=j:=by omega
     by_cases hp:((T[j].toNat:Nat):Int)=10
     ·have b2:(((T[j].toNat:Nat):Int) != 10)=false:=by simpa using hp
      by_cases hsl:(T.extract i (i+W.size)).toList=W.toList
      ·have b1:((T.extract i (i+W.size)).toList==W.toList)=true:=by simpa using hsl
       have HR:=Lib.hid (HI.out.yes i hend (.inr (by subst hij;exact ⟨hjT,hp⟩)) hsl)
       clear hsl HI hp hz hij
       go_wp2
       go_quiet (fail)
       go_wp2
       go_ret
       exact ⟨az HR.out.symm,_,rfl⟩
      ·have b1:((T.extract i (i+W.size)).toList==W.toList)=false:=by simpa using hsl
       have HR:=Lib.hid (HI.out.sl i hsl)
       clear hsl hp hz hij
       go_wp2
       go_quiet (fail)
       go_wp2
       go_roundw
       case rel=>exact ⟨i+1,_,rfl,rfl,by omega,by have:=HR.out;omega⟩
       case measure=>simp [ae];omega
     ·have b2:(((T[j].toNat:Nat):Int) != 10)=true:=by simpa using hp
      have HR:=Lib.hid (HI.out.pre j hjT hp)
      clear hp hz hij
      go_wp2
      go_quiet (fail)
      go_wp2
      go_roundw
      case rel=>exact ⟨i+1,_,rfl,rfl,by omega,by have:=HR.out;omega⟩
      case measure=>simp [ae];omega
   ·have b0:(((T[i].toNat:Nat):Int) != ((W[0].toNat:Nat):Int))=true:=by simpa using hc0
    have HR:=Lib.hid (HI.out.fir i hiT hW0 hc0)
    clear hc0
    go_wp2
    go_quiet (fail)
    go_wp2
    go_roundw
    case rel=>exact ⟨i+1,_,rfl,rfl,by omega,by have:=HR.out;omega⟩
    case measure=>simp [ae];omega
  ·go_wp2
   go_ret
   exact ⟨az (by have:=HI.out.fin;omega),_,rfl⟩
end Go.Proofs.YtajpoodpbbbkfaaGreatDoor
namespace Go.Proofs.YtajpoodpbbbkfaaGreatDoor
open Go.RowKit Go.Lib
structure Ni (T:ByteArray) (p:Nat) (r:ab):Prop where
 le:p+r.length≤T.size
 byte:∀(i j:Nat) (hj:j<r.length) (hi:i<T.size),i=p+j→T[i]=r[j]
 fin:p+r.length=T.size∨∃h:p+r.length<T.size,T[p+r.length]=10
 bytes:∀c∈r,c=32∨kt c=true
theorem O1 {T:ByteArray} (hT:T.data.toList=aZ af) (k:Nat) (hk:k<af.length):Ni T (aR af k+af[k].1.length+1) af[k].2:=by
 have h1:=dL af k af.length hk (Nat.le_refl _)
 rw [jd,gk] at h1
 have hTs:T.size=(aZ af).length:=by rw [Lib.size_eq,hT]
 refine ⟨by omega,?_,?_,vh (fH _ (List.getElem_mem hk))⟩
 ·intro i j hj hi e
  subst e
  have h2:=Li k hk j hj
  rw [mf T _ hT _ hi] at h2
  exact Option.some.inj h2
 ·rcases Ht k hk with h2|h2
  ·exact .inl (by omega)
  ·right
   have h3:aR af k+af[k].1.length+1+af[k].2.length<T.size:=by
    have:=(List.getElem?_eq_some_iff.1 h2).1
    omega
   rw [mf T _ hT _ h3] at h2
   exact ⟨h3,Option.some.inj h2⟩
theorem Hw (p:O0):fJ p 32=⟨p.a,p.b,false⟩:=if_pos rfl
theorem EU (a b:Nat) (c:UInt8) (d:Nat) (h:kt c=true) (hd:cq (c.toNat:Int)=(d:Int)):fJ ⟨a,b,true⟩ c=⟨16*a+d,b,true⟩:=by
 unfold fJ
 rw [if_neg (dB c h).2.2.2.1,if_pos rfl]
 unfold gd
 rw [hd];rfl
theorem EV (a b:Nat) (c:UInt8) (d:Nat) (h:kt c=true) (hd:cq (c.toNat:Int)=(d:Int)):fJ ⟨a,b,false⟩ c=⟨a,16*b+d,false⟩:=by
 unfold fJ
 rw [if_neg (dB c h).2.2.2.1,if_neg Bool.false_ne_true]
 unfold gd
 rw [hd];rfl
theorem lq (name:ByteArray) (w:World) (hs:name.size≤1099511627776):Calls Tryz.prog 240 #[.string name] w fun e w'=>e= .returned (.tuple #[.int .i64 (pr (am name.data.toList):Int),.int .i64 (nQ (am name.data.toList):Int),.bool (am name.data.toList).isSome])∧∃n,w'=w.drewN n:=by
 refine calls_of_wp Tryz.func240 rfl ?_
 generalize hT:(ByteArray.mk (List.toArray (List.append _ _)))=T
 have HT:wP T:=⟨by rw [←hT];kernel_rfl⟩
 clear hT
 have hTs:=HT.size
 have HC:=fun h w=>Lib.hid (ET name w h hs)
 have HB:=fun h=>Lib.hid (Hq name.data.toList h)
 obtain ⟨o,ho⟩:∃o,am name.data.toList=o:=⟨_,rfl⟩
 obtain ⟨R,hR⟩:∃R,EO af name.data.toList=R:=⟨_,rfl⟩
 have HL:Hid ((R= -1∧o=none)∨∃(p q:Nat) (r:ab),R=(q:Int)∧(q:Int)+name.size+1=(p:Int)∧Ni T p r∧p+r.length≤1000000∧o=some r∧qX (name.data.toList,r)):=Lib.hid (by
  rcases sc name.data.toList with ⟨h1,h2⟩|⟨k,hk,h1,h2,h3⟩
  ·exact .inl ⟨by rw [←hR,h1],by rw [←ho,h2]⟩
  ·right
   have h4:=O1 HT.list k hk
   have h5:=fH _ (List.getElem_mem hk)
   refine ⟨_,aR af k,af[k].2,by rw [←hR,h2],?_,h4,by have:=h4.le;omega,by rw [←ho,h3],?_⟩
   ·rw [Lib.size_eq,←h1];push_cast;rfl
   ·rw [←h1];exact h5)
 rw [hR] at HC
 rw [ho] at HB⊢
 clear HT hR ho
 obtain ⟨A,hA⟩:∃A:Int,(pr o:Int)=A:=⟨_,rfl⟩
 obtain ⟨B,hB⟩:∃B:Int,(nQ o:Int)=B:=⟨_,rfl⟩
 obtain ⟨I,hI⟩:∃I,o.isSome=I:=⟨_,rfl⟩
 rw [hA,hB,hI]
 have HN:Hid (o=none→A=0∧B=0∧I=false):=Lib.hid (by rintro rfl;exact ⟨hA.symm,hB.symm,hI.symm⟩)
 have HS:Hid (∀r,o=some r→(ew (fx r):Int)=A∧(ew (iX r):Int)=B∧I=true):=Lib.hid (by rintro r rfl;exact ⟨hA,hB,hI.symm⟩)
 clear hA hB hI
 simp only [Tryz.ntmps240,List.size_toArray,List.length_cons,List.length_nil,Nat.reduceAdd,Nat.reduceSub,Array.replicate_succ,Array.replicate_zero,List.push_toArray,List.append_toArray,List.nil_append,List.cons_append]
 go_wp2
 go_loopw [5] (fun v wr=>∃k:Nat,v= .int .i64 (k:Int)∧k≤name.size∧(∀c∈name.data.toList.take k,¬(c=10∨c=32))∧w=wr) (fun v _=>name.size-(ae v).toNat)
 case atStart=>exact ⟨0,rfl,Nat.zero_le _,by simp,rfl⟩
 case round=>
  obtain ⟨k,rfl,hk,hd,rfl⟩:=hrel
  have HD:=Lib.hid hd
  clear hd
  by_cases hlt:k<name.size
  ·by_cases h10:((name[k].toNat:Nat):Int)=10
   ·have b1:(((name[k].toNat:Nat):Int)==10)=true:=by simpa using h10
    have HO:=HB ⟨name[k],by rw [←je name k hlt];exact List.getElem_mem _,.inl (aT _ 10 (by decide) h10)⟩
    obtain ⟨rfl,rfl,rfl⟩:=HN.out HO.out
    clear h10 HO HN HS HL HB HC
    go_wp2
    go_ret3
    exact ⟨rfl,0,rfl⟩
   ·have b1:(((name[k].toNat:Nat):Int)==10)=false:=by simpa using h10
    by_cases h32:((name[k].toNat:Nat):Int)=32
    ·have b2:(((name[k].toNat:Nat):Int)==32)=true:=by simpa using h32
     have HO:=HB ⟨name[k],by rw [←je name k hlt];exact List.getElem_mem _,.inr (aT _ 32 (by decide) h32)⟩
     obtain ⟨rfl,rfl,rfl⟩:=HN.out HO.out
     clear h10 h32 HO HN HS HL HB HC
     go_wp2
     go_ret3
     exact ⟨rfl,0,rfl⟩
    ·have b2:(((name[k].toNat:Nat):Int)==32)=false:=by simpa using h32
     have HE:Hid (∀c∈name.data.toList.take (k+1),¬(c=10∨c=32)):=Lib.hid (by
      rw [List.take_succ_eq_append_getElem (by rw [←Lib.size_eq];exact hlt),je name k hlt]
      intro c hc
      rcases List.mem_append.1 hc with hc|hc
      ·exact HD.out c hc
      ·rw [List.mem_singleton.1 hc]
       rintro (e|e)
       ·exact h10 (by rw [e];rfl)
       ·exact h32 (by rw [e];rfl))
     clear h10 h32 HN HS HL HB HC
     go_wp2
     go_roundw
     case rel=>exact ⟨k+1,rfl,by omega,HE.out,trivial⟩
     case measure=>simp [ae];omega
  ·have h32:32∉name.data.toList:=by
    intro hm
    refine HD.out 32 ?_ (.inr rfl)
    rw [List.take_of_length_le (by rw [←Lib.size_eq];omega)]
    exact hm
   have HC1:=fun w=>HC h32 w
   clear h32 HC HB HD
   rcases HL.out with ⟨rfl,e⟩|⟨p,q,r,rfl,hp,hI,hpl,e,hrow⟩
   ·obtain ⟨rfl,rfl,rfl⟩:=HN.out e
    clear HN HS HL e
    go_wp2_with (fail)
    refine (HC1 _).out.mono ?_
    rintro e w1 ⟨rfl,n,rfl⟩
    go_wp2
    go_ret3
    exact ⟨rfl,n,rfl⟩
   ·obtain ⟨hA,hB,rfl⟩:=HS.out r e
    have hpar:=Lh hrow
    simp only at hpar
    rw [hpar.1.symm] at hA
    rw [hpar.2.symm] at hB
    have HPS:=fun j=>Lib.hid (EP hrow j)
    simp only at HPS
    have HA:=Lib.hid hA
    have HB:=Lib.hid hB
    have HI:=Lib.hid hI
    have hq:(q:Int)+name.size+1≤T.size:=by have:=hI.le;omega
    clear hpl
    have hq0:(0:Int)≤(q:Int):=by omega
    clear hA hB hI e hpar hrow HN HS HL
    go_wp2_with (fail)
    refine (HC1 _).out.mono ?_
    rintro e w1 ⟨rfl,n,rfl⟩
    obtain ⟨W,hW⟩:∃W,W=w.drewN n:=⟨_,rfl⟩
    rw [←hW]
    have HW:=Lib.hid hW
    clear hW HC1
    go_wp2
    go_loopw [7,8,9,11] (fun va vb vo v wr=>∃i j:Nat,va= .int .i64 ((pC (r.take j)).a:Int)∧vb= .int .i64 ((pC (r.take j)).b:Int)∧vo= .bool (pC (r.take j)).one∧v= .int .i64 (i:Int)∧Hid (i=p+j)∧j≤r.length∧W=wr) (fun _ _ _ v _=>T.size-(ae v).toNat)
    case atStart=>exact ⟨p,0,rfl,rfl,rfl,by go_num,Lib.hid rfl,Nat.zero_le _,rfl⟩
    case round=>
     obtain ⟨i,j,rfl,rfl,rfl,rfl,hij,hj,rfl⟩:=hrel
     have hsm:=(HPS j).out
     have hiT:i≤T.size:=by have:=HI.out.le;have:=hij.out;omega
     by_cases hjl:j<r.length
     ·have hiT2:i<T.size:=by have:=HI.out.le;have:=hij.out;omega
      have hbyte:=HI.out.byte i j hjl hiT2 hij.out
      have hkind:=HI.out.bytes _ (List.getElem_mem hjl)
      have hstep:=EQ r j hjl
      rw [←hbyte] at hkind hstep
      generalize pC (r.take j)=P at*
      obtain ⟨a,b,one⟩:=P
      simp only at hsm
      by_cases h32:T[i]=32
      ·have b1:(((T[i].toNat:Nat):Int)==10)=false:=by rw [h32];rfl
       have b2:(((T[i].toNat:Nat):Int)==32)=true:=by rw [h32];rfl
       rw [h32,Hw] at hstep
       have HST:=Lib.hid hstep
       clear hstep hbyte hkind h32
       go_wp2
       go_roundw
       case rel=>exact ⟨i+1,j+1,by rw [HST.out],by rw [HST.out],by rw [HST.out],rfl,Lib.hid (by have:=hij.out;omega),by omega,trivial⟩
       case measure=>simp [ae];omega
      ·have hx:=hkind.resolve_left h32
       obtain ⟨x0,x1,x2,x3,-⟩:=dB _ hx
       obtain ⟨d,hd⟩:∃d:Nat,cq ((T[i].toNat:Nat):Int)=(d:Int):=⟨(cq ((T[i].toNat:Nat):Int)).toNat,by omega⟩
       have hd16:d<16:=by omega
       have b1:(((T[i].toNat:Nat):Int)==10)=false:=by rw [beq_eq_false_iff_ne];exact fun e=>x2 (aT _ 10 (by decide) e)
       have b2:(((T[i].toNat:Nat):Int)==32)=false:=by rw [beq_eq_false_iff_ne];exact fun e=>x3 (aT _ 32 (by decide) e)
       have hc:=T[i].toNat_lt
       have HD:=Lib.hid hd
       cases one
       ·rw [EV a b _ d hx hd] at hstep
        have HST:=Lib.hid hstep
        clear hstep hbyte hkind h32 hx x0 x1 x2 x3 hd
        go_wp2_with (fail)
        refine (eS _ _ (by omega) (by omega)).mono ?_
        rintro e w1 ⟨rfl,rfl⟩
        rw [HD.out]
        go_wp2
        go_roundw
        case rel=>exact ⟨i+1,j+1,by rw [HST.out],by rw [HST.out];go_num,by rw [HST.out],rfl,Lib.hid (by have:=hij.out;omega),by omega,trivial⟩
        case measure=>simp [ae];omega
       ·rw [EU a b _ d hx hd] at hstep
        have HST:=Lib.hid hstep
        clear hstep hbyte hkind h32 hx x0 x1 x2 x3 hd
        go_wp2_with (fail)
        refine (eS _ _ (by omega) (by omega)).mono ?_
        rintro e w1 ⟨rfl,rfl⟩
        rw [HD.out]
        go_wp2
        go_roundw
        case rel=>exact ⟨i+1,j+1,by rw [HST.out];go_num,by rw [HST.out],by rw [HST.out],rfl,Lib.hid (by have:=hij.out;omega),by omega,trivial⟩
        case measure=>simp [ae];omega
     ·have e1:r.take j=r:=List.take_of_length_le (by omega)
      rw [e1,HA.out,HB.out]
      rcases HI.out.fin with hf|⟨hf,h10⟩
      ·have hiT2:i=T.size:=by have:=hij.out;omega
       subst hiT2
       go_wp2
       go_ret3
       exact ⟨rfl,n,HW.out⟩
      ·have hiT2:i<T.size:=by have:=hij.out;omega
       have b1:(((T[i].toNat:Nat):Int)==10)=true:=by
        have:i=p+r.length:=by have:=hij.out;omega
        subst this
        rw [h10];rfl
       clear h10 hf
       go_wp2
       go_ret3
       exact ⟨rfl,n,HW.out⟩
end Go.Proofs.YtajpoodpbbbkfaaGreatDoor
namespace Go.Proofs.YtajpoodpbbbkfaaGreatDoor
open Go.RowKit Go.Lib
theorem uc (name:ByteArray) (w:World) (hs:name.size≤1099511627776):Calls Tryz.prog 228 #[.string name] w fun e w'=>e= .returned (.string ⟨(dC (pr (am name.data.toList)) (nQ (am name.data.toList))).toArray⟩)∧Below w.heap.size w w':=by
 have HC:=fun w=>Lib.hid (lq name w hs)
 have hx:=Hl name.data.toList
 have hy:=Hm name.data.toList
 obtain ⟨x,hx'⟩:∃x,pr (am name.data.toList)=x:=⟨_,rfl⟩
 obtain ⟨y,hy'⟩:∃y,nQ (am name.data.toList)=y:=⟨_,rfl⟩
 rw [hx'] at hx
 rw [hy'] at hy
 rw [hx',hy'] at HC⊢
 clear hx' hy'
 have HX:=fun w=>Lib.hid (iG (x:Int) w)
 have HY:=fun w=>Lib.hid (iG (y:Int) w)
 obtain ⟨A,hA⟩:∃A:ByteArray,⟨(encodeRune (x:Int)).toArray⟩=A:=⟨_,rfl⟩
 obtain ⟨B,hB⟩:∃B:ByteArray,⟨(encodeRune (y:Int)).toArray⟩=B:=⟨_,rfl⟩
 rw [hA] at HX
 rw [hB] at HY
 have hAs:A.size<8:=by rw [←hA,Lib.size_eq,List.toList_toArray];have:=eL (x:Int);omega
 have hBs:B.size<8:=by rw [←hB,Lib.size_eq,List.toList_toArray];have:=eL (y:Int);omega
 have hAB:¬9223372036854775807<A.size+B.size:=by omega
 obtain ⟨R,hR⟩:∃R:ByteArray,⟨(dC x y).toArray⟩=R:=⟨_,rfl⟩
 have HR:Hid (R=if y=0 then A else A++B):=Lib.hid (by
  rw [←hR,←hA,←hB]
  by_cases h:y=0
  ·rw [if_pos h];congr 1;unfold dC;rw [if_pos h,List.append_nil]
  ·rw [if_neg h];refine bl ?_;unfold dC;rw [if_neg h,ByteArray.data_append,Array.toList_append])
 rw [hR]
 clear hA hB hR
 obtain ⟨X,hX⟩:∃X:Int,(x:Int)=X:=⟨_,rfl⟩
 obtain ⟨Y,hY⟩:∃Y:Int,(y:Int)=Y:=⟨_,rfl⟩
 rw [hX] at HC HX
 rw [hY] at HC HY
 by_cases h:y=0
 ·rw [if_pos h] at HR
  have b1:(Y==0)=true:=by rw [beq_iff_eq];omega
  have b2:(Y != 0)=false:=by simp;omega
  clear h hx hy HY hBs hAB hX hY
  go_enter Tryz.func228,Tryz.ntmps228
  go_wp2_with (fail)
  refine (HC _).out.mono ?_
  rintro e w1 ⟨rfl,n,rfl⟩
  go_wp2_with (fail)
  refine (HX _).out.mono ?_
  rintro e w2 ⟨rfl,c2⟩
  go_wp2
  go_ret
  exact ⟨aO HR.out.symm,(ai _ w n).trans c2⟩
 ·rw [if_neg h] at HR
  have b1:(Y==0)=false:=by rw [beq_eq_false_iff_ne];omega
  have b2:(Y != 0)=true:=by simp;omega
  clear h hx hy hX hY
  go_enter Tryz.func228,Tryz.ntmps228
  go_wp2_with (fail)
  refine (HC _).out.mono ?_
  rintro e w1 ⟨rfl,n,rfl⟩
  go_wp2_with (fail)
  refine (HX _).out.mono ?_
  rintro e w2 ⟨rfl,c2⟩
  have c3:=(ai w.heap.size w n).trans c2
  go_wp2_with (fail)
  refine (HY _).out.mono ?_
  rintro e w3 ⟨rfl,c4⟩
  go_wp2
  go_ret
  exact ⟨aO HR.out.symm,c3.trans (c4.mono c3.size)⟩
theorem Hx (W:ab) (n:Nat) (hn:n≤W.length) (h0:0<n) (hb:aL af W≤n):((am (W.take n)).isSome=true→aL af W=n)∧((am (W.take n)).isSome=false→aL af W≤n-1):=by
 constructor
 ·intro h
  obtain ⟨r,hr⟩:=Option.isSome_iff_exists.1 h
  have h1:=rn af W _ (fI hr) (List.take_prefix n W)
  simp only [List.length_take] at h1
  omega
 ·intro h
  rcases gE af W with h1|⟨r,hr,hp,h1⟩
  ·omega
  ·by_cases e:aL af W=n
   ·exfalso
    have h2:W.take n=r.1:=by
     obtain ⟨z,hz⟩:=hp
     rw [←e,h1,←hz,List.take_left]
    rw [h2,wO hr] at h
    exact absurd h (by simp)
   ·omega
theorem yX (s:ByteArray) (k n:Nat) (hn:n≤32) (hn2:n≤s.size-k):(gO s.data.toList (k:Int) 32).take n=(s.extract k (k+n)).data.toList∧n≤(gO s.data.toList (k:Int) 32).length:=by
 unfold gO
 rw [if_neg (by omega),show ((k:Nat):Int).toNat=k by omega,show ((32:Int)).toNat=32 from rfl]
 rw [extract_data,List.take_take,Nat.min_eq_left hn,show k+n-k=n by omega]
 refine ⟨rfl,?_⟩
 rw [List.length_take,List.length_drop,←Lib.size_eq]
 omega
theorem Hy (s:ByteArray) (k:Nat):aL af (gO s.data.toList (k:Int) 32)≤min 32 (s.size-k):=by
 have h1:=ma af (gO s.data.toList (k:Int) 32)
 have h2:(gO s.data.toList (k:Int) 32).length≤min 32 (s.size-k):=by
  unfold gO
  rw [if_neg (by omega),show ((k:Nat):Int).toNat=k by omega,show ((32:Int)).toNat=32 from rfl,List.length_take,List.length_drop,←Lib.size_eq]
  omega
 omega
theorem jz (s:ByteArray) (a:Int) (w:World) (hs:s.size≤1099511627776) (ha: -9223372036854775808≤a∧a≤9223372036854775807):Calls Tryz.prog 226 #[.string s,.int .i64 a] w fun e w'=>e= .returned (.int .i64 (aL af (gO s.data.toList a 32):Int))∧∃n,w'=w.drewN n:=by
 by_cases h1:a<0
 ·have HZ:=Lib.hid (show aL af (gO s.data.toList a 32)=0 by rw [lk s a 32 (.inl h1),lj])
  rw [HZ.out]
  clear HZ
  go_enter Tryz.func226,Tryz.ntmps226
  go_wp2
  go_ret
  exact ⟨rfl,0,rfl⟩
 by_cases h2:(s.size:Int)≤a
 ·have HZ:=Lib.hid (show aL af (gO s.data.toList a 32)=0 by rw [lk s a 32 (.inr (.inl h2)),lj])
  rw [HZ.out]
  clear HZ
  go_enter Tryz.func226,Tryz.ntmps226
  go_wp2
  go_ret
  exact ⟨rfl,0,rfl⟩
 obtain ⟨k,rfl⟩:∃k:Nat,a=k:=⟨a.toNat,by omega⟩
 have hk:k<s.size:=by omega
 have HT:=fun n h0 hb hn hn2=>Lib.hid (Hx (gO s.data.toList (k:Int) 32) n (yX s k n hn hn2).2 h0 hb)
 have HW:=fun n hn hn2=>Lib.hid (yX s k n hn hn2).1
 have hM:=Hy s k
 obtain ⟨T,hT⟩:∃T,aL af (gO s.data.toList (k:Int) 32)=T:=⟨_,rfl⟩
 rw [hT] at HT hM⊢
 clear hT
 obtain ⟨m,hm⟩:∃m:Nat,min (32:Int) ((s.size:Int)-(k:Int))=(m:Int):=⟨(min (32:Int) ((s.size:Int)-(k:Int))).toNat,by omega⟩
 have hmT:T≤m:=by omega
 have hm32:m≤32:=by omega
 have hms:k+m≤s.size:=by omega
 clear h1 h2 hM ha
 have b1:decide ((k:Int)<0)=false:=decide_eq_false (by omega)
 have b2:decide (s.size≤k)=false:=decide_eq_false (by omega)
 go_enter Tryz.func226,Tryz.ntmps226
 go_wp2
 clear hm b1 b2
 go_loopw [5] (fun v wr=>∃(n d:Nat),v= .int .i64 (n:Int)∧wr=w.drewN d∧n≤m∧T≤n) (fun v _=>(ae v).toNat)
 case atStart=>exact ⟨m,0,rfl,rfl,Nat.le_refl _,hmT⟩
 case round=>
  obtain ⟨n,d,rfl,rfl,hn,hTn⟩:=hrel
  by_cases h0:n=0
  ·subst h0
   have:T=0:=by omega
   subst this
   go_wp2
   go_ret
   exact ⟨rfl,_,rfl⟩
  ·have h3:=HT n (by omega) hTn (by omega) (by omega)
   have h4:=HW n (by omega) (by omega)
   rw [h4.out] at h3
   have KN:(s.extract k (k+n)).size≤1099511627776:=by rw [ByteArray.size_extract];omega
   have HC:=fun w=>Lib.hid (lq (s.extract k (k+n)) w KN)
   obtain ⟨o,ho⟩:∃o,am (s.extract k (k+n)).data.toList=o:=⟨_,rfl⟩
   rw [ho] at h3 HC
   obtain ⟨A,hA⟩:∃A:Int,(pr o:Int)=A:=⟨_,rfl⟩
   obtain ⟨B,hB⟩:∃B:Int,(nQ o:Int)=B:=⟨_,rfl⟩
   obtain ⟨I,hI⟩:∃I,o.isSome=I:=⟨_,rfl⟩
   rw [hA,hB,hI] at HC
   rw [hI] at h3
   clear ho hA hB hI HT HW h4 KN
   have hpos:(0:Int)<(n:Int):=by omega
   have hkn:k+n≤s.size:=by omega
   cases I
   ·obtain ⟨-,h5⟩:=h3.out
    have h6:=h5 rfl
    clear h3 h5
    obtain ⟨j,rfl⟩:∃j,n=j+1:=⟨n-1,by omega⟩
    go_wp2_with (fail)
    refine (HC _).out.mono ?_
    rintro e w1 ⟨rfl,d1,rfl⟩
    go_wp2
    go_roundw
    case rel=>exact ⟨j,_,by go_num,rfl,by omega,by omega⟩
    case measure=>simp [ae]
   ·obtain ⟨h5,-⟩:=h3.out
    have h6:=h5 rfl
    subst h6
    clear h3 h5
    go_wp2_with (fail)
    refine (HC _).out.mono ?_
    rintro e w1 ⟨rfl,d1,rfl⟩
    go_wp2
    go_ret
    exact ⟨rfl,_,rfl⟩
end Go.Proofs.YtajpoodpbbbkfaaGreatDoor
namespace Go.Proofs.YtajpoodpbbbkfaaGreatDoor
open Go.RowKit Go.Lib
structure PT (T:ByteArray) (M:Nat) (b:Nat→Nat) (key:ab):Prop where
 zero:b 0=0
 up:∀j,j<M→b j<b (j+1)
 le:∀j,j≤M→b j≤b M
 top:b M+key.length<T.size
 ten:∀(j i:Nat) (h:i<T.size),j<M→b j≤i→i<b (j+1)→(((T[i].toNat:Nat):Int)=10↔i+1=b (j+1))
 ne:∀(e:Nat) (h:e<T.size),b M≤e→e<b M+key.length→((T[e].toNat:Nat):Int)≠32
 sp:∀(e:Nat) (h:e<T.size),e=b M+key.length→((T[e].toNat:Nat):Int)=32
 cut:∀p l:Nat,p=b M→l=b M+key.length→T.extract p l=⟨key.toArray⟩
end Go.Proofs.YtajpoodpbbbkfaaGreatDoor
