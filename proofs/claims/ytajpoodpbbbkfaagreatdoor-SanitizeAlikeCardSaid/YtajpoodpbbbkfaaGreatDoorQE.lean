/-
  Texts laid together: TagMarks, TagCode, TagRead.
-/
import Derived.Maps.RangeWalk
import Derived.Maps.Views
import Derived.Test.YtajpoodpbbbkfaaGreatDoorP1
import Derived.ProofKit
import Derived.WalkKit
import Derived.Test.YtajpoodpbbbkfaaGreatDoorQA
import Derived.Test.YtajpoodpbbbkfaaGreatDoorQC
import Derived.Carry
import Derived.Test.YtajpoodpbbbkfaaGreatDoorP7
import Derived.Test.YtajpoodpbbbkfaaGreatDoorP6
set_option maxHeartbeats 4000000
set_option maxRecDepth 100000
namespace Go.Proofs.YtajpoodpbbbkfaaGreatDoor
open Go.RowKit Go.Lib Go.WideMaps Go.Maps
def lU:DataW Unit:= .map [(.string [60],.lit (.int .i64 1)),(.string [60,47],.lit (.int .i64 2))]
def nM (m:Nat):List UInt8:=if m=1 then [60] else [60,47]
def tw (m:Nat):ByteArray:=⟨(nM m).toArray⟩
theorem qm {m:Nat} (h:m=1∨m=2):(tw m).size=m:=by rcases h with rfl|rfl<;>rfl
theorem we:has lU (.string [60])=true∧has lU (.string [60,47])=true∧Maps.size lU=2:=⟨by decide,by decide,rfl⟩
theorem Gg (kl:Lit) (y:DataW Unit) (h:∀z,lU.atKey kl z=y):∃m:Nat,(m=1∨m=2)∧kl= .string (nM m)∧y= .lit (.int .i64 (m:Int)):=by
 have h1:=has_true_of_atKey h
 obtain ⟨p,hp,hs⟩:=List.any_eq_true.1 h1
 have e1:=WideAt.sameKey_eq hs
 simp only [List.mem_cons,List.not_mem_nil,or_false] at hp
 rcases hp with rfl|rfl
 ·subst e1
  exact ⟨1,.inl rfl,rfl,(h .nil).symm.trans rfl⟩
 ·subst e1
  exact ⟨2,.inr rfl,rfl,(h .nil).symm.trans rfl⟩
theorem AW {P:Program} {k:TypeId} (hk:P.underlying k=some .string) {key:Value} {kl:Lit} (h:keyOf P k key=some kl):∃x:List UInt8,key= .string ⟨x.toArray⟩∧kl= .string x:=by
 cases key<;>simp [keyOf,hk,mapKey] at h
 exact ⟨_,rfl,h.2.symm⟩
section
variable {P:Program} (w:World) {ops:Array Oper} {rest:List Oper} {o:Oper} {a:Act} {Q:Exit→Act→World→Prop}
theorem o8 (hg:o.guard=none) (it:Operand) (hop:o.op=Op.next it false) (k e:TypeId) (hk:P.underlying k=some .string) (he:P.underlying e=some (.int .i64)) (b r n:Nat) (left:Lit→Bool) (cnt:Nat) (hit:a.eval it= .pointer (some ⟨r,0,none⟩)) (h:w.ranges P k (plainElem P e) b r n lU left cnt) (hDone:(∀kl,left kl=false)→wpList P ops Q rest (a.put o.dst (.tuple #[.bool false])) w) (hMore:∀(m:Nat) (w':World) (cnt':Nat),(m=1∨m=2)→left (.string (nM m))=true→w'.ranges P k (plainElem P e) b r n lU (fun z=>left z&& !z.sameKey (.string (nM m))) cnt'→cnt'<cnt→w.grownBy w' (some r)→w'.heap.size=w.heap.size→(Instr.entry (.pointer (some ⟨r,0,none⟩))).run P w'= .ok (.tuple #[.string (tw m),.int .i64 (m:Int)]) w'→wpList P ops Q rest (a.put o.dst (.tuple #[.bool true,.string (tw m),.int .i64 (m:Int)])) w'):wpList P ops Q (o::rest) a w:=by
 refine wpList_next_ranges w hg it hop k (string_keyed hk) (plainElem P e) (fun l:List UInt8=> .string ⟨l.toArray⟩) (Value.int .i64) (fun key kl hkey=>by obtain ⟨x,hx,_⟩:=AW hk hkey;exact ⟨x,hx⟩) (fun v y hv=>by obtain ⟨c,rfl,_⟩:=plainElem_int_inv he hv;exact ⟨c,rfl⟩) b r n lU left cnt hit h (fun _ hl=>hDone hl) ?_
 intro x c kl y w' cnt' hkey hlk hv hat hrg hlt hgr hsz hen
 obtain ⟨x',ex,rfl⟩:=AW hk hkey
 have ex:x=x':=by simpa using ex
 subst ex
 obtain ⟨c',ec,rfl,_⟩:=plainElem_int_inv he hv
 cases ec
 obtain ⟨m,hm,e1,e2⟩:=Gg _ _ hat
 have e1:x=nM m:=by injection e1
 have e2:c=(m:Int):=by injection e2 with e2;injection e2
 subst e1;subst e2
 exact hMore m w' cnt' hm hlk hrg hlt hgr hsz hen
theorem mT (o1 o2:Oper) (hg1:o1.guard=none) (hg2:o2.guard=none) (m:Operand) (x1 v1 x2 v2:Operand) (t:TypeId) (hop1:o1.op=Op.insert t m x1 v1) (hop2:o2.op=Op.insert t m x2 v2) (k e:TypeId) (hk:P.underlying k=some .string) (he:P.underlying e=some (.int .i64)) (ht:P.underlying t=some (.map k e)) (b:Nat) (hm1:a.eval m= .map (some b)) (hx1:a.eval x1= .string ⟨#[60]⟩) (hv1:a.eval v1= .int .i64 1) (hm2:(a.put o1.dst undef).eval m= .map (some b)) (hx2:(a.put o1.dst undef).eval x2= .string ⟨#[60,47]⟩) (hv2:(a.put o1.dst undef).eval v2= .int .i64 2) (hown:w.ownsMap P k (plainElem (H:=Unit) P e) b 0 (.map [])) (hK:∀w',w'.ownsMap P k (plainElem P e) b 2 lU→w.grownBy w' (some b)→wpList P ops Q rest ((a.put o1.dst undef).put o2.dst undef) w'):wpList P ops Q (o1::o2::rest) a w:=by
 obtain ⟨w1,hrun1,r1,g1⟩:=hown.update (string_keyed hk) ht (by decide) (keyOf_string_mk hk (s:=⟨#[60]⟩) (by decide)) (plainElem_int he (a:=1) (by decide))
 obtain ⟨w2,hrun2,r2,g2⟩:=r1.update (string_keyed hk) ht (by decide) (keyOf_string_mk hk (s:=⟨#[60,47]⟩) (by decide)) (plainElem_int he (a:=2) (by decide))
 refine wpList_plain hg1 fun K' hK'=>?_
 unfold Oper.wp
 simp [execOp,hop1,hm1,hx1,hv1,hrun1,Result.andThen]
 refine hK' _ _ (wpList_plain hg2 fun K2 hK2=>?_)
 unfold Oper.wp
 simp [execOp,hop2,hm2,hx2,hv2,hrun2,Result.andThen]
 exact hK2 _ _ (hK w2 r2 (g1.andThen g2 (fun j hj=> .inr hj)))
end
theorem MN {left:Lit→Bool} {m j:Nat} (hne:nM j≠nM m) (h:left (.string (nM j))=true):(fun z:Lit=>left z&& !z.sameKey (.string (nM m))) (.string (nM j))=true:=by
 show (left _&& !(Lit.string (nM j)).sameKey (.string (nM m)))=true
 rw [h,sameKey_ne (fun e=>hne (by injection e))];rfl
theorem MO {m j:Nat} (hm:m=1∨m=2) (hj:j=1∨j=2) (h:j≠m):nM j≠nM m:=by
 rcases hm with rfl|rfl<;>rcases hj with rfl|rfl<;>first|exact absurd rfl h|decide
end Go.Proofs.YtajpoodpbbbkfaaGreatDoor
namespace Go.Proofs.YtajpoodpbbbkfaaGreatDoor
open Go.RowKit Go.Lib Go.WideMaps Go.Maps
theorem xY (c:UInt8) (q:Int) (w:World) (hq:(c.toNat:Int)=q):Calls Tryz.prog 149 #[.int .u8 q] w fun e w'=>e= .returned (.bool (dI c))∧w'=w:=by
 have hlt:=c.toNat_lt
 have HS:=fun w=>Lib.hid (yv q w (by omega) (by omega))
 have HV:Hid (dI c=(!cG q&& !(q==47)&& !(q==62))):=Lib.hid (by
  rw [xg c q hq,show (q==62)=(c==62) from oq c q 62 (by decide) hq,show (q==47)=(c==47) from oq c q 47 (by decide) hq]
  unfold dI;cases cv c<;>cases (c==62)<;>cases (c==47)<;>rfl)
 rw [HV.out]
 clear hq hlt HV
 cases hs:cG q
 ·rw [hs] at HS
  cases h47:(q==47)
  ·cases h62:(q==62)
   all_goals
    have h47':(q != 47)= !(q==47):=rfl
    rw [h47] at h47'
    go_enter Tryz.func149,Tryz.ntmps149
    go_wp2_with (go_at_call 150;refine (HS _).out.mono ?_;rintro e w' ⟨rfl,rfl⟩)
    go_ret
    exact ⟨au (by simp [bne,h62]),rfl⟩
  ·have h47':(q != 47)= !(q==47):=rfl
   rw [h47] at h47'
   go_enter Tryz.func149,Tryz.ntmps149
   go_wp2_with (go_at_call 150;refine (HS _).out.mono ?_;rintro e w' ⟨rfl,rfl⟩)
   go_ret
   exact ⟨au (by simp),rfl⟩
 ·rw [hs] at HS
  go_enter Tryz.func149,Tryz.ntmps149
  go_wp2_with (go_at_call 150;refine (HS _).out.mono ?_;rintro e w' ⟨rfl,rfl⟩)
  go_ret
  exact ⟨rfl,rfl⟩
theorem uK (s:ByteArray) (a:Int) (i:Nat) (w:World) (hs:s.size≤1099511627776) (ha:(i:Int)=a) (hi:i≤s.size):Calls Tryz.prog 97 #[.string s,.int .i64 a] w fun e w'=>e= .returned (.int .i64 (fM dI s.data.toList i:Int))∧w'=w:=by
 subst ha
 have HK:=fun c q w h=>Lib.hid (xY c q w h)
 obtain ⟨R,hR⟩:∃R,fM dI s.data.toList i=R:=⟨_,rfl⟩
 rw [hR]
 have HR:=Lib.hid hR
 clear hR
 go_enter Tryz.func97,Tryz.ntmps97
 go_wp2
 go_loopw [1] (fun v wr=>∃k:Nat,v= .int .i64 (k:Int)∧w=wr∧k≤s.size∧fM dI s.data.toList k=R) (fun v _=>s.size-(ae v).toNat)
 case atStart=>exact ⟨i,rfl,rfl,hi,HR.out⟩
 case round=>
  obtain ⟨k,rfl,rfl,hk,hR⟩:=hrel
  have HRR:=Lib.hid hR
  clear hR HR
  by_cases hlt:k<s.size
  ·cases hp:dI s[k]
   ·have hRk:=Lib.hid ((xh dI s k hlt hp).symm.trans HRR.out)
    have HC:=fun w=>Lib.hid (HK s[k] _ w rfl).out
    rw [hp] at HC
    clear hp HK HRR
    go_wp2_with (go_at_call 149;refine (HC _).out.mono ?_;rintro e w' ⟨rfl,rfl⟩)
    go_ret
    exact ⟨az (by rw [hRk.out]),rfl⟩
   ·have hRk:=Lib.hid ((rv dI s k hlt hp).symm.trans HRR.out)
    have HC:=fun w=>Lib.hid (HK s[k] _ w rfl).out
    rw [hp] at HC
    clear hp HK HRR
    go_wp2_with (go_at_call 149;refine (HC _).out.mono ?_;rintro e w' ⟨rfl,rfl⟩)
    go_roundw
    case rel=>exact ⟨k+1,by go_num,trivial,by omega,hRk.out⟩
    case measure=>simp [ae];omega
  ·obtain rfl:k=s.size:=by omega
   have hRk:=Lib.hid ((rx dI s).symm.trans HRR.out)
   go_wp2
   go_ret
   exact ⟨az (by rw [hRk.out]),rfl⟩
def jt (s:ab) (a:Int):Nat:=if 0≤a then aV (s.drop a.toNat) else 0
theorem J8 (s:ab) (a:Int):gJ s a=decide (jt s a≠0):=by
 unfold gJ jt
 by_cases h:0≤a
 ·rw [if_pos h];simp [h]
 ·rw [if_neg h];simp [h]
theorem Em (s:ab) (k:Nat):jt s (k:Int)=aV (s.drop k):=by
 unfold jt
 rw [if_pos (by omega),show ((k:Nat):Int).toNat=k by omega]
theorem Eo (s:ab) (a:Int):jt s a=0∨jt s a=1∨jt s a=2:=by
 unfold jt
 by_cases h:0≤a
 ·rw [if_pos h]
  by_cases hb:aV (s.drop a.toNat)≠0
  ·obtain ⟨c,t,-,⟨-,h,-⟩|⟨-,h⟩⟩:=mj _ hb
   ·exact .inr (.inl h)
   ·exact .inr (.inr h)
  ·exact .inl (Decidable.not_not.1 hb)
 ·rw [if_neg h];exact .inl rfl
theorem J9 (s:ByteArray) (i:Nat) (h:i≤s.size):bf s (i:Int) (tw 1)=decide ((s.data.toList.drop i).head?=some 60):=by
 unfold bf
 rw [decide_eq_true (show 0≤(i:Int)∧(i:Int)≤(s.size:Int) by omega),Bool.true_and,show ((i:Nat):Int).toNat=i by omega]
 show [60].isPrefixOf _=_
 cases s.data.toList.drop i with
 |nil=>rfl
 |cons c t=>
  rw [aM,List.isPrefixOf_cons_cons,List.isPrefixOf_nil_left,Bool.and_true,show ((60:UInt8)==ct c)=(c==60) from pN 60 (by decide) (by decide) (by decide) c]
  rw [Bool.eq_iff_iff];simp
theorem Ka (s:ByteArray) (i:Nat) (h:i≤s.size):bf s (i:Int) (tw 2)=decide ((s.data.toList.drop i).head?=some 60∧(s.data.toList.drop (i+1)).head?=some 47):=by
 unfold bf
 rw [decide_eq_true (show 0≤(i:Int)∧(i:Int)≤(s.size:Int) by omega),Bool.true_and,show ((i:Nat):Int).toNat=i by omega,←List.drop_drop]
 show [60,47].isPrefixOf _=_
 cases s.data.toList.drop i with
 |nil=>rfl
 |cons c t=>
  cases t with
  |nil=>
   rw [aM,List.isPrefixOf_cons_cons]
   simp [aF]
  |cons d r=>
   rw [aM,List.isPrefixOf_cons_cons,aM,List.isPrefixOf_cons_cons,List.isPrefixOf_nil_left,Bool.and_true,show ((60:UInt8)==ct c)=(c==60) from pN 60 (by decide) (by decide) (by decide) c,show ((47:UInt8)==ct d)=(d==47) from pN 47 (by decide) (by decide) (by decide) d]
   rw [Bool.eq_iff_iff];simp
theorem MP (s:ByteArray) (a:Int) (M:ByteArray) (h:¬(0≤a∧a≤(s.size:Int))):bf s a M=false:=by
 unfold bf;rw [decide_eq_false h,Bool.false_and]
theorem Kb (s:ByteArray) (a:Int) (m:Nat) (hm:m=1∨m=2):bf s a (tw m)=false∧jt s.data.toList a≠m∨∃k:Nat,a=k∧bf s a (tw m)=true∧k+m≤s.size∧((k+m=s.size∧jt s.data.toList a≠m)∨∃h:k+m<s.size,fA s[k+m]=decide (jt s.data.toList a=m)):=by
 by_cases hin:0≤a∧a≤(s.size:Int)
 ·obtain ⟨k,rfl⟩:∃k:Nat,a=k:=⟨a.toNat,by omega⟩
  have hk:k≤s.size:=by omega
  rw [Em]
  have hd:∀j (h:j<s.size),s.data.toList.drop j=s[j]::s.data.toList.drop (j+1):=fun j h=>aj s j h
  have hn:∀j,s.size≤j→s.data.toList.drop j=[]:=fun j h=>List.drop_eq_nil_of_le (by rw [←Lib.size_eq];exact h)
  have l47:fA 47=false:=by decide
  rcases hm with rfl|rfl
  ·rw [J9 s k hk]
   by_cases h60:(s.data.toList.drop k).head?=some 60
   ·have hlt:k<s.size:=Nat.lt_of_not_le fun h=>by rw [hn k h] at h60;simp at h60
    refine .inr ⟨k,rfl,decide_eq_true h60,by omega,?_⟩
    by_cases hlt2:k+1<s.size
    ·refine .inr ⟨hlt2,?_⟩
     rw [hd k hlt,List.head?_cons,Option.some.injEq] at h60
     rw [hd k hlt,hd (k+1) hlt2,h60]
     unfold aV
     by_cases h47:s[k+1]=47
     ·rw [h47,l47]
      simp only [List.head?_cons,if_pos,List.drop_succ_cons,List.drop_zero]
      split<;>simp
     ·simp only [List.head?_cons,if_pos,List.drop_succ_cons,List.drop_zero,Option.some.injEq,if_neg h47,Option.any_some]
      cases fA s[k+1]<;>simp
    ·refine .inl ⟨by omega,?_⟩
     rw [Nt _ (by rw [List.length_drop,←Lib.size_eq];omega)];decide
   ·exact .inl ⟨decide_eq_false h60,by rw [Ns _ h60];decide⟩
  ·rw [Ka s k hk]
   by_cases h6:(s.data.toList.drop k).head?=some 60∧(s.data.toList.drop (k+1)).head?=some 47
   ·have hlt:k+1<s.size:=Nat.lt_of_not_le fun h=>by have:=h6.2;rw [hn _ h] at this;simp at this
    refine .inr ⟨k,rfl,decide_eq_true h6,by omega,?_⟩
    obtain ⟨h60,h47⟩:=h6
    have hlt0:k<s.size:=by omega
    rw [hd k hlt0,List.head?_cons,Option.some.injEq] at h60
    rw [hd _ hlt,List.head?_cons,Option.some.injEq] at h47
    by_cases hlt2:k+2<s.size
    ·refine .inr ⟨hlt2,?_⟩
     rw [hd k hlt0,hd (k+1) hlt,hd (k+1+1) hlt2,h60,h47]
     unfold aV
     simp only [List.head?_cons,if_pos,List.drop_succ_cons,List.drop_zero,Option.any_some]
     show fA s[k+1+1]=_
     cases fA s[k+1+1]<;>simp
    ·refine .inl ⟨by omega,?_⟩
     rw [hd k hlt0,hd (k+1) hlt,hn (k+1+1) (by omega),Nu,if_neg (fun h=>h.2.1 h47)];decide
   ·refine .inl ⟨decide_eq_false h6,fun hb=>h6 ?_⟩
    obtain ⟨c,t,-,⟨-,h,-⟩|⟨h,-⟩⟩:=mj (s.data.toList.drop k) (by rw [hb];decide)
    ·rw [h] at hb;exact absurd hb (by decide)
    ·rw [←List.drop_drop,h];exact ⟨rfl,rfl⟩
 ·refine .inl ⟨MP s a _ hin,?_⟩
  unfold jt
  by_cases h0:0≤a
  ·rw [if_pos h0,List.drop_eq_nil_of_le (by rw [←Lib.size_eq];omega),DM]
   rcases hm with rfl|rfl<;>decide
  ·rw [if_neg h0]
   rcases hm with rfl|rfl<;>decide
theorem Gh (w:World):Calls Tryz.prog 147 #[] w fun e w'=>e= .returned (.map (some w.heap.size))∧w'.ownsMap Tryz.prog 9 (plainElem Tryz.prog 3) w.heap.size 2 lU∧Below w.heap.size w w':=by
 have hmm:=@run_makeMap Tryz.prog
 go_enter Tryz.func147,Tryz.ntmps147
 go_wp2_with (refine mT _ _ _ rfl rfl _ _ _ _ _ 109 rfl rfl 9 3 Tryz.underlying9 Tryz.underlying3 Tryz.underlying109 w.heap.size rfl rfl rfl rfl rfl rfl (World.ownsMap_made _ _ _ _) ?_)
 intro w2 hown2 hg2
 go_wp2
 go_ret
 exact ⟨rfl,hown2,((Below.refl _ w).alloc (Nat.le_refl _) _).grown hg2 (by simp) (fun j hj=>by cases hj;exact Nat.le_refl _)⟩
theorem CQ (s:ByteArray) (a:Int) (m:Nat) (hm:m=1∨m=2) (w:World) (hs:s.size≤1048576) (ha: -9223372036854775808≤a∧a≤9223372036854775807):Calls Tryz.prog 96 #[.agg #[.string s,.int .i64 a],.string (tw m)] w fun e w'=>e= .returned (.bool (decide (jt s.data.toList a=m)))∧Below w.heap.size w w':=by
 have HB:=fun w=>Lib.hid (cB s a (tw m) w (by omega) (by rw [qm hm];omega) ha.1 ha.2)
 have HL:=fun (c:UInt8) w=>Lib.hid (GS (c.toNat:Int) w (by omega) (by have:=c.toNat_lt;omega))
 have hsz:=qm hm
 have hcase:=Kb s a m hm
 obtain ⟨M,hM⟩:∃M,tw m=M:=⟨_,rfl⟩
 rw [hM] at HB hsz hcase⊢
 obtain ⟨D,hD⟩:∃D:Bool,decide (jt s.data.toList a=m)=D:=⟨_,rfl⟩
 rw [hD]
 rcases hcase with ⟨h1,h2⟩|⟨k,rfl,h1,h2,h3⟩
 ·rw [h1] at HB
  have HD:Hid (D=false):=Lib.hid (by rw [←hD];exact decide_eq_false h2)
  rw [HD.out]
  clear h1 h2 hD hM hm hsz HD HL
  go_enter Tryz.func96,Tryz.ntmps96
  go_wp2_with (go_at_call 57;refine (HB _).out.mono ?_;rintro e w' ⟨rfl,n,rfl⟩)
  go_ret
  exact ⟨rfl,((Below.refl _ w).alloc (Nat.le_refl _) _).trans (ai _ _ _)⟩
 ·rw [h1] at HB
  have hMk:((k:Int)+(M.size:Int))=((k+m:Nat):Int):=by rw [hsz,Int.natCast_add]
  rcases h3 with ⟨h3,h4⟩|⟨h3,h4⟩
  ·have HD:Hid (D=false):=Lib.hid (by rw [←hD];exact decide_eq_false h4)
   rw [HD.out]
   have hMs:(k:Int)+(M.size:Int)=(s.size:Int):=by omega
   clear h1 h2 hD hM hm HD HL h4 hMk
   go_enter Tryz.func96,Tryz.ntmps96
   go_wp2_with (go_at_call 57;refine (HB _).out.mono ?_;rintro e w' ⟨rfl,n,rfl⟩)
   go_ret
   exact ⟨rfl,((Below.refl _ w).alloc (Nat.le_refl _) _).trans (ai _ _ _)⟩
  ·obtain ⟨K,hK⟩:∃K,K=k+m:=⟨_,rfl⟩
   have hKs:K<s.size:=by omega
   have HD:Hid (bF ((s[K].toNat:Nat):Int)=D):=Lib.hid (by subst hK;rw [←hD,←h4];rfl)
   have HL:=fun w=>HL s[K] w
   rw [HD.out] at HL
   rw [←hK] at hMk
   clear h1 h2 h3 hD hM hm HD h4 hK hsz
   go_enter Tryz.func96,Tryz.ntmps96
   go_wp2_with (fail)
   refine (HB _).out.mono ?_
   rintro e w' ⟨rfl,n,rfl⟩
   go_wp2_with (fail)
   refine (HL _).out.mono ?_
   rintro e w' ⟨rfl,rfl⟩
   go_wp2
   go_ret
   exact ⟨rfl,((Below.refl _ w).alloc (Nat.le_refl _) _).trans (ai _ _ _)⟩
theorem AX {w w':World} (h:Below w.heap.size w w'):w.grownBy w' none:=⟨h.os,h.tape,h.output,h.size,fun k hk _=>h.block k hk⟩
theorem tz (s:ByteArray) (a:Int) (w:World) (hs:s.size≤1048576) (ha: -9223372036854775808≤a∧a≤9223372036854775807):Calls Tryz.prog 95 #[.func (.func 96) #[.agg #[.string s,.int .i64 a]] #[]] w fun e w'=>e= .returned (.tuple #[.int .i64 (jt s.data.toList a:Int),.int .i64 (jt s.data.toList a:Int),.bool (gJ s.data.toList a)])∧Below w.heap.size w w':=by
 have HM:=fun m hm w=>Lib.hid (CQ s a m hm w hs ha)
 have hle:=Eo s.data.toList a
 rw [J8]
 obtain ⟨B,hB⟩:∃B,jt s.data.toList a=B:=⟨_,rfl⟩
 rw [hB] at HM hle⊢
 clear hB
 have HLE:=Lib.hid hle
 clear hle
 go_enter Tryz.func95,Tryz.ntmps95
 go_wp2_with (first
  |(go_at_call 147;refine (Gh _).mono ?_;rintro e w1 ⟨rfl,hown,b1⟩)
  |(at_range;refine wpList_range_own _ rfl _ 109 rfl 9 3 (string_keyed Tryz.underlying9) Tryz.underlying109 _ w.heap.size 2 lU rfl hown ?_;intro w0 hrg0 hg0 hs0))
 go_frame
 have HG0:=Lib.hid (b1.grown hg0 b1.size (fun j hj=>by cases hj))
 have hb1:=b1.size
 clear hs0 hg0 b1
 go_loopw [5] (fun _ wr=>∃(left:Lit→Bool) (cnt:Nat),wr.ranges Tryz.prog 9 (plainElem Tryz.prog 3) w.heap.size w1.heap.size 2 lU left cnt∧Below w.heap.size w wr∧Hid (∀m,(m=1∨m=2)→B=m→left (.string (nM m))=true)) (fun _ wr=>wr.rangeLeft w.heap.size w1.heap.size)
 case atStart=>exact ⟨_,_,hrg0,HG0.out,Lib.hid fun m hm _=>by
  rcases hm with rfl|rfl
  ·exact we.1
  ·exact we.2.1⟩
 case round=>
  obtain ⟨left,cnt,hrg,hbw,HLF⟩:=hrel
  have HBW:=Lib.hid hbw
  have HRG:=Lib.hid hrg
  clear hbw hrg
  go_wp2_with (at_next;refine o8 _ rfl _ rfl 9 3 Tryz.underlying9 Tryz.underlying3 w.heap.size w1.heap.size 2 _ _ rfl HRG.out ?_ ?_)
  ·intro hl
   have HZ:Hid (B=0):=Lib.hid (by
    rcases HLE.out with h|h|h
    ·exact h
    ·have:=HLF.out 1 (.inl rfl) h;rw [hl] at this;cases this
    ·have:=HLF.out 2 (.inr rfl) h;rw [hl] at this;cases this)
   clear hl
   go_wp2
   go_ret3
   exact ⟨by rw [HZ.out];rfl,HBW.out⟩
  ·intro m w2 cnt2 hm hlk hrg2 hlt hg2 hs2 hen
   have HB2:=Lib.hid (HBW.out.grown hg2 HBW.out.size (fun j hj=>by cases hj;exact hb1))
   have HRG2:=Lib.hid hrg2
   have HC:=fun w=>HM m hm w
   have hsz:=qm hm
   have HM1:=Lib.hid hm
   have HLK:=Lib.hid hlk
   have HLT:=Lib.hid hlt
   obtain ⟨M,hMM⟩:∃M,tw m=M:=⟨_,rfl⟩
   rw [hMM] at HC hen hsz⊢
   clear hrg2 hg2 hs2 hm hlk hlt hMM
   by_cases hBm:B=m
   ·rw [decide_eq_true hBm] at HC
    have HBm:=Lib.hid hBm
    clear hBm
    go_wp2_with (go_at_call 96;refine (HC _).out.mono ?_;rintro e w3 ⟨rfl,b3⟩)
    go_ret3
    refine ⟨?_,HB2.out.trans (b3.mono HB2.out.size)⟩
    have:decide (B≠0)=true:=decide_eq_true (by have:=HBm.out;rcases HM1.out with h|h<;>omega)
    rw [this,HBm.out]
    rfl
   ·rw [decide_eq_false hBm] at HC
    have HBm:=Lib.hid hBm
    clear hBm
    go_wp2_with (go_at_call 96;refine (HC _).out.mono ?_;rintro e w3 ⟨rfl,b3⟩)
    have hrg3:=HRG2.out.kept (row:=none) (AX b3) (by simp) (by simp)
    go_roundw
    case rel=>
     refine ⟨_,_,hrg3,HB2.out.trans (b3.mono HB2.out.size),Lib.hid fun j hj hBj=>MN (MO HM1.out hj (fun e=>HBm.out (hBj.trans e))) (HLF.out j hj hBj)⟩
    case measure=>rw [hrg3.left_eq,HRG.out.left_eq];exact HLT.out
theorem uM (s:ByteArray) (a:Int) (w:World) (hs:s.size≤1048576) (ha: -9223372036854775808≤a∧a≤9223372036854775807) (_h:bn w):Calls Tryz.prog 51 #[.string s,.int .i64 a] w fun e w'=>e= .returned (.bool (gJ s.data.toList a))∧Below w.heap.size w w':=by
 have HK:=fun w=>Lib.hid (tz s a w hs ha)
 have hmf:∀(fn:Fn) (first cap:Array Value) (w:World),(Instr.makeFunc fn first cap).run Tryz.prog w= .ok (.func fn first cap) w:=fun _ _ _ _=>rfl
 obtain ⟨B,hB⟩:∃B,jt s.data.toList a=B:=⟨_,rfl⟩
 obtain ⟨V,hV⟩:∃V,gJ s.data.toList a=V:=⟨_,rfl⟩
 rw [hB,hV] at HK
 rw [hV]
 clear hB hV _h
 go_enter Tryz.func51,Tryz.ntmps51
 go_wp2_with (go_at_call 95;refine (HK _).out.mono ?_;rintro e w' ⟨rfl,b1⟩)
 go_ret
 exact ⟨rfl,b1⟩
end Go.Proofs.YtajpoodpbbbkfaaGreatDoor
namespace Go.Proofs.YtajpoodpbbbkfaaGreatDoor
open Go.RowKit Go.Lib Go.WideMaps Go.Maps
theorem AY (s : ByteArray) (a : Int) (w : World) (hs : s.size ≤ 1048576) (ha : -9223372036854775808 ≤ a ∧ a ≤ 9223372036854775807) (h : bn w) :
    Calls Tryz.prog 52 #[.string s, .int .i64 a] w (yN (pP s.data.toList a) w) := by
  have HT := Lib.hid h
  clear h
  have HK := fun w => Lib.hid (tz s a w hs ha)
  have hmf : ∀ (fn : Fn) (first cap : Array Value) (w : World), (Instr.makeFunc fn first cap).run Tryz.prog w = .ok (.func fn first cap) w := fun _ _ _ _ => rfl
  have hv0 := J8 s.data.toList a
  by_cases hb : jt s.data.toList a = 0
  · rw [hb] at HK hv0
    have hV : pP s.data.toList a = (aJ, a, false) := (ow s.data.toList a (fun h => by
      unfold jt at hb; rw [if_pos h.1] at hb; exact h.2 hb)).1
    have HV := Lib.hid hV
    rw [hv0] at HK
    clear hV hv0 hb ha
    go_enter Tryz.func52, Tryz.ntmps52
    go_wp2_with (fail)
    refine (HK _).out.mono ?_
    rintro e w1 ⟨rfl, b1⟩
    have HB := Lib.hid ((b1.block _ (by simp)).trans (heap_alloc_new w _))
    have B1 := Lib.hid (((Below.refl _ w).alloc (Nat.le_refl _) _).trans (b1.mono (by simp)))
    clear b1
    go_wp2_with (refine ak rfl _ _ rfl w.heap.size aJ none 0 0 rfl rfl _ HB.out rfl ?_; intro w2 hb2 hg2)
    have B2 := B1.out.grown hg2 B1.out.size (fun j hj => by cases hj; exact Nat.le_refl _)
    refine bodyPost_ret (aw rfl _ _ w.heap.size aJ none 0 0 rfl (aN hb2)) rfl ?_
    exact ⟨aJ, none, 0, 0, _, false, rfl, av _, HV.out, B2, .inr fun k hk => by cases hk⟩
  obtain ⟨k, rfl⟩ : ∃ k : Nat, a = k := ⟨a.toNat, by
    by_cases h : 0 ≤ a
    · omega
    · unfold jt at hb; rw [if_neg h] at hb; exact absurd rfl hb⟩
  have hle := Eo s.data.toList (k : Int)
  rw [Em] at hb hle HK hv0
  have hlen := BH _ hb
  rw [List.length_drop, ← Lib.size_eq] at hlen
  have h12 : aV (s.data.toList.drop k) = 1 ∨ aV (s.data.toList.drop k) = 2 := by
    rcases hle with h | h | h
    · exact absurd h hb
    · exact .inl h
    · exact .inr h
  rw [hv0, decide_eq_true hb] at HK
  have hE : fM dI s.data.toList (k + aV (s.data.toList.drop k)) = k + aV (s.data.toList.drop k) + (kD (s.data.toList.drop k)).length := by
    unfold fM kD; rw [List.drop_drop]
  have hX : (s.extract (k + aV (s.data.toList.drop k)) (k + aV (s.data.toList.drop k) + (kD (s.data.toList.drop k)).length)).data.toList = kD (s.data.toList.drop k) := by
    rw [extract_data, Nat.add_sub_cancel_left]
    unfold kD
    rw [List.drop_drop, xd]
  have HRR := Lib.hid (vK s.data.toList k (k + aV (s.data.toList.drop k) + (kD (s.data.toList.drop k)).length) hb rfl (by rw [← Lib.size_eq]; omega))
  rw [← Lib.size_eq] at HRR
  obtain ⟨b, hbb⟩ : ∃ b, aV (s.data.toList.drop k) = b := ⟨_, rfl⟩
  obtain ⟨nm, hnn⟩ : ∃ nm, kD (s.data.toList.drop k) = nm := ⟨_, rfl⟩
  rw [hbb] at HK hlen h12 hE hX HRR
  rw [hnn] at hlen hE hX HRR
  obtain ⟨K, hK⟩ : ∃ K, k + b = K := ⟨_, rfl⟩
  obtain ⟨E, hEE⟩ : ∃ E, K + nm.length = E := ⟨_, rfl⟩
  rw [hK] at hE hX HRR
  rw [hEE] at hE hX HRR
  have hKs : K ≤ s.size := by omega
  have hEs : E ≤ s.size := by omega
  have hKE : K ≤ E := by omega
  have HN := fun w => Lib.hid (uK s (K : Int) K w (by omega) rfl hKs)
  rw [hE] at HN
  have HA := fun w h => Lib.hid (zq s (E : Int) w hs (by omega) h)
  obtain ⟨X, hXX⟩ : ∃ X, s.extract K E = X := ⟨_, rfl⟩
  rw [hXX] at hX
  have hXs : X.size ≤ 1048576 := by rw [← hXX, ByteArray.size_extract]; omega
  have HL := fun w => Lib.hid (Nh X w (by omega))
  have HCl := fun w => Lib.hid (gm (qV X) w (by rw [jw]; omega))
  rw [fo, hX, show ap (aF nm) = aP nm from rfl] at HCl
  have HX := Lib.hid hXX
  have hkb : (k : Int) + (b : Int) = (K : Int) := by omega
  have hk1 : k ≤ 1048576 := by omega
  clear hX hE hbb hnn hb hle hv0 ha hlen hXX hXs
  go_enter Tryz.func52, Tryz.ntmps52
  go_wp2_with (fail)
  refine (HK _).out.mono ?_
  rintro e w1 ⟨rfl, b1⟩
  have HB := Lib.hid ((b1.block _ (by simp)).trans (heap_alloc_new w _))
  have B1 := Lib.hid (((Below.refl _ w).alloc (Nat.le_refl _) _).trans (b1.mono (by simp)))
  have hlt0 : w.heap.size < w1.heap.size := (Array.getElem?_eq_some_iff.1 HB.out).1
  clear b1
  go_wp2_with (fail)
  refine (HN _).out.mono ?_
  rintro e w2 ⟨rfl, rfl⟩
  go_wp2_with (fail)
  refine (HA _ (HT.out.below B1.out)).out.mono ?_
  rintro e w3 ⟨ad, len, cap, l, self, n, ok, rfl, hr, hv, b3, hfr⟩
  have HFW : Hid (∀ k, (Value.slice ad len cap).ownBlock = some k → w.heap.size ≤ k) := Lib.hid (fun k hk => by have := hfr k hk; omega)
  have HFR : Hid (∀ k, (Value.slice ad len cap).ownBlock = some k → k ≠ w.heap.size) := Lib.hid (fun k hk => by have := hfr k hk; omega)
  have B3 := Lib.hid (B1.out.trans (b3.mono B1.out.size))
  have HB3 := Lib.hid ((b3.block _ hlt0).trans HB.out)
  have hlt3 := b3.size
  clear hfr b3
  rcases HRR.out with ⟨h1, h2⟩ | ⟨al, self', m, h1, h2⟩
  · rw [h1] at hv
    simp only [Prod.mk.injEq] at hv
    obtain ⟨rfl, rfl, rfl, rfl⟩ := hv
    have HV := Lib.hid h2
    clear h1 h2 hr
    go_wp2_with (refine ak rfl _ _ rfl w.heap.size aJ none 0 0 rfl rfl _ HB3.out rfl ?_; intro w4 hb4 hg4)
    have B4 := B3.out.grown hg4 B3.out.size (fun j hj => by cases hj; exact Nat.le_refl _)
    refine bodyPost_ret (aw rfl _ _ w.heap.size aJ none 0 0 rfl (aN hb4)) rfl ?_
    exact ⟨aJ, none, 0, 0, _, false, rfl, av _, HV.out, B4, .inr fun k hk => by cases hk⟩
  · rw [h1] at hv
    simp only [Prod.mk.injEq] at hv
    obtain ⟨rfl, rfl, rfl, rfl⟩ := hv
    have HV := Lib.hid h2
    have K3 := Lib.hid hr
    clear h1 h2 hr
    go_wp2_with (fail)
    rw [HX.out]
    refine (HL _).out.mono ?_
    rintro e w4 ⟨rfl, b4⟩
    go_wp2_with (fail)
    refine (HCl _).out.mono ?_
    rintro e w5 ⟨rfl, b5⟩
    have D5 := Lib.hid (b4.trans (b5.mono b4.size))
    have HB5 := Lib.hid ((D5.out.block _ (by omega)).trans HB3.out)
    have K5 := Lib.hid (K3.out.below D5.out (Nat.le_refl _))
    have B5 := Lib.hid (B3.out.trans (D5.out.mono B3.out.size))
    clear b4 b5
    have hne : ∀ k, (Value.slice ad len cap).ownBlock = some k → k ≠ w.heap.size := HFR.out
    have HNE := Lib.hid hne
    clear hne
    rcases h12 with rfl | rfl
    · go_wp2_with (first
        | (refine ak rfl _ _ rfl w.heap.size ⟨1, aP nm, [], [], false⟩ none 0 0 rfl rfl _ HB5.out rfl ?_
           intro w6 hb6 hg6
           have HG6 := Lib.hid hg6
           have HB6 := Lib.hid hb6
           have c3 : w6.cell? ⟨w.heap.size, 3, none⟩ = some (.slice none 0 0) := by rw [cell_of_row _ _ _ _ _ _ hb6]; rfl
           have c4 : w6.cell? ⟨w.heap.size, 4, none⟩ = some (.bool false) := by rw [cell_of_row _ _ _ _ _ _ hb6]; rfl
           have f3 : w6.frozen? ⟨w.heap.size, 3, none⟩ = false := frozen_of_row _ _ _ _ _ hb6
           have f4 : w6.frozen? ⟨w.heap.size, 4, none⟩ = false := frozen_of_row _ _ _ _ _ hb6
           have hb7 : ((w6.setCell ⟨w.heap.size, 3, none⟩ (.slice ad len cap)).setCell ⟨w.heap.size, 4, none⟩ (.bool self')).heap[w.heap.size]? = some (.cells #[.int .i64 1, .string ⟨(aP nm).toArray⟩, .string ⟨#[]⟩, .slice ad len cap, .bool self'] 33 (0, 0)) :=
             Go.heap_setCell_same _ w.heap.size 4 _ 33 _ (Go.heap_setCell_same w6 w.heap.size 3 _ 33 _ hb6)
           have HB7 := Lib.hid hb7
           clear hb6 hg6 hb7)
        | (refine cC rfl _ rfl w.heap.size ⟨1, aP nm, [], al, self'⟩ ad len cap rfl (aN HB7.out) ?_)
        | (refine ak rfl _ _ rfl w.heap.size ⟨1, aP nm, [], al, self'⟩ ad len cap rfl rfl _ HB7.out rfl ?_; intro w8 hb8 hg8))
      have B6 := B5.out.grown HG6.out B5.out.size (fun j hj => by cases hj; exact Nat.le_refl _)
      have B7 := (B6.setCell (p := ⟨w.heap.size, 3, none⟩) (Nat.le_refl _) (.slice ad len cap)).setCell (p := ⟨w.heap.size, 4, none⟩) (Nat.le_refl _) (.bool self')
      have B8 := B7.grown hg8 B7.size (fun j hj => by cases hj; exact Nat.le_refl _)
      have K6 := ie K5.out HG6.out HNE.out
      have K7 := fj (fj K6 w.heap.size 3 HNE.out (.slice ad len cap)) w.heap.size 4 HNE.out (.bool self')
      have K8 := ie K7 hg8 HNE.out
      refine bodyPost_ret (aw rfl _ _ w.heap.size ⟨1, aP nm, [], al, self'⟩ ad len cap rfl (aN hb8)) rfl ?_
      exact ⟨⟨1, aP nm, [], al, self'⟩, ad, len, cap, _, true, rfl, K8, HV.out, B8, .inr HFW.out⟩
    · go_wp2_with (first
        | (refine ak rfl _ _ rfl w.heap.size ⟨2, aP nm, [], [], false⟩ none 0 0 rfl rfl _ HB5.out rfl ?_; intro w6 hb6 hg6; have HG6 := Lib.hid hg6; have HB6 := Lib.hid hb6; clear hb6 hg6)
        | (refine cC rfl _ rfl w.heap.size ⟨2, aP nm, [], [], false⟩ none 0 0 rfl (aN HB6.out) ?_)
        | (refine ak rfl _ _ rfl w.heap.size ⟨2, aP nm, [], [], false⟩ none 0 0 rfl rfl _ HB6.out rfl ?_; intro w7 hb7 hg7))
      have B6 := B5.out.grown HG6.out B5.out.size (fun j hj => by cases hj; exact Nat.le_refl _)
      have B7 := B6.grown hg7 B6.size (fun j hj => by cases hj; exact Nat.le_refl _)
      refine bodyPost_ret (aw rfl _ _ w.heap.size ⟨2, aP nm, [], [], false⟩ none 0 0 rfl (aN hb7)) rfl ?_
      exact ⟨⟨2, aP nm, [], [], false⟩, none, 0, 0, _, true, rfl, av _, HV.out, B7, .inr fun k hk => by cases hk⟩
end Go.Proofs.YtajpoodpbbbkfaaGreatDoor
