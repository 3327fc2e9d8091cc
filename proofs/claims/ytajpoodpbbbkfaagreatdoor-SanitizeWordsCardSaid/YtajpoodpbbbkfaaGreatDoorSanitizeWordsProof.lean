/-
  The law SanitizeWords of flail/flaillaw22 answers true for every input, and changes nothing that was there. Condition, which the card ties to the program's text: when the call begins, the package variables that the row lists hold what that text lays in them (math/bits.deBruijn32tab, math/bits.deBruijn64tab, internal/strconv.uint64pow10, strconv.ErrRange, strconv.ErrSyntax, flail/number.others).
-/
import Derived.Test.YtajpoodpbbbkfaaGreatDoorRows
import Derived.Test.YtajpoodpbbbkfaaGreatDoorSanAwake
import Derived.Test.YtajpoodpbbbkfaaGreatDoorUB
import Derived.Test.YtajpoodpbbbkfaaGreatDoorCards
import Derived.Test.YtajpoodpbbbkfaaGreatDoorP6
import Derived.WalkKit
import Derived.ProofKit
import Derived.OpenShut
import Derived.ShutString
import Derived.ChangeOld
import Derived.Below
set_option maxHeartbeats 8000000
set_option maxRecDepth 100000
namespace Go.Proofs.YtajpoodpbbbkfaaGreatDoor.sanitizeWords
open Go.ChangeShapes Go.WideShapes Go.ChangeAt Go.RowKit
open Go.ChangeMaps (open_string shut_string)
set_option linter.unusedVariables false
theorem own:ownKnob Tryz.prog.godebug=none:=by kernel_rfl
theorem laidOut:laidOutB Tryz.prog=true:=by kernel_rfl
def IsRow (k:IntKind) (w:World) (a:Option Addr) (len cap:Nat) (zs:List Int):Prop:=
 (a=none∧len=0∧cap=0∧zs=[])∨
 ∃x,a=some x∧len≤cap∧cap≤maxLen∧zs.length=cap∧(∀i,i<zs.length→w.cell? (x.add i)=some (.int k (zs.getD i 0)))∧∀n∈zs,(Lit.int k n).wf=true
theorem one_plain22 (w:World) (q:Int) (c:UInt8) (h:(c.toNat:Int)=q):(convert 22 9 (.slice (some ⟨w.heap.size,0,none⟩) 1 1)).run Tryz.prog (w.alloc (.cells #[.int .u8 q] 5))= .ok (.string ⟨#[c]⟩) (w.alloc (.cells #[.int .u8 q] 5)):=by
 refine run_convert_bytes_back (P:=Tryz.prog) _ 22 9 5 ⟨w.heap.size,0,none⟩ 1 [c] Tryz.underlying22 Tryz.underlying5 Tryz.underlying9 ?_
 intro j hj
 have:j=0:=by simp at hj;exact hj
 subst this
 rw [show ((⟨w.heap.size,0,none⟩:Addr).add 0)=⟨w.heap.size,0,none⟩ from rfl]
 show (w.alloc (.cells #[.int .u8 q] 5)).cell? _=_
 rw [Lib.cell_of_heap (heap_alloc_new w _),←h]
 rfl
theorem ws_step (l:ab) (i:Nat) (h:i<l.length):k6 (l.take (i+1))=if re l[i]=true then k6 (l.take i) else k6 (l.take i)++[l[i]]:=by
 rw [List.take_succ_eq_append_getElem h,qj]
 cases hb:re l[i] with
 |true=>rw [if_pos rfl];simp [k6,hb]
 |false=>rw [if_neg Bool.false_ne_true];simp [k6,hb]
theorem ws_short (l:ab):(k6 l).length≤l.length:=List.length_filter_le ..
theorem bl22_is (c:UInt8):re c=true↔c=9∨c=10∨c=12∨c=32:=by unfold re;simp [or_assoc]
theorem byte_ne22 (c d:UInt8) (h:c≠d):(((c.toNat:Nat):Int)==(d.toNat:Int))=false:=by
 rw [beq_eq_false_iff_ne]
 intro e
 exact h (UInt8.toNat_inj.1 (by omega))
theorem words_any (s:ByteArray) (w:World) (hs:s.size≤1048576):Calls Tryz.prog 16 #[.string s] w fun e w'=>e= .returned (.string ⟨(k6 s.data.toList).toArray⟩)∧Below w.heap.size w w':=by
 have HR:=Lib.hid (Below.refl w.heap.size w)
 go_enter Tryz.func16,Tryz.ntmps16
 go_wp2
 go_loopw [3,4] (fun v2 v3 wr=>∃(i:Nat) (W:ByteArray),v3= .int .i64 (i:Int)∧v2= .string W∧i≤s.size∧Below w.heap.size w wr∧Hid (W.data.toList=k6 (s.data.toList.take i))) (fun _ v _=>s.size-(ae v).toNat)
 case atStart=>exact ⟨0,⟨#[]⟩,rfl,rfl,Nat.zero_le _,HR.out,Lib.hid rfl⟩
 case round=>
  obtain ⟨i,W,rfl,rfl,hi,hbw,HP⟩:=hrel
  have HBW:=Lib.hid hbw
  clear hbw
  have hW:W.size≤1048576:=by
   have h1:=ws_short (s.data.toList.take i)
   rw [←HP.out,←Lib.size_eq,List.length_take] at h1
   omega
  by_cases hlt:i<s.size
  ·have hil:i<s.data.toList.length:=by rw [←Lib.size_eq];exact hlt
   have HS:=Lib.hid (ws_step s.data.toList i hil)
   have hc:s.data.toList[i]'hil=s[i]:=rfl
   rw [hc] at HS
   clear hc
   obtain ⟨c,hcc⟩:∃c,s[i]=c:=⟨_,rfl⟩
   rw [hcc] at HS
   by_cases hb:re c=true
   ·have HQ:Hid (W.data.toList=k6 (s.data.toList.take (i+1))):=Lib.hid (by rw [HS.out,if_pos hb];exact HP.out)
    have h4:=(bl22_is c).1 hb
    clear hb
    rcases h4 with rfl|rfl|rfl|rfl
    all_goals
     go_wp2
     go_roundw
     case rel=>exact ⟨i+1,W,by go_num,rfl,by omega,HBW.out,HQ⟩
     case measure=>simp [ae];omega
   ·have hn:∀d:UInt8,re d=true→c≠d:=fun d h1 e=>hb (by rw [e];exact h1)
    have e9:(((c.toNat:Nat):Int)==9)=false:=byte_ne22 c 9 (hn 9 (by decide))
    have e10:(((c.toNat:Nat):Int)==10)=false:=byte_ne22 c 10 (hn 10 (by decide))
    have e12:(((c.toNat:Nat):Int)==12)=false:=byte_ne22 c 12 (hn 12 (by decide))
    have e32:(((c.toNat:Nat):Int)==32)=false:=byte_ne22 c 32 (hn 32 (by decide))
    have n9:(((c.toNat:Nat):Int) != 9)=true:=by rw [bne,e9];rfl
    have n10:(((c.toNat:Nat):Int) != 10)=true:=by rw [bne,e10];rfl
    have n12:(((c.toNat:Nat):Int) != 12)=true:=by rw [bne,e12];rfl
    have n32:(((c.toNat:Nat):Int) != 32)=true:=by rw [bne,e32];rfl
    have HQ:Hid ((W++⟨#[c]⟩:ByteArray).data.toList=k6 (s.data.toList.take (i+1))):=Lib.hid (by rw [HS.out,if_neg hb,←HP.out];simp [ByteArray.data_append])
    have k1:(ByteArray.mk #[c]).size=1:=rfl
    have g1:¬9223372036854775807<W.size+(ByteArray.mk #[c]).size:=by rw [k1];omega
    have o1:=one_plain22 wr ((c.toNat:Nat):Int) c rfl
    clear hb hn
    go_wp2
    go_roundw
    case rel=>exact ⟨i+1,_,by go_num,rfl,by omega,HBW.out.alloc HBW.out.size _,HQ⟩
    case measure=>simp [ae];omega
  ·obtain rfl:i=s.size:=by omega
   have e:s.data.toList.take s.size=s.data.toList:=List.take_of_length_le (by rw [Lib.size_eq];exact Nat.le_refl _)
   rw [e] at HP
   have HQ:Hid (W=⟨(k6 s.data.toList).toArray⟩):=Lib.hid (bl (by rw [HP.out]))
   clear e
   go_wp2
   go_ret
   exact ⟨aO HQ.out,HBW.out⟩
theorem walk (a0:Int) (a1:Option Addr) (len1 cap1:Nat) (z1:List Int) (w:World) (hT:bn w) (w0:(Lit.int .u8 a0).wf=true) (w1:IsRow .u8 w a1 len1 cap1 z1):Calls Tryz.prog 6 #[.int .u8 a0,.slice a1 len1 cap1] w fun e w'=>e= .returned (.bool true)∧Below w.heap.size w w':=by
 have hb0:0≤a0∧a0≤255:=by simpa [Lit.wf,IntKind.min,IntKind.max,IntKind.signed,IntKind.bits] using w0
 obtain ⟨l1,hl1,hc1⟩:=fw w1
 clear w0 w1
 have HW:=Lib.hid hT
 clear hT
 by_cases hlen:300<len1
 ·clear hl1 hc1
  go_enter Tryz.func6,Tryz.ntmps6
  go_wp2_with (fail)
  refine (bT w HW.out).mono ?_
  rintro e w1 ⟨rfl,c1⟩
  go_wp2
  go_ret
  exact ⟨rfl,c1⟩
 have d1:decide ((300:Int)<(len1:Int))=false:=decide_eq_false (by omega)
 obtain ⟨k,hkk⟩:∃k:Nat,a0%3=(k:Int):=⟨(a0%3).toNat,by omega⟩
 have h2k:k≤2:=by omega
 have C1:=Lib.hid hc1
 have X1:=Lib.hid (iU l1 (by omega))
 have ht:=gN l1 (by omega)
 have T1:=Lib.hid ht
 obtain ⟨hw1,hw2⟩:=FX (k:Int) (by omega) l1
 have hln:=o6 (k:Int) l1
 have hln2:=o6 (k:Int) (bB (k:Int) l1)
 have H1:=fun w h1 h2=>Lib.hid (fX (k:Int) (.slice a1 len1 cap1) l1 w (by omega) h1 X1.out T1.out h2)
 have H2:=fun w h1 h2=>Lib.hid (pq (k:Int) (.slice a1 len1 cap1) l1 w (by omega) h1 X1.out T1.out h2)
 have H3:=fun v w h1 h2=>Lib.hid (fX (k:Int) v (bB (k:Int) (bB (k:Int) l1)) w (by omega) h1 (CI (k:Int) _ (Nat.le_trans (j7 (k:Int) l1) ht)) (Nat.le_trans (Nat.le_trans (j7 (k:Int) _) (j7 (k:Int) l1)) ht) h2)
 rw [hw2] at H3
 obtain ⟨X,hX,lX,sX⟩:=dP (bB (k:Int) l1)
 obtain ⟨Y,hY,lY,sY⟩:=dP (bB (k:Int) (bB (k:Int) l1))
 rw [hX] at H1
 rw [hY] at H2 H3
 rw [←lY] at H3
 rw [←sX,hl1] at hln
 rw [←sY,←sX] at hln2
 have hXs:X.size≤5400:=by omega
 have hYs:Y.size≤97200:=by omega
 rw [←lY,←lX] at hw1
 have H4:=fun w=>Lib.hid (words_any X w (by omega))
 have H5:=fun w=>Lib.hid (words_any Y w (by omega))
 obtain ⟨V,hV,-,-⟩:=dP (k6 X.data.toList)
 rw [hV] at H4
 rw [←hw1,hV] at H5
 clear hlen hl1 hc1 hw1 hw2 hln hln2 hX lX sX hY lY sY ht hV
 have kc:=fun (wx:World) (s:ByteArray)=>run_bytes_of_string (P:=Tryz.prog) wx 9 22 5 s Tryz.underlying9 Tryz.underlying22 Tryz.underlying5
 go_enter Tryz.func6,Tryz.ntmps6
 go_wp2_with (fail)
 refine (bT w HW.out).mono ?_
 rintro e w1 ⟨rfl,c1⟩
 have B1:=Lib.hid c1
 clear c1
 go_wp2_with (fail)
 refine (H1 _ (C1.out.kept B1.out) (HW.out.below B1.out)).out.mono ?_
 rintro e w2 ⟨rfl,c2⟩
 have B2:=Lib.hid (B1.out.trans (c2.mono B1.out.size))
 clear c2
 go_wp2_with (fail)
 refine (H2 _ (C1.out.kept B2.out) (HW.out.below B2.out)).out.mono ?_
 rintro e w3 ⟨rfl,c3⟩
 have B3:=Lib.hid (B2.out.trans (c3.mono B2.out.size))
 clear c3
 go_wp2_with (fail)
 refine (H4 _).out.mono ?_
 rintro e w4 ⟨rfl,c4⟩
 have B4:=Lib.hid (B3.out.trans (c4.mono B3.out.size))
 clear c4
 go_wp2_with (fail)
 refine (H5 _).out.mono ?_
 rintro e w5 ⟨rfl,c5⟩
 have B5:=Lib.hid (B4.out.trans (c5.mono B4.out.size))
 clear c5
 go_wp2_with (fail)
 refine (H3 _ _ (fU w5 Y _ _ rfl (by unfold maxLen;omega)) (HW.out.below (dO B5.out B5.out.size _))).out.mono ?_
 rintro e w6 ⟨rfl,c6⟩
 have B6:=Lib.hid (show Below w.heap.size w w6 from (dO B5.out B5.out.size _).trans (c6.mono (by have q:=B5.out.size;simp;omega)))
 clear c6
 go_wp2
 go_ret
 exact ⟨au (by simp),B6.out⟩
theorem laid_met (os:Os):laidMet Tryz.prog Rows.sanitizeWordsRow.laid ((ci os).forCall (fun _ _=>0) ⟨#[],#[.int .u8 0,.slice none 0 0],[]⟩).memory:=
 laidMet_of_run' 8 (by kernel_rfl) (by kernel_rfl)
theorem reads (os:Os) {H:Type} (enc:TypeId × Value→H):∃places,DataW.whole enc Tryz.prog ((ci os).forCall (fun _ _=>0) ⟨#[],#[.int .u8 0,.slice none 0 0],[]⟩).memory Tryz.f6.params.toList Rows.sanitizeWordsSpec.vars false (#[.int .u8 0,.slice none 0 0]:Array Value).toList 8=some ([.lit (.int .u8 0),.nil],[],places):=
 ⟨[],by kernel_rfl⟩
theorem lifted (os:Os) (started:os.Started) (H:Type) (enc:TypeId × Value→H) (F:Stop.Interp):ReturnsInHanded {} Tryz.checked os 6 .any ((OpenSpec.ofChange Rows.sanitizeWordsSpec).preRow enc Tryz.prog Tryz.f6 Rows.sanitizeWordsRow.domain false Rows.sanitizeWordsRow.laid) (((OpenSpec.ofChange Rows.sanitizeWordsSpec).at F).post enc Tryz.prog Tryz.f6 false true false false):=by
 obtain ⟨places,hx⟩:=reads os enc
 refine returnsInHanded_of_row (C:=Tryz.checked) (s:=OpenSpec.ofChange Rows.sanitizeWordsSpec) own started (by kernel_rfl) Tryz.func6 (witness_row_at (enc:=enc) (C:=Tryz.checked) false (ci os) #[.int .u8 0,.slice none 0 0] rfl (by kernel_rfl) (by kernel_rfl) (by kernel_rfl) (OpenSpec.preRow_of_cond 8 hx (by kernel_rfl) (fun k hk=>by cases hk) (by kernel_rfl) (laid_met os))) ?_
 intro W base args ds gs before hval0 hW _ _ _ hL hsh _
 have hval:∀(j:Nat) t v,Tryz.f6.params[j]? =some t→args[j]? =some v→Value.okWide Tryz.prog W .any base t v:=hval0
 have hW':=hW
 obtain ⟨p,q,hA0,hV,rfl,hfz,hnd⟩:=hW
 have hA:DataW.TrodAll enc Tryz.prog W 0 (fun _=>true) true Tryz.f6.params.toList args.toList ds p:=hA0
 rw [Tryz.params6] at hA hval
 obtain ⟨v0,vs0,d0,ds0,p0,q0,hargs,rfl,rfl,h0,r0⟩:=trodAll_cons hA
 obtain ⟨v1,vs1,d1,ds1,p1,q1,rfl,rfl,rfl,h1,r1⟩:=trodAll_cons r0
 obtain ⟨rfl,rfl,rfl⟩:=trodAll_nil r1
 obtain rfl:args=#[v0,v1]:=by cases args;simp_all
 obtain ⟨rfl,rfl⟩:=trodVars_none hV
 obtain ⟨a0,rfl,rfl,rfl,w0⟩:=open_int Tryz.underlying5 (hval 0 5 v0 rfl rfl) h0
 obtain ⟨a1,len1,cap1,rfl⟩:=okWide_slice Tryz.underlying22 (hval 1 22 v1 rfl rfl)
 have k1:=h1
 have lt1:∀x∈p1,x.block<W.heap.size:=by obtain ⟨m,hm⟩:=k1;exact DataW.trod_lt m _ _ _ hm
 obtain ⟨z1,w1⟩:∃zs,IsRow .u8 W a1 len1 cap1 zs:=by
  obtain ⟨fuel,hf⟩:=h1
  rcases open_ints Tryz.underlying22 Tryz.underlying5 (by kernel_rfl) hf with ⟨hcs,_⟩|⟨x,l,c,zs,hcs,_,hl,hm,hz,_,hcell,hwz⟩
  ·simp [Value.cells] at hcs
   obtain ⟨rfl,rfl,rfl⟩:=hcs
   exact ⟨[],.inl ⟨rfl,rfl,rfl,rfl⟩⟩
  ·simp [Value.cells] at hcs
   obtain ⟨rfl,rfl,rfl⟩:=hcs
   exact ⟨zs,.inr ⟨_,rfl,hl,hm,by simpa using hz,hcell,hwz⟩⟩
 clear hA0 hval0
 refine (walk a0 a1 len1 cap1 z1 W (ly hL hsh) w0 w1).mono fun e W' ⟨he,bel⟩=>?_
 subst he
 exact ⟨_,rfl,_,_,_,[],_,[],hW',trodAll_mk1 (shut_bool Tryz.underlying4 _),(trodAll_cons_mk (shut_int Tryz.underlying5 w0) (trodAll_cons_mk (Below.trod laidOut (by kernel_rfl) (of_decide_eq_true (by kernel_rfl)) k1 bel lt1) trodAll_mk0)),rfl,bel.frame _,fun h=>by cases h⟩
theorem said:Rows.SanitizeWordsSaid:=
 OpenClaim.holds_of_cond 6 Tryz.f6 rfl rfl rfl rfl rfl rfl rfl ⟨rfl,rfl,rfl,rfl,rfl⟩ rfl rfl rfl rfl rfl (by kernel_rfl) Tryz.func6 (by kernel_rfl) (of_decide_eq_true (by kernel_rfl)) (by unfold Func.isWrapper;first|(rw [if_pos (by decide+kernel)];kernel_rfl)|(rw [if_neg (by decide+kernel)];exact ⟨rfl,rfl⟩)) (fun os started H enc _ F=>by rw [OpenClaim.pre_eq_preRow];exact lifted os started H enc F)
theorem plain (f:FuncId) (fn:Func) (hf:Tryz.pinned.checked.prog.funcNamed "flail/flaillaw22.SanitizeWords" =some f) (hfn:Tryz.pinned.checked.prog.funcs[f]? =some fn):true=Tryz.pinned.checked.prog.looks []∧∀(j:Nat) t,fn.params[j]? =some t→Tryz.pinned.checked.prog.wantsStandIn t=false:=by
 obtain rfl:f=6:=Option.some.inj ((show Tryz.prog.funcNamed "flail/flaillaw22.SanitizeWords" =some 6 by kernel_rfl).symm.trans hf) |>.symm
 obtain rfl:fn=Tryz.f6:=(Option.some.inj (Tryz.func6.symm.trans hfn)).symm
 refine ⟨by kernel_rfl,fun j t ht=>?_⟩
 rw [Tryz.params6] at ht
 have hm:t∈[5,22]:=by first|simpa using Array.mem_of_getElem? ht|(have h:=Array.mem_of_getElem? ht;simp at h⊢;grind)
 have hall:([5,22].all fun u=> !Tryz.prog.wantsStandIn u)=true:=by kernel_rfl
 exact (show Tryz.prog.wantsStandIn t=false by simpa using List.all_eq_true.1 hall t hm)
theorem proved:Rows.SanitizeWordsCardSaid:=
 Claim7.holds_tied_plain_at .later [] _ _ _ _ said (fun _ h=>by cases h) (by kernel_rfl) (fun _ h=>by cases h) sanitizeWords_row_tie rfl ⟨rfl,rfl⟩ (by kernel_rfl) rfl plain (by kernel_rfl)
end Go.Proofs.YtajpoodpbbbkfaaGreatDoor.sanitizeWords
