/-
  Texts laid together: UtfRefFirst, UtfRefFirstB, UtfRefSeq, UtfRefDec.
-/
import Derived.Test.YtajpoodpbbbkfaaGreatDoorUB
import Derived.Deep.QuietTactic
import Derived.BigQuiet
import Derived.Deep.RegionHeld3
set_option maxHeartbeats 8000000
set_option maxRecDepth 100000
namespace Go.Proofs.YtajpoodpbbbkfaaGreatDoor
open Go.RowKit Go.Lib
def rm (w:World) (e:Ending) (w':World):Prop:=∃f t:Int,e= .returned (.tuple #[.int .i64 f,.int .i64 t])∧0≤f∧(f==t)=false∧w=w'
def t7 (w:World) (e:Ending) (w':World):Prop:=e= .returned (.tuple #[.int .i64 (-1),.int .i64 (-1)])∧w=w'
def OL (n:Int) (w:World) (e:Ending) (w':World):Prop:=e= .returned (.tuple #[.int .i64 n,.int .i64 n])∧w=w'
def aB (w:World) (x:Addr) (k cap:Nat) (post:World→Ending→World→Prop):Prop:=
 ∀w',w'.heap=w.heap→Calls Tryz.prog 133 #[.slice (some x) k cap] w' (post w')
theorem mM (b0:Int) (x:Addr) (w:World) (len cap:Nat) (c0:w.cell? x=some (.int .u8 b0)) (hb0:128≤b0) (hl1:1≤len) (hl:len≤cap) (hm:len≤1099511627776) (L1:aB w x 1 cap t7):Calls Tryz.prog 83 #[.slice (some x) len cap] w fun e w'=>e= .returned (.tuple #[.int .i64 1,.bool false])∧Below w.heap.size w w':=by
 have H1:=Lib.hid L1
 clear L1
 go_enter Tryz.func83,Tryz.ntmps83
 go_wp2
 refine wp_loop_rounds 1 ?_
 rw [rounds_succ]
 go_wp2_with (fail)
 refine (H1.out _ (by rfl)).mono ?_
 rintro e w' ⟨rfl,rfl⟩
 go_wp2_with (fail)
 go_ret2
 exact ⟨rfl,by repeat (first|exact Below.refl _ _|exact below_drewN (Below.refl _ _) _|refine below_drewN ?_ _)⟩
theorem mO (b0:Int) (x:Addr) (w:World) (len cap:Nat) (c0:w.cell? x=some (.int .u8 b0)) (hb0:128≤b0) (hl1:2≤len) (hl:len≤cap) (hm:len≤1099511627776) (L1:aB w x 1 cap rm) (L2:aB w x 2 cap t7):Calls Tryz.prog 83 #[.slice (some x) len cap] w fun e w'=>e= .returned (.tuple #[.int .i64 1,.bool false])∧Below w.heap.size w w':=by
 have H1:=Lib.hid L1
 clear L1
 have H2:=Lib.hid L2
 clear L2
 go_enter Tryz.func83,Tryz.ntmps83
 go_wp2
 refine wp_loop_rounds 2 ?_
 rw [rounds_succ]
 go_wp2_with (fail)
 refine (H1.out _ (by rfl)).mono ?_
 rintro e w1 ⟨f1,t1,rfl,hf1,hft1,rfl⟩
 go_wp2_with (fail)
 go_quiet (fail)
 go_wp2_with (fail)
 rw [rounds_succ]
 go_wp2_with (fail)
 refine (H2.out _ (by rfl)).mono ?_
 rintro e w' ⟨rfl,rfl⟩
 go_wp2_with (fail)
 go_ret2
 exact ⟨rfl,by repeat (first|exact Below.refl _ _|exact below_drewN (Below.refl _ _) _|refine below_drewN ?_ _)⟩
theorem mP (b0:Int) (x:Addr) (w:World) (len cap:Nat) (c0:w.cell? x=some (.int .u8 b0)) (hb0:128≤b0) (hl1:3≤len) (hl:len≤cap) (hm:len≤1099511627776) (L1:aB w x 1 cap rm) (L2:aB w x 2 cap rm) (L3:aB w x 3 cap t7):Calls Tryz.prog 83 #[.slice (some x) len cap] w fun e w'=>e= .returned (.tuple #[.int .i64 2,.bool false])∧Below w.heap.size w w':=by
 have H1:=Lib.hid L1
 clear L1
 have H2:=Lib.hid L2
 clear L2
 have H3:=Lib.hid L3
 clear L3
 go_enter Tryz.func83,Tryz.ntmps83
 go_wp2
 refine wp_loop_rounds 3 ?_
 rw [rounds_succ]
 go_wp2_with (fail)
 refine (H1.out _ (by rfl)).mono ?_
 rintro e w1 ⟨f1,t1,rfl,hf1,hft1,rfl⟩
 go_wp2_with (fail)
 go_quiet (fail)
 go_wp2_with (fail)
 rw [rounds_succ]
 go_wp2_with (fail)
 refine (H2.out _ (by rfl)).mono ?_
 rintro e w2 ⟨f2,t2,rfl,hf2,hft2,rfl⟩
 go_wp2_with (fail)
 go_quiet (fail)
 go_wp2_with (fail)
 rw [rounds_succ]
 go_wp2_with (fail)
 refine (H3.out _ (by rfl)).mono ?_
 rintro e w' ⟨rfl,rfl⟩
 go_wp2_with (fail)
 go_ret2
 exact ⟨rfl,by repeat (first|exact Below.refl _ _|exact below_drewN (Below.refl _ _) _|refine below_drewN ?_ _)⟩
theorem wC (b0:Int) (x:Addr) (w:World) (len cap:Nat) (c0:w.cell? x=some (.int .u8 b0)) (hb0:128≤b0) (hl1:4≤len) (hl:len≤cap) (hm:len≤1099511627776) (L1:aB w x 1 cap rm) (L2:aB w x 2 cap rm) (L3:aB w x 3 cap rm) (L4:aB w x 4 cap t7):Calls Tryz.prog 83 #[.slice (some x) len cap] w fun e w'=>e= .returned (.tuple #[.int .i64 3,.bool false])∧Below w.heap.size w w':=by
 have H1:=Lib.hid L1
 clear L1
 have H2:=Lib.hid L2
 clear L2
 have H3:=Lib.hid L3
 clear L3
 have H4:=Lib.hid L4
 clear L4
 go_enter Tryz.func83,Tryz.ntmps83
 go_wp2
 refine wp_loop_rounds 4 ?_
 rw [rounds_succ]
 go_wp2_with (fail)
 refine (H1.out _ (by rfl)).mono ?_
 rintro e w1 ⟨f1,t1,rfl,hf1,hft1,rfl⟩
 go_wp2_with (fail)
 go_quiet (fail)
 go_wp2_with (fail)
 rw [rounds_succ]
 go_wp2_with (fail)
 refine (H2.out _ (by rfl)).mono ?_
 rintro e w2 ⟨f2,t2,rfl,hf2,hft2,rfl⟩
 go_wp2_with (fail)
 go_quiet (fail)
 go_wp2_with (fail)
 rw [rounds_succ]
 go_wp2_with (fail)
 refine (H3.out _ (by rfl)).mono ?_
 rintro e w3 ⟨f3,t3,rfl,hf3,hft3,rfl⟩
 go_wp2_with (fail)
 go_quiet (fail)
 go_wp2_with (fail)
 rw [rounds_succ]
 go_wp2_with (fail)
 refine (H4.out _ (by rfl)).mono ?_
 rintro e w' ⟨rfl,rfl⟩
 go_wp2_with (fail)
 go_ret2
 exact ⟨rfl,by repeat (first|exact Below.refl _ _|exact below_drewN (Below.refl _ _) _|refine below_drewN ?_ _)⟩
theorem nP (b0:Int) (x:Addr) (w:World) (len cap:Nat) (c0:w.cell? x=some (.int .u8 b0)) (hb0:128≤b0) (hl1:1≤len) (hl2:len≤1) (hl:len≤cap) (L1:aB w x 1 cap rm):Calls Tryz.prog 83 #[.slice (some x) len cap] w fun e w'=>e= .returned (.tuple #[.int .i64 1,.bool false])∧Below w.heap.size w w':=by
 have H1:=Lib.hid L1
 clear L1
 go_enter Tryz.func83,Tryz.ntmps83
 go_wp2
 refine wp_loop_rounds 2 ?_
 rw [rounds_succ]
 go_wp2_with (fail)
 refine (H1.out _ (by rfl)).mono ?_
 rintro e w1 ⟨f1,t1,rfl,hf1,hft1,rfl⟩
 go_wp2_with (fail)
 go_quiet (fail)
 go_wp2_with (fail)
 rw [rounds_succ]
 go_wp2_with (fail)
 go_ret2
 exact ⟨rfl,by repeat (first|exact Below.refl _ _|exact below_drewN (Below.refl _ _) _|refine below_drewN ?_ _)⟩
theorem tW (b0:Int) (x:Addr) (w:World) (len cap:Nat) (c0:w.cell? x=some (.int .u8 b0)) (hb0:128≤b0) (hl1:2≤len) (hl2:len≤2) (hl:len≤cap) (L1:aB w x 1 cap rm) (L2:aB w x 2 cap rm):Calls Tryz.prog 83 #[.slice (some x) len cap] w fun e w'=>e= .returned (.tuple #[.int .i64 2,.bool false])∧Below w.heap.size w w':=by
 have H1:=Lib.hid L1
 clear L1
 have H2:=Lib.hid L2
 clear L2
 go_enter Tryz.func83,Tryz.ntmps83
 go_wp2
 refine wp_loop_rounds 3 ?_
 rw [rounds_succ]
 go_wp2_with (fail)
 refine (H1.out _ (by rfl)).mono ?_
 rintro e w1 ⟨f1,t1,rfl,hf1,hft1,rfl⟩
 go_wp2_with (fail)
 go_quiet (fail)
 go_wp2_with (fail)
 rw [rounds_succ]
 go_wp2_with (fail)
 refine (H2.out _ (by rfl)).mono ?_
 rintro e w2 ⟨f2,t2,rfl,hf2,hft2,rfl⟩
 go_wp2_with (fail)
 go_quiet (fail)
 go_wp2_with (fail)
 rw [rounds_succ]
 go_wp2_with (fail)
 go_ret2
 exact ⟨rfl,by repeat (first|exact Below.refl _ _|exact below_drewN (Below.refl _ _) _|refine below_drewN ?_ _)⟩
theorem Dd (b0:Int) (x:Addr) (w:World) (len cap:Nat) (c0:w.cell? x=some (.int .u8 b0)) (hb0:128≤b0) (hl1:3≤len) (hl2:len≤3) (hl:len≤cap) (L1:aB w x 1 cap rm) (L2:aB w x 2 cap rm) (L3:aB w x 3 cap rm):Calls Tryz.prog 83 #[.slice (some x) len cap] w fun e w'=>e= .returned (.tuple #[.int .i64 3,.bool false])∧Below w.heap.size w w':=by
 have H1:=Lib.hid L1
 clear L1
 have H2:=Lib.hid L2
 clear L2
 have H3:=Lib.hid L3
 clear L3
 go_enter Tryz.func83,Tryz.ntmps83
 go_wp2
 refine wp_loop_rounds 4 ?_
 rw [rounds_succ]
 go_wp2_with (fail)
 refine (H1.out _ (by rfl)).mono ?_
 rintro e w1 ⟨f1,t1,rfl,hf1,hft1,rfl⟩
 go_wp2_with (fail)
 go_quiet (fail)
 go_wp2_with (fail)
 rw [rounds_succ]
 go_wp2_with (fail)
 refine (H2.out _ (by rfl)).mono ?_
 rintro e w2 ⟨f2,t2,rfl,hf2,hft2,rfl⟩
 go_wp2_with (fail)
 go_quiet (fail)
 go_wp2_with (fail)
 rw [rounds_succ]
 go_wp2_with (fail)
 refine (H3.out _ (by rfl)).mono ?_
 rintro e w3 ⟨f3,t3,rfl,hf3,hft3,rfl⟩
 go_wp2_with (fail)
 go_quiet (fail)
 go_wp2_with (fail)
 rw [rounds_succ]
 go_wp2_with (fail)
 go_ret2
 exact ⟨rfl,by repeat (first|exact Below.refl _ _|exact below_drewN (Below.refl _ _) _|refine below_drewN ?_ _)⟩
end Go.Proofs.YtajpoodpbbbkfaaGreatDoor
namespace Go.Proofs.YtajpoodpbbbkfaaGreatDoor
open Go.RowKit Go.Lib
theorem GJ (b0:Int) (x:Addr) (w:World) (len cap:Nat) (c0:w.cell? x=some (.int .u8 b0)) (hb0:128≤b0) (hl1:2≤len) (hl:len≤cap) (hm:len≤1099511627776) (L1:aB w x 1 cap rm) (n:Int) (hn:0≤n) (S:ByteArray) (L2:aB w x 2 cap (OL n)) (HS:Hid ((⟨(encodeRune n).toArray⟩:ByteArray)=S)) (vC:∀w',Below w.heap.size w w'→(convert 22 9 (.slice (some x) 2 cap)).run Tryz.prog w'= .ok (.string S) w'):Calls Tryz.prog 83 #[.slice (some x) len cap] w fun e w'=>e= .returned (.tuple #[.int .i64 2,.bool true])∧Below w.heap.size w w':=by
 have H1:=Lib.hid L1
 clear L1
 have H2:=Lib.hid L2
 clear L2
 have hk1:2≤cap:=by omega
 have hk2:(2:Int)≤(cap:Int):=by omega
 have hk3:(2:Int)≤(len:Int):=by omega
 go_enter Tryz.func83,Tryz.ntmps83
 go_wp2
 refine wp_loop_rounds 2 ?_
 rw [rounds_succ]
 go_wp2_with (fail)
 refine (H1.out _ (by rfl)).mono ?_
 rintro e w1 ⟨f1,t1,rfl,hf1,hft1,rfl⟩
 go_wp2_with (fail)
 go_quiet (fail)
 go_wp2_with (fail)
 rw [rounds_succ]
 go_wp2_with (fail)
 refine (H2.out _ (by rfl)).mono ?_
 rintro e w' ⟨rfl,rfl⟩
 go_wp2_with (fail)
 have VC:=Lib.hid vC
 clear vC
 go_region_held3 (fun w'=>(convert 22 9 (.slice (some x) 2 cap)).run Tryz.prog w'= .ok (.string S) w'∧Below w.heap.size w w') (first|exact ⟨VC.out _ ‹_›,‹_›⟩|(refine ⟨VC.out _ ?_,?_⟩<;>repeat (first|exact Below.refl _ _|refine Below.drew ?_|refine below_drewN ?_ _))) (first|(go_at_call 134;refine (lS n _).mono ?_;rintro e w' ⟨rfl,hbS⟩;have hw':=Below.trans (a:=w) (by repeat (first|exact Below.refl _ _|refine Below.drew ?_|refine below_drewN ?_ _)) hbS;rw [HS.out]))
 all_goals
  go_wp2
  go_ret2
  exact ⟨rfl,‹_›⟩
theorem GK (b0:Int) (x:Addr) (w:World) (len cap:Nat) (c0:w.cell? x=some (.int .u8 b0)) (hb0:128≤b0) (hl1:3≤len) (hl:len≤cap) (hm:len≤1099511627776) (L1:aB w x 1 cap rm) (L2:aB w x 2 cap rm) (n:Int) (hn:0≤n) (S:ByteArray) (L3:aB w x 3 cap (OL n)) (HS:Hid ((⟨(encodeRune n).toArray⟩:ByteArray)=S)) (vC:∀w',Below w.heap.size w w'→(convert 22 9 (.slice (some x) 3 cap)).run Tryz.prog w'= .ok (.string S) w'):Calls Tryz.prog 83 #[.slice (some x) len cap] w fun e w'=>e= .returned (.tuple #[.int .i64 3,.bool true])∧Below w.heap.size w w':=by
 have H1:=Lib.hid L1
 clear L1
 have H2:=Lib.hid L2
 clear L2
 have H3:=Lib.hid L3
 clear L3
 have hk1:3≤cap:=by omega
 have hk2:(3:Int)≤(cap:Int):=by omega
 have hk3:(3:Int)≤(len:Int):=by omega
 go_enter Tryz.func83,Tryz.ntmps83
 go_wp2
 refine wp_loop_rounds 3 ?_
 rw [rounds_succ]
 go_wp2_with (fail)
 refine (H1.out _ (by rfl)).mono ?_
 rintro e w1 ⟨f1,t1,rfl,hf1,hft1,rfl⟩
 go_wp2_with (fail)
 go_quiet (fail)
 go_wp2_with (fail)
 rw [rounds_succ]
 go_wp2_with (fail)
 refine (H2.out _ (by rfl)).mono ?_
 rintro e w2 ⟨f2,t2,rfl,hf2,hft2,rfl⟩
 go_wp2_with (fail)
 go_quiet (fail)
 go_wp2_with (fail)
 rw [rounds_succ]
 go_wp2_with (fail)
 refine (H3.out _ (by rfl)).mono ?_
 rintro e w' ⟨rfl,rfl⟩
 go_wp2_with (fail)
 have VC:=Lib.hid vC
 clear vC
 go_region_held3 (fun w'=>(convert 22 9 (.slice (some x) 3 cap)).run Tryz.prog w'= .ok (.string S) w'∧Below w.heap.size w w') (first|exact ⟨VC.out _ ‹_›,‹_›⟩|(refine ⟨VC.out _ ?_,?_⟩<;>repeat (first|exact Below.refl _ _|refine Below.drew ?_|refine below_drewN ?_ _))) (first|(go_at_call 134;refine (lS n _).mono ?_;rintro e w' ⟨rfl,hbS⟩;have hw':=Below.trans (a:=w) (by repeat (first|exact Below.refl _ _|refine Below.drew ?_|refine below_drewN ?_ _)) hbS;rw [HS.out]))
 all_goals
  go_wp2
  go_ret2
  exact ⟨rfl,‹_›⟩
theorem GL (b0:Int) (x:Addr) (w:World) (len cap:Nat) (c0:w.cell? x=some (.int .u8 b0)) (hb0:128≤b0) (hl1:4≤len) (hl:len≤cap) (hm:len≤1099511627776) (L1:aB w x 1 cap rm) (L2:aB w x 2 cap rm) (L3:aB w x 3 cap rm) (n:Int) (hn:0≤n) (S:ByteArray) (L4:aB w x 4 cap (OL n)) (HS:Hid ((⟨(encodeRune n).toArray⟩:ByteArray)=S)) (vC:∀w',Below w.heap.size w w'→(convert 22 9 (.slice (some x) 4 cap)).run Tryz.prog w'= .ok (.string S) w'):Calls Tryz.prog 83 #[.slice (some x) len cap] w fun e w'=>e= .returned (.tuple #[.int .i64 4,.bool true])∧Below w.heap.size w w':=by
 have H1:=Lib.hid L1
 clear L1
 have H2:=Lib.hid L2
 clear L2
 have H3:=Lib.hid L3
 clear L3
 have H4:=Lib.hid L4
 clear L4
 have hk1:4≤cap:=by omega
 have hk2:(4:Int)≤(cap:Int):=by omega
 have hk3:(4:Int)≤(len:Int):=by omega
 go_enter Tryz.func83,Tryz.ntmps83
 go_wp2
 refine wp_loop_rounds 4 ?_
 rw [rounds_succ]
 go_wp2_with (fail)
 refine (H1.out _ (by rfl)).mono ?_
 rintro e w1 ⟨f1,t1,rfl,hf1,hft1,rfl⟩
 go_wp2_with (fail)
 go_quiet (fail)
 go_wp2_with (fail)
 rw [rounds_succ]
 go_wp2_with (fail)
 refine (H2.out _ (by rfl)).mono ?_
 rintro e w2 ⟨f2,t2,rfl,hf2,hft2,rfl⟩
 go_wp2_with (fail)
 go_quiet (fail)
 go_wp2_with (fail)
 rw [rounds_succ]
 go_wp2_with (fail)
 refine (H3.out _ (by rfl)).mono ?_
 rintro e w3 ⟨f3,t3,rfl,hf3,hft3,rfl⟩
 go_wp2_with (fail)
 go_quiet (fail)
 go_wp2_with (fail)
 rw [rounds_succ]
 go_wp2_with (fail)
 refine (H4.out _ (by rfl)).mono ?_
 rintro e w' ⟨rfl,rfl⟩
 go_wp2_with (fail)
 have VC:=Lib.hid vC
 clear vC
 go_region_held3 (fun w'=>(convert 22 9 (.slice (some x) 4 cap)).run Tryz.prog w'= .ok (.string S) w'∧Below w.heap.size w w') (first|exact ⟨VC.out _ ‹_›,‹_›⟩|(refine ⟨VC.out _ ?_,?_⟩<;>repeat (first|exact Below.refl _ _|refine Below.drew ?_|refine below_drewN ?_ _))) (first|(go_at_call 134;refine (lS n _).mono ?_;rintro e w' ⟨rfl,hbS⟩;have hw':=Below.trans (a:=w) (by repeat (first|exact Below.refl _ _|refine Below.drew ?_|refine below_drewN ?_ _)) hbS;rw [HS.out]))
 all_goals
  go_wp2
  go_ret2
  exact ⟨rfl,‹_›⟩
end Go.Proofs.YtajpoodpbbbkfaaGreatDoor
namespace Go.Proofs.YtajpoodpbbbkfaaGreatDoor
open Go.RowKit Go.Lib
def fm (l:List UInt8):Nat × Bool:=if brk l then (dv l,false) else ((decodeL l).2,true)
theorem qs {F T:Int} {w w':World} {e:Ending} (h:cj (iu F T) w e w') (h0:0≤F) (h1:F<T) (h2:¬(55296≤F∧T≤57343)):rm w e w':=by
 obtain ⟨f,t,rfl,hp,hw⟩:=h
 unfold iu at hp
 rw [if_neg (by omega)] at hp
 injection hp with h3 h4
 subst h3;subst h4
 exact ⟨_,_,rfl,h0,by simp;omega,hw⟩
theorem yk {F T:Int} {w w':World} {e:Ending} (h:cj (iu F T) w e w') (h2:(55296≤F∧T≤57343)∨T<F):t7 w e w':=by
 obtain ⟨f,t,rfl,hp,hw⟩:=h
 unfold iu at hp
 rw [if_pos h2] at hp
 injection hp with h3 h4
 subst h3;subst h4
 exact ⟨rfl,hw⟩
theorem dt {w w':World} {e:Ending} (h:cj (-1,-1) w e w'):t7 w e w':=by
 obtain ⟨f,t,rfl,hp,hw⟩:=h
 injection hp with h3 h4
 subst h3;subst h4
 exact ⟨rfl,hw⟩
theorem Df {F T n:Int} {w w':World} {e:Ending} (h:cj (iu F T) w e w') (h0:F=n) (h1:T=n) (h2:¬(55296≤n∧n≤57343)):OL n w e w':=by
 subst h0;subst h1
 obtain ⟨f,t,rfl,hp,hw⟩:=h
 unfold iu at hp
 rw [if_neg (by omega)] at hp
 injection hp with h3 h4
 subst h3;subst h4
 exact ⟨rfl,hw⟩
theorem po (l:List UInt8) (k:Nat) (h1:decodeN l.length (l.getD 0 0).toNat (l.getD 1 0).toNat (l.getD 2 0).toNat (l.getD 3 0).toNat=(65533,1)) (h2:dT l.length (l.getD 0 0).toNat (l.getD 1 0).toNat (l.getD 2 0).toNat=k):fm l=(k,false):=by
 have hb:brk l=true:=by rw [nW,decodeL_N];exact h1
 unfold fm
 rw [hb,if_pos rfl]
 unfold dv
 rw [h2]
theorem qt (l:List UInt8) (n k:Nat) (hk:2≤k) (h1:decodeN l.length (l.getD 0 0).toNat (l.getD 1 0).toNat (l.getD 2 0).toNat (l.getD 3 0).toNat=(n,k)):fm l=(k,true)∧brk l=false∧decodeL l=(n,k):=by
 have hd:decodeL l=(n,k):=by rw [decodeL_N];exact h1
 have hb:brk l=false:=by
  rw [Bool.eq_false_iff]
  intro h
  rw [nW,hd] at h
  have:=congrArg Prod.snd h
  simp only at this
  omega
 unfold fm
 rw [hb,hd]
 exact ⟨rfl,rfl,rfl⟩
theorem ah {w w':World} (h:w'.heap=w.heap) (a:Addr):w'.cell? a=w.cell? a:=by simp [World.cell?,h]
theorem GM (b0:Int) (x:Addr) (w:World) (len cap:Nat) (c0:w.cell? x=some (.int .u8 b0)) (hb0:b0<128) (hl1:1≤len):Calls Tryz.prog 83 #[.slice (some x) len cap] w fun e w'=>e= .returned (.tuple #[.int .i64 1,.bool true])∧Below w.heap.size w w':=by
 go_enter Tryz.func83,Tryz.ntmps83
 go_wp2
 go_ret2
 exact ⟨rfl,Below.refl _ _⟩
theorem ar.convTake {w:World} {x:Addr} {len cap:Nat} {l:List UInt8} (h:ar w (.slice (some x) len cap) l) (k:Nat) (hk:k≤len) (hk0:0<k):∀w',Below w.heap.size w w'→(convert 22 9 (.slice (some x) k cap)).run Tryz.prog w'= .ok (.string ⟨(l.take k).toArray⟩) w':=by
 intro w' hb
 have hl:=h.cap
 have hs:ar w (.slice (some x) k cap) (l.take k):=by
  obtain ⟨y,hy,hc⟩:=h.cell (by omega)
  injection hy with hy
  subst hy
  have e:(l.take k).length=k:=by rw [List.length_take];omega
  refine .inr ⟨x,cap,by rw [e],by rw [e];omega,?_,fun i hi=>?_⟩
  ·rcases h with ⟨hv,_⟩|⟨z,c,hv,_,h2,_⟩
   ·cases hv
   ·injection hv with h3 h4 h5;subst h5;exact h2
  ·rw [List.getElem_take]
   exact hc i (by rw [e] at hi;omega)
 exact hs.conv_kept hb
theorem KI (l:List UInt8) (x:Addr) (w:World) (len cap:Nat) (h:ar w (.slice (some x) len cap) l) (hm:len≤1099511627776) (hl0:1≤len) (b0 b1 b2 b3:Nat) (e0:(l.getD 0 0).toNat=b0) (e1:(l.getD 1 0).toNat=b1) (e2:(l.getD 2 0).toNat=b2) (e3:(l.getD 3 0).toNat=b3) (hb0:192≤b0) (hb0':b0<224):Calls Tryz.prog 83 #[.slice (some x) len cap] w fun e w'=>e= .returned (.tuple #[.int .i64 ((fm l).1:Int),.bool (fm l).2])∧Below w.heap.size w w':=by
 have hl:=h.cap
 have u1:b1<256:=by rw [←e1];exact (l.getD 1 0).toNat_lt
 have u2:b2<256:=by rw [←e2];exact (l.getD 2 0).toNat_lt
 have u3:b3<256:=by rw [←e3];exact (l.getD 3 0).toNat_lt
 have c0:w.cell? x=some (.int .u8 (b0:Int)):=by have:=h.cellAt 0 hl0;rwa [e0,show x.add 0=x by simp [Addr.add]] at this
 have c1:1<len→w.cell? ⟨x.block,x.off+1,none⟩=some (.int .u8 (b1:Int)):=fun hk=>by have:=h.cellAt 1 hk;rwa [e1,fg x 1 (by omega)] at this
 have c2:2<len→w.cell? ⟨x.block,x.off+2,none⟩=some (.int .u8 (b2:Int)):=fun hk=>by have:=h.cellAt 2 hk;rwa [e2,fg x 2 (by omega)] at this
 have c3:3<len→w.cell? ⟨x.block,x.off+3,none⟩=some (.int .u8 (b3:Int)):=fun hk=>by have:=h.cellAt 3 hk;rwa [e3,fg x 3 (by omega)] at this
 have bad:∀k:Nat,decodeN len b0 b1 b2 b3=(65533,1)→dT len b0 b1 b2=k→fm l=(k,false):=fun k h1 h2=>po l k (by rw [hl.1,e0,e1,e2,e3];exact h1) (by rw [hl.1,e0,e1,e2];exact h2)
 have good:∀n k:Nat,2≤k→decodeN len b0 b1 b2 b3=(n,k)→fm l=(k,true)∧brk l=false∧decodeL l=(n,k):=fun n k hk h1=>qt l n k hk (by rw [hl.1,e0,e1,e2,e3];exact h1)
 have hne:l≠[]:=by intro h0;rw [h0] at hl;simp at hl;omega
 by_cases g1:b0<194
 ·have L1:aB w x 1 cap t7:=fun w' hw'=>(AE (b0:Int) (by omega) (by omega) x w' cap (by rw [ah hw'];exact c0)).mono fun e w'' hh=>yk hh (by omega)
  have hs:=bad 1 (by
   unfold decodeN;repeat' split
   all_goals first|rfl|(exfalso;omega)) (by
   unfold dT;repeat' split
   all_goals first|rfl|(exfalso;omega))
  rw [hs]
  exact mM (b0:Int) x w len cap c0 (by omega) hl0 hl.2 hm L1
 have L1:aB w x 1 cap rm:=fun w' hw'=>(AE (b0:Int) (by omega) (by omega) x w' cap (by rw [ah hw'];exact c0)).mono fun e w'' hh=>qs hh (by omega) (by omega) (by omega)
 by_cases n2:len≤1
 ·have hl0':1≤len:=by omega
  have hs:=bad 1 (by
   unfold decodeN;repeat' split
   all_goals first|rfl|(exfalso;omega)) (by
   unfold dT;repeat' split
   all_goals first|rfl|(exfalso;omega))
  rw [hs]
  exact nP (b0:Int) x w len cap c0 (by omega) hl0' n2 hl.2 L1
 by_cases lo2:b1<128
 ·have L2:aB w x 2 cap t7:=fun w' hw'=>(AF (b0:Int) (b1:Int) (by omega) (by omega) (by omega) (by omega) x w' cap (by rw [ah hw'];exact c0) (by rw [ah hw'];exact (c1 (by omega)))).mono fun e w'' hh=>dt hh
  have hs:=bad 1 (by
   unfold decodeN;repeat' split
   all_goals first|rfl|(exfalso;omega)) (by
   unfold dT;repeat' split
   all_goals first|rfl|(exfalso;omega))
  rw [hs]
  exact mO (b0:Int) x w len cap c0 (by omega) (by omega) hl.2 hm L1 L2
 by_cases hi2:192≤b1
 ·have L2:aB w x 2 cap t7:=fun w' hw'=>(AG (b0:Int) (b1:Int) (by omega) (by omega) (by omega) (by omega) x w' cap (by rw [ah hw'];exact c0) (by rw [ah hw'];exact (c1 (by omega)))).mono fun e w'' hh=>dt hh
  have hs:=bad 1 (by
   unfold decodeN;repeat' split
   all_goals first|rfl|(exfalso;omega)) (by
   unfold dT;repeat' split
   all_goals first|rfl|(exfalso;omega))
  rw [hs]
  exact mO (b0:Int) x w len cap c0 (by omega) (by omega) hl.2 hm L1 L2
 obtain ⟨hs,hk,hd⟩:=good (b0%32*64+b1%64) 2 (by omega) (by
  unfold decodeN;repeat' split
  all_goals first|rfl|(exfalso;omega))
 have hen:=ja l hne hk
 rw [hd] at hen
 have L2:aB w x 2 cap (OL ((b0%32*64+b1%64:Nat):Int)):=fun w' hw'=>(J3 (b0:Int) (b1:Int) (by omega) (by omega) (by omega) (by omega) x w' cap (by rw [ah hw'];exact c0) (by rw [ah hw'];exact (c1 (by omega)))).mono fun e w'' hh=>Df hh (by omega) (by omega) (by omega)
 rw [hs]
 exact GJ (b0:Int) x w len cap c0 (by omega) (by omega) hl.2 hm L1 _ (by omega) _ L2 (Lib.hid (by rw [hen])) (h.convTake 2 (by omega) (by omega))
theorem KJ (l:List UInt8) (x:Addr) (w:World) (len cap:Nat) (h:ar w (.slice (some x) len cap) l) (hm:len≤1099511627776) (hl0:1≤len) (b0 b1 b2 b3:Nat) (e0:(l.getD 0 0).toNat=b0) (e1:(l.getD 1 0).toNat=b1) (e2:(l.getD 2 0).toNat=b2) (e3:(l.getD 3 0).toNat=b3) (hb0:224≤b0) (hb0':b0<240):Calls Tryz.prog 83 #[.slice (some x) len cap] w fun e w'=>e= .returned (.tuple #[.int .i64 ((fm l).1:Int),.bool (fm l).2])∧Below w.heap.size w w':=by
 have hl:=h.cap
 have u1:b1<256:=by rw [←e1];exact (l.getD 1 0).toNat_lt
 have u2:b2<256:=by rw [←e2];exact (l.getD 2 0).toNat_lt
 have u3:b3<256:=by rw [←e3];exact (l.getD 3 0).toNat_lt
 have c0:w.cell? x=some (.int .u8 (b0:Int)):=by have:=h.cellAt 0 hl0;rwa [e0,show x.add 0=x by simp [Addr.add]] at this
 have c1:1<len→w.cell? ⟨x.block,x.off+1,none⟩=some (.int .u8 (b1:Int)):=fun hk=>by have:=h.cellAt 1 hk;rwa [e1,fg x 1 (by omega)] at this
 have c2:2<len→w.cell? ⟨x.block,x.off+2,none⟩=some (.int .u8 (b2:Int)):=fun hk=>by have:=h.cellAt 2 hk;rwa [e2,fg x 2 (by omega)] at this
 have c3:3<len→w.cell? ⟨x.block,x.off+3,none⟩=some (.int .u8 (b3:Int)):=fun hk=>by have:=h.cellAt 3 hk;rwa [e3,fg x 3 (by omega)] at this
 have bad:∀k:Nat,decodeN len b0 b1 b2 b3=(65533,1)→dT len b0 b1 b2=k→fm l=(k,false):=fun k h1 h2=>po l k (by rw [hl.1,e0,e1,e2,e3];exact h1) (by rw [hl.1,e0,e1,e2];exact h2)
 have good:∀n k:Nat,2≤k→decodeN len b0 b1 b2 b3=(n,k)→fm l=(k,true)∧brk l=false∧decodeL l=(n,k):=fun n k hk h1=>qt l n k hk (by rw [hl.1,e0,e1,e2,e3];exact h1)
 have hne:l≠[]:=by intro h0;rw [h0] at hl;simp at hl;omega
 have L1:aB w x 1 cap rm:=fun w' hw'=>(J4 (b0:Int) (by omega) (by omega) x w' cap (by rw [ah hw'];exact c0)).mono fun e w'' hh=>qs hh (by omega) (by omega) (by omega)
 by_cases n2:len≤1
 ·have hl0':1≤len:=by omega
  have hs:=bad 1 (by
   unfold decodeN;repeat' split
   all_goals first|rfl|(exfalso;omega)) (by
   unfold dT;repeat' split
   all_goals first|rfl|(exfalso;omega))
  rw [hs]
  exact nP (b0:Int) x w len cap c0 (by omega) hl0' n2 hl.2 L1
 by_cases lo2:b1<128
 focus
  have L2:aB w x 2 cap t7:=fun w' hw'=>(AI (b0:Int) (b1:Int) (by omega) (by omega) (by omega) (by omega) x w' cap (by rw [ah hw'];exact c0) (by rw [ah hw'];exact (c1 (by omega)))).mono fun e w'' hh=>dt hh
 rotate_left
 focus
  by_cases hi2:192≤b1
 focus
  have L2:aB w x 2 cap t7:=fun w' hw'=>(AK (b0:Int) (b1:Int) (by omega) (by omega) (by omega) (by omega) x w' cap (by rw [ah hw'];exact c0) (by rw [ah hw'];exact (c1 (by omega)))).mono fun e w'' hh=>dt hh
 rotate_left
 focus
  by_cases x2:(55296≤max (64*(64*((b0:Int)-224)+(b1:Int)-128)) 2048∧min (64*(64*((b0:Int)-224)+(b1:Int)-128)+63) 65535≤57343)∨min (64*(64*((b0:Int)-224)+(b1:Int)-128)+63) 65535<max (64*(64*((b0:Int)-224)+(b1:Int)-128)) 2048
 focus
  have L2:aB w x 2 cap t7:=fun w' hw'=>(AH (b0:Int) (b1:Int) (by omega) (by omega) (by omega) (by omega) x w' cap (by rw [ah hw'];exact c0) (by rw [ah hw'];exact (c1 (by omega)))).mono fun e w'' hh=>yk hh x2
 rotate_left
 ·have L2:aB w x 2 cap rm:=fun w' hw'=>(AH (b0:Int) (b1:Int) (by omega) (by omega) (by omega) (by omega) x w' cap (by rw [ah hw'];exact c0) (by rw [ah hw'];exact (c1 (by omega)))).mono fun e w'' hh=>qs hh (by omega) (by omega) (by omega)
  by_cases n3:len≤2
  ·have hl0':2≤len:=by omega
   have hs:=bad 2 (by
    unfold decodeN;repeat' split
    all_goals first|rfl|(exfalso;omega)) (by
    unfold dT;repeat' split
    all_goals first|rfl|(exfalso;omega))
   rw [hs]
   exact tW (b0:Int) x w len cap c0 (by omega) hl0' n3 hl.2 L1 L2
  by_cases lo3:b2<128
  ·have L3:aB w x 3 cap t7:=fun w' hw'=>(AL (b0:Int) (b1:Int) (b2:Int) (by omega) (by omega) (by omega) (by omega) (by omega) (by omega) x w' cap (by rw [ah hw'];exact c0) (by rw [ah hw'];exact (c1 (by omega))) (by rw [ah hw'];exact (c2 (by omega)))).mono fun e w'' hh=>dt hh
   have hs:=bad 2 (by
    unfold decodeN;repeat' split
    all_goals first|rfl|(exfalso;omega)) (by
    unfold dT;repeat' split
    all_goals first|rfl|(exfalso;omega))
   rw [hs]
   exact mP (b0:Int) x w len cap c0 (by omega) (by omega) hl.2 hm L1 L2 L3
  by_cases hi3:192≤b2
  ·have L3:aB w x 3 cap t7:=fun w' hw'=>(AM (b0:Int) (b1:Int) (b2:Int) (by omega) (by omega) (by omega) (by omega) (by omega) (by omega) x w' cap (by rw [ah hw'];exact c0) (by rw [ah hw'];exact (c1 (by omega))) (by rw [ah hw'];exact (c2 (by omega)))).mono fun e w'' hh=>dt hh
   have hs:=bad 2 (by
    unfold decodeN;repeat' split
    all_goals first|rfl|(exfalso;omega)) (by
    unfold dT;repeat' split
    all_goals first|rfl|(exfalso;omega))
   rw [hs]
   exact mP (b0:Int) x w len cap c0 (by omega) (by omega) hl.2 hm L1 L2 L3
  obtain ⟨hs,hk,hd⟩:=good (b0%16*4096+b1%64*64+b2%64) 3 (by omega) (by
   unfold decodeN;repeat' split
   all_goals first|rfl|(exfalso;omega))
  have hen:=ja l hne hk
  rw [hd] at hen
  have L3:aB w x 3 cap (OL ((b0%16*4096+b1%64*64+b2%64:Nat):Int)):=fun w' hw'=>(J5 (b0:Int) (b1:Int) (b2:Int) (by omega) (by omega) (by omega) (by omega) (by omega) (by omega) x w' cap (by rw [ah hw'];exact c0) (by rw [ah hw'];exact (c1 (by omega))) (by rw [ah hw'];exact (c2 (by omega)))).mono fun e w'' hh=>Df hh (by omega) (by omega) (by omega)
  rw [hs]
  exact GK (b0:Int) x w len cap c0 (by omega) (by omega) hl.2 hm L1 L2 _ (by omega) _ L3 (Lib.hid (by rw [hen])) (h.convTake 3 (by omega) (by omega))
 all_goals
  have hs:=bad 1 (by
   unfold decodeN;repeat' split
   all_goals first|rfl|(exfalso;omega)) (by
   unfold dT;repeat' split
   all_goals first|rfl|(exfalso;omega))
  rw [hs]
  exact mO (b0:Int) x w len cap c0 (by omega) (by omega) hl.2 hm L1 L2
theorem KK (l:List UInt8) (x:Addr) (w:World) (len cap:Nat) (h:ar w (.slice (some x) len cap) l) (hm:len≤1099511627776) (hl0:1≤len) (b0 b1 b2 b3:Nat) (e0:(l.getD 0 0).toNat=b0) (e1:(l.getD 1 0).toNat=b1) (e2:(l.getD 2 0).toNat=b2) (e3:(l.getD 3 0).toNat=b3) (hb0:240≤b0) (hb0':b0<248):Calls Tryz.prog 83 #[.slice (some x) len cap] w fun e w'=>e= .returned (.tuple #[.int .i64 ((fm l).1:Int),.bool (fm l).2])∧Below w.heap.size w w':=by
 have hl:=h.cap
 have u1:b1<256:=by rw [←e1];exact (l.getD 1 0).toNat_lt
 have u2:b2<256:=by rw [←e2];exact (l.getD 2 0).toNat_lt
 have u3:b3<256:=by rw [←e3];exact (l.getD 3 0).toNat_lt
 have c0:w.cell? x=some (.int .u8 (b0:Int)):=by have:=h.cellAt 0 hl0;rwa [e0,show x.add 0=x by simp [Addr.add]] at this
 have c1:1<len→w.cell? ⟨x.block,x.off+1,none⟩=some (.int .u8 (b1:Int)):=fun hk=>by have:=h.cellAt 1 hk;rwa [e1,fg x 1 (by omega)] at this
 have c2:2<len→w.cell? ⟨x.block,x.off+2,none⟩=some (.int .u8 (b2:Int)):=fun hk=>by have:=h.cellAt 2 hk;rwa [e2,fg x 2 (by omega)] at this
 have c3:3<len→w.cell? ⟨x.block,x.off+3,none⟩=some (.int .u8 (b3:Int)):=fun hk=>by have:=h.cellAt 3 hk;rwa [e3,fg x 3 (by omega)] at this
 have bad:∀k:Nat,decodeN len b0 b1 b2 b3=(65533,1)→dT len b0 b1 b2=k→fm l=(k,false):=fun k h1 h2=>po l k (by rw [hl.1,e0,e1,e2,e3];exact h1) (by rw [hl.1,e0,e1,e2];exact h2)
 have good:∀n k:Nat,2≤k→decodeN len b0 b1 b2 b3=(n,k)→fm l=(k,true)∧brk l=false∧decodeL l=(n,k):=fun n k hk h1=>qt l n k hk (by rw [hl.1,e0,e1,e2,e3];exact h1)
 have hne:l≠[]:=by intro h0;rw [h0] at hl;simp at hl;omega
 by_cases g1:244<b0
 ·have L1:aB w x 1 cap t7:=fun w' hw'=>(AN (b0:Int) (by omega) (by omega) x w' cap (by rw [ah hw'];exact c0)).mono fun e w'' hh=>yk hh (by omega)
  have hs:=bad 1 (by
   unfold decodeN;repeat' split
   all_goals first|rfl|(exfalso;omega)) (by
   unfold dT;repeat' split
   all_goals first|rfl|(exfalso;omega))
  rw [hs]
  exact mM (b0:Int) x w len cap c0 (by omega) hl0 hl.2 hm L1
 have L1:aB w x 1 cap rm:=fun w' hw'=>(AN (b0:Int) (by omega) (by omega) x w' cap (by rw [ah hw'];exact c0)).mono fun e w'' hh=>qs hh (by omega) (by omega) (by omega)
 by_cases n2:len≤1
 ·have hl0':1≤len:=by omega
  have hs:=bad 1 (by
   unfold decodeN;repeat' split
   all_goals first|rfl|(exfalso;omega)) (by
   unfold dT;repeat' split
   all_goals first|rfl|(exfalso;omega))
  rw [hs]
  exact nP (b0:Int) x w len cap c0 (by omega) hl0' n2 hl.2 L1
 by_cases lo2:b1<128
 focus
  have L2:aB w x 2 cap t7:=fun w' hw'=>(AP (b0:Int) (b1:Int) (by omega) (by omega) (by omega) (by omega) x w' cap (by rw [ah hw'];exact c0) (by rw [ah hw'];exact (c1 (by omega)))).mono fun e w'' hh=>dt hh
 rotate_left
 focus
  by_cases hi2:192≤b1
 focus
  have L2:aB w x 2 cap t7:=fun w' hw'=>(AQ (b0:Int) (b1:Int) (by omega) (by omega) (by omega) (by omega) x w' cap (by rw [ah hw'];exact c0) (by rw [ah hw'];exact (c1 (by omega)))).mono fun e w'' hh=>dt hh
 rotate_left
 focus
  by_cases x2:(55296≤max (64*(64*(64*((b0:Int)-240)+(b1:Int)-128))) 65536∧min (64*(64*(64*((b0:Int)-240)+(b1:Int)-128)+63)+63) 1114111≤57343)∨min (64*(64*(64*((b0:Int)-240)+(b1:Int)-128)+63)+63) 1114111<max (64*(64*(64*((b0:Int)-240)+(b1:Int)-128))) 65536
 focus
  have L2:aB w x 2 cap t7:=fun w' hw'=>(AO (b0:Int) (b1:Int) (by omega) (by omega) (by omega) (by omega) x w' cap (by rw [ah hw'];exact c0) (by rw [ah hw'];exact (c1 (by omega)))).mono fun e w'' hh=>yk hh x2
 rotate_left
 ·have L2:aB w x 2 cap rm:=fun w' hw'=>(AO (b0:Int) (b1:Int) (by omega) (by omega) (by omega) (by omega) x w' cap (by rw [ah hw'];exact c0) (by rw [ah hw'];exact (c1 (by omega)))).mono fun e w'' hh=>qs hh (by omega) (by omega) (by omega)
  by_cases n3:len≤2
  ·have hl0':2≤len:=by omega
   have hs:=bad 2 (by
    unfold decodeN;repeat' split
    all_goals first|rfl|(exfalso;omega)) (by
    unfold dT;repeat' split
    all_goals first|rfl|(exfalso;omega))
   rw [hs]
   exact tW (b0:Int) x w len cap c0 (by omega) hl0' n3 hl.2 L1 L2
  by_cases lo3:b2<128
  ·have L3:aB w x 3 cap t7:=fun w' hw'=>(AR (b0:Int) (b1:Int) (b2:Int) (by omega) (by omega) (by omega) (by omega) (by omega) (by omega) x w' cap (by rw [ah hw'];exact c0) (by rw [ah hw'];exact (c1 (by omega))) (by rw [ah hw'];exact (c2 (by omega)))).mono fun e w'' hh=>dt hh
   have hs:=bad 2 (by
    unfold decodeN;repeat' split
    all_goals first|rfl|(exfalso;omega)) (by
    unfold dT;repeat' split
    all_goals first|rfl|(exfalso;omega))
   rw [hs]
   exact mP (b0:Int) x w len cap c0 (by omega) (by omega) hl.2 hm L1 L2 L3
  by_cases hi3:192≤b2
  ·have L3:aB w x 3 cap t7:=fun w' hw'=>(AS (b0:Int) (b1:Int) (b2:Int) (by omega) (by omega) (by omega) (by omega) (by omega) (by omega) x w' cap (by rw [ah hw'];exact c0) (by rw [ah hw'];exact (c1 (by omega))) (by rw [ah hw'];exact (c2 (by omega)))).mono fun e w'' hh=>dt hh
   have hs:=bad 2 (by
    unfold decodeN;repeat' split
    all_goals first|rfl|(exfalso;omega)) (by
    unfold dT;repeat' split
    all_goals first|rfl|(exfalso;omega))
   rw [hs]
   exact mP (b0:Int) x w len cap c0 (by omega) (by omega) hl.2 hm L1 L2 L3
  have L3:aB w x 3 cap rm:=fun w' hw'=>(J6 (b0:Int) (b1:Int) (b2:Int) (by omega) (by omega) (by omega) (by omega) (by omega) (by omega) x w' cap (by rw [ah hw'];exact c0) (by rw [ah hw'];exact (c1 (by omega))) (by rw [ah hw'];exact (c2 (by omega)))).mono fun e w'' hh=>qs hh (by omega) (by omega) (by omega)
  by_cases n4:len≤3
  ·have hl0':3≤len:=by omega
   have hs:=bad 3 (by
    unfold decodeN;repeat' split
    all_goals first|rfl|(exfalso;omega)) (by
    unfold dT;repeat' split
    all_goals first|rfl|(exfalso;omega))
   rw [hs]
   exact Dd (b0:Int) x w len cap c0 (by omega) hl0' n4 hl.2 L1 L2 L3
  by_cases lo4:b3<128
  ·have L4:aB w x 4 cap t7:=fun w' hw'=>(AU (b0:Int) (b1:Int) (b2:Int) (b3:Int) (by omega) (by omega) (by omega) (by omega) (by omega) (by omega) (by omega) (by omega) x w' cap (by rw [ah hw'];exact c0) (by rw [ah hw'];exact (c1 (by omega))) (by rw [ah hw'];exact (c2 (by omega))) (by rw [ah hw'];exact (c3 (by omega)))).mono fun e w'' hh=>dt hh
   have hs:=bad 3 (by
    unfold decodeN;repeat' split
    all_goals first|rfl|(exfalso;omega)) (by
    unfold dT;repeat' split
    all_goals first|rfl|(exfalso;omega))
   rw [hs]
   exact wC (b0:Int) x w len cap c0 (by omega) (by omega) hl.2 hm L1 L2 L3 L4
  by_cases hi4:192≤b3
  ·have L4:aB w x 4 cap t7:=fun w' hw'=>(AV (b0:Int) (b1:Int) (b2:Int) (b3:Int) (by omega) (by omega) (by omega) (by omega) (by omega) (by omega) (by omega) (by omega) x w' cap (by rw [ah hw'];exact c0) (by rw [ah hw'];exact (c1 (by omega))) (by rw [ah hw'];exact (c2 (by omega))) (by rw [ah hw'];exact (c3 (by omega)))).mono fun e w'' hh=>dt hh
   have hs:=bad 3 (by
    unfold decodeN;repeat' split
    all_goals first|rfl|(exfalso;omega)) (by
    unfold dT;repeat' split
    all_goals first|rfl|(exfalso;omega))
   rw [hs]
   exact wC (b0:Int) x w len cap c0 (by omega) (by omega) hl.2 hm L1 L2 L3 L4
  obtain ⟨hs,hk,hd⟩:=good (b0%8*262144+b1%64*4096+b2%64*64+b3%64) 4 (by omega) (by
   unfold decodeN;repeat' split
   all_goals first|rfl|(exfalso;omega))
  have hen:=ja l hne hk
  rw [hd] at hen
  have L4:aB w x 4 cap (OL ((b0%8*262144+b1%64*4096+b2%64*64+b3%64:Nat):Int)):=fun w' hw'=>(J7 (b0:Int) (b1:Int) (b2:Int) (b3:Int) (by omega) (by omega) (by omega) (by omega) (by omega) (by omega) (by omega) (by omega) x w' cap (by rw [ah hw'];exact c0) (by rw [ah hw'];exact (c1 (by omega))) (by rw [ah hw'];exact (c2 (by omega))) (by rw [ah hw'];exact (c3 (by omega)))).mono fun e w'' hh=>Df hh (by omega) (by omega) (by omega)
  rw [hs]
  exact GL (b0:Int) x w len cap c0 (by omega) (by omega) hl.2 hm L1 L2 L3 _ (by omega) _ L4 (Lib.hid (by rw [hen])) (h.convTake 4 (by omega) (by omega))
 all_goals
  have hs:=bad 1 (by
   unfold decodeN;repeat' split
   all_goals first|rfl|(exfalso;omega)) (by
   unfold dT;repeat' split
   all_goals first|rfl|(exfalso;omega))
  rw [hs]
  exact mO (b0:Int) x w len cap c0 (by omega) (by omega) hl.2 hm L1 L2
theorem mQ (l:List UInt8) (a:Option Addr) (w:World) (len cap:Nat) (h:ar w (.slice a len cap) l) (hm:len≤1099511627776) (hl0:1≤len):Calls Tryz.prog 83 #[.slice a len cap] w fun e w'=>e= .returned (.tuple #[.int .i64 ((fm l).1:Int),.bool (fm l).2])∧Below w.heap.size w w':=by
 obtain ⟨x,rfl,-⟩:=h.cell (by omega)
 have hl:=h.cap
 have h0:=(l.getD 0 0).toNat_lt
 have c0:w.cell? x=some (.int .u8 ((l.getD 0 0).toNat:Int)):=by have:=h.cellAt 0 (by omega);rwa [show x.add 0=x by simp [Addr.add]] at this
 by_cases g2:192≤(l.getD 0 0).toNat∧(l.getD 0 0).toNat<224
 ·exact KI l x w len cap h hm hl0 _ _ _ _ rfl rfl rfl rfl g2.1 g2.2
 by_cases g3:224≤(l.getD 0 0).toNat∧(l.getD 0 0).toNat<240
 ·exact KJ l x w len cap h hm hl0 _ _ _ _ rfl rfl rfl rfl g3.1 g3.2
 by_cases g4:240≤(l.getD 0 0).toNat∧(l.getD 0 0).toNat<248
 ·exact KK l x w len cap h hm hl0 _ _ _ _ rfl rfl rfl rfl g4.1 g4.2
 by_cases g0:(l.getD 0 0).toNat<128
 ·have hd:decodeL l=((l.getD 0 0).toNat,1):=by rw [decodeL_N];exact decodeN_ascii _ _ _ _ _ g0
  have hb:brk l=false:=by
   rw [Bool.eq_false_iff]
   intro hb
   rw [nW,hd] at hb
   have:=congrArg Prod.fst hb
   simp only at this
   omega
  have hs:fm l=(1,true):=by unfold fm;rw [hb,hd];rfl
  rw [hs]
  exact GM _ x w len cap c0 (by omega) hl0
 ·have hd:fm l=(1,false):=po l 1 (decodeN_bad _ _ _ _ _ (by omega)) (by
   unfold dT;repeat' split
   all_goals first|rfl|(exfalso;omega))
  rw [hd]
  by_cases g5:(l.getD 0 0).toNat<192
  ·exact mM _ x w len cap c0 (by omega) hl0 hl.2 hm (fun w' hw'=>(uI ((l.getD 0 0).toNat:Int) (by omega) (by omega) x w' cap (by rw [ah hw'];exact c0)).mono fun e w'' hh=>dt hh)
  ·exact mM _ x w len cap c0 (by omega) hl0 hl.2 hm (fun w' hw'=>(uJ ((l.getD 0 0).toNat:Int) (by omega) (by omega) x w' cap (by rw [ah hw'];exact c0)).mono fun e w'' hh=>dt hh)
end Go.Proofs.YtajpoodpbbbkfaaGreatDoor
namespace Go.Proofs.YtajpoodpbbbkfaaGreatDoor
open Go.RowKit Go.Lib
theorem Nf (l:List UInt8) (hne:l≠[]):1≤(fm l).1∧(fm l).1≤l.length∧(fm l).1≤4:=by
 have h1:=l8 l
 have h2:=wD l hne
 have h3:=decodeL_width l
 have h4:=nV l hne
 unfold fm
 cases hb:brk l with
 |true=>rw [if_pos rfl];exact ⟨h1,h2.1,by simp only;omega⟩
 |false=>
  rw [if_neg (by simp)]
  refine ⟨h3,h4,?_⟩
  have:=uW l hne hb
  have:=(eL ((decodeL l).1:Int)).2
  simp only;omega
theorem KL (l:List UInt8) (hne:l≠[]):fD l=(if (fm l).2 then l.take (fm l).1 else iF)++fD (l.drop (fm l).1):=by
 rw [iw l hne]
 unfold fm
 cases hb:brk l<;>rfl
theorem ar.cutAdd {w:World} {a:Option Addr} {len cap:Nat} {l:List UInt8} (h:ar w (.slice a len cap) l) (k:Nat) (hk0:0<k) (hk:k≤len) (hc:cap≠k):ar w (.slice (Option.map (fun x=>x.add k) a) (len-k) (cap-k)) (l.drop k):=by
 have:=h.cut k hk0 hk hc
 have e:(fun x:Addr=>x.add k)=(fun x=>{block:=x.block,off:=x.off+k}):=funext fun x=>fg x k hk0
 rw [e];exact this
theorem ar.cutAll {w:World} {a:Option Addr} {len:Nat} {l:List UInt8} (h:ar w (.slice a len len) l):ar w (.slice a 0 0) (l.drop len):=by
 have e:l.drop len=[]:=List.drop_eq_nil_of_le (by have:=h.cap.1;omega)
 rw [e];exact h.none_left
def tX:Value→Nat
 | .slice _ n _=>n
 |_=>0
theorem ar.take {w:World} {a:Option Addr} {len cap:Nat} {l:List UInt8} (h:ar w (.slice a len cap) l) (k:Nat) (hk:k≤len):ar w (.slice a k cap) (l.take k):=by
 have hl:=h.cap
 have e:(l.take k).length=k:=by rw [List.length_take];omega
 rcases h with ⟨hv,rfl⟩|⟨x,c,hv,h1,h2,h3⟩
 ·injection hv with h4 h5 h6;subst h4;subst h5;subst h6
  obtain rfl:k=0:=by omega
  exact .inl ⟨rfl,rfl⟩
 ·injection hv with h4 h5 h6;subst h4;subst h6
  refine .inr ⟨x,cap,by rw [e],by rw [e];omega,h2,fun i hi=>?_⟩
  rw [List.getElem_take]
  exact h3 i (by rw [e] at hi;omega)
theorem GN (l:List UInt8) (h3:3≤l.length):hasPrefix l bw=decide ((l.getD 0 0).toNat=239∧(l.getD 1 0).toNat=187∧(l.getD 2 0).toNat=191):=by
 match l,h3 with
 |x::y::z::t,_=>
  rw [Bool.eq_iff_iff,decide_eq_true_iff]
  unfold hasPrefix
  rw [List.isPrefixOf_iff_prefix]
  simp only [bw,yy,wE]
  constructor
  ·rintro ⟨u,hu⟩
   simp only [List.cons_append,List.nil_append,List.cons.injEq] at hu
   exact ⟨by rw [←hu.1];rfl,by rw [←hu.2.1];rfl,by rw [←hu.2.2.1];rfl⟩
  ·rintro ⟨h1,h2,h3⟩
   have e1:x=239:=UInt8.toNat_inj.1 h1
   have e2:y=187:=UInt8.toNat_inj.1 h2
   have e3:z=191:=UInt8.toNat_inj.1 h3
   subst e1;subst e2;subst e3
   exact ⟨t,rfl⟩
theorem uS (l:List UInt8) (h3:l.length<3):hasPrefix l bw=false:=by
 rw [Bool.eq_false_iff]
 intro hp
 obtain ⟨t,rfl⟩:=(wG _).1 hp
 simp [bw] at h3
 omega
theorem Dg (a0:Option Addr) (len0 cap0:Nat) (l0:List UInt8) (w:World) (h:ar w (.slice a0 len0 cap0) l0):len0<3∧gi l0=fD l0∨∃x b0 b1 b2,a0=some x∧w.cell? x=some (.int .u8 ((b0:Nat):Int))∧w.cell? ⟨x.block,x.off+1,none⟩=some (.int .u8 ((b1:Nat):Int))∧w.cell? ⟨x.block,x.off+2,none⟩=some (.int .u8 ((b2:Nat):Int))∧3≤len0∧len0≤cap0∧decide ((3:Int)≤(len0:Int))=true∧(((b0:Int)==239)=false∧gi l0=fD l0∨((b0:Int)==239)=true∧(((b1:Int)==187)=false∧gi l0=fD l0∨((b1:Int)==187)=true∧(((b2:Int)==191)=false∧gi l0=fD l0∨((b2:Int)==191)=true∧gi l0=fD (l0.drop 3)∧(cap0≠3∨len0=3∧cap0=3)))):=by
 have hl0:=h.cap
 by_cases h3:len0<3
 ·exact .inl ⟨h3,gj l0 (uS l0 (by omega))⟩
 obtain ⟨x,rfl,-⟩:=h.cell (by omega)
 have HM:=GN l0 (by omega)
 refine .inr ⟨x,_,_,_,rfl,by have:=h.cellAt 0 (by omega);rwa [show x.add 0=x by simp [Addr.add]] at this,by have:=h.cellAt 1 (by omega);rwa [fg x 1 (by omega)] at this,by have:=h.cellAt 2 (by omega);rwa [fg x 2 (by omega)] at this,by omega,hl0.2,decide_eq_true (by omega),?_⟩
 by_cases g0:(l0.getD 0 0).toNat=239
 ·refine .inr ⟨by rw [beq_iff_eq];omega,?_⟩
  by_cases g1:(l0.getD 1 0).toNat=187
  ·refine .inr ⟨by rw [beq_iff_eq];omega,?_⟩
   by_cases g2:(l0.getD 2 0).toNat=191
   ·exact .inr ⟨by rw [beq_iff_eq];omega,rQ l0 (by rw [HM,decide_eq_true_iff];omega),by omega⟩
   ·exact .inl ⟨by rw [beq_eq_false_iff_ne];omega,gj l0 (by rw [HM,decide_eq_false_iff_not];omega)⟩
  ·exact .inl ⟨by rw [beq_eq_false_iff_ne];omega,gj l0 (by rw [HM,decide_eq_false_iff_not];omega)⟩
 ·exact .inl ⟨by rw [beq_eq_false_iff_ne];omega,gj l0 (by rw [HM,decide_eq_false_iff_not];omega)⟩
theorem Dh (a0:Option Addr) (len0 cap0:Nat) (l0:List UInt8) (w:World) (h:ar w (.slice a0 len0 cap0) l0) (hm:len0≤1099511627776):Calls Tryz.prog 40 #[.slice a0 len0 cap0] w fun e w'=>e= .returned (.string ⟨(gi l0).toArray⟩)∧Below w.heap.size w w':=by
 obtain ⟨M,hM⟩:∃M,M=3*len0:=⟨_,rfl⟩
 rcases Dg a0 len0 cap0 l0 w h with ⟨h3,H⟩|⟨x,b0,b1,b2,rfl,c0,c1,c2,h3,hcap0,t9,⟨t0,H⟩|⟨t0,⟨t1,H⟩|⟨t1,⟨t2,H⟩|⟨t2,H,hc3|⟨rfl,rfl⟩⟩⟩⟩⟩
 all_goals
  have H0:=Lib.hid H
  clear H
  go_enter Tryz.func40,Tryz.ntmps40
  go_wp2_with (fail)
  try clear t9
  try clear t0
  try clear t1
  try clear t2
  go_loopw [0,3] (fun v o wr=>∃(a:Option Addr) (len cap:Nat) (l:List UInt8) (O:ByteArray),v= .slice a len cap∧o= .string O∧ar wr (.slice a len cap) l∧Below w.heap.size w wr∧O.data.toList++fD l=gi l0∧O.size+3*len≤M) (fun v _ _=>tX v)
  case atStart=>
   have e:(ByteArray.mk #[]).size=0:=rfl
   first
    |exact ⟨_,_,_,l0,⟨#[]⟩,rfl,rfl,h,Below.refl _ _,by rw [H0.out];rfl,by rw [e];omega⟩
    |exact ⟨_,_,_,l0.drop 3,⟨#[]⟩,rfl,rfl,h.cut 3 (by omega) h3 hc3,Below.refl _ _,by rw [H0.out];rfl,by rw [e];omega⟩
    |exact ⟨_,0,0,l0.drop 3,⟨#[]⟩,rfl,rfl,h.cutAll,Below.refl _ _,by rw [H0.out];rfl,by rw [e];omega⟩
  case round=>
   obtain ⟨a,len,cap,l,O,rfl,rfl,hb,hbw,hv,hls⟩:=hrel
   have HV:=Lib.hid hv
   have hl:=hb.cap
   have HL:=Lib.hid hl.1
   have hlc:=hl.2
   clear hv hl
   have hbs:=hbw.size
   by_cases hp:0<len
   ·have hne:l≠[]:=by intro h0;have:=HL.out;rw [h0] at this;simp at this;omega
    obtain ⟨n,hn⟩:∃n,(fm l).1=n:=⟨_,rfl⟩
    have hle:=Nf l hne
    rw [hn,HL.out] at hle
    obtain ⟨hn1,hn2,-⟩:=hle
    have hnc:n≤cap:=by omega
    have HN:=Lib.hid hn
    have HR:=Lib.hid (KL l hne)
    clear hn hne
    obtain ⟨T,hT,lT,sT⟩:=Pp (l.take n)
    have sT':T.size=n:=by rw [sT,List.length_take,HL.out];omega
    have hTn:T.size≤n:=by omega
    have hTO:O.size+T.size+3*(len-n)≤M:=by omega
    have hBO:O.size+3+3*(len-n)≤M:=by omega
    have LT:=Lib.hid lT
    have HT:=Lib.hid hT
    clear hT lT sT sT'
    cases hf:(fm l).2 with
    |false=>
     have HF:=Lib.hid hf
     clear hf hTn hTO
     have HV2:Hid ((O++⟨#[239,191,189]⟩:ByteArray).data.toList++fD (l.drop n)=gi l0):=Lib.hid (by
      rw [←HV.out,HR.out,HF.out,HN.out,wc,List.append_assoc];rfl)
     have hsz:(O++⟨#[239,191,189]⟩:ByteArray).size=O.size+3:=by simp;rfl
     have HSZ:=Lib.hid hsz
     clear hsz
     by_cases hc:cap=n
     ·obtain rfl:len=n:=by omega
      obtain rfl:cap=len:=hc
      go_wp2_with (go_at_call 83;refine (mQ l a _ cap cap hb (by omega) (by omega)).mono ?_;rintro e w1 ⟨rfl,hb1⟩;rw [HN.out,HF.out])
      go_roundw
      case rel=>exact ⟨a,0,0,l.drop cap,_,by simp,rfl,(hb.kept hb1).cutAll,hbw.trans (hb1.mono hbs),HV2.out,by rw [HSZ.out];omega⟩
      case measure=>simp [tX];omega
     ·go_wp2_with (go_at_call 83;refine (mQ l a _ len cap hb (by omega) (by omega)).mono ?_;rintro e w1 ⟨rfl,hb1⟩;rw [HN.out,HF.out])
      go_roundw
      case rel=>exact ⟨_,_,_,_,_,rfl,rfl,(hb.kept hb1).cutAdd n (by omega) hn2 hc,hbw.trans (hb1.mono hbs),HV2.out,by rw [HSZ.out];omega⟩
      case measure=>simp [tX];omega
    |true=>
     have HF:=Lib.hid hf
     clear hf hBO
     have HV2:Hid ((O++T).data.toList++fD (l.drop n)=gi l0):=Lib.hid (by
      rw [←HV.out,HR.out,HF.out,HN.out,wc,LT.out,List.append_assoc];simp)
     have HSZ:Hid ((O++T).size=O.size+T.size):=Lib.hid (by simp)
     by_cases hc:cap=n
     ·obtain rfl:len=n:=by omega
      obtain rfl:cap=len:=hc
      go_wp2_with (go_at_call 83;refine (mQ l a _ cap cap hb (by omega) (by omega)).mono ?_;rintro e w1 ⟨rfl,hb1⟩;rw [HN.out,HF.out];have hcv:=(((hb.kept hb1).take cap (Nat.le_refl _))).conv;rw [HT.out] at hcv)
      go_roundw
      case rel=>exact ⟨a,0,0,l.drop cap,_,by simp,rfl,(hb.kept hb1).cutAll,hbw.trans (hb1.mono hbs),HV2.out,by rw [HSZ.out];omega⟩
      case measure=>simp [tX];omega
     ·go_wp2_with (go_at_call 83;refine (mQ l a _ len cap hb (by omega) (by omega)).mono ?_;rintro e w1 ⟨rfl,hb1⟩;rw [HN.out,HF.out];have hcv:=(((hb.kept hb1).take n hn2)).conv;rw [HT.out] at hcv)
      go_roundw
      case rel=>exact ⟨_,_,_,_,_,rfl,rfl,(hb.kept hb1).cutAdd n (by omega) hn2 hc,hbw.trans (hb1.mono hbs),HV2.out,by rw [HSZ.out];omega⟩
      case measure=>simp [tX];omega
   ·go_wp2
    go_ret
    have h0:l=[]:=List.eq_nil_of_length_eq_zero (by have:=HL.out;omega)
    exact ⟨aO (by have:=HV.out;rw [h0,ld,List.append_nil] at this;rw [J1 this.symm]),hbw⟩
end Go.Proofs.YtajpoodpbbbkfaaGreatDoor
