/-
  The library's contracts that serve at this program, laid: each by its own theorem, the numbers of this program put in.
-/
import Derived.Shelf.Strings.Builder1
import Derived.Shelf.Strings.Builder2
import Derived.Shelf.Small.Utf8
import Derived.Shelf.Small.Strs
import Derived.Shelf.Strings.BuilderF
import Derived.Shelf.Strings.BuilderK
import Derived.Shelf.Strings.BuilderRune
import Derived.Shelf.Utf8.AppendRune
import Derived.Shelf.Strings.Builder2Cap
import Derived.Shelf.Strconv.Itoa0
import Derived.Shelf.Strconv.ParseIntEmpty
import Derived.Shelf.LaysM
import Derived.Shelf.Strconv.Clone
import Derived.Shelf.Strconv.SyntaxError
import Derived.Shelf.LaysC
import Derived.Shelf.Strconv.ToError
import Derived.Shelf.Strconv.Lower
import Derived.Shelf.Strconv.RangeError
import Derived.Shelf.Strconv.ToErrorRange
import Derived.Shelf.Strings.Search1
import Derived.Shelf.Strings.Search2
import Derived.Shelf.Strings.Search3
import Derived.Shelf.Strings.Cut
import Derived.Shelf.Strings.Shaped
import Derived.Shelf.Strings.LastIndex
import Derived.Shelf.Strings.Prefix
import Derived.Shelf.Strings.BuilderCap
import Derived.Test.YtajpoodpbbbkfaaGreatDoorProg
namespace Go.Proofs
open Go.Shelf Tryz
def Tryz.lays169_ren:Go.Shelf.Ren:=⟨fun|169=>35|n=>n,fun|70=>52|9=>9|0=>0|72=>54|37=>22|127=>88|3=>3|5=>5|n=>n,fun|n=>n⟩
theorem Tryz.lays169:Go.Proofs.Lays.n169 prog lays169_ren:=by repeat' first|kernel_rfl|(intro;kernel_rfl)|constructor
theorem Tryz.Builder_Extra_169:Builder.Extra prog lays169_ren:=by repeat' first|kernel_rfl|(intro;kernel_rfl)|decide|constructor
def Tryz.lays165_ren:Go.Shelf.Ren:=⟨fun|165=>31|240=>68|241=>69|276=>116|277=>117|n=>n,fun|70=>52|3=>3|0=>0|4=>4|9=>9|20=>20|72=>54|37=>22|164=>133|5=>5|n=>n,fun|n=>n⟩
theorem Tryz.lays165:Go.Proofs.Lays.n165 prog lays165_ren:=by repeat' first|kernel_rfl|(intro;kernel_rfl)|constructor
theorem Tryz.Builder_Extra_165:Builder.Extra prog lays165_ren:=by repeat' first|kernel_rfl|(intro;kernel_rfl)|decide|constructor
open Go.RowKit in
theorem Tryz.Builder_Grow_fresh (B b n:Nat) (w:World) (hB:B≤b) (hbk:w.heap[b]? =some (.cells #[.pointer none,.slice none 0 0] 54 (0,0))) (hBw:B≤w.heap.size) (hn:n≤281474976710656):Calls prog 31 #[.pointer (some ⟨b,0,none⟩),.int .i64 n] w fun e w'=>e= .returned (.tuple #[])∧(Lib.BuilderAt 54 5 B b (.pointer (some ⟨b,0,none⟩)) [] w'∧Below B w w'):=Any.Builder_Grow_fresh lays165 Builder_Extra_165 B b n w hB hbk hBw hn
def Tryz.lays118_ren:Go.Shelf.Ren:=⟨fun|118=>71|n=>n,fun|21=>21|3=>3|4=>4|n=>n,fun|n=>n⟩
theorem Tryz.lays118:Go.Proofs.Lays.n118 prog lays118_ren:=by repeat' first|kernel_rfl|(intro;kernel_rfl)|constructor
theorem Tryz.utf8_RuneLen (r:Int) (w:World):Calls prog 71 #[.int .i32 r] w fun e w'=>e= .returned (.int .i64 (Lib.runeLen r))∧w'=w:=Any.utf8_RuneLen lays118 r w
def Tryz.lays137_ren:Go.Shelf.Ren:=⟨fun|137=>152|217=>184|266=>210|n=>n,fun|9=>9|5=>5|3=>3|n=>n,fun|n=>n⟩
theorem Tryz.lays137:Go.Proofs.Lays.n137 prog lays137_ren:=by repeat' first|kernel_rfl|(intro;kernel_rfl)|constructor
open Go.RowKit in
theorem Tryz.strings_IndexByte (s:ByteArray) (c:Int) (w:World):Calls prog 152 #[.string s,.int .u8 c] w fun e w'=>e= .returned (.int .i64 (Lib.indexByte s.data.toList c.toNat.toUInt8))∧w'=w:=Any.strings_IndexByte lays137 s c w
open Go.RowKit in
theorem Tryz.Builder_String_any_k (B b:Nat) (l:List UInt8) (w:World) (h:Lib.IsBuilderF 54 5 B b (Lib.byteCells l) w) (hBw:B≤w.heap.size):Calls prog 35 #[.pointer (some ⟨b,0,none⟩)] w fun e w'=>e= .returned (.string ⟨l.toArray⟩)∧(Lib.IsBuilderF 54 5 B b (Lib.byteCells l) w'∧Below B w w'∧Lib.OthersKept 5 (some b) w w'):=Any.Builder_String_any_k lays169 Builder_Extra_169 B b l w h hBw
def Tryz.lays242_ren:Go.Shelf.Ren:=⟨fun|242=>72|278=>118|n=>n,fun|37=>22|21=>21|51=>136|4=>4|5=>5|46=>85|n=>n,fun|n=>n⟩
theorem Tryz.lays242:Go.Proofs.Lays.n242 prog lays242_ren:=by repeat' first|kernel_rfl|(intro;kernel_rfl)|constructor
open Go.RowKit in
theorem Tryz.utf8_AppendRune_row (B:Nat) (v:Value) (n:Nat) (xs:List Value) (r:Int) (hr0: -2147483648≤r) (hr1:r≤2147483647) (w:World) (hown:w.ownsRowF B 5 1 v n xs) (hlen:n+4≤140737488355328) (hBw:B≤w.heap.size):Calls prog 72 #[v,.int .i32 r] w fun e w'=>∃v',e= .returned v'∧w'.ownsRowF B 5 1 v' (n+(Lib.runeCells r).length) (xs++Lib.runeCells r)∧∃o,(w.alloc o).grownBy w' v.ownBlock:=Any.utf8_AppendRune_row lays242 (by kernel_rfl) B v n xs r hr0 hr1 w hown hlen hBw
def Tryz.lays247_ren:Go.Shelf.Ren:=⟨fun|247=>242|287=>246|321=>251|322=>252|n=>n,fun|9=>9|3=>3|2=>2|75=>57|4=>4|167=>199|5=>5|53=>200|175=>201|46=>85|37=>22|0=>0|21=>21|80=>62|n=>n,fun|n=>n⟩
theorem Tryz.lays247:Go.Proofs.Lays.n247 prog lays247_ren:=by repeat' first|kernel_rfl|(intro;kernel_rfl)|constructor
open Go.RowKit in
theorem Tryz.internal_strconv_ParseInt_empty (base bits:Int) (w:World):Calls prog 242 #[.string ⟨#[]⟩,.int .i64 base,.int .i64 bits] w fun e w'=>e= .returned (.tuple #[.int .i64 0,(.iface 199 (.int .i64 2))])∧w'=w:=Any.internal_strconv_ParseInt_empty lays247 base bits w
def Tryz.laysM316_ren:Go.Shelf.Ren:=⟨fun|316=>222|n=>n,fun|9=>9|3=>3|4=>4|37=>22|0=>0|127=>88|5=>5|n=>n,fun|n=>n⟩
theorem Tryz.laysM316:Go.Proofs.LaysM.n316 prog laysM316_ren:=by repeat' first|kernel_rfl|(intro;kernel_rfl)|constructor
open Go.RowKit in
theorem Tryz.stringslite_Clone (s:ByteArray) (w:World) (hlim:s.size≤281474976710656):Calls prog 222 #[.string s] w fun e w'=>e= .returned (.string s)∧Below w.heap.size w w':=Any.stringslite_Clone laysM316 s w hlim
def Tryz.laysC245_ren:Go.Shelf.Ren:=⟨fun|245=>243|279=>247|280=>248|281=>249|282=>250|316=>222|171=>254|205=>253|243=>255|246=>256|283=>257|284=>258|285=>259|286=>260|129=>262|317=>261|318=>263|319=>264|320=>265|337=>266|338=>267|n=>n,fun|9=>9|3=>3|75=>57|167=>199|4=>4|168=>203|210=>207|37=>22|0=>0|127=>88|145=>211|143=>209|2=>2|171=>213|53=>200|5=>5|173=>216|212=>219|51=>136|20=>20|213=>220|46=>85|232=>223|233=>224|80=>62|n=>n,fun|15=>2|16=>3|17=>4|18=>5|19=>6|n=>n⟩
theorem Tryz.laysC245:Go.Proofs.LaysC.n245 prog laysC245_ren:=by repeat' first|kernel_rfl|(intro;kernel_rfl)|constructor
open Go.RowKit in
theorem Tryz.strconv_toError_syntax (fn s:ByteArray) (base bits:Int) (ev:Value) (w:World) (hlim:s.size≤281474976710656) (hv:w.cell? ⟨2,0,none⟩=some ev) (hev:ev= .nilIface∨∃te pe,ev= .iface te pe):Calls prog 243 #[.string fn,.string s,.int .i64 base,.int .i64 bits,.iface 199 (.int .i64 2)] w fun e w'=>∃N,e= .returned (.iface 203 (.pointer (some ⟨N,0,none⟩)))∧w.heap.size≤N∧w'.heap[N]? =some (.cells #[.string fn,.string s,ev] 207 (0,0))∧Below w.heap.size w w':=Any.strconv_toError_syntax laysC245 fn s base bits ev w hlim hv hev
def Tryz.lays321_ren:Go.Shelf.Ren:=⟨fun|321=>251|n=>n,fun|5=>5|n=>n,fun|n=>n⟩
theorem Tryz.lays321:Go.Proofs.Lays.n321 prog lays321_ren:=by repeat' first|kernel_rfl|(intro;kernel_rfl)|constructor
open Go.RowKit in
theorem Tryz.internal_strconv_lower (c:Int) (w:World):Calls prog 251 #[.int .u8 c] w fun e w'=>e= .returned (.int .u8 (bits .or .u8 c 32))∧w'=w:=Any.internal_strconv_lower lays321 c w
def Tryz.lays219_ren:Go.Shelf.Ren:=⟨fun|219=>186|217=>184|225=>212|224=>213|267=>214|266=>210|314=>232|n=>n,fun|9=>9|3=>3|4=>4|5=>5|46=>85|146=>188|51=>136|n=>n,fun|1=>0|n=>n⟩
theorem Tryz.lays219:Go.Proofs.Lays.n219 prog lays219_ren:=by repeat' first|kernel_rfl|(intro;kernel_rfl)|constructor
open Go.RowKit Go.Lib in
theorem Tryz.stringslite_Index_one (s:ByteArray) (c:UInt8) (w:World):Calls prog 186 #[.string s,.string ⟨#[c]⟩] w fun e w'=>e= .returned (.int .i64 (Lib.indexByte s.data.toList c))∧w'=w:=Any.stringslite_Index_one lays219 s c w
def Tryz.lays143_ren:Go.Shelf.Ren:=⟨fun|143=>160|219=>186|217=>184|225=>212|224=>213|267=>214|266=>210|314=>232|n=>n,fun|9=>9|3=>3|4=>4|5=>5|46=>85|146=>188|51=>136|n=>n,fun|1=>0|n=>n⟩
theorem Tryz.lays143:Go.Proofs.Lays.n143 prog lays143_ren:=by repeat' first|kernel_rfl|(intro;kernel_rfl)|constructor
open Go.RowKit Go.Lib in
theorem Tryz.strings_Index (s sub:ByteArray) (m:Int) (w:World) (hs:s.size<4294967281) (hm:w.cell? ⟨0,0,none⟩=some (.int .i64 m)):Calls prog 160 #[.string s,.string sub] w fun e w'=>e= .returned (.int .i64 (Lib.index s.data.toList sub.data.toList))∧w'=w:=Any.strings_Index lays143 s sub m w hs hm
def Tryz.lays149_ren:Go.Shelf.Ren:=⟨fun|149=>241|222=>245|n=>n,fun|9=>9|5=>5|3=>3|4=>4|n=>n,fun|n=>n⟩
theorem Tryz.lays149:Go.Proofs.Lays.n149 prog lays149_ren:=by repeat' first|kernel_rfl|(intro;kernel_rfl)|constructor
open Go.RowKit Go.Lib in
theorem Tryz.strings_LastIndexByte (s:ByteArray) (c:Int) (hs:s.size<4611686018427387904) (w:World):Calls prog 241 #[.string s,.int .u8 c] w fun e w'=>e= .returned (.int .i64 (Lib.lastIndexByte s c))∧w'=w:=Any.strings_LastIndexByte lays149 s c hs w
def Tryz.lays99_ren:Go.Shelf.Ren:=⟨fun|99=>43|206=>86|n=>n,fun|9=>9|4=>4|3=>3|n=>n,fun|n=>n⟩
theorem Tryz.lays99:Go.Proofs.Lays.n99 prog lays99_ren:=by repeat' first|kernel_rfl|(intro;kernel_rfl)|constructor
open Go.RowKit Go.Lib in
theorem Tryz.strings_HasPrefix (s p:ByteArray) (w:World):Calls prog 43 #[.string s,.string p] w fun e w'=>e= .returned (.bool (Lib.hasPrefix s.data.toList p.data.toList))∧w'=w:=Any.strings_HasPrefix lays99 s p w
def Tryz.lays207_ren:Go.Shelf.Ren:=⟨fun|207=>231|n=>n,fun|9=>9|4=>4|3=>3|n=>n,fun|n=>n⟩
theorem Tryz.lays207:Go.Proofs.Lays.n207 prog lays207_ren:=by repeat' first|kernel_rfl|(intro;kernel_rfl)|constructor
open Go.RowKit Go.Lib in
theorem Tryz.stringslite_HasSuffix (s p:ByteArray) (w:World) (hs:s.size≤9223372036854775807):Calls prog 231 #[.string s,.string p] w fun e w'=>e= .returned (.bool (Lib.hasSuffix s.data.toList p.data.toList))∧w'=w:=Any.stringslite_HasSuffix lays207 s p w hs
def Tryz.lays100_ren:Go.Shelf.Ren:=⟨fun|100=>220|207=>231|n=>n,fun|9=>9|4=>4|3=>3|n=>n,fun|n=>n⟩
theorem Tryz.lays100:Go.Proofs.Lays.n100 prog lays100_ren:=by repeat' first|kernel_rfl|(intro;kernel_rfl)|constructor
open Go.RowKit Go.Lib in
theorem Tryz.strings_HasSuffix (s p:ByteArray) (w:World) (hs:s.size≤9223372036854775807):Calls prog 220 #[.string s,.string p] w fun e w'=>e= .returned (.bool (Lib.hasSuffix s.data.toList p.data.toList))∧w'=w:=Any.strings_HasSuffix lays100 s p w hs
def Tryz.lays101_ren:Go.Shelf.Ren:=⟨fun|101=>30|208=>67|206=>86|n=>n,fun|9=>9|4=>4|3=>3|n=>n,fun|n=>n⟩
theorem Tryz.lays101:Go.Proofs.Lays.n101 prog lays101_ren:=by repeat' first|kernel_rfl|(intro;kernel_rfl)|constructor
open Go.RowKit Go.Lib in
theorem Tryz.strings_TrimPrefix (s p:ByteArray) (w:World):Calls prog 30 #[.string s,.string p] w fun e w'=>e= .returned (.string ⟨(Lib.trimPrefix s.data.toList p.data.toList).toArray⟩)∧w'=w:=Any.strings_TrimPrefix lays101 s p w
end Go.Proofs
