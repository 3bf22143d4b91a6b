/- The draw of a name and a file for a new client. For codes of at most 2^40 bytes. -/
import Derived.Test.YtlalebaaabdihagDrawStrC
import Derived.Test.YtlalebaaabdihagDrawBig
import Derived.Test.YtlalebaaabdihagBox4
import Derived.Deep.CutBlock
namespace Go.Proofs.Ytlalebaaabdihag
open Go.RowKit
set_option linter.unusedVariables false

def ids5 : List ByteArray := [⟨#[97]⟩, ⟨#[117, 112, 49]⟩, ⟨#[]⟩, ⟨#[65]⟩, ⟨#[101, 105, 103, 104, 116, 108, 101, 116]⟩]
theorem ids5_short : ∀ s ∈ ids5, s.size ≤ 8 := by decide

set_option maxRecDepth 10000 in
set_option maxHeartbeats 3200000 in
theorem drawClNew_any (a : Option Addr) (len cap : Nat) (zs : List Int) (w : World) (hs : Seg w a len zs) (hl : len ≤ 1099511627776) :
    Calls Try.prog 5 #[.slice a len cap] w fun e w' => (∃ (id : ByteArray) (g n c : Nat) (ys : List Int), e = .returned (.tuple #[.string id, .slice (some ⟨g, 0, none⟩) n c]) ∧ id.size ≤ 8 ∧ n ≤ 401 ∧ Owns w' w.heap.size (some ⟨g, 0, none⟩) n c ys) ∧ Below w.heap.size w w' := by
  go_enter Try.func5, Try.ntmps5
  go_wp2_with fail
  refine (l1New_any a len cap zs w hs hl).mono ?_
  rintro e w1 ⟨rfl, hc1, hb1⟩
  have HC1 : Hid (Cur w1 w.heap.size w.heap.size a len cap zs) := hc1
  have HB1 : Hid (Below w.heap.size w w1) := hb1
  have hcw : w.heap.size < w1.heap.size := hc1.lt
  clear hc1 hb1 hs
  go_wp2_with fail
  refine (l1Str_any w.heap.size w.heap.size a len cap zs w1.heap.size 5 5 ids5 _ (HC1.out.new _) hl (heap_alloc_new w1 _) (by omega) rfl (by omega) (by omega)).mono ?_
  rintro e w2 ⟨id, rfl, hid, hc2, hg2⟩
  have HId : Hid (id.size ≤ 8) := ids5_short id hid
  have HC2 : Hid (Cur w2 w.heap.size w.heap.size a len cap zs) := hc2
  have HG2 : Hid (w1.grownBy w2 (some w.heap.size)) := gtrans (World.grownBy_alloc w1 _ _) hg2
  have hcw2 : w.heap.size < w2.heap.size := hc2.lt
  clear hid hc2 hg2 HC1 hcw
  go_wp2_with fail
  refine (l1Int_any w.heap.size w.heap.size a len cap zs w2.heap.size 4 4 [0, 5, 400, 401] _ (HC2.out.new _) hl (heap_alloc_new w2 _) (by omega) rfl (by omega) (by omega)).mono ?_
  rintro e w3 ⟨m, rfl, hm, hc3, hg3⟩
  obtain ⟨n, rfl⟩ : ∃ n : Nat, m = (n : Int) := ⟨m.toNat, by simp only [List.mem_cons, List.not_mem_nil, or_false] at hm; omega⟩
  have hn : n ≤ 401 := by simp only [List.mem_cons, List.not_mem_nil, or_false] at hm; omega
  have HC3 : Hid (Cur w3 w.heap.size w.heap.size a len cap zs) := hc3
  have HG3 : Hid (w1.grownBy w3 (some w.heap.size)) := gtrans HG2.out (gtrans (World.grownBy_alloc w2 _ _) hg3)
  clear hm hc3 hg3 HC2 HG2 hcw2
  go_wp2_with fail
  refine (l1Bytes_big w.heap.size w.heap.size a len cap zs n w3 HC3.out hl (by omega)).mono ?_
  rintro e w4 ⟨g, cp, ys, rfl, hg0, hog, hc4, hg4⟩
  have HO : Hid (Owns w4 w.heap.size (some ⟨g, 0, none⟩) n cp ys) := hog.low (Nat.le_trans (Nat.le_of_lt HC3.out.lt) (Nat.le_refl _))
  have HB : Hid (Below w.heap.size w w4) := HB1.out.grown (gtrans HG3.out hg4) HB1.out.size (fun q hq => by injection hq with hq; omega)
  clear hg0 hog hc4 hg4 HC3 HG3
  go_wp2_with fail
  refine bodyPost_ret (v := .tuple #[.string id, .slice (some ⟨g, 0, none⟩) n cp]) (by simp [results, Try.f5, go_sem]) rfl ?_
  exact ⟨⟨id, g, n, cp, ys, rfl, HId.out, hn, HO.out⟩, HB.out⟩

end Go.Proofs.Ytlalebaaabdihag
