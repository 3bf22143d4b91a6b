/- Fields and tables that are drawn. For codes of at most 2^40 bytes. -/
import Derived.Test.YtljhplddgcmmoabDrawStr
import Derived.Test.YtljhplddgcmmoabTabTwo
import Derived.Deep.RegionWith
namespace Go.Proofs.Ytljhplddgcmmoab
open Go.RowKit
set_option linter.unusedVariables false

def nameStrs : List ByteArray := [⟨#[58, 109, 101, 116, 104, 111, 100]⟩, ⟨#[58, 112, 97, 116, 104]⟩, ⟨#[58, 115, 116, 97, 116, 117, 115]⟩, ⟨#[97, 103, 101]⟩, ⟨#[120, 45, 97]⟩, ⟨#[97, 117, 116, 104, 111, 114, 105, 122, 97, 116, 105, 111, 110]⟩, ⟨#[117, 112, 108, 111, 97, 100, 45, 111, 102, 102, 115, 101, 116]⟩, ⟨#[99, 111, 111, 107, 105, 101]⟩]
def valStrs : List ByteArray := [⟨#[71, 69, 84]⟩, ⟨#[47]⟩, ⟨#[50, 48, 48]⟩, ⟨#[]⟩, ⟨#[55]⟩, ⟨#[97, 32, 108, 111, 110, 103, 32, 118, 97, 108, 117, 101, 32, 111, 102, 32, 115, 111, 109, 101, 32, 98, 121, 116, 101, 115]⟩, ⟨#[80, 65, 84, 67, 72]⟩]

theorem nameStrs_size (v : ByteArray) (h : v ∈ nameStrs) : v.size ≤ 40 := by
  simp only [nameStrs, List.mem_cons, List.not_mem_nil, or_false] at h
  rcases h with rfl | rfl | rfl | rfl | rfl | rfl | rfl | rfl <;> decide
theorem valStrs_size (v : ByteArray) (h : v ∈ valStrs) : v.size ≤ 40 := by
  simp only [valStrs, List.mem_cons, List.not_mem_nil, or_false] at h
  rcases h with rfl | rfl | rfl | rfl | rfl | rfl | rfl <;> decide

theorem gnew {w W : World} {c : Option Nat} (h : w.grownBy W c) (o : Obj) : w.grownBy (W.alloc o) c := gown h (World.grownBy_alloc W o none) (by simp)
theorem gput {w W : World} {c : Option Nat} (h : w.grownBy W c) {b k : Nat} (hb : w.heap.size ≤ b) (v : Value) : w.grownBy (W.setCell ⟨b, k, none⟩ v) c := gown h (gset W b k v) (fun j e => by injection e with e; omega)
theorem Cur.put {w : World} {B c : Nat} {a : Option Addr} {len cap : Nat} {zs : List Int} (h : Cur w B c a len cap zs) {b k : Nat} (hb : c < b) (v : Value) : Cur (w.setCell ⟨b, k, none⟩ v) B c a len cap zs := h.kept (gset w b k v) (fun j e => by injection e with e; have := h.1; omega)
theorem Cur.new {w : World} {B c : Nat} {a : Option Addr} {len cap : Nat} {zs : List Int} (h : Cur w B c a len cap zs) (o : Obj) : Cur (w.alloc o) B c a len cap zs := h.kept (World.grownBy_alloc w o none) (by simp)

set_option maxRecDepth 10000 in
set_option maxHeartbeats 800000 in
theorem l4Field_any (B c : Nat) (a : Option Addr) (len cap : Nat) (zs : List Int) (w : World) (hcur : Cur w B c a len cap zs) (hl : len ≤ 1099511627776) :
    Calls Try.prog 52 #[.pointer (some ⟨c, 0, none⟩)] w fun e w' => ∃ x y : ByteArray, e = .returned (.agg #[.string x, .string y]) ∧ x.size ≤ 40 ∧ y.size ≤ 40 ∧ Cur w' B c a len cap zs ∧ w.grownBy w' (some c) := by
  have hcl := hcur.lt
  obtain ⟨w1, hw1⟩ : ∃ w1, w.alloc (.cells #[.string ⟨#[]⟩, .string ⟨#[]⟩] 36) = w1 := ⟨_, rfl⟩
  have HQ1 : Hid (Box2 w1 w.heap.size 36 (.string ⟨#[]⟩) (.string ⟨#[]⟩)) := by show Box2 _ _ _ _ _; rw [← hw1]; exact Box2.new _ _ _ _
  have hs1 : w1.heap.size = w.heap.size + 1 := by rw [← hw1]; simp
  have HC1 : Hid (Cur w1 B c a len cap zs) := by rw [← hw1]; exact hcur.new _
  have HG1 : Hid (w.grownBy w1 (some c)) := by show World.grownBy _ _ _; rw [← hw1]; exact World.grownBy_alloc _ _ _
  clear hcur
  go_enter Try.func52, Try.ntmps52
  go_wp2_with fail
  refine (l1Str_any B c a len cap zs (w.heap.size + 1) 8 8 nameStrs _ (HC1.out.new _) hl (by rw [← hs1]; exact heap_alloc_new w1 _) (by omega) rfl (by omega) (by omega)).mono ?_
  rintro e w2 ⟨x, rfl, hx, hc2, hg2⟩
  have hx40 := nameStrs_size x hx
  have HC2 : Hid (Cur w2 B c a len cap zs) := hc2
  have HG2 : Hid (w.grownBy w2 (some c)) := gtrans (gnew HG1.out _) hg2
  have HQ2 : Hid (Box2 w2 w.heap.size 36 (.string ⟨#[]⟩) (.string ⟨#[]⟩)) := (HQ1.out.alloc _).grown hg2 (by intro e; injection e with e; omega)
  have hs2 : w.heap.size < w2.heap.size := HQ2.out.lt
  clear hx hc2 hg2 HC1 HG1 HQ1 hw1
  go_wp2_with fail
  refine (l1Str_any B c a len cap zs w2.heap.size 7 7 valStrs _ (HC2.out.new _) hl (heap_alloc_new w2 _) (by omega) rfl (by omega) (by omega)).mono ?_
  rintro e w3 ⟨y, rfl, hy, hc3, hg3⟩
  have hy40 := valStrs_size y hy
  have HC3 : Hid (Cur w3 B c a len cap zs) := hc3
  have HG3 : Hid (w.grownBy w3 (some c)) := gtrans (gnew HG2.out _) hg3
  have hq3 : Box2 w3 w.heap.size 36 (.string ⟨#[]⟩) (.string ⟨#[]⟩) := (HQ2.out.alloc _).grown hg3 (by intro e; injection e with e; omega)
  have HQ3 : Hid (Box2 ((w3.setCell ⟨w.heap.size, 0, none⟩ (.string x)).setCell ⟨w.heap.size, 1, none⟩ (.string y)) w.heap.size 36 (.string x) (.string y)) := two_set1 (two_set0 hq3 _) _
  obtain ⟨g0, g1, g2, g3⟩ := hq3.cells
  clear hy hc3 hg3 HC2 HG2 HQ2 hq3
  go_wp2_with fail
  obtain ⟨r0, r1, _, _⟩ := HQ3.out.cells
  refine bodyPost_ret (v := .agg #[.string x, .string y]) (by simp [results, Try.f52, go_sem, r0, r1]) rfl ?_
  exact ⟨x, y, rfl, hx40, hy40, (HC3.out.put hcl _).put hcl _, gput (gput HG3.out (Nat.le_refl _) _) (Nat.le_refl _) _⟩

end Go.Proofs.Ytljhplddgcmmoab
