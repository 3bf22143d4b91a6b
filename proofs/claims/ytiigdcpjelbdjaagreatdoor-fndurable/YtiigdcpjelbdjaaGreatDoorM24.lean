/- Bytes appended onto a row of the call's own, which may be nil. No program in it but its table of types. What the specification's UpAt answers. What the draw of one doing in a store gives: a right store again. For codes of at most 2^40 bytes. How many sectors a new disk has. No program in it. An append onto a row of the call's own, in a region that draws: where the row lies behind it. No program in it. An append onto a row of the call's own, as an operation in its place: where the row lies behind it. No program in it. What the specification's DiskNew answers. -/
import Derived.Test.YtiigdcpjelbdjaaGreatDoorM10
import Derived.Test.YtiigdcpjelbdjaaGreatDoorM01
import Derived.Deep.AppendSrc
import Derived.Test.YtiigdcpjelbdjaaGreatDoorM23
import Derived.Test.YtiigdcpjelbdjaaGreatDoorM12
import Derived.Test.YtiigdcpjelbdjaaGreatDoorM04
import Derived.Deep.CutBlock
import Derived.Lib.AppendZerosOnto
import Derived.Test.YtiigdcpjelbdjaaGreatDoorM09
import Derived.Test.YtiigdcpjelbdjaaGreatDoorM09
import Derived.Test.YtiigdcpjelbdjaaGreatDoorM09
import Derived.Test.YtiigdcpjelbdjaaGreatDoorM09
import Derived.Test.YtiigdcpjelbdjaaGreatDoorM22
import Derived.Test.YtiigdcpjelbdjaaGreatDoorM22
import Derived.Test.YtiigdcpjelbdjaaGreatDoorM22
import Derived.Deep.RegionHeld3
import Derived.Test.YtiigdcpjelbdjaaGreatDoorM06
import Derived.Test.YtiigdcpjelbdjaaGreatDoorM11
namespace Go.Proofs.YtiigdcpjelbdjaaGreatDoor
open Go.RowKit
set_option linter.unusedVariables false

/-- An append, and where its row lies. -/
theorem appB_run (w : World) (base : Nat) (ty : TypeId) (a : Option Addr) (n c : Nat) (zs : List Int) (hown : Owns w base a n c zs) (x : Value) (m : Nat) (ys : List Int) (hs : Src Tryz.prog 1 22 x m (ys.map (Value.int .u8)) w) (hy : ∀ y ∈ ys, 0 ≤ y ∧ y ≤ 255) (h63 : n + m ≤ 17592186044416) (hbase : base ≤ w.heap.size) :
    ∃ A C w', (Builtin.append_ #[22, 22] ty #[.slice a n c, x]).run Tryz.prog w = .ok (.slice A (n + m) C) w' ∧ Owns w' base A (n + m) C (zs ++ ys) ∧ w.grownBy w' (a.map (·.block)) ∧ (A.map (·.block) = a.map (·.block) ∨ ∀ q, A.map (·.block) = some q → w.heap.size ≤ q) := by
  obtain ⟨j0, ji, jz0, jz1, jz2⟩ := info_parts Tryz.info5
  have hr : ∀ x ∈ zs ++ ys, 0 ≤ x ∧ x ≤ 255 := fun x hx => by
    rcases List.mem_append.1 hx with h | h
    · exact hown.2 x h
    · exact hy x h
  have hl2 := hs.newsLen
  rcases hown.1.2 with ⟨h0, hn0⟩ | ⟨g, cap', cur, he, hb, hg, hn, hmx, hc, htk⟩
  · injection h0 with e1 e2 e3
    subst e1 e2 e3
    obtain rfl : zs = [] := by have := hown.1.1; simpa using this
    by_cases hm : m = 0
    · subst hm
      obtain rfl : ys = [] := by simpa using hl2
      refine ⟨none, 0, w, ?_, ⟨⟨rfl, .inl ⟨rfl, rfl⟩⟩, by simp⟩, ⟨rfl, rfl, rfl, Nat.le_refl _, fun _ _ _ => rfl⟩, .inl rfl⟩
      have hs' : Src Tryz.prog j0.size 22 x 0 [] w := by rw [jz1]; exact hs
      simp [Builtin.append_, run_underlying Tryz.underlying22, sizeOf, typeInfo, ji, hs'.len, hs'.cells]
    · have hs' : Src Tryz.prog j0.size 22 x m (ys.map (Value.int .u8)) w := by rw [jz1]; exact hs
      have hrr := run_append_grow_src (P := Tryz.prog) w 22 22 ty 5 j0 _ Tryz.underlying22 ji jz0 none 0 0 [] (run_firstCells_none w.drew j0.size 0 0 0) x m (ys.map (Value.int .u8)) hs' (by omega) (by omega) (growslice_fits (by omega) (by rw [jz2]; omega))
      have hge := grownCap_ge w (0 + m) 0 5
      have hcm' : grownCap w (0 + m) 0 5 ≤ maxLen := grownCap_le_maxLen w (0 + m) 0 _ (by unfold maxLen; omega)
      refine ⟨_, _, _, hrr, ⟨⟨by rw [List.nil_append, hl2]; omega, .inr ⟨w.heap.size, _, _, rfl, hbase, heap_alloc_new w.drew _, hge, hcm', ?_, ?_⟩⟩, hr⟩, ⟨rfl, rfl, rfl, by simp, fun k hk _ => heap_alloc_old w.drew _ hk⟩, .inr (fun q hq => by injection hq with hq; exact Nat.le_of_eq hq)⟩
      · simp only [Array.size_append, List.size_toArray, List.nil_append, size_zeroCells, hl2]
        show m * 1 + (_ - _) * 1 = _
        omega
      · simp only [Array.toList_append, List.nil_append]
        have : (0 + m) * 1 = (ys.map (Value.int .u8)).length := by rw [hl2]; omega
        rw [this]
        exact List.take_left
  · injection he with e1 e2 e3
    subst e1 e3
    obtain ⟨g', c', w', hrr, ho', hg', hw⟩ := run_append_loc (P := Tryz.prog) w base 22 22 ty 5 j0 _ 1 1 Tryz.underlying22 ji jz0 jz1 jz2 rfl (by decide) g n c (zs.map (Value.int .u8)) hown.1 x m (ys.map (Value.int .u8)) hs (by unfold maxLen; omega) (by omega) hbase
    refine ⟨some ⟨g', 0, none⟩, c', w', hrr, ⟨by rw [List.map_append]; exact ho', hr⟩, hg', ?_⟩
    rcases hw with rfl | rfl
    · exact .inl rfl
    · exact .inr (fun q hq => by injection hq with hq; exact Nat.le_of_eq hq)

end Go.Proofs.YtiigdcpjelbdjaaGreatDoor

namespace Go.Proofs.YtiigdcpjelbdjaaGreatDoor
open Go.RowKit
set_option linter.unusedVariables false

set_option maxRecDepth 10000 in
set_option maxHeartbeats 1600000 in
theorem specUpAt_any (a : Option Addr) (n ca : Nat) (a' : Option Addr) (n' ca' : Nat) (ep nx : Int) (ua : Option Addr) (un uc lo : Nat) (l : List UE) (id : ByteArray) (w : World) (hu : UpRow w lo (.slice ua un uc) l) (hun : un = l.length) (hul : un ≤ 1099511627776) (hz : ∀ e ∈ l, e.n ≤ 1099511627776) :
    Calls Tryz.prog 59 #[.agg #[.slice a n ca, .slice a' n' ca', .int .i64 ep, .int .i64 nx, .slice ua un uc], .string id] w fun e w' => AnsU w.heap.size (l.map UE.u) id e w' ∧ Below w.heap.size w w' := by
  obtain ⟨w0, hw0⟩ : ∃ w0, (w.alloc (.cells #[.slice a n ca, .slice a' n' ca', .int .i64 ep, .int .i64 nx, .slice ua un uc] 29)).alloc (.cells #[.string ⟨#[]⟩, .int .i64 0, .slice none 0 0, .bool false] 42) = w0 := ⟨_, rfl⟩
  have HE : Hid ((w.alloc (.cells #[.slice a n ca, .slice a' n' ca', .int .i64 ep, .int .i64 nx, .slice ua un uc] 29)).alloc (.cells #[.string ⟨#[]⟩, .int .i64 0, .slice none 0 0, .bool false] 42) = w0) := hw0
  have HB : Hid (Below w.heap.size w w0) := by show Below _ _ _; rw [← hw0]; exact ((Below.refl _ _).alloc (Nat.le_refl _) _).alloc (by simp) _
  have HQ : Hid (BoxN w0 w.heap.size 29 [.slice a n ca, .slice a' n' ca', .int .i64 ep, .int .i64 nx, .slice ua un uc]) := by show BoxN _ _ _ _; rw [← hw0]; exact (BoxN.new _ _ _).alloc _
  have HR : Hid (BoxN w0 (w.heap.size + 1) 42 [.string ⟨#[]⟩, .int .i64 0, .slice none 0 0, .bool false]) := by
    show BoxN _ _ _ _
    rw [← hw0]
    have := BoxN.new (w.alloc (.cells #[.slice a n ca, .slice a' n' ca', .int .i64 ep, .int .i64 nx, .slice ua un uc] 29)) 42 [.string ⟨#[]⟩, .int .i64 0, .slice none 0 0, .bool false]
    rw [World.size_alloc] at this
    exact this
  have HU : Hid (UpRow w0 lo (.slice ua un uc) l) := hu.stays HB.out
  have HN : Hid (un = l.length) := hun
  have HZ : Hid (∀ e ∈ l, e.n ≤ 1099511627776) := hz
  have hwl : w.heap.size + 1 < w0.heap.size := HR.out.lt
  clear hw0 hu hun hz
  have c4 := HQ.out.cell 4 rfl
  have HC : Hid (Calls Tryz.prog 87 #[.slice ua un uc, .string id] w0 fun e w' => e = .returned (.int .i64 (atI (l.map UE.u) id)) ∧ w' = w0) := specAtU_any ua un uc lo id l w0 HU.out HN.out hul
  have a0 := HR.out.cell 0 rfl
  have a1 := HR.out.cell 1 rfl
  have a2 := HR.out.cell 2 rfl
  have a3 := HR.out.cell 3 rfl
  have f0 := HR.out.frozen 0
  have f1 := HR.out.frozen 1
  have f2 := HR.out.frozen 2
  have f3 := HR.out.frozen 3
  cases hk : atU (l.map UE.u) id with
  | none =>
    have hi : atI (l.map UE.u) id = -1 := by rw [atI, hk]
    rw [hi] at HC
    have HG : Hid (gotU (l.map UE.u) id = ⟨⟨#[]⟩, 0, [], false⟩ ∧ atU (l.map UE.u) id = none) := ⟨gotU_none hk, hk⟩
    clear hi hk
    go_enter Tryz.func59, Tryz.ntmps59
    go_upto_region 1 with fail
    rw [HE.out]
    clear HE
    go_wp2_with fail
    refine HC.out.mono ?_
    rintro _ w0 ⟨rfl, rfl⟩
    go_wp2_with fail
    refine bodyPost_ret (v := .tuple #[.agg #[.string ⟨#[]⟩, .int .i64 0, .slice none 0 0, .bool false], .bool false]) (by simp [results, Tryz.f59, go_sem, a0, a1, a2, a3]) rfl ?_
    refine ⟨⟨none, 0, ?_, ?_⟩, ?_⟩
    · rw [HG.out.1, HG.out.2]; rfl
    · rw [HG.out.1]; exact owns_nil _ _
    · exact (((HB.out.setCell (by dsimp only; omega) _).setCell (by dsimp only; omega) _).setCell (by dsimp only; omega) _).setCell (by dsimp only; omega) _
  | some k =>
    have hi : atI (l.map UE.u) id = (k : Int) := by rw [atI, hk]
    have hkl : k < l.length := by simpa using (atU_is hk).1
    rw [hi] at HC
    have HG : Hid (gotU (l.map UE.u) id = (l[k]).u ∧ atU (l.map UE.u) id = some k) := ⟨gotU_some hk hkl, hk⟩
    obtain ⟨g, hg, g0, g1, g2, g3, _⟩ := HU.out.at HN.out hkl
    subst hg
    have HOx : Hid (Owns w0 lo (l[k]).a (l[k]).n (l[k]).c (l[k]).u.zs) := HU.out.2.1 _ (List.getElem_mem hkl)
    have hzk : (l[k]).n ≤ 1099511627776 := HZ.out _ (List.getElem_mem hkl)
    have hku : k < un := by have := HN.out; omega
    have hki : (k : Int) < (un : Int) := by omega
    have hk0 : (0 : Int) ≤ (k : Int) := by omega
    clear hi hk
    generalize l[k] = x at *
    go_enter Tryz.func59, Tryz.ntmps59
    go_upto_region 1 with fail
    rw [HE.out]
    clear HE
    go_wp2_with fail
    refine HC.out.mono ?_
    rintro _ w0 ⟨rfl, rfl⟩
    go_upto_region 5 with fail
    obtain ⟨w1, hw1⟩ : ∃ w1, w0.alloc (.cells #[.string x.u.id, .int .i64 x.u.want, .slice x.a x.n x.c, .bool x.u.done] 42) = w1 := ⟨_, rfl⟩
    have hb1 : Below w0.heap.size w0 w1 := by rw [← hw1]; exact (Below.refl _ _).alloc (Nat.le_refl _) _
    have hq1 : BoxN w1 w0.heap.size 42 [.string x.u.id, .int .i64 x.u.want, .slice x.a x.n x.c, .bool x.u.done] := by rw [← hw1]; exact BoxN.new _ _ _
    rw [hw1]
    clear hw1
    obtain ⟨w2, hw2⟩ : ∃ w2, w1.alloc (.cells #[] 5) = w2 := ⟨_, rfl⟩
    have HE2 : Hid (w1.alloc (.cells #[] 5) = w2) := hw2
    have hb2 : Below w1.heap.size w1 w2 := by rw [← hw2]; exact (Below.refl _ _).alloc (Nat.le_refl _) _
    have hlit : Owns w2 w1.heap.size (some ⟨w1.heap.size, 0, none⟩) 0 0 [] := by rw [← hw2]; exact ⟨World.ownsRow_lit w1 #[] 0 (Nat.le_refl _) (Nat.zero_le _) rfl, by simp⟩
    have hsg : Seg w2 x.a x.n x.u.zs := (HOx.out.seg.below hb1).below hb2
    obtain ⟨A, C, w3, hr, ho3, hg3, hw3⟩ := appB_run w2 w1.heap.size 22 (some ⟨w1.heap.size, 0, none⟩) 0 0 [] hlit (.slice x.a x.n x.c) x.n x.u.zs hsg.src hsg.2.1 (by omega) hb2.size
    have hq2 := hq1.stays hb2
    have hwq : w0.heap.size < w1.heap.size := hq1.lt
    have hq3 : BoxN w3 w0.heap.size 42 [.string x.u.id, .int .i64 x.u.want, .slice x.a x.n x.c, .bool x.u.done] := hq2.grown hg3 (fun e => by simp at e; omega)
    have hr3 : BoxN w3 (w.heap.size + 1) 42 [.string ⟨#[]⟩, .int .i64 0, .slice none 0 0, .bool false] := ((HR.out.stays hb1).stays hb2).grown hg3 (fun e => by simp at e; omega)
    rw [Nat.zero_add, List.nil_append] at ho3
    have hr0 := hr
    rw [Nat.zero_add] at hr0
    have HB3 : Hid (Below w.heap.size w w3) := ((HB.out.trans (hb1.mono HB.out.size)).trans (hb2.mono (by have := HB.out.size; have := hb1.size; omega))).grown hg3 (by have := HB.out.size; have := hb1.size; have := hb2.size; omega) (fun q e => by simp at e; omega)
    have HO3 : Hid (Owns w3 (w0.heap.size + 1) A x.n C x.u.zs) := ho3.low (by omega)
    have hLn : x.u.zs.length = x.n := hsg.1
    have u2 := hq2.cell 2 rfl
    have b0 := hq3.cell 0 rfl
    have b1 := hq3.cell 1 rfl
    have b2 := hq3.cell 2 rfl
    have b3 := hq3.cell 3 rfl
    have z2 := hq3.frozen 2
    clear a0 a1 a2 a3 f0 f1 f2 f3
    have a0 := hr3.cell 0 rfl
    have a1 := hr3.cell 1 rfl
    have a2 := hr3.cell 2 rfl
    have a3 := hr3.cell 3 rfl
    have f0 := hr3.frozen 0
    have f1 := hr3.frozen 1
    have f2 := hr3.frozen 2
    have f3 := hr3.frozen 3
    rw [← hw2] at hr0 u2
    clear hr hw2 hb2 hlit hsg hq1 hq2 hq3 hr3 ho3 hg3 hw3
    go_wp2_with (at_builtin; refine Lib.wpList_append_run _ rfl _ _ _ _ rfl _ _ rfl rfl _ _ hr0 ?_)
    have hne1 : w0.heap.size ≠ w.heap.size + 1 := by omega
    have hA1 : A.map (·.block) ≠ some w0.heap.size := fun e => by have := (HO3.out.lt _ e).1; omega
    have hA2 : A.map (·.block) ≠ some (w.heap.size + 1) := fun e => by have := (HO3.out.lt _ e).1; omega
    go_wp2_with fail
    refine bodyPost_ret (v := .tuple #[.agg #[.string x.u.id, .int .i64 x.u.want, .slice A x.n C, .bool x.u.done], .bool true]) (by simp [results, Tryz.f59, go_sem, a0, a1, a2, a3]) rfl ?_
    refine ⟨⟨A, C, ?_, ?_⟩, ?_⟩
    · rw [HG.out.1, HG.out.2, hLn]; rfl
    · rw [HG.out.1, hLn]
      exact (owns_set (owns_set (owns_set (owns_set (owns_set HO3.out hA1) hA2) hA2) hA2) hA2).low (by omega)
    · exact ((((HB3.out.setCell (by dsimp only; omega) _).setCell (by dsimp only; omega) _).setCell (by dsimp only; omega) _).setCell (by dsimp only; omega) _).setCell (by dsimp only; omega) _

end Go.Proofs.YtiigdcpjelbdjaaGreatDoor

namespace Go.Proofs.YtiigdcpjelbdjaaGreatDoor
open Go.RowKit
set_option linter.unusedVariables false

theorem abc_ne {x : ByteArray} (h : x ∈ ([⟨#[97]⟩, ⟨#[98]⟩, ⟨#[99]⟩] : List ByteArray)) : x ≠ newId ∧ x.size = 1 := by
  simp only [List.mem_cons, List.not_mem_nil, or_false] at h
  rcases h with rfl | rfl | rfl <;> exact ⟨by decide, rfl⟩

theorem owns_cap {w : World} {base n cp g : Nat} {ys : List Int} (h : Owns w base (some ⟨g, 0, none⟩) n cp ys) : n ≤ cp := by
  rcases h.1.2 with ⟨h0, _⟩ | ⟨g1, cap, cur, he, hg, hh, hr⟩
  · cases h0
  · injection he with e1 e2 e3
    subst e3
    omega

set_option maxRecDepth 10000 in
set_option maxHeartbeats 12800000 in
theorem l14Some_any (B c : Nat) (a : Option Addr) (len cap : Nat) (zs : List Int) (lo : Nat) (k : Int) (A : Option Addr) (n C : Nat) (X : List ByteArray) (A' : Option Addr) (n' C' : Nat) (Y : List ByteArray) (ep nx : Int) (ua : Option Addr) (un uc : Nat) (l : List UE) (w : World) (hcur : Cur w B c a len cap zs) (hl : len ≤ 1099511627776) (hst : StoAt w lo A n C X A' n' C' Y ua un uc l) (hsg : SG k X Y ep nx (l.map UE.u)) (hcl : c < lo) (hlw : lo ≤ w.heap.size) :
    Calls Tryz.prog 38 #[.pointer (some ⟨c, 0, none⟩), .agg #[.slice A n C, .slice A' n' C', .int .i64 ep, .int .i64 nx, .slice ua un uc]] w fun e w' => (∃ v, e = .returned v ∧ DrawnS lo (k + 1) v w') ∧ Cur w' B c a len cap zs ∧ w.grownBy w' (some c) := by
  have hmm : 1048576 < maxLen := by decide
  obtain ⟨w1, hw1⟩ : ∃ w1, (w.alloc (.cells #[.slice A n C, .slice A' n' C', .int .i64 ep, .int .i64 nx, .slice ua un uc] 29)).alloc (.cells #[.slice none 0 0, .slice none 0 0, .int .i64 0, .int .i64 0, .slice none 0 0] 29) = w1 := ⟨_, rfl⟩
  have HE : Hid ((w.alloc (.cells #[.slice A n C, .slice A' n' C', .int .i64 ep, .int .i64 nx, .slice ua un uc] 29)).alloc (.cells #[.slice none 0 0, .slice none 0 0, .int .i64 0, .int .i64 0, .slice none 0 0] 29) = w1) := hw1
  have HD1 : Hid (DSt w w1 B c a len cap zs lo k A n C X A' n' C' Y ep nx ua un uc l) := by
    have hb : Below w.heap.size w w1 := by rw [← hw1]; exact ((Below.refl _ _).alloc (Nat.le_refl _) _).alloc (by simp) _
    refine ⟨?_, ?_, hst.stays hb, hcur.kept (gbelow hb none) (by simp), gbelow hb _, hsg, hcl, hlw⟩
    · rw [← hw1]; exact (BoxN.new _ _ _).alloc _
    · rw [← hw1]
      have := BoxN.new (w.alloc (.cells #[.slice A n C, .slice A' n' C', .int .i64 ep, .int .i64 nx, .slice ua un uc] 29)) 29 [.slice none 0 0, .slice none 0 0, .int .i64 0, .int .i64 0, .slice none 0 0]
      rwa [World.size_alloc] at this
  clear hw1 hst hsg hcur
  go_enter Tryz.func38, Tryz.ntmps38
  go_upto_region 1 with fail
  rw [HE.out]
  clear HE
  have hs1 : w.heap.size + 1 < w1.heap.size := HD1.out.zero.lt
  go_wp2_with fail
  refine (l1Str_any B c a len cap zs w1.heap.size 3 3 [⟨#[97]⟩, ⟨#[98]⟩, ⟨#[99]⟩] _ (HD1.out.new _).cur hl (heap_alloc_new w1 _) (by omega) rfl (by omega) (by omega)).mono ?_
  rintro e w2 ⟨id, rfl, hid, hc2, hg2⟩
  have HId : Hid (id ≠ newId ∧ id.size = 1) := abc_ne hid
  have HD2 : Hid (DSt w w2 B c a len cap zs lo k A n C X A' n' C' Y ep nx ua un uc l) := (HD1.out.new _).call hc2 hg2
  clear hid hc2 hg2 HD1 hs1
  go_wp2_with fail
  refine (l1Below_any B c a len cap zs 12 w2 HD2.out.cur hl (by omega) (by omega)).mono ?_
  rintro e w5 ⟨j, rfl, hj0, hj1, hc5, hg5⟩
  have HD : Hid (DSt w w5 B c a len cap zs lo k A n C X A' n' C' Y ep nx ua un uc l) := HD2.out.call hc5 hg5
  clear hc5 hg5 HD2
  obtain ⟨hiS, hin⟩ : Hid (id.size ≤ maxLen) ∧ Hid (id ≠ newId) := ⟨by show _ ≤ _; have := HId.out.2; omega, HId.out.1⟩
  clear HId
  go_upto_block 0 with fail
  go_cut [] from 6 (fun W => ∃ (A : Option Addr) (n C : Nat) (X : List ByteArray) (A' : Option Addr) (n' C' : Nat) (Y : List ByteArray) (ep nx : Int) (ua : Option Addr) (un uc : Nat) (l : List UE), Hid (DSt w W B c a len cap zs lo (k + 1) A n C X A' n' C' Y ep nx ua un uc l))
  case first =>
    have HDd : Hid (DSt w w5.drew B c a len cap zs lo k A n C X A' n' C' Y ep nx ua un uc l) := HD.out.stays (Below.refl _ _).drew
    have hs5 : w.heap.size + 1 < w5.heap.size := HD.out.zero.lt
    have hcw : c < w.heap.size := by omega
    by_cases h01 : j = 0 ∨ j = 1
    · go_upto_if 29 with fail
      go_cut [29] from 30 (fun v W => v = .bool true ∧ Hid (W = w5))
      case first => rcases h01 with rfl | rfl <;> (go_wp2_with fail; go_meet; exact ⟨rfl, rfl⟩)
      case rest =>
      obtain ⟨rfl, HWc⟩ := hcut
      rw [HWc.out]
      clear HWc h01
      obtain ⟨c0, c1, c2, c3, c4⟩ := (show _ ∧ _ ∧ _ ∧ _ ∧ _ from ⟨HDd.out.box.cell 0 rfl, HDd.out.box.cell 1 rfl, HDd.out.box.cell 2 rfl, HDd.out.box.cell 3 rfl, HDd.out.box.cell 4 rfl⟩)
      have q0 : ∀ o, (w5.alloc o).drew.cell? ⟨w.heap.size, 0, none⟩ = _ := fun o => ((HD.out.new o).stays (Below.refl _ _).drew).box.cell 0 rfl
      have q1 : ∀ o, (w5.alloc o).drew.cell? ⟨w.heap.size, 1, none⟩ = _ := fun o => ((HD.out.new o).stays (Below.refl _ _).drew).box.cell 1 rfl
      have q2 : ∀ o, (w5.alloc o).drew.cell? ⟨w.heap.size, 2, none⟩ = _ := fun o => ((HD.out.new o).stays (Below.refl _ _).drew).box.cell 2 rfl
      have q3 : ∀ o, (w5.alloc o).drew.cell? ⟨w.heap.size, 3, none⟩ = _ := fun o => ((HD.out.new o).stays (Below.refl _ _).drew).box.cell 3 rfl
      have q4 : ∀ o, (w5.alloc o).drew.cell? ⟨w.heap.size, 4, none⟩ = _ := fun o => ((HD.out.new o).stays (Below.refl _ _).drew).box.cell 4 rfl
      go_upto_region 8 with fail
      go_region_with (first
        | (go_at_call 58; refine (specMake_any A n C X A' n' C' Y ep nx ua un uc lo l id want y1 HP.out.1 HP.out.2.1 (by omega) (by omega) HP.out.2.2.2.2.1 HP.out.2.2.2.2.2.1 HP.out.2.2.2.2.2.2.1 (by omega) (fun e he => by have := HP.out.2.2.2.2.2.2.2.2.1 e he; omega) hiS.out hwb).mono ?_; rintro e y2 ⟨⟨v, rfl, hans⟩, hb2⟩
           obtain ⟨b, cb, b', cb', va, vc, l', rfl, hs2, hm2⟩ := hans.get
           have hD2 := hD1.stays hb2
           obtain ⟨m0, m1, m2, m3, m4⟩ := (show _ ∧ _ ∧ _ ∧ _ ∧ _ from ⟨hD2.box.cell 0 rfl, hD2.box.cell 1 rfl, hD2.box.cell 2 rfl, hD2.box.cell 3 rfl, hD2.box.cell 4 rfl⟩)
           obtain ⟨f0, f1, f2, f3, f4⟩ := (show _ ∧ _ ∧ _ ∧ _ ∧ _ from ⟨hD2.box.frozen 0, hD2.box.frozen 1, hD2.box.frozen 2, hD2.box.frozen 3, hD2.box.frozen 4⟩))
        | (go_at_call 36; refine (l1Int_any B c a len cap zs _ 4 4 [0, 3, 30, 60] _ (HDd.out.new _).cur hl (heap_alloc_new _ _) (by have := hs5; simp; omega) rfl (by omega) (by omega)).mono ?_; rintro e y1 ⟨want, rfl, hwant, hc1, hg1⟩
           have hD1 := (HDd.out.new _).call hc1 hg1
           have HP := (show Hid _ from hD1.sto.pre hD1.sg.ok)
           have hn2 := HP.out.2.2.1
           have hn3 := HP.out.2.2.2.1
           have hn4 := HP.out.2.2.2.2.2.2.2.1
           have hwb : -9223372036854775808 ≤ want ∧ want ≤ 9223372036854775807 := by simp only [List.mem_cons, List.not_mem_nil, or_false] at hwant; omega
           clear hwant
           obtain ⟨e0, e1, e2, e3, e4⟩ := (show _ ∧ _ ∧ _ ∧ _ ∧ _ from ⟨hD1.box.cell 0 rfl, hD1.box.cell 1 rfl, hD1.box.cell 2 rfl, hD1.box.cell 3 rfl, hD1.box.cell 4 rfl⟩))
        | fail)
      all_goals
        have HF : Hid (DSt w ((((((y2).setCell ⟨w.heap.size, 0, none⟩ (.slice b (makeA X Y ep nx (l.map UE.u) id want).X.length cb)).setCell ⟨w.heap.size, 1, none⟩ (.slice b' Y.length cb')).setCell ⟨w.heap.size, 2, none⟩ (.int .i64 ep)).setCell ⟨w.heap.size, 3, none⟩ (.int .i64 (makeA X Y ep nx (l.map UE.u) id want).nx)).setCell ⟨w.heap.size, 4, none⟩ (.slice va (makeA X Y ep nx (l.map UE.u) id want).us.length vc)) B c a len cap zs lo (k + 1) b (makeA X Y ep nx (l.map UE.u) id want).X.length cb (makeA X Y ep nx (l.map UE.u) id want).X b' Y.length cb' Y ep (makeA X Y ep nx (l.map UE.u) id want).nx va (makeA X Y ep nx (l.map UE.u) id want).us.length vc l') := hD2.put (vs := []) hs2 (by have := hD1.low; have := hD1.zero.lt; omega) (by rw [hm2]; exact (hD1.sg.make hin.out).more (by omega))
        clear hans hs2 hm2 hb2 hD1 hD2 HP hc1 hg1 e0 e1 e2 e3 e4 c0 c1 c2 c3 c4 q0 q1 q2 q3 q4 HDd HD
        go_wp2_with fail
        go_meet
        exact ⟨_, _, _, _, _, _, _, _, _, _, _, _, _, _, HF⟩
    by_cases h25 : 2 ≤ j ∧ j ≤ 5
    · have h25' : j = 2 ∨ j = 3 ∨ j = 4 ∨ j = 5 := by omega
      have hb0 : (j == 0) = false := by simp; omega
      have hb1 : (j == 1) = false := by simp; omega
      clear h25 h01
      go_upto_if 41 with fail
      go_cut [41] from 42 (fun v W => v = .bool true ∧ Hid (W = w5))
      case first => rcases h25' with rfl | rfl | rfl | rfl <;> (go_wp2_with fail; go_meet; exact ⟨rfl, rfl⟩)
      case rest =>
      obtain ⟨rfl, HWc⟩ := hcut
      rw [HWc.out]
      clear HWc h25' hb0 hb1
      obtain ⟨c0, c1, c2, c3, c4⟩ := (show _ ∧ _ ∧ _ ∧ _ ∧ _ from ⟨HD.out.box.cell 0 rfl, HD.out.box.cell 1 rfl, HD.out.box.cell 2 rfl, HD.out.box.cell 3 rfl, HD.out.box.cell 4 rfl⟩)
      have HP0 := (show Hid _ from HD.out.sto.pre HD.out.sg.ok)
      have hun0 := HP0.out.2.2.2.2.2.2.2.1
      go_upto_region 13 with fail
      go_wp2_with (go_at_call 59; refine (specUpAt_any A n C A' n' C' ep nx ua un uc lo l id w5 HP0.out.2.2.2.2.2.1 HP0.out.2.2.2.2.2.2.1 (by omega) (fun e he => by have := HP0.out.2.2.2.2.2.2.2.2.1 e he; omega)).mono ?_; rintro e w6 ⟨⟨UA, UC, rfl, hown⟩, hb6⟩; refine Hid.out ?_)
      refine hidden ?_
      obtain ⟨u, hu⟩ : ∃ u, gotU (l.map UE.u) id = u := ⟨_, rfl⟩
      obtain ⟨okb, hok⟩ : ∃ okb, (atU (l.map UE.u) id).isSome = okb := ⟨_, rfl⟩
      obtain ⟨Z, hZ⟩ : ∃ Z, (gotU (l.map UE.u) id).zs.length = Z := ⟨_, rfl⟩
      have HUf : Hid (0 ≤ u.want ∧ u.want ≤ 1000000000 ∧ Z ≤ 4800 ∧ (okb = true → (Z : Int) ≤ u.want)) := by
        show _ ∧ _
        have h := HD.out.sg.ok
        cases ha : atU (l.map UE.u) id with
        | none =>
          rw [gotU_none ha] at hu hZ
          rw [ha] at hok
          subst hu hZ hok
          exact ⟨by decide, by decide, by decide, fun h9 => by cases h9⟩
        | some kk =>
          have hkl : kk < l.length := by simpa using (atU_is ha).1
          rw [gotU_some ha hkl] at hu hZ
          subst hu hZ
          have hm := List.mem_map_of_mem (f := UE.u) (List.getElem_mem hkl)
          have h1 := h.wants _ hm
          have h2 := h.fits _ hm
          have h3 := (fold_small h.1 h.2.2.1).2 _ hm
          exact ⟨h1.1, h1.2, h3, fun _ => h2.1⟩
      rw [hZ] at hown ⊢
      rw [hok]
      rw [hu] at hown ⊢
      have HO6 : Hid (Owns w6 w5.heap.size UA Z UC u.zs) := hown
      have hd6 := HD.out.stays hb6
      obtain ⟨w7, hw7⟩ : ∃ w7, w6.alloc (.cells #[.string u.id, .int .i64 u.want, .slice UA Z UC, .bool u.done] 42) = w7 := ⟨_, rfl⟩
      have HE7 : Hid (w6.alloc (.cells #[.string u.id, .int .i64 u.want, .slice UA Z UC, .bool u.done] 42) = w7) := hw7
      have hb7 : Below w6.heap.size w6 w7 := by rw [← hw7]; exact (Below.refl _ _).alloc (Nat.le_refl _) _
      have HD7 : Hid (DSt w w7 B c a len cap zs lo k A n C X A' n' C' Y ep nx ua un uc l) := hd6.stays hb7
      have HU7 : Hid (BoxN w7 w6.heap.size 42 [.string u.id, .int .i64 u.want, .slice UA Z UC, .bool u.done]) := by show BoxN _ _ _ _; rw [← hw7]; exact BoxN.new _ _ _
      have HO7 : Hid (Owns w7 w5.heap.size UA Z UC u.zs) := HO6.out.below hb7
      have hub : w5.heap.size ≤ w6.heap.size := hb6.size
      obtain ⟨hw0, hw1, hZ1, HOk⟩ : 0 ≤ u.want ∧ u.want ≤ 1000000000 ∧ Z ≤ 4800 ∧ Hid (okb = true → (Z : Int) ≤ u.want) := HUf.out
      clear hown hd6 hw7 hb7 HO6 HUf c0 c1 c2 c3 c4 hb6 hu hok hZ HP0 HD HDd
      go_upto_region 14 with fail
      rw [HE7.out]
      clear HE7
      generalize w6.heap.size = ub at *
      have hs7 : ub < w7.heap.size := HU7.out.lt
      go_wp2_with (go_at_call 36; refine (l1Int_any B c a len cap zs w7.heap.size 4 4 [1, 3, 24, 30] _ (HD7.out.new _).cur hl (heap_alloc_new w7 _) (by omega) rfl (by omega) (by omega)).mono ?_; rintro e w8 ⟨dn, rfl, hdn, hc8, hg8⟩; refine Hid.out ?_)
      refine hidden ?_
      have HD8 : Hid (DSt w w8 B c a len cap zs lo k A n C X A' n' C' Y ep nx ua un uc l) := (HD7.out.new _).call hc8 hg8
      have HU8 : Hid (BoxN w8 ub 42 [.string u.id, .int .i64 u.want, .slice UA Z UC, .bool u.done]) := (HU7.out.alloc _).grown hg8 (fun e => by injection e with e; omega)
      have HO8 : Hid (Owns w8 w5.heap.size UA Z UC u.zs) := ((HO7.out.below ((Below.refl _ _).alloc (Nat.le_refl _) _)).grown hg8 (fun q e e2 => by injection e with e; have := (HO7.out.lt q e2).1; omega))
      have hdn1 : 1 ≤ dn ∧ dn ≤ 30 := by simp only [List.mem_cons, List.not_mem_nil, or_false] at hdn; omega
      obtain ⟨hdn0, hdn9⟩ := hdn1
      clear hdn hc8 hg8 HD7 HU7 HO7 hs7
      have u1 := HU8.out.cell 1 rfl
      have u2 := HU8.out.cell 2 rfl
      go_upto_region 15 with fail
      go_cut [70] from 55 (fun v W => ∃ bb : Bool, v = .bool bb ∧ Hid (bb = true → okb = true ∧ u.want - (Z : Int) < dn) ∧ Hid (DSt w W B c a len cap zs lo k A n C X A' n' C' Y ep nx ua un uc l) ∧ Hid (BoxN W ub 42 [.string u.id, .int .i64 u.want, .slice UA Z UC, .bool u.done]))
      case first =>
        cases okb with
        | false =>
          go_wp2_with fail
          go_meet
          exact ⟨false, rfl, (fun h => by cases h), HD8, HU8⟩
        | true =>
          by_cases hgt : u.want - (Z : Int) < dn
          case neg =>
            have hgtd : decide (u.want - (Z : Int) < dn) = false := by simpa using hgt
            go_wp2_with fail
            go_meet
            exact ⟨false, rfl, (fun h => by cases h), HD8, HU8⟩
          have hgtd : decide (u.want - (Z : Int) < dn) = true := by simpa using hgt
          go_wp2_with (go_at_call 29; refine (l1Once_any B c a len cap zs 5 w8 HD8.out.cur hl (by omega) (by omega)).mono ?_; rintro e w9 ⟨b5, rfl, hc9, hg9⟩; refine Hid.out ?_)
          refine hidden ?_
          have HD9 : Hid (DSt w w9 B c a len cap zs lo k A n C X A' n' C' Y ep nx ua un uc l) := HD8.out.call hc9 hg9
          have HU9 : Hid (BoxN w9 ub 42 [.string u.id, .int .i64 u.want, .slice UA Z UC, .bool u.done]) := HU8.out.grown hg9 (fun e => by injection e with e; omega)
          clear hc9 hg9 HD8 HU8 HO8 u1 u2
          go_wp2_with fail
          go_meet
          exact ⟨!b5, rfl, (fun _ => ⟨by first | rfl | trivial, hgt⟩), HD9, HU9⟩
      case rest =>
      obtain ⟨bb, rfl, HBb, HD9, HU9⟩ := hcut
      obtain ⟨w9, hw9⟩ : ∃ w9, wc = w9 := ⟨_, rfl⟩
      rw [hw9] at HD9 HU9 ⊢
      clear hw9 HD8 HU8 HO8 u1 u2
      have u1 := HU9.out.cell 1 rfl
      have u2 := HU9.out.cell 2 rfl
      go_upto_if 70 with fail
      go_cut [8] from 55 (fun v W => ∃ m : Nat, v = .int .i64 m ∧ m ≤ 30 ∧ Hid (W = w9))
      case first =>
        cases bb with
        | false =>
          obtain ⟨m, hm⟩ := Int.eq_ofNat_of_zero_le (show 0 ≤ dn by omega)
          go_wp2_with fail
          go_meet
          exact ⟨m, by rw [hm], by omega, rfl⟩
        | true =>
          have hlt := HBb.out rfl
          have hle := HOk.out hlt.1
          obtain ⟨m, hm⟩ := Int.eq_ofNat_of_zero_le (show 0 ≤ u.want - (Z : Int) by omega)
          have HM : Hid (u.want - (Z : Int) = (m : Int)) := hm
          have hm30 : m ≤ 30 := by have := hlt.2; omega
          clear hlt hle hm
          go_wp2_with fail
          go_meet
          exact ⟨m, by rw [HM.out], hm30, rfl⟩
      case rest =>
      obtain ⟨m, rfl, hm30, HWc⟩ := hcut
      rw [HWc.out]
      clear HWc HBb HOk
      have HDd : Hid (DSt w w9.drew B c a len cap zs lo k A n C X A' n' C' Y ep nx ua un uc l) := HD9.out.stays (Below.refl _ _).drew
      have HUd : Hid (BoxN w9.drew ub 42 [.string u.id, .int .i64 u.want, .slice UA Z UC, .bool u.done]) := HU9.out.stays (Below.refl _ _).drew
      obtain ⟨c0, c1, c2, c3, c4⟩ := (show _ ∧ _ ∧ _ ∧ _ ∧ _ from ⟨HDd.out.box.cell 0 rfl, HDd.out.box.cell 1 rfl, HDd.out.box.cell 2 rfl, HDd.out.box.cell 3 rfl, HDd.out.box.cell 4 rfl⟩)
      have u2 := HUd.out.cell 2 rfl
      clear HD9 HU9 u1
      have HMx : Hid (m ≤ maxLen) := by show m ≤ maxLen; unfold maxLen; omega
      have HZi : Hid (-9223372036854775808 ≤ (Z : Int) ∧ (Z : Int) ≤ 9223372036854775807) := by show _ ∧ _; omega
      have hcub : c < ub := by omega
      go_upto_region 17 with fail
      go_region_with (first
        | (go_at_call 60; refine (specPutUp_any A n C X A' n' C' Y ep nx ua un uc lo l id (Z : Int) (some ⟨g, 0, none⟩) m cp ys y1 HP.out.1 HP.out.2.1 (by omega) (by omega) HP.out.2.2.2.2.1 HP.out.2.2.2.2.2.1 HP.out.2.2.2.2.2.2.1 (by omega) (fun e he => by have := HP.out.2.2.2.2.2.2.2.2.1 e he; omega) hiS.out HZi.out HSeg.out HCp.out HMx.out).mono ?_; rintro e y2 ⟨⟨v, rfl, hans⟩, hb2⟩
           obtain ⟨b, cb, b', cb', va, vc, l', rfl, hs2, hm2⟩ := hans.get
           have hD2 := hD1.stays hb2
           obtain ⟨m0, m1, m2, m3, m4⟩ := (show _ ∧ _ ∧ _ ∧ _ ∧ _ from ⟨hD2.box.cell 0 rfl, hD2.box.cell 1 rfl, hD2.box.cell 2 rfl, hD2.box.cell 3 rfl, hD2.box.cell 4 rfl⟩)
           obtain ⟨f0, f1, f2, f3, f4⟩ := (show _ ∧ _ ∧ _ ∧ _ ∧ _ from ⟨hD2.box.frozen 0, hD2.box.frozen 1, hD2.box.frozen 2, hD2.box.frozen 3, hD2.box.frozen 4⟩))
        | (go_at_call 61; refine (l1Bytes_any B c a len cap zs m _ HDd.out.cur hl (by omega)).mono ?_; rintro e y1 ⟨g, cp, ys, rfl, hgb, how, hc1, hg1⟩
           have hD1 := HDd.out.call hc1 hg1
           have hU1 := HUd.out.grown hg1 (fun e => by injection e with e; omega)
           have HP := (show Hid _ from hD1.sto.pre hD1.sg.ok)
           have HOw := (show Hid _ from how)
           have HCp : Hid (m ≤ cp) := owns_cap how
           have HSeg : Hid (Seg y1 (some ⟨g, 0, none⟩) m ys) := how.seg
           have hn2 := HP.out.2.2.1
           have hn3 := HP.out.2.2.2.1
           have hn4 := HP.out.2.2.2.2.2.2.2.1
           have v2 := hU1.cell 2 rfl
           clear how
           obtain ⟨e0, e1, e2, e3, e4⟩ := (show _ ∧ _ ∧ _ ∧ _ ∧ _ from ⟨hD1.box.cell 0 rfl, hD1.box.cell 1 rfl, hD1.box.cell 2 rfl, hD1.box.cell 3 rfl, hD1.box.cell 4 rfl⟩))
        | fail)
      all_goals
        have HF : Hid (DSt w ((((((y2).setCell ⟨w.heap.size, 0, none⟩ (.slice b (putA X Y ep nx (l.map UE.u) id (Z : Int) ys).X.length cb)).setCell ⟨w.heap.size, 1, none⟩ (.slice b' Y.length cb')).setCell ⟨w.heap.size, 2, none⟩ (.int .i64 ep)).setCell ⟨w.heap.size, 3, none⟩ (.int .i64 (putA X Y ep nx (l.map UE.u) id (Z : Int) ys).nx)).setCell ⟨w.heap.size, 4, none⟩ (.slice va (putA X Y ep nx (l.map UE.u) id (Z : Int) ys).us.length vc)) B c a len cap zs lo (k + 1) b (putA X Y ep nx (l.map UE.u) id (Z : Int) ys).X.length cb (putA X Y ep nx (l.map UE.u) id (Z : Int) ys).X b' Y.length cb' Y ep (putA X Y ep nx (l.map UE.u) id (Z : Int) ys).nx va (putA X Y ep nx (l.map UE.u) id (Z : Int) ys).us.length vc l') := hD2.put (vs := []) hs2 (by have := hD1.low; have := hD1.zero.lt; omega) (by rw [hm2]; exact (hD1.sg.put hin.out HOw.out.2).more (by omega))
        clear hans hs2 hm2 hb2 hD1 hD2 hU1 HP HOw HSeg HCp hc1 hg1 e0 e1 e2 e3 e4 c0 c1 c2 c3 c4 HDd HUd u2 v2
        go_wp2_with fail
        go_meet
        exact ⟨_, _, _, _, _, _, _, _, _, _, _, _, _, _, HF⟩
    by_cases h6 : j = 6
    · subst h6
      obtain ⟨c0, c1, c2, c3, c4⟩ := (show _ ∧ _ ∧ _ ∧ _ ∧ _ from ⟨HD.out.box.cell 0 rfl, HD.out.box.cell 1 rfl, HD.out.box.cell 2 rfl, HD.out.box.cell 3 rfl, HD.out.box.cell 4 rfl⟩)
      have HP0 := (show Hid _ from HD.out.sto.pre HD.out.sg.ok)
      have hun0 := HP0.out.2.2.2.2.2.2.2.1
      go_upto_region 19 with fail
      go_wp2_with (go_at_call 59; refine (specUpAt_any A n C A' n' C' ep nx ua un uc lo l id w5 HP0.out.2.2.2.2.2.1 HP0.out.2.2.2.2.2.2.1 (by omega) (fun e he => by have := HP0.out.2.2.2.2.2.2.2.2.1 e he; omega)).mono ?_; rintro e w6 ⟨⟨UA, UC, rfl, hown⟩, hb6⟩; refine Hid.out ?_)
      refine hidden ?_
      obtain ⟨u, hu⟩ : ∃ u, gotU (l.map UE.u) id = u := ⟨_, rfl⟩
      obtain ⟨okb, hok⟩ : ∃ okb, (atU (l.map UE.u) id).isSome = okb := ⟨_, rfl⟩
      obtain ⟨Z, hZ⟩ : ∃ Z, (gotU (l.map UE.u) id).zs.length = Z := ⟨_, rfl⟩
      have HUf : Hid (0 ≤ u.want ∧ u.want ≤ 1000000000 ∧ Z ≤ 4800 ∧ (okb = true → (Z : Int) ≤ u.want)) := by
        show _ ∧ _
        have h := HD.out.sg.ok
        cases ha : atU (l.map UE.u) id with
        | none =>
          rw [gotU_none ha] at hu hZ
          rw [ha] at hok
          subst hu hZ hok
          exact ⟨by decide, by decide, by decide, fun h9 => by cases h9⟩
        | some kk =>
          have hkl : kk < l.length := by simpa using (atU_is ha).1
          rw [gotU_some ha hkl] at hu hZ
          subst hu hZ
          have hm := List.mem_map_of_mem (f := UE.u) (List.getElem_mem hkl)
          have h1 := h.wants _ hm
          have h2 := h.fits _ hm
          have h3 := (fold_small h.1 h.2.2.1).2 _ hm
          exact ⟨h1.1, h1.2, h3, fun _ => h2.1⟩
      rw [hZ] at hown ⊢
      rw [hok]
      rw [hu] at hown ⊢
      have HO6 : Hid (Owns w6 w5.heap.size UA Z UC u.zs) := hown
      have hd6 := HD.out.stays hb6
      obtain ⟨w7, hw7⟩ : ∃ w7, w6.alloc (.cells #[.string u.id, .int .i64 u.want, .slice UA Z UC, .bool u.done] 42) = w7 := ⟨_, rfl⟩
      have HE7 : Hid (w6.alloc (.cells #[.string u.id, .int .i64 u.want, .slice UA Z UC, .bool u.done] 42) = w7) := hw7
      have hb7 : Below w6.heap.size w6 w7 := by rw [← hw7]; exact (Below.refl _ _).alloc (Nat.le_refl _) _
      have HD7 : Hid (DSt w w7 B c a len cap zs lo k A n C X A' n' C' Y ep nx ua un uc l) := hd6.stays hb7
      have HU7 : Hid (BoxN w7 w6.heap.size 42 [.string u.id, .int .i64 u.want, .slice UA Z UC, .bool u.done]) := by show BoxN _ _ _ _; rw [← hw7]; exact BoxN.new _ _ _
      have HO7 : Hid (Owns w7 w5.heap.size UA Z UC u.zs) := HO6.out.below hb7
      have hub : w5.heap.size ≤ w6.heap.size := hb6.size
      obtain ⟨hw0, hw1, hZ1, HOk⟩ : 0 ≤ u.want ∧ u.want ≤ 1000000000 ∧ Z ≤ 4800 ∧ Hid (okb = true → (Z : Int) ≤ u.want) := HUf.out
      clear hown hd6 hw7 hb7 HO6 HUf c0 c1 c2 c3 c4 hb6 hu hok hZ HP0 HD HDd
      go_upto_region 20 with fail
      rw [HE7.out]
      clear HE7
      generalize w6.heap.size = ub at *
      have HDd : Hid (DSt w w7.drew B c a len cap zs lo k A n C X A' n' C' Y ep nx ua un uc l) := HD7.out.stays (Below.refl _ _).drew
      have HUd : Hid (BoxN w7.drew ub 42 [.string u.id, .int .i64 u.want, .slice UA Z UC, .bool u.done]) := HU7.out.stays (Below.refl _ _).drew
      have HOd : Hid (Seg w7.drew UA Z u.zs) := (HO7.out.below (Below.refl _ _).drew).seg
      obtain ⟨c0, c1, c2, c3, c4⟩ := (show _ ∧ _ ∧ _ ∧ _ ∧ _ from ⟨HDd.out.box.cell 0 rfl, HDd.out.box.cell 1 rfl, HDd.out.box.cell 2 rfl, HDd.out.box.cell 3 rfl, HDd.out.box.cell 4 rfl⟩)
      have u2 := HUd.out.cell 2 rfl
      have HP := (show Hid _ from HDd.out.sto.pre HDd.out.sg.ok)
      have hn2 := HP.out.2.2.1
      have hn3 := HP.out.2.2.2.1
      have hn4 := HP.out.2.2.2.2.2.2.2.1
      clear HD7 HU7 HO7
      go_region_with (first
        | (go_at_call 62; refine (specDone_any A n C X A' n' C' Y ep nx ua un uc lo l id _ _ HP.out.1 HP.out.2.1 (by omega) (by omega) HP.out.2.2.2.2.1 HP.out.2.2.2.2.2.1 HP.out.2.2.2.2.2.2.1 (by omega) (fun e he => by have := HP.out.2.2.2.2.2.2.2.2.1 e he; omega) hiS.out).mono ?_; rintro e y2 ⟨⟨v, rfl, hans⟩, hb2⟩
           obtain ⟨b, cb, b', cb', va, vc, l', rfl, hs2, hm2⟩ := hans.get
           have hD2 := HDd.out.stays hb2
           obtain ⟨m0, m1, m2, m3, m4⟩ := (show _ ∧ _ ∧ _ ∧ _ ∧ _ from ⟨hD2.box.cell 0 rfl, hD2.box.cell 1 rfl, hD2.box.cell 2 rfl, hD2.box.cell 3 rfl, hD2.box.cell 4 rfl⟩)
           obtain ⟨f0, f1, f2, f3, f4⟩ := (show _ ∧ _ ∧ _ ∧ _ ∧ _ from ⟨hD2.box.frozen 0, hD2.box.frozen 1, hD2.box.frozen 2, hD2.box.frozen 3, hD2.box.frozen 4⟩))
        | (go_at_call 63; refine (specCrc_any UA Z UC u.zs _ HOd.out (by omega)).mono ?_; rintro e y1 ⟨rfl, rfl⟩)
        | fail)
      all_goals
        have HF : Hid (DSt w ((((((y2).setCell ⟨w.heap.size, 0, none⟩ (.slice b (doneA X Y ep nx (l.map UE.u) id ((crcL u.zs ^^^ 4294967295 : Nat) : Int)).X.length cb)).setCell ⟨w.heap.size, 1, none⟩ (.slice b' Y.length cb')).setCell ⟨w.heap.size, 2, none⟩ (.int .i64 ep)).setCell ⟨w.heap.size, 3, none⟩ (.int .i64 (doneA X Y ep nx (l.map UE.u) id ((crcL u.zs ^^^ 4294967295 : Nat) : Int)).nx)).setCell ⟨w.heap.size, 4, none⟩ (.slice va (doneA X Y ep nx (l.map UE.u) id ((crcL u.zs ^^^ 4294967295 : Nat) : Int)).us.length vc)) B c a len cap zs lo (k + 1) b (doneA X Y ep nx (l.map UE.u) id ((crcL u.zs ^^^ 4294967295 : Nat) : Int)).X.length cb (doneA X Y ep nx (l.map UE.u) id ((crcL u.zs ^^^ 4294967295 : Nat) : Int)).X b' Y.length cb' Y ep (doneA X Y ep nx (l.map UE.u) id ((crcL u.zs ^^^ 4294967295 : Nat) : Int)).nx va (doneA X Y ep nx (l.map UE.u) id ((crcL u.zs ^^^ 4294967295 : Nat) : Int)).us.length vc l') := hD2.put (vs := []) hs2 (Nat.le_trans HDd.out.low (Nat.le_of_lt (Nat.lt_of_succ_lt HDd.out.zero.lt))) (by rw [hm2]; exact (HDd.out.sg.done hin.out).more (by omega))
        clear hans hs2 hm2 hb2 hD2 HP c0 c1 c2 c3 c4 HDd HUd HOd u2
        go_wp2_with fail
        go_meet
        exact ⟨_, _, _, _, _, _, _, _, _, _, _, _, _, _, HF⟩
    by_cases h7 : j = 7
    · subst h7
      go_upto_region 22 with fail
      go_wp2_with (go_at_call 29; refine (l1Once_any B c a len cap zs 3 w5 HD.out.cur hl (by omega) (by omega)).mono ?_; rintro e w6 ⟨bb, rfl, hc6, hg6⟩; refine Hid.out ?_)
      refine hidden ?_
      have HD6 : Hid (DSt w w6 B c a len cap zs lo k A n C X A' n' C' Y ep nx ua un uc l) := HD.out.call hc6 hg6
      clear hc6 hg6 HD HDd
      cases bb with
      | false =>
        have HF := (show Hid _ from HD6.out.more (show k ≤ k + 1 by omega))
        clear HD6
        go_wp2_with fail
        go_meet
        exact ⟨_, _, _, _, _, _, _, _, _, _, _, _, _, _, HF⟩
      | true =>
        obtain ⟨c0, c1, c2, c3, c4⟩ := (show _ ∧ _ ∧ _ ∧ _ ∧ _ from ⟨HD6.out.box.cell 0 rfl, HD6.out.box.cell 1 rfl, HD6.out.box.cell 2 rfl, HD6.out.box.cell 3 rfl, HD6.out.box.cell 4 rfl⟩)
        have HP := (show Hid _ from HD6.out.sto.pre HD6.out.sg.ok)
        have hn2 := HP.out.2.2.1
        have hn3 := HP.out.2.2.2.1
        have hn4 := HP.out.2.2.2.2.2.2.2.1
        have hs6 : w.heap.size + 1 < w6.heap.size := HD6.out.zero.lt
        go_upto_region 23 with fail
        go_wp2_with (go_at_call 64; refine (specDrop_any A n C X A' n' C' Y ep nx ua un uc lo l id w6 HP.out.1 HP.out.2.1 (by omega) (by omega) HP.out.2.2.2.2.1 HP.out.2.2.2.2.2.1 HP.out.2.2.2.2.2.2.1 (by omega) (fun e he => by have := HP.out.2.2.2.2.2.2.2.2.1 e he; omega) hiS.out).mono ?_; rintro e y2 ⟨⟨v, rfl, hans⟩, hb2⟩; refine Hid.out ?_)
        refine hidden ?_
        obtain ⟨b, cb, b', cb', va, vc, l', rfl, hs2, hm2⟩ := hans.get
        have hD2 := HD6.out.stays hb2
        obtain ⟨m0, m1, m2, m3, m4⟩ := (show _ ∧ _ ∧ _ ∧ _ ∧ _ from ⟨hD2.box.cell 0 rfl, hD2.box.cell 1 rfl, hD2.box.cell 2 rfl, hD2.box.cell 3 rfl, hD2.box.cell 4 rfl⟩)
        obtain ⟨f0, f1, f2, f3, f4⟩ := (show _ ∧ _ ∧ _ ∧ _ ∧ _ from ⟨hD2.box.frozen 0, hD2.box.frozen 1, hD2.box.frozen 2, hD2.box.frozen 3, hD2.box.frozen 4⟩)
        have HF : Hid (DSt w ((((((y2).setCell ⟨w.heap.size, 0, none⟩ (.slice b (dropA X Y ep nx (l.map UE.u) id).X.length cb)).setCell ⟨w.heap.size, 1, none⟩ (.slice b' Y.length cb')).setCell ⟨w.heap.size, 2, none⟩ (.int .i64 ep)).setCell ⟨w.heap.size, 3, none⟩ (.int .i64 (dropA X Y ep nx (l.map UE.u) id).nx)).setCell ⟨w.heap.size, 4, none⟩ (.slice va (dropA X Y ep nx (l.map UE.u) id).us.length vc)) B c a len cap zs lo (k + 1) b (dropA X Y ep nx (l.map UE.u) id).X.length cb (dropA X Y ep nx (l.map UE.u) id).X b' Y.length cb' Y ep (dropA X Y ep nx (l.map UE.u) id).nx va (dropA X Y ep nx (l.map UE.u) id).us.length vc l') := hD2.put (vs := []) hs2 (by have := HD6.out.low; omega) (by rw [hm2]; exact (HD6.out.sg.drop hin.out).more (by omega))
        clear hans hs2 hm2 hb2 hD2 HP HD6 c0 c1 c2 c3 c4
        go_wp2_with fail
        go_meet
        exact ⟨_, _, _, _, _, _, _, _, _, _, _, _, _, _, HF⟩
    by_cases h89 : j = 8 ∨ j = 9
    · obtain ⟨c0, c1, c2, c3, c4⟩ := (show _ ∧ _ ∧ _ ∧ _ ∧ _ from ⟨HD.out.box.cell 0 rfl, HD.out.box.cell 1 rfl, HD.out.box.cell 2 rfl, HD.out.box.cell 3 rfl, HD.out.box.cell 4 rfl⟩)
      have HP := (show Hid _ from HD.out.sto.pre HD.out.sg.ok)
      have hn2 := HP.out.2.2.1
      have hn3 := HP.out.2.2.2.1
      have hn4 := HP.out.2.2.2.2.2.2.2.1
      have hsy := (show Hid _ from HD.out.sg.sync)
      rcases h89 with rfl | rfl
      all_goals
        go_wp2_with (go_at_call 65; refine (specSync_any A n C X A' n' C' Y ep nx ua un uc lo l w5 HP.out.1 HP.out.2.1 (by omega) (by omega) HP.out.2.2.2.2.1 HP.out.2.2.2.2.2.1 HP.out.2.2.2.2.2.2.1 (by omega) (fun e he => by have := HP.out.2.2.2.2.2.2.2.2.1 e he; omega)).mono ?_; rintro e y2 ⟨⟨v, rfl, hans⟩, hb2⟩; refine Hid.out ?_)
        refine hidden ?_
        rw [hsy.out.1] at hans
        obtain ⟨b, cb, b', cb', va, vc, l', rfl, hs2, hm2⟩ := hans.get
        rw [List.length_map] at hs2 ⊢
        have hD2 := HD.out.stays hb2
        obtain ⟨m0, m1, m2, m3, m4⟩ := (show _ ∧ _ ∧ _ ∧ _ ∧ _ from ⟨hD2.box.cell 0 rfl, hD2.box.cell 1 rfl, hD2.box.cell 2 rfl, hD2.box.cell 3 rfl, hD2.box.cell 4 rfl⟩)
        obtain ⟨f0, f1, f2, f3, f4⟩ := (show _ ∧ _ ∧ _ ∧ _ ∧ _ from ⟨hD2.box.frozen 0, hD2.box.frozen 1, hD2.box.frozen 2, hD2.box.frozen 3, hD2.box.frozen 4⟩)
        have HF : Hid (DSt w ((((((y2).setCell ⟨w.heap.size, 0, none⟩ (.slice b X.length cb)).setCell ⟨w.heap.size, 1, none⟩ (.slice b' X.length cb')).setCell ⟨w.heap.size, 2, none⟩ (.int .i64 ep)).setCell ⟨w.heap.size, 3, none⟩ (.int .i64 nx)).setCell ⟨w.heap.size, 4, none⟩ (.slice va l.length vc)) B c a len cap zs lo (k + 1) b X.length cb X b' X.length cb' X ep nx va l.length vc l') := hD2.put (vs := []) hs2 (by have := HD.out.low; omega) (by rw [hm2]; exact hsy.out.2.more (by omega))
        clear hans hs2 hm2 hb2 hD2 HP HD HDd hsy c0 c1 c2 c3 c4
        go_wp2_with fail
        go_meet
        exact ⟨_, _, _, _, _, _, _, _, _, _, _, _, _, _, HF⟩
    have hb0 : (j == 0) = false := by simp; omega
    have hb1 : (j == 1) = false := by simp; omega
    have hb2 : (j == 2) = false := by simp; omega
    have hb3 : (j == 3) = false := by simp; omega
    have hb4 : (j == 4) = false := by simp; omega
    have hb5 : (j == 5) = false := by simp; omega
    have hb6 : (j == 6) = false := by simp; omega
    have hb7 : (j == 7) = false := by simp; omega
    have hb8 : (j == 8) = false := by simp; omega
    have hb9 : (j == 9) = false := by simp; omega
    clear h01 h25 h6 h7 h89
    obtain ⟨c0, c1, _, _, _⟩ := (show _ ∧ _ ∧ _ ∧ _ ∧ _ from ⟨HDd.out.box.cell 0 rfl, HDd.out.box.cell 1 rfl, HDd.out.box.cell 2 rfl, HDd.out.box.cell 3 rfl, HDd.out.box.cell 4 rfl⟩)
    have HDa : Hid (DSt w (w5.drew.alloc (.cells #[.slice none 0 0, .slice none 0 0, .int .i64 0, .int .i64 0, .slice none 0 0] 29)) B c a len cap zs lo k A n C X A' n' C' Y ep nx ua un uc l) := HDd.out.new _
    have HZa : Hid (BoxN (w5.drew.alloc (.cells #[.slice none 0 0, .slice none 0 0, .int .i64 0, .int .i64 0, .slice none 0 0] 29)) w5.heap.size 29 [.slice none 0 0, .slice none 0 0, .int .i64 0, .int .i64 0, .slice none 0 0] ∧ w.heap.size + 1 < w5.heap.size) := ⟨BoxN.new w5.drew 29 [.slice none 0 0, .slice none 0 0, .int .i64 0, .int .i64 0, .slice none 0 0], hs5⟩
    have q0 : ∀ o, (w5.alloc o).drew.cell? ⟨w.heap.size, 0, none⟩ = _ := fun o => ((HD.out.new o).stays (Below.refl _ _).drew).box.cell 0 rfl
    have q1 : ∀ o, (w5.alloc o).drew.cell? ⟨w.heap.size, 1, none⟩ = _ := fun o => ((HD.out.new o).stays (Below.refl _ _).drew).box.cell 1 rfl
    clear HD
    go_upto_region 3 with fail
    go_region_held3 (fun W => W.cell? ⟨w.heap.size, 0, none⟩ = some (.slice A n C) ∧ W.cell? ⟨w.heap.size, 1, none⟩ = some (.slice A' n' C')) (first | with_reducible exact ⟨c0, c1⟩ | with_reducible exact ⟨q0 _, q1 _⟩ | with_reducible exact ⟨e0, e1⟩ | with_reducible exact ⟨r0 _, r1 _⟩ | with_reducible exact ⟨m0, m1⟩ | with_reducible exact ⟨n0 _, n1 _⟩ | with_reducible exact ⟨k0, k1⟩ | with_reducible exact ⟨o0 _, o1 _⟩ | with_reducible exact ⟨t0 _ _ _ _ _, t1 _ _ _ _ _⟩) (first
      | (go_at_call 68
         first
           | (refine (l12Kept_any B c a len cap zs w5.drew HDd.out.cur hl).mono ?_; rintro e y1 ⟨⟨ka, m, kc, ks, rfl, hm8, hbo⟩, hc1, hg1⟩
              have hD1 := HDd.out.call hc1 hg1)
           | (refine (l12Kept_any B c a len cap zs (w5.drew.alloc (.cells #[.slice none 0 0, .slice none 0 0, .int .i64 0, .int .i64 0, .slice none 0 0] 29)) HDa.out.cur hl).mono ?_; rintro e y1 ⟨⟨ka, m, kc, ks, rfl, hm8, hbo⟩, hc1, hg1⟩
              have hD1 := HDa.out.call hc1 hg1
              have HZ1 := (show Hid _ from And.intro (BoxN.grown HZa.out.1 hg1 (fun e => by injection e with e; omega)) HZa.out.2))
         have HP := (show Hid _ from hD1.sto.pre hD1.sg.ok)
         have hn2 := HP.out.2.2.1
         have hn3 := HP.out.2.2.2.1
         have hs1 : w.heap.size + 1 < y1.heap.size := hD1.zero.lt
         have HBo : Hid (Bools y1 ka m ks) := OwnBo.strs hbo
         have HBa : Hid (∀ o, Bools (y1.alloc o) ka m ks) := fun o => OwnBo.strs (OwnBo.below hbo ((Below.refl _ _).alloc (Nat.le_refl _) _))
         have e0 := hD1.box.cell 0 rfl
         have e1 := hD1.box.cell 1 rfl
         have r0 : ∀ o, (y1.alloc o).cell? ⟨w.heap.size, 0, none⟩ = _ := fun o => (hD1.new o).box.cell 0 rfl
         have r1 : ∀ o, (y1.alloc o).cell? ⟨w.heap.size, 1, none⟩ = _ := fun o => (hD1.new o).box.cell 1 rfl
         clear hbo)
      | (go_at_call 67
         first
           | (refine (specFall_any A n C X A' n' C' Y ka m kc ks y1 HP.out.1 HP.out.2.1 HBo.out (by omega) (by omega) (by omega)).mono ?_; rintro e y2 ⟨⟨v, rfl, hans⟩, hb2⟩
              have hD2 := hD1.stays hb2
              try (have HZ2 := (show Hid _ from And.intro (BoxN.stays HZ1.out.1 hb2) HZ1.out.2)))
           | (refine (specFall_any A n C X A' n' C' Y ka m kc ks (y1.alloc (.cells #[.slice none 0 0, .slice none 0 0, .int .i64 0, .int .i64 0, .slice none 0 0] 29)) (hD1.new _).sto.now.strs (hD1.new _).sto.sure.strs (HBa.out _) (by omega) (by omega) (by omega)).mono ?_; rintro e y2 ⟨⟨v, rfl, hans⟩, hb2⟩
              have hD2 := (hD1.new _).stays hb2
              have HZ2 := (show Hid _ from And.intro (BoxN.stays (BoxN.new y1 29 [.slice none 0 0, .slice none 0 0, .int .i64 0, .int .i64 0, .slice none 0 0]) hb2) hs1))
         have HFl : Hid ((fallX X Y ks).length ≤ 200 ∧ (fallY X Y ks).length ≤ 400 ∧ ∀ x ∈ fallX X Y ks, x.size ≤ 1048576) := fall_small hD1.sg.ok.1 ks
         obtain ⟨Fa, Fc, Fa', Fc', rfl, fo1, fo2, fap⟩ := hans
         have hf1 := HFl.out.1
         have hf2 := HFl.out.2.1
         have hs2 : w.heap.size + 1 < y2.heap.size := hD2.zero.lt
         have HFo : Hid (∀ W, Below y2.heap.size y2 W → Strs W Fa (fallX X Y ks).length (fallX X Y ks) ∧ Strs W Fa' (fallY X Y ks).length (fallY X Y ks)) := fun W h => ⟨OwnSt.strs (OwnSt.below fo1 h), OwnSt.strs (OwnSt.below fo2 h)⟩
         have m0 := hD2.box.cell 0 rfl
         have m1 := hD2.box.cell 1 rfl
         have n0 : ∀ o, (y2.alloc o).cell? ⟨w.heap.size, 0, none⟩ = _ := fun o => (hD2.new o).box.cell 0 rfl
         have n1 : ∀ o, (y2.alloc o).cell? ⟨w.heap.size, 1, none⟩ = _ := fun o => (hD2.new o).box.cell 1 rfl
         clear fo1 fo2 fap)
      | (go_at_call 66
         first
           | (refine (specOpen_any Fa (fallX X Y ks).length Fc (fallX X Y ks) Fa' (fallY X Y ks).length Fc' (fallY X Y ks) y2 (HFo.out _ (Below.refl _ _)).1 (HFo.out _ (Below.refl _ _)).2 (by omega) (by omega) HFl.out.2.2).mono ?_; rintro e y3 ⟨hop, hb3⟩
              have hD3 := hD2.stays hb3
              try (have HZ3 := (show Hid _ from And.intro (BoxN.stays HZ2.out.1 hb3) HZ2.out.2)))
           | (refine (specOpen_any Fa (fallX X Y ks).length Fc (fallX X Y ks) Fa' (fallY X Y ks).length Fc' (fallY X Y ks) (y2.alloc (.cells #[.slice none 0 0, .slice none 0 0, .int .i64 0, .int .i64 0, .slice none 0 0] 29)) (HFo.out _ ((Below.refl _ _).alloc (Nat.le_refl _) _)).1 (HFo.out _ ((Below.refl _ _).alloc (Nat.le_refl _) _)).2 (by omega) (by omega) HFl.out.2.2).mono ?_; rintro e y3 ⟨hop, hb3⟩
              have hD3 := (hD2.new _).stays hb3
              have HZ3 := (show Hid _ from And.intro (BoxN.stays (BoxN.new y2 29 [.slice none 0 0, .slice none 0 0, .int .i64 0, .int .i64 0, .slice none 0 0]) hb3) hs2))
         obtain ⟨v, rfl, hans3⟩ := hop.get
         obtain ⟨b, cb, b', cb', va, vc, l', rfl, hs3, hm3⟩ := hans3.get
         have hl3 : lo ≤ y2.heap.size := Nat.le_trans hD2.low (Nat.le_of_lt (Nat.lt_of_succ_lt hs2))
         have hl4 : lo ≤ (y2.alloc (.cells #[.slice none 0 0, .slice none 0 0, .int .i64 0, .int .i64 0, .slice none 0 0] 29)).heap.size := Nat.le_trans hl3 (by simp)
         have k0 := hD3.box.cell 0 rfl
         have k1 := hD3.box.cell 1 rfl
         have o0 : ∀ o, (y3.alloc o).cell? ⟨w.heap.size, 0, none⟩ = _ := fun o => (hD3.new o).box.cell 0 rfl
         have o1 : ∀ o, (y3.alloc o).cell? ⟨w.heap.size, 1, none⟩ = _ := fun o => (hD3.new o).box.cell 1 rfl
         try (have t0 := fun (v0 v1 v2 v3 v4 : Value) => (far5 hD3 HZ3.out v0 v1 v2 v3 v4).1
              have t1 := fun (v0 v1 v2 v3 v4 : Value) => (far5 hD3 HZ3.out v0 v1 v2 v3 v4).2
              have z0 := BoxN.cell HZ3.out.1 0 rfl
              have z1 := BoxN.cell HZ3.out.1 1 rfl
              have z2 := BoxN.cell HZ3.out.1 2 rfl
              have z3 := BoxN.cell HZ3.out.1 3 rfl
              have z4 := BoxN.cell HZ3.out.1 4 rfl
              have g0 := BoxN.frozen HZ3.out.1 0
              have g1 := BoxN.frozen HZ3.out.1 1
              have g2 := BoxN.frozen HZ3.out.1 2
              have g3 := BoxN.frozen HZ3.out.1 3
              have g4 := BoxN.frozen HZ3.out.1 4))
      | fail)
    all_goals
      first
        | (have HT := hD3.box5 HZ3.out hs3 (openA (fallX X Y ks) (fallY X Y ks)).ep (openA (fallX X Y ks) (fallY X Y ks)).nx)
        | (have HT := hD3.new5 hs3 (openA (fallX X Y ks) (fallY X Y ks)).ep (openA (fallX X Y ks) (fallY X Y ks)).nx)
      obtain ⟨hT1, hT2, hT3⟩ := HT
      obtain ⟨p0, p1, p2, p3, p4⟩ := (show _ ∧ _ ∧ _ ∧ _ ∧ _ from ⟨hT3.cell 0 rfl, hT3.cell 1 rfl, hT3.cell 2 rfl, hT3.cell 3 rfl, hT3.cell 4 rfl⟩)
      obtain ⟨v0, v1, v2, v3, v4⟩ := (show _ ∧ _ ∧ _ ∧ _ ∧ _ from ⟨hT1.box.cell 0 rfl, hT1.box.cell 1 rfl, hT1.box.cell 2 rfl, hT1.box.cell 3 rfl, hT1.box.cell 4 rfl⟩)
      obtain ⟨f0, f1, f2, f3, f4⟩ := (show _ ∧ _ ∧ _ ∧ _ ∧ _ from ⟨hT1.box.frozen 0, hT1.box.frozen 1, hT1.box.frozen 2, hT1.box.frozen 3, hT1.box.frozen 4⟩)
      have HSo : Hid ((openA (fallX X Y ks) (fallY X Y ks)).ok = true → SG (k + 1) (openA (fallX X Y ks) (fallY X Y ks)).X (openA (fallX X Y ks) (fallY X Y ks)).Y (openA (fallX X Y ks) (fallY X Y ks)).ep (openA (fallX X Y ks) (fallY X Y ks)).nx (l'.map UE.u)) := fun h => by rw [hm3]; exact hD1.sg.openedA ks h
      have HF1 := (show Hid _ from hT1.more (show k ≤ k + 1 by omega))
      have HF2 := (show Hid _ from fun (h : (openA (fallX X Y ks) (fallY X Y ks)).ok = true) => hT1.put (vs := []) hT2 (by first | exact hl3 | exact hl4) (HSo.out h))
      clear hT1 hT2 hT3 HSo hD1 hD2 hD3 hs3 hm3 hop hans3 HP HBo HBa HFl HFo hc1 hg1 hb2 hb3 HDd HDa HZa c0 c1 q0 q1 e0 e1 r0 r1 m0 m1 n0 n1 k0 k1 o0 o1
      cases hokv : (openA (fallX X Y ks) (fallY X Y ks)).ok with
      | false =>
        clear HF2
        go_wp2_with fail
        go_meet
        exact ⟨_, _, _, _, _, _, _, _, _, _, _, _, _, _, HF1⟩
      | true =>
        have HF := (show Hid _ from HF2.out hokv)
        clear HF1 HF2
        go_wp2_with fail
        go_meet
        exact ⟨_, _, _, _, _, _, _, _, _, _, _, _, _, _, HF⟩
  case rest =>
  obtain ⟨wr, hwr⟩ : ∃ wr, wc = wr := ⟨_, rfl⟩
  rw [hwr] at hcut ⊢
  clear hwr HD
  obtain ⟨A, n, C, X, A', n', C', Y, ep, nx, ua, un, uc, l, HD⟩ := hcut
  obtain ⟨c0, c1, c2, c3, c4⟩ := (show _ ∧ _ ∧ _ ∧ _ ∧ _ from ⟨HD.out.box.cell 0 rfl, HD.out.box.cell 1 rfl, HD.out.box.cell 2 rfl, HD.out.box.cell 3 rfl, HD.out.box.cell 4 rfl⟩)
  obtain ⟨r0, r1, r2, r3, r4⟩ := (show _ ∧ _ ∧ _ ∧ _ ∧ _ from ⟨HD.out.zero.cell 0 rfl, HD.out.zero.cell 1 rfl, HD.out.zero.cell 2 rfl, HD.out.zero.cell 3 rfl, HD.out.zero.cell 4 rfl⟩)
  obtain ⟨f0, f1, f2, f3, f4⟩ := (show _ ∧ _ ∧ _ ∧ _ ∧ _ from ⟨HD.out.zero.frozen 0, HD.out.zero.frozen 1, HD.out.zero.frozen 2, HD.out.zero.frozen 3, HD.out.zero.frozen 4⟩)
  have HR := (show Hid _ from HD.out.done)
  clear HD
  go_wp2_with fail
  refine bodyPost_ret (v := .agg #[.slice A n C, .slice A' n' C', .int .i64 ep, .int .i64 nx, .slice ua un uc]) (by simp [results, Tryz.f38, go_sem, r0, r1, r2, r3, r4]) rfl ?_
  exact ⟨⟨_, rfl, HR.out.1⟩, HR.out.2⟩

end Go.Proofs.YtiigdcpjelbdjaaGreatDoor

namespace Go.Proofs.YtiigdcpjelbdjaaGreatDoor
open Go.RowKit
set_option linter.unusedVariables false

/-- How many sectors a new disk has. -/
def newN (n : Int) : Nat := if n ≤ 200 then n.toNat else 0

end Go.Proofs.YtiigdcpjelbdjaaGreatDoor

namespace Go.Proofs.YtiigdcpjelbdjaaGreatDoor
open Go.RowKit
set_option linter.unusedVariables false

theorem step_append_where {P : Program} {ops : Array Oper} {o : Oper} {a : Act} {w : World} {K : Act → World → Prop} {Q : Exit → Act → World → Prop} {E : Prop}
    (hg : o.guard = none) (s x : Operand) (t : TypeId) (ho : o.op = .call { callee := .builtin .append, args := #[s, x], argTypes := #[t, t] })
    (base : Nat) (e : TypeId) (i : TypeInfo) (z : Value) (size bytes : Nat) (ht : P.underlying t = some (.slice e)) (hi : P.info? e = some i) (hz : i.zero = some z)
    (hsize : i.size = size) (hby : i.bytes = bytes) (hzs : z.cells.size = size) (hsz : 0 < size)
    (v : Value) (n : Nat) (xs : List Value) (hs : a.eval s = v) (hown : w.ownsRow base e size v n xs)
    (ad : Addr) (m c : Nat) (hm : 0 < m) (news : List Value) (hx : a.eval x = .slice (some ad) m c) (hl : news.length = m * size) (hnews : ∀ j u, news[j]? = some u → w.cell? (ad.add j) = some u) (h1 : ∀ u ∈ news, u.oneCell' = true)
    (h63 : n + m ≤ maxLen) (hbytes : (n + m) * bytes ≤ 140737488355328) (hbase : base ≤ w.heap.size)
    (h : ∀ v' w', w'.ownsRow base e size v' (n + m) (xs ++ news) → w.grownBy w' v.ownBlock → (v'.ownBlock = v.ownBlock ∨ v'.ownBlock = some w.heap.size) → K (a.put o.dst v') w') :
    if Region.wanted o (yielded ops a.tmps) = true then Oper.wp P o a w K Q else E := by
  have hw : Region.wanted o (yielded ops a.tmps) = true := by simp [Region.wanted, hg]
  rw [if_pos hw]
  obtain ⟨v', w', hr, h2, h3, _⟩ := run_append_own (P := P) w base t o.type e i z size bytes ht hi hz hsize hby hzs hsz v n xs hown ad m c news hl hnews h1 h63 hbytes hbase
  have hsmall : n + m ≤ 9223372036854775807 := by simp only [maxLen] at h63; omega
  have key : v'.ownBlock = v.ownBlock ∨ v'.ownBlock = some w.heap.size := by
    subst hsize
    subst hby
    rcases hown.2 with ⟨rfl, rfl⟩ | ⟨g, cap, cur, rfl, hbg, hg2, hnc, hcm, hcs, htake⟩
    · have hr2 := run_append_nil (P := P) w t o.type e i z ht hi hz ad m c news hl hnews (by omega) (by omega) (by have hb := hbytes; simp only [Nat.zero_add] at hb; omega)
      rw [hr] at hr2
      injection hr2 with e1 _
      rw [e1]
      exact .inr rfl
    · by_cases hroom : n + m ≤ cap
      · have hfit : n * i.size + news.length ≤ cur.size := by rw [hl, hcs, ← Nat.add_mul]; exact Nat.mul_le_mul_right _ hroom
        have hr2 := run_append_room (P := P) w t o.type e i ht hi g n cap cur hg2 ad m c news hl hnews h1 hroom hfit
        rw [hr] at hr2
        injection hr2 with e1 _
        rw [e1]
        exact .inl rfl
      · have holds : ∀ j u, xs[j]? = some u → w.cell? ((⟨g, 0, none⟩ : Addr).add j) = some u := hown.cells (g := g) rfl
        have hr2 := run_append_grow (P := P) w t o.type e i z ht hi hz ⟨g, 0, none⟩ n cap xs hown.1 holds ad m c news hl hnews (by omega) (by omega) (growslice_fits (by omega) hbytes)
        rw [hr] at hr2
        injection hr2 with e1 _
        rw [e1]
        exact .inr rfl
  unfold Oper.wp execOp
  simp only [ho, resolve, invoke, builtin, Sem.run_bind, Sem.run_pure, Result.andThen_ok, List.map_toArray, List.map_cons, List.map_nil, hs, hx, hr]
  exact h v' w' h2 h3 key

end Go.Proofs.YtiigdcpjelbdjaaGreatDoor

namespace Go.Proofs.YtiigdcpjelbdjaaGreatDoor
open Go.RowKit
set_option linter.unusedVariables false

theorem wpList_append_where {P : Program} {w : World} {ops : Array Oper} {rest : List Oper} {o : Oper} {a : Act} {Q : Exit → Act → World → Prop} (hgd : o.guard = none) (s x : Operand) (t : TypeId)
    (ho : o.op = .call { callee := .builtin .append, args := #[s, x], argTypes := #[t, t] })
    (base : Nat) (e : TypeId) (i : TypeInfo) (z : Value) (size bytes : Nat) (ht : P.underlying t = some (.slice e)) (hi : P.info? e = some i) (hz : i.zero = some z)
    (hsize : i.size = size) (hby : i.bytes = bytes) (hzs : z.cells.size = size) (hsz : 0 < size)
    (v : Value) (n : Nat) (xs : List Value) (hs : a.eval s = v) (hown : w.ownsRow base e size v n xs)
    (ad : Addr) (m c : Nat) (hm : 0 < m) (news : List Value) (hx : a.eval x = .slice (some ad) m c) (hl : news.length = m * size) (hnews : ∀ j u, news[j]? = some u → w.cell? (ad.add j) = some u) (h1 : ∀ u ∈ news, u.oneCell' = true)
    (h63 : n + m ≤ maxLen) (hbytes : (n + m) * bytes ≤ 140737488355328) (hbase : base ≤ w.heap.size)
    (h : ∀ v' w', w'.ownsRow base e size v' (n + m) (xs ++ news) → w.grownBy w' v.ownBlock → (v'.ownBlock = v.ownBlock ∨ v'.ownBlock = some w.heap.size) → wpList P ops Q rest (a.put o.dst v') w') : wpList P ops Q (o :: rest) a w := by
  refine wpList_plain hgd fun K hK => ?_
  have := step_append_where (ops := ops) (E := True) (Q := Q) (K := K) hgd s x t ho base e i z size bytes ht hi hz hsize hby hzs hsz v n xs hs hown ad m c hm news hx hl hnews h1 h63 hbytes hbase (fun v' w' h2 h3 h4 => hK _ _ (h v' w' h2 h3 h4))
  rwa [if_pos (by simp [Region.wanted, hgd])] at this

end Go.Proofs.YtiigdcpjelbdjaaGreatDoor

namespace Go.Proofs.YtiigdcpjelbdjaaGreatDoor
open Go.RowKit
set_option linter.unusedVariables false

theorem blkOf_own (v : Value) : v.ownBlock = blkOf v := by
  cases v with
  | slice a n c => cases a <;> rfl
  | _ => rfl

/-- A disk that grows in a variable, beside a variable for the answer. -/
def DN (w W : World) (v0 v1 : Value) (k0 k1 : Nat) (X Y : List ByteArray) : Prop :=
  Box2R W (w.heap.size + 1) 26 v0 v1 ∧ Box2R W w.heap.size 26 (.slice none 0 0) (.slice none 0 0) ∧ OwnSt W (w.heap.size + 2) v0 k0 X ∧ OwnSt W (w.heap.size + 2) v1 k1 Y ∧ (∀ q, blkOf v0 = some q → blkOf v1 ≠ some q) ∧ Below w.heap.size w W

section
variable {w W w2 : World} {v0 v1 v2 : Value} {k0 k1 k2 : Nat} {X Y Z : List ByteArray}

theorem DN.push0 (h : DN w W v0 v1 k0 k1 X Y) (o : Obj) (ho : OwnSt w2 (w.heap.size + 2) v2 k2 Z) (hg : (W.alloc o).grownBy w2 v0.ownBlock) (hw : v2.ownBlock = v0.ownBlock ∨ v2.ownBlock = some (W.alloc o).heap.size) :
    DN w (w2.setCell ⟨w.heap.size + 1, 0, none⟩ v2) v2 v1 k2 k1 Z Y := by
  obtain ⟨h1, h2, h3, h4, h5, h6⟩ := h
  rw [blkOf_own, blkOf_own] at hw
  rw [blkOf_own] at hg
  have hlt0 : ∀ q, blkOf v0 = some q → w.heap.size + 2 ≤ q := fun q e => (h3.lt q e).1
  have hlt2 : ∀ q, blkOf v2 = some q → w.heap.size + 2 ≤ q := fun q e => (ho.lt q e).1
  have g1 := (h1.alloc o).grown hg (fun e => by have := hlt0 _ e; omega)
  have g2 := (h2.alloc o).grown hg (fun e => by have := hlt0 _ e; omega)
  have g4 := (h4.below ((Below.refl _ _).alloc (Nat.le_refl _) o)).kept hg (fun q e e2 => h5 q e e2)
  have hsz := h1.lt
  refine ⟨g1.set0 _, g2.other (by omega) _, ho.setCell (fun e => by have := hlt2 _ e; omega) _, g4.setCell (fun e => by have := (h4.lt _ e).1; omega) _, ?_, ?_⟩
  · intro q e e2
    rcases hw with hw | hw
    · exact h5 q (hw ▸ e) e2
    · rw [hw, World.size_alloc] at e
      injection e with e
      have := (h4.lt _ e2).2
      omega
  · exact ((h6.alloc h6.size o).grown hg (by have := h6.size; simp; omega) (fun q e => by have := hlt0 _ e; omega)).setCell (by dsimp only; omega) _

theorem DN.push1 (h : DN w W v0 v1 k0 k1 X Y) (o : Obj) (ho : OwnSt w2 (w.heap.size + 2) v2 k2 Z) (hg : (W.alloc o).grownBy w2 v1.ownBlock) (hw : v2.ownBlock = v1.ownBlock ∨ v2.ownBlock = some (W.alloc o).heap.size) :
    DN w (w2.setCell ⟨w.heap.size + 1, 1, none⟩ v2) v0 v2 k0 k2 X Z := by
  obtain ⟨h1, h2, h3, h4, h5, h6⟩ := h
  rw [blkOf_own, blkOf_own] at hw
  rw [blkOf_own] at hg
  have hlt0 : ∀ q, blkOf v1 = some q → w.heap.size + 2 ≤ q := fun q e => (h4.lt q e).1
  have hlt2 : ∀ q, blkOf v2 = some q → w.heap.size + 2 ≤ q := fun q e => (ho.lt q e).1
  have g1 := (h1.alloc o).grown hg (fun e => by have := hlt0 _ e; omega)
  have g2 := (h2.alloc o).grown hg (fun e => by have := hlt0 _ e; omega)
  have g3 := (h3.below ((Below.refl _ _).alloc (Nat.le_refl _) o)).kept hg (fun q e e2 => h5 q e2 e)
  have hsz := h1.lt
  refine ⟨g1.set1 _, g2.other (by omega) _, g3.setCell (fun e => by have := (h3.lt _ e).1; omega) _, ho.setCell (fun e => by have := hlt2 _ e; omega) _, ?_, ?_⟩
  · intro q e e2
    rcases hw with hw | hw
    · exact h5 q e (hw ▸ e2)
    · rw [hw, World.size_alloc] at e2
      injection e2 with e2
      have := (h3.lt _ e).2
      omega
  · exact ((h6.alloc h6.size o).grown hg (by have := h6.size; simp; omega) (fun q e => by have := hlt0 _ e; omega)).setCell (by dsimp only; omega) _
end

theorem srow_shape {w : World} {base n : Nat} {v : Value} {xs : List Value} (h : w.ownsRow base 9 1 v n xs) : ∃ a cap, v = .slice a n cap := by
  rcases h.2 with ⟨rfl, rfl⟩ | ⟨g, cap, cur, rfl, _⟩
  · exact ⟨_, _, rfl⟩
  · exact ⟨_, _, rfl⟩

theorem str_new (W : World) (x : ByteArray) : ∀ j v, [Value.string x][j]? = some v → (W.alloc (.cells #[.string x] 9)).cell? ((⟨W.heap.size, 0, none⟩ : Addr).add j) = some v := by
  intro j v hj
  obtain rfl : j = 0 := by have := (List.getElem?_eq_some_iff.1 hj).1; simpa using this
  rw [Addr.add_lit, cell_of_row _ _ _ _ _ _ (heap_alloc_new W (.cells #[.string x] 9))]
  simpa using hj

set_option maxRecDepth 10000 in
set_option maxHeartbeats 1600000 in
theorem specDnew_any (n : Int) (w : World) :
    Calls Tryz.prog 55 #[.int .i64 n] w fun e w' => (∃ v, e = .returned v ∧ AnsD w.heap.size (List.replicate (newN n) ⟨#[]⟩) (List.replicate (newN n) ⟨#[]⟩) v w') ∧ Below w.heap.size w w' := by
  obtain ⟨i0, hi, hz0, hz1, hz2⟩ := info_parts info_string
  obtain ⟨W0, hW0⟩ : ∃ W0, (w.alloc (Obj.cells #[Value.slice none 0 0, Value.slice none 0 0] 26)).alloc (Obj.cells #[Value.slice none 0 0, Value.slice none 0 0] 26) = W0 := ⟨_, rfl⟩
  have HE : Hid ((w.alloc (Obj.cells #[Value.slice none 0 0, Value.slice none 0 0] 26)).alloc (Obj.cells #[Value.slice none 0 0, Value.slice none 0 0] 26) = W0) := hW0
  have HD0 : Hid (DN w W0 (.slice none 0 0) (.slice none 0 0) 0 0 (List.replicate 0 ⟨#[]⟩) (List.replicate 0 ⟨#[]⟩)) := by
    show DN _ _ _ _ _ _ _ _
    have hr : ∀ W : World, OwnSt W (w.heap.size + 2) (.slice none 0 0) 0 (List.replicate 0 ⟨#[]⟩) := fun W => ⟨⟨rfl, .inl ⟨rfl, rfl⟩⟩, by simp⟩
    refine ⟨?_, ?_, hr _, hr _, by simp [blkOf], ?_⟩
    · have := Box2R.new (w.alloc (Obj.cells #[Value.slice none 0 0, Value.slice none 0 0] 26)) 26 (.slice none 0 0) (.slice none 0 0)
      rw [World.size_alloc, hW0] at this
      exact this
    · rw [← hW0]
      exact (Box2R.new _ _ _ _).alloc _
    · rw [← hW0]
      exact ((Below.refl _ _).alloc (Nat.le_refl _) _).alloc (by simp) _
  clear hW0
  go_enter Tryz.func55, Tryz.ntmps55
  go_wp2_with fail
  rw [HE.out]
  clear HE
  go_loopw [4] (fun i wr => ∃ k : Nat, k ≤ newN n ∧ i = .int .i64 (k : Int) ∧ Hid (∃ v0 v1, DN w wr v0 v1 k k (List.replicate k ⟨#[]⟩) (List.replicate k ⟨#[]⟩))) (fun i _ => newN n - (intOf i).toNat)
  case atStart => exact ⟨0, Nat.zero_le _, rfl, ⟨_, _, HD0.out⟩⟩
  case round =>
    clear HD0
    obtain ⟨k, hk, rfl, HD⟩ := hrel
    obtain ⟨v0, v1, hd⟩ := HD.out
    have HDN : Hid (DN w wr v0 v1 k k (List.replicate k ⟨#[]⟩) (List.replicate k ⟨#[]⟩)) := hd
    clear HD hd
    by_cases hlt : k < newN n
    · have hn2 : n ≤ 200 := by
        by_cases h : n ≤ 200
        · exact h
        · rw [newN, if_neg h] at hlt
          omega
      have hkn : (k : Int) < n := by
        rw [newN, if_pos hn2] at hlt
        omega
      have hk200 : k ≤ 200 := by omega
      have HRp : Hid (scells (List.replicate (k + 1) (⟨#[]⟩ : ByteArray)) = scells (List.replicate k ⟨#[]⟩) ++ [.string ⟨#[]⟩]) := by
        show _ = _
        rw [List.replicate_succ', scells_append]
        rfl
      have HRm : Hid (∀ x ∈ List.replicate (k + 1) (⟨#[]⟩ : ByteArray), x.size ≤ maxLen) := fun x hx => by
        rw [(List.mem_replicate.1 hx).2]
        exact Nat.zero_le _
      obtain ⟨d0, d1⟩ := HDN.out.1.cells
      have hsz : w.heap.size + 2 ≤ wr.heap.size := HDN.out.1.lt
      have HO1 : Hid ((wr.alloc (.cells #[.string ⟨#[]⟩] 9)).ownsRow (w.heap.size + 2) 9 1 v0 k (scells (List.replicate k ⟨#[]⟩))) := HDN.out.2.2.1.1.alloc _
      go_wp2_with (at_builtin; refine wpList_append_where rfl _ _ 24 rfl (w.heap.size + 2) 9 i0 (.string ⟨#[]⟩) 1 16 Tryz.underlying24 hi hz0 hz1 hz2 rfl (by decide) v0 k (scells (List.replicate k ⟨#[]⟩)) rfl HO1.out ⟨wr.heap.size, 0, none⟩ 1 1 (by decide) [.string ⟨#[]⟩] rfl rfl (str_new wr ⟨#[]⟩) (by simp [Value.oneCell']) (by unfold maxLen; omega) (by omega) (by simp; omega) ?_; intro v2 w2 hown2 hgrow2 hw2; obtain ⟨A2, C2, rfl⟩ := srow_shape hown2; refine Hid.out ?_)
      refine hidden ?_
      have HD2 : Hid (DN w (w2.setCell ⟨w.heap.size + 1, 0, none⟩ (.slice A2 (k + 1) C2)) (.slice A2 (k + 1) C2) v1 (k + 1) k (List.replicate (k + 1) ⟨#[]⟩) (List.replicate k ⟨#[]⟩)) := HDN.out.push0 _ ⟨by rw [HRp.out]; exact hown2, HRm.out⟩ hgrow2 hw2
      have hbx : Box2R w2 (w.heap.size + 1) 26 v0 v1 := (HDN.out.1.alloc _).grown hgrow2 (fun e => by rw [blkOf_own] at e; have := (HDN.out.2.2.1.lt _ e).1; omega)
      obtain ⟨e0, e1⟩ := hbx.cells
      have f0 := hbx.frozen 0
      clear hown2 hgrow2 hw2 HO1 hbx d0 d1
      go_upto_region 6 with fail
      obtain ⟨W3, hW3⟩ : ∃ W3, w2.setCell ⟨w.heap.size + 1, 0, none⟩ (.slice A2 (k + 1) C2) = W3 := ⟨_, rfl⟩
      rw [hW3] at HD2 ⊢
      clear hW3 HDN e0 e1 f0 hsz
      obtain ⟨d0, d1⟩ := HD2.out.1.cells
      have hsz : w.heap.size + 2 ≤ W3.heap.size := HD2.out.1.lt
      have HO1 : Hid ((W3.alloc (.cells #[.string ⟨#[]⟩] 9)).ownsRow (w.heap.size + 2) 9 1 v1 k (scells (List.replicate k ⟨#[]⟩))) := HD2.out.2.2.2.1.1.alloc _
      go_wp2_with (at_builtin; refine wpList_append_where rfl _ _ 24 rfl (w.heap.size + 2) 9 i0 (.string ⟨#[]⟩) 1 16 Tryz.underlying24 hi hz0 hz1 hz2 rfl (by decide) v1 k (scells (List.replicate k ⟨#[]⟩)) rfl HO1.out ⟨W3.heap.size, 0, none⟩ 1 1 (by decide) [.string ⟨#[]⟩] rfl rfl (str_new W3 ⟨#[]⟩) (by simp [Value.oneCell']) (by unfold maxLen; omega) (by omega) (by simp; omega) ?_; intro v3 w4 hown4 hgrow4 hw4; obtain ⟨A3, C3, rfl⟩ := srow_shape hown4; refine Hid.out ?_)
      refine hidden ?_
      have HD4 : Hid (DN w (w4.setCell ⟨w.heap.size + 1, 1, none⟩ (.slice A3 (k + 1) C3)) (.slice A2 (k + 1) C2) (.slice A3 (k + 1) C3) (k + 1) (k + 1) (List.replicate (k + 1) ⟨#[]⟩) (List.replicate (k + 1) ⟨#[]⟩)) := HD2.out.push1 _ ⟨by rw [HRp.out]; exact hown4, HRm.out⟩ hgrow4 hw4
      have hbx : Box2R w4 (w.heap.size + 1) 26 (.slice A2 (k + 1) C2) v1 := (HD2.out.1.alloc _).grown hgrow4 (fun e => by rw [blkOf_own] at e; have := (HD2.out.2.2.2.1.lt _ e).1; omega)
      obtain ⟨p0, p1⟩ := hbx.cells
      have f1 := hbx.frozen 1
      clear hown4 hgrow4 hw4 HO1 hbx d0 d1 HD2
      go_wp2_with fail
      go_roundw
      case rel => exact ⟨k + 1, by omega, by go_num, ⟨_, _, HD4.out⟩⟩
      case measure => simp [intOf]; omega
    · have hkN : k = newN n := by omega
      have HN : Hid (newN n = k) := hkN.symm
      have hend : ¬ ((k : Int) < n) ∨ ((k : Int) < n ∧ 200 < n) := by
        by_cases h : n ≤ 200
        · rw [newN, if_pos h] at hkN
          omega
        · omega
      clear hlt hkN hk
      obtain ⟨A0, C0, rfl⟩ := HDN.out.2.2.1.shape
      obtain ⟨A1, C1, rfl⟩ := HDN.out.2.2.2.1.shape
      obtain ⟨d0, d1⟩ := HDN.out.1.cells
      obtain ⟨r0, r1⟩ := HDN.out.2.1.cells
      have f0 := HDN.out.2.1.frozen 0
      have f1 := HDN.out.2.1.frozen 1
      have HR : Hid (AnsD w.heap.size (List.replicate (newN n) ⟨#[]⟩) (List.replicate (newN n) ⟨#[]⟩) (.agg #[.slice A0 k C0, .slice A1 k C1]) ((wr.setCell ⟨w.heap.size, 0, none⟩ (.slice A0 k C0)).setCell ⟨w.heap.size, 1, none⟩ (.slice A1 k C1)) ∧ Below w.heap.size w ((wr.setCell ⟨w.heap.size, 0, none⟩ (.slice A0 k C0)).setCell ⟨w.heap.size, 1, none⟩ (.slice A1 k C1))) := by
        obtain ⟨h1, h2, h3, h4, h5, h6⟩ := HDN.out
        have n0 : blkOf (.slice A0 k C0) ≠ some w.heap.size := fun e => by have := (h3.lt _ e).1; omega
        have n1 : blkOf (.slice A1 k C1) ≠ some w.heap.size := fun e => by have := (h4.lt _ e).1; omega
        refine ⟨AnsD.mk' (by rw [HN.out]; simp) (by rw [HN.out]; simp) ?_ ?_ ?_, (h6.setCell (Nat.le_refl _) _).setCell (Nat.le_refl _) _⟩
        · rw [HN.out]
          exact ((h3.setCell n0 _).setCell n0 _).low (by omega)
        · rw [HN.out]
          exact ((h4.setCell n1 _).setCell n1 _).low (by omega)
        · intro q e e2
          refine h5 q ?_ ?_
          · cases A0 <;> simp_all [blkOf]
          · cases A1 <;> simp_all [blkOf]
      clear HDN HN
      rcases hend with hend | ⟨hend, hbig⟩
      all_goals
        go_wp2_with fail
        refine bodyPost_ret (v := .agg #[.slice A0 k C0, .slice A1 k C1]) (by simp [results, Tryz.f55, go_sem, r0, r1]) rfl ?_
        exact ⟨⟨_, rfl, HR.out.1⟩, HR.out.2⟩

end Go.Proofs.YtiigdcpjelbdjaaGreatDoor
