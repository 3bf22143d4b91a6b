/- The draw of a request that is right, and of an answer. For codes of at most 2^40 bytes. -/
import Derived.Test.YthojijhafhnclaeDoorDrawReqA
import Derived.Test.YthojijhafhnclaeDoorDrawRespA
namespace Go.Proofs.YthojijhafhnclaeDoor
open Go.RowKit
set_option linter.unusedVariables false

set_option maxRecDepth 10000 in
set_option maxHeartbeats 3200000 in
theorem drawReq_any (a : Option Addr) (len cap : Nat) (zs : List Int) (w : World) (hs : Seg w a len zs) (hl : len ≤ 1099511627776) :
    Calls Tryd.prog 6 #[.slice a len cap] w fun e w' => ∃ (op n : Int) (s : ByteArray) (st off : Int), e = .returned (.tuple #[.agg #[.int .i64 op, .string s, .int .i64 n], .agg #[.int .i64 st, .int .i64 off]]) ∧ reqB op s.data.toList n = true ∧ s.size ≤ 8 ∧ respB st off = true ∧ Below w.heap.size w w' := by
  have HS : Hid (Seg w a len zs) := hs
  clear hs
  have HB0 : Hid (Below w.heap.size w ((w.alloc (.cells #[.int .i64 0, .string ⟨#[]⟩, .int .i64 0] 25)).alloc (.cells #[.int .i64 0, .int .i64 0] 27))) := ((Below.refl _ _).alloc (Nat.le_refl _) _).alloc (by simp) _
  have HQ0 : Hid (Box3 ((w.alloc (.cells #[.int .i64 0, .string ⟨#[]⟩, .int .i64 0] 25)).alloc (.cells #[.int .i64 0, .int .i64 0] 27)) w.heap.size 25 (.int .i64 0) (.string ⟨#[]⟩) (.int .i64 0)) := (Box3.new _ _ _ _ _).alloc _
  have HP0 : Hid (Box2R ((w.alloc (.cells #[.int .i64 0, .string ⟨#[]⟩, .int .i64 0] 25)).alloc (.cells #[.int .i64 0, .int .i64 0] 27)) (w.heap.size + 1) 27 (.int .i64 0) (.int .i64 0)) := by
    have := Box2R.new (w.alloc (.cells #[.int .i64 0, .string ⟨#[]⟩, .int .i64 0] 25)) 27 (.int .i64 0) (.int .i64 0)
    rwa [World.size_alloc] at this
  go_enter Tryd.func6, Tryd.ntmps6
  go_wp2_with fail
  obtain ⟨w1, hw1⟩ : ∃ w1, (w.alloc (.cells #[.int .i64 0, .string ⟨#[]⟩, .int .i64 0] 25)).alloc (.cells #[.int .i64 0, .int .i64 0] 27) = w1 := ⟨_, rfl⟩
  rw [hw1] at HB0 HQ0 HP0 ⊢
  clear hw1
  refine (l1New_any a len cap zs w1 (HS.out.below HB0.out) hl).mono ?_
  rintro e w2 ⟨rfl, hc2, hb2⟩
  have hlt1 : w.heap.size + 1 < w1.heap.size := HP0.out.lt
  generalize w1.heap.size = cc at *
  have HQ2 := (show Hid (Box3 w2 w.heap.size 25 (.int .i64 0) (.string ⟨#[]⟩) (.int .i64 0)) from (hb2.block _ (by omega)).trans HQ0.out)
  have HP2 := (show Hid (Box2R w2 (w.heap.size + 1) 27 (.int .i64 0) (.int .i64 0)) from (hb2.block _ (by omega)).trans HP0.out)
  have HB2 : Hid (Below w.heap.size w w2) := HB0.out.trans (hb2.mono (by omega))
  have HC2 : Hid (Cur w2 cc cc a len cap zs) := hc2
  clear hc2 hb2 HQ0 HP0 HB0
  go_wp2_with fail
  refine (l11Req_any cc cc a len cap zs w2 HC2.out hl).mono ?_
  rintro e w3 ⟨op, n, s, rfl, hr, hs8, hc3, hg3⟩
  have HR : Hid (reqB op s.data.toList n = true) := hr
  have HS8 : Hid (s.size ≤ 8) := hs8
  have HQ3 := (show Hid (Box3 w3 w.heap.size 25 (.int .i64 0) (.string ⟨#[]⟩) (.int .i64 0)) from HQ2.out.grown hg3 (fun e => by injection e with e; omega))
  have HP3 := (show Hid (Box2R w3 (w.heap.size + 1) 27 (.int .i64 0) (.int .i64 0)) from HP2.out.grown hg3 (fun e => by injection e with e; omega))
  have HB3 : Hid (Below w.heap.size w w3) := HB2.out.grown hg3 HB2.out.size (fun k e => by injection e with e; omega)
  have HC3 : Hid (Cur w3 cc cc a len cap zs) := hc3
  clear hr hs8 hc3 hg3 HQ2 HP2 HB2 HC2
  go_wp2_with fail
  refine (l11Resp_any cc cc a len cap zs w3 HC3.out hl).mono ?_
  rintro e w4 ⟨st, off, rfl, hr, hc4, hg4⟩
  have HRs : Hid (respB st off = true) := hr
  have HQ4 := (show Hid (Box3 w4 w.heap.size 25 (.int .i64 0) (.string ⟨#[]⟩) (.int .i64 0)) from HQ3.out.grown hg4 (fun e => by injection e with e; omega))
  have HP4 := (show Hid (Box2R w4 (w.heap.size + 1) 27 (.int .i64 0) (.int .i64 0)) from HP3.out.grown hg4 (fun e => by injection e with e; omega))
  have HB4 : Hid (Below w.heap.size w w4) := HB3.out.grown hg4 HB3.out.size (fun k e => by injection e with e; omega)
  clear hr hc4 hg4 HQ3 HP3 HB3 HC3
  obtain ⟨g0, g1, g2⟩ := HQ4.out.cells
  have f0 := HQ4.out.frozen 0
  have f1 := HQ4.out.frozen 1
  have f2 := HQ4.out.frozen 2
  obtain ⟨p0, p1⟩ := HP4.out.cells
  have z0 := HP4.out.frozen 0
  have z1 := HP4.out.frozen 1
  have HE := (show Hid (Below w.heap.size w (((((w4.setCell ⟨w.heap.size, 0, none⟩ (.int .i64 op)).setCell ⟨w.heap.size, 1, none⟩ (.string s)).setCell ⟨w.heap.size, 2, none⟩ (.int .i64 n)).setCell ⟨w.heap.size + 1, 0, none⟩ (.int .i64 st)).setCell ⟨w.heap.size + 1, 1, none⟩ (.int .i64 off))) from ((((HB4.out.setCell (p := ⟨w.heap.size, 0, none⟩) (Nat.le_refl _) _).setCell (p := ⟨w.heap.size, 1, none⟩) (Nat.le_refl _) _).setCell (p := ⟨w.heap.size, 2, none⟩) (Nat.le_refl _) _).setCell (p := ⟨w.heap.size + 1, 0, none⟩) (Nat.le_succ _) _).setCell (p := ⟨w.heap.size + 1, 1, none⟩) (Nat.le_succ _) _)
  clear HQ4 HP4
  go_wp2
  refine bodyPost_ret (v := .tuple #[.agg #[.int .i64 op, .string s, .int .i64 n], .agg #[.int .i64 st, .int .i64 off]]) (by simp [results, Tryd.f6, go_sem, g0, g1, g2, p0, p1]) rfl ?_
  exact ⟨op, n, s, st, off, rfl, HR.out, HS8.out, HRs.out, HE.out⟩

end Go.Proofs.YthojijhafhnclaeDoor
