/- The draw of a client with an answer. For codes of at most 2^40 bytes. -/
import Derived.Test.YtlalebaaabdihagDoorDrawClB
namespace Go.Proofs.YtlalebaaabdihagDoor
open Go.RowKit
set_option linter.unusedVariables false

set_option maxRecDepth 10000 in
set_option maxHeartbeats 6400000 in
theorem drawHear_any (a : Option Addr) (len cap : Nat) (zs : List Int) (w : World) (hs : Seg w a len zs) (hl : len ≤ 1099511627776) :
    Calls Tryd.prog 5 #[.slice a len cap] w fun e w' => (∃ (id : ByteArray) (xa : Option Addr) (n xc : Nat) (ys : List Int) (st off q r : Int), e = .returned (.tuple #[.agg #[.string id, .slice xa n xc, .int .i64 st, .int .i64 off], .agg #[.int .i64 q, .int .i64 r]]) ∧ Owns w' w.heap.size xa n xc ys ∧ id.size ≤ 3 ∧ n ≤ 60) ∧ Below w.heap.size w w' := by
  obtain ⟨w2, hw2⟩ : ∃ w2, (w.alloc (.cells #[.string ⟨#[]⟩, .slice none 0 0, .int .i64 0, .int .i64 0] 25)).alloc (.cells #[.int .i64 0, .int .i64 0] 27) = w2 := ⟨_, rfl⟩
  have HE : Hid ((w.alloc (.cells #[.string ⟨#[]⟩, .slice none 0 0, .int .i64 0, .int .i64 0] 25)).alloc (.cells #[.int .i64 0, .int .i64 0] 27) = w2) := hw2
  have HQ1 : Hid (BoxN w2 w.heap.size 25 [.string ⟨#[]⟩, .slice none 0 0, .int .i64 0, .int .i64 0]) := by show BoxN _ _ _ _; rw [← hw2]; exact (BoxN.new _ _ _).alloc _
  have HQ2 : Hid (BoxN w2 (w.heap.size + 1) 27 [.int .i64 0, .int .i64 0]) := by
    show BoxN _ _ _ _
    rw [← hw2]
    have := BoxN.new (w.alloc (.cells #[.string ⟨#[]⟩, .slice none 0 0, .int .i64 0, .int .i64 0] 25)) 27 [.int .i64 0, .int .i64 0]
    rwa [World.size_alloc] at this
  have HB2 : Hid (Below w.heap.size w w2) := by show Below _ _ _; rw [← hw2]; exact ((Below.refl _ _).alloc (Nat.le_refl _) _).alloc (by simp) _
  have HZ2 : Hid (w2.heap.size = w.heap.size + 2) := by show _ = _; rw [← hw2]; simp
  have HS2 : Hid (Seg w2 a len zs) := hs.below HB2.out
  clear hw2 hs
  go_enter Tryd.func5, Tryd.ntmps5
  go_upto_region 1 with fail
  rw [HE.out]
  clear HE
  go_wp2_with fail
  refine (l1New_any a len cap zs w2 HS2.out hl).mono ?_
  obtain ⟨c, hc⟩ : ∃ c, w2.heap.size = c := ⟨_, rfl⟩
  have hc2 : w.heap.size + 2 = c := by rw [← hc]; exact HZ2.out.symm
  rw [hc]
  rintro e w3 ⟨rfl, hcur, hb3⟩
  rw [← hc] at hb3
  have HB3 : Hid (Below w2.heap.size w2 w3) := hb3
  have HC3 : Hid (Cur w3 c c a len cap zs) := hcur
  have HQ3 : Hid (BoxN w3 w.heap.size 25 [.string ⟨#[]⟩, .slice none 0 0, .int .i64 0, .int .i64 0] ∧ BoxN w3 (w.heap.size + 1) 27 [.int .i64 0, .int .i64 0] ∧ Below w.heap.size w w3) := ⟨HQ1.out.stays hb3, HQ2.out.stays hb3, HB2.out.trans (hb3.mono HB2.out.size)⟩
  have hcw3 : c < w3.heap.size := hcur.lt
  have hcc : w.heap.size + 1 < c := by omega
  clear hc hcur hb3 HB3 HQ1 HQ2 HB2 HZ2 HS2 hc2
  go_wp2_with fail
  refine (l17Any_any c c a len cap zs w3 HC3.out hl).mono ?_
  rintro e w4 ⟨⟨id, xa, n, xc, ys, st, off, rfl, ho, hid, hn⟩, hc4, hg4⟩
  have HE4 : Hid (DrE c c a len cap zs w3 w4) := .cur hg4 hc4
  have HO4 : Hid (Owns w4 w3.heap.size xa n xc ys) := ho
  have hcw4 : c < w4.heap.size := hc4.lt
  have HC4 : Hid (Cur w4 c c a len cap zs) := hc4
  have HId : Hid (id.size ≤ 3) := hid
  clear ho hc4 hg4 hid
  go_wp2_with fail
  refine (l1Int_any c c a len cap zs w4.heap.size 9 9 [200, 201, 204, 404, 409, 422, 507, 400, 99] _ (HC4.out.new _) hl (heap_alloc_new w4 _) (by omega) rfl (by omega) (by omega)).mono ?_
  rintro e w5 ⟨q, rfl, _, hc5, hg5⟩
  have HE5 : Hid (DrE c c a len cap zs w4 w5) := .cur (gtrans (World.grownBy_alloc w4 _ _) hg5) hc5
  have hcw5 : c < w5.heap.size := hc5.lt
  have HC5 : Hid (Cur w5 c c a len cap zs) := hc5
  clear hc5 hg5 HC4 hcw4
  go_wp2_with fail
  refine (l1Int_any c c a len cap zs w5.heap.size 7 7 [0, 5, 24, 48, 60, -1, 100] _ (HC5.out.new _) hl (heap_alloc_new w5 _) (by omega) rfl (by omega) (by omega)).mono ?_
  rintro e w6 ⟨r, rfl, _, hc6, hg6⟩
  have hE6 : DrE c c a len cap zs w5 w6 := .cur (gtrans (World.grownBy_alloc w5 _ _) hg6) hc6
  have HE6 : Hid (DrE c c a len cap zs w3 w6) := HE4.out.trans (HE5.out.trans hE6)
  have HO6 : Hid (Owns w6 w3.heap.size xa n xc ys) := hE6.own (HE5.out.own HO4.out (fun p hp => by have := (HO4.out.lt p hp).1; omega)) (fun p hp => by have := (HO4.out.lt p hp).1; omega)
  have HA6 : Hid (BoxN w6 w.heap.size 25 [.string ⟨#[]⟩, .slice none 0 0, .int .i64 0, .int .i64 0] ∧ BoxN w6 (w.heap.size + 1) 27 [.int .i64 0, .int .i64 0]) := ⟨HE6.out.box HQ3.out.1 (by omega), HE6.out.box HQ3.out.2.1 (by omega)⟩
  have HB6 : Hid (Below w.heap.size w w6) := HQ3.out.2.2.grown HE6.out.1 HQ3.out.2.2.size (fun p hp => by injection hp with hp; omega)
  have h3 : w.heap.size + 1 < w3.heap.size := HQ3.out.2.1.lt
  clear hE6 hc6 hg6 HE4 HO4 HE5 HC5 hcw5 HQ3 HC3
  have d0 := HA6.out.1.cell 0 rfl
  have d1 := HA6.out.1.cell 1 rfl
  have d2 := HA6.out.1.cell 2 rfl
  have d3 := HA6.out.1.cell 3 rfl
  have f0 := HA6.out.1.frozen 0
  have f1 := HA6.out.1.frozen 1
  have f2 := HA6.out.1.frozen 2
  have f3 := HA6.out.1.frozen 3
  have g0 := HA6.out.2.cell 0 rfl
  have g1 := HA6.out.2.cell 1 rfl
  have k0 := HA6.out.2.frozen 0
  have k1 := HA6.out.2.frozen 1
  have HF : Hid (Owns ((((((w6.setCell ⟨w.heap.size, 0, none⟩ (.string id)).setCell ⟨w.heap.size, 1, none⟩ (.slice xa n xc)).setCell ⟨w.heap.size, 2, none⟩ (.int .i64 st)).setCell ⟨w.heap.size, 3, none⟩ (.int .i64 off)).setCell ⟨w.heap.size + 1, 0, none⟩ (.int .i64 q)).setCell ⟨w.heap.size + 1, 1, none⟩ (.int .i64 r)) w.heap.size xa n xc ys ∧ Below w.heap.size w ((((((w6.setCell ⟨w.heap.size, 0, none⟩ (.string id)).setCell ⟨w.heap.size, 1, none⟩ (.slice xa n xc)).setCell ⟨w.heap.size, 2, none⟩ (.int .i64 st)).setCell ⟨w.heap.size, 3, none⟩ (.int .i64 off)).setCell ⟨w.heap.size + 1, 0, none⟩ (.int .i64 q)).setCell ⟨w.heap.size + 1, 1, none⟩ (.int .i64 r))) := by
    have h1 : xa.map (·.block) ≠ some w.heap.size := fun e => by have := (HO6.out.lt _ e).1; omega
    have h2 : xa.map (·.block) ≠ some (w.heap.size + 1) := fun e => by have := (HO6.out.lt _ e).1; omega
    refine ⟨(owns_set (owns_set (owns_set (owns_set (owns_set (owns_set HO6.out h1) h1) h1) h1) h2) h2).low (by omega), ?_⟩
    repeat (refine Below.setCell ?_ (by dsimp only; omega) _)
    exact HB6.out
  clear HA6 HO6 HB6 HE6
  go_wp2_with fail
  refine bodyPost_ret (v := .tuple #[.agg #[.string id, .slice xa n xc, .int .i64 st, .int .i64 off], .agg #[.int .i64 q, .int .i64 r]]) (by simp [results, Tryd.f5, go_sem, d0, d1, d2, d3, g0, g1]) rfl ?_
  exact ⟨⟨id, xa, n, xc, ys, st, off, q, r, rfl, HF.out.1, HId.out, hn⟩, HF.out.2⟩

end Go.Proofs.YtlalebaaabdihagDoor
