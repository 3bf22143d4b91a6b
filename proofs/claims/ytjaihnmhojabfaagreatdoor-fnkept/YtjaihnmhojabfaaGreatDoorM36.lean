/- The record that the program tells of bytes. The program's table of kinds of records, as it lies in memory. What the program's idOk answers: whether a text is an upload's name. -/
import Derived.Test.YtjaihnmhojabfaaGreatDoorM35
import Derived.Test.YtjaihnmhojabfaaGreatDoorM04
import Derived.Test.YtjaihnmhojabfaaGreatDoorM35
import Derived.Deep.CutBlock
import Derived.Test.YtjaihnmhojabfaaGreatDoorM06
import Derived.Test.YtjaihnmhojabfaaGreatDoorM01
import Derived.Test.YtjaihnmhojabfaaGreatDoorM05
import Derived.Lib.ConvBytes
import Derived.Lib.AtoiErrMem
import Derived.Lib.Strings
import Derived.WalkKit
namespace Go.Proofs.YtjaihnmhojabfaaGreatDoor
open Go.RowKit
set_option linter.unusedVariables false

set_option maxRecDepth 10000 in
set_option maxHeartbeats 3200000 in
theorem recOfI_any (a : Option Addr) (len cap : Nat) (zs : List Int) (w : World) (hs : Seg w a len zs) (hc : len ≤ cap) (hl : len ≤ 48) :
    Calls Tryz.prog 100 #[.slice a len cap] w fun e w' => (∃ A C, e = .returned (.agg #[.int .i64 (looseR zs).e, .int .i64 (looseR zs).q, .int .i64 (looseR zs).k, .string (looseR zs).id, .int .i64 (looseR zs).n, .slice A (looseR zs).zs.length C]) ∧ Owns w' w.heap.size A (looseR zs).zs.length C (looseR zs).zs) ∧ Below w.heap.size w w' := by
  have HS : Hid (∀ W, Below w.heap.size w W → Seg W a len zs) := fun W h => hs.below h
  have HZl : Hid (zs.length = len) := hs.1
  obtain ⟨hN, hN255⟩ := shortN_is zs hs.2.1 6
  have HD255 := (show Hid _ from (shortN_is zs hs.2.1 (11 + shortN zs 6)).2)
  have HLl : Hid ((shortL zs (11 + shortN zs 6)).length ≤ 48) := by
    show _ ≤ _
    rw [shortL_len]
    split
    · have := hs.1; omega
    · omega
  clear hs hN
  rw [looseR]
  dsimp only
  generalize hN6 : shortN zs 6 = N at *
  generalize hy0 : (gbr zs ((0 : Nat) : Int) ((3 : Nat) : Int)).1 = y0 at *
  generalize hy1 : (gbr zs ((3 : Nat) : Int) ((2 : Nat) : Int)).1 = y1 at *
  generalize hy2 : (gbr zs ((5 : Nat) : Int) ((1 : Nat) : Int)).1 = y2 at *
  generalize hy4 : (gbr zs ((7 + N : Nat) : Int) ((4 : Nat) : Int)).1 = y4 at *
  generalize hLi : shortL zs 6 = Li at *
  generalize hLd : shortL zs (11 + N) = Ld at *
  have HN6 : Hid (shortN zs 6 = N) := hN6
  have HY0 : Hid ((gbr zs ((0 : Nat) : Int) ((3 : Nat) : Int)).1 = y0) := hy0
  have HY1 : Hid ((gbr zs ((3 : Nat) : Int) ((2 : Nat) : Int)).1 = y1) := hy1
  have HY2 : Hid ((gbr zs ((5 : Nat) : Int) ((1 : Nat) : Int)).1 = y2) := hy2
  have HY4 : Hid ((gbr zs ((7 + N : Nat) : Int) ((4 : Nat) : Int)).1 = y4) := hy4
  have HLi : Hid (shortL zs 6 = Li) := hLi
  have HLd : Hid (shortL zs (11 + N) = Ld) := hLd
  clear hN6 hy0 hy1 hy2 hy4 hLi hLd
  obtain ⟨w0, hw0⟩ : ∃ w0, w.alloc (.cells #[.int .i64 0, .int .i64 0, .int .i64 0, .string ⟨#[]⟩, .int .i64 0, .slice none 0 0] 69) = w0 := ⟨_, rfl⟩
  have HE : Hid (w.alloc (.cells #[.int .i64 0, .int .i64 0, .int .i64 0, .string ⟨#[]⟩, .int .i64 0, .slice none 0 0] 69) = w0) := hw0
  have HQ0 : Hid (BoxN w0 w.heap.size 69 [.int .i64 0, .int .i64 0, .int .i64 0, .string ⟨#[]⟩, .int .i64 0, .slice none 0 0]) := by show BoxN _ _ _ _; rw [← hw0]; exact BoxN.new _ _ _
  have HB0 : Hid (Below w.heap.size w w0) := by show Below _ _ _; rw [← hw0]; exact (Below.refl _ _).alloc (Nat.le_refl _) _
  have HR1 : Hid (BoxN (w0.alloc (.cells #[.int .i64 0, .int .i64 0, .int .i64 0, .string ⟨#[]⟩, .int .i64 0, .slice none 0 0] 69)) w0.heap.size 69 [.int .i64 0, .int .i64 0, .int .i64 0, .string ⟨#[]⟩, .int .i64 0, .slice none 0 0]) := BoxN.new _ _ _
  have HQ1 : Hid (BoxN (w0.alloc (.cells #[.int .i64 0, .int .i64 0, .int .i64 0, .string ⟨#[]⟩, .int .i64 0, .slice none 0 0] 69)) w.heap.size 69 [.int .i64 0, .int .i64 0, .int .i64 0, .string ⟨#[]⟩, .int .i64 0, .slice none 0 0]) := HQ0.out.alloc _
  have HB1 : Hid (Below w.heap.size w (w0.alloc (.cells #[.int .i64 0, .int .i64 0, .int .i64 0, .string ⟨#[]⟩, .int .i64 0, .slice none 0 0] 69))) := HB0.out.alloc HB0.out.size _
  have hrr : w.heap.size < w0.heap.size := HQ0.out.lt
  clear hw0
  go_enter Tryz.func100, Tryz.ntmps100
  go_upto_region 1 with fail
  rw [HE.out]
  clear HE
  go_upto_region 2 with fail
  obtain ⟨W1, hW1⟩ : ∃ W1, w0.alloc (.cells #[.int .i64 0, .int .i64 0, .int .i64 0, .string ⟨#[]⟩, .int .i64 0, .slice none 0 0] 69) = W1 := ⟨_, rfl⟩
  rw [hW1] at HR1 HQ1 HB1 ⊢
  clear hW1 HQ0 HB0
  generalize w0.heap.size = rr at *
  go_wp2_with fail
  refine (implGet_any a len cap 0 3 zs W1 (HS.out _ HB1.out) hc (by omega) (by omega) (by omega)).mono ?_
  rintro e V ⟨rfl, hV⟩
  rw [hV]
  clear hV V
  rw [show (gbr zs 0 3).1 = y0 from HY0.out]
  generalize (gbr zs 0 3).2 = bb1
  have hf := HR1.out.frozen 0
  have hcc := HR1.out.cell 0 rfl
  have HR2 : Hid (BoxN (W1.setCell ⟨rr, 0, none⟩ (.int .i64 y0)) rr 69 [.int .i64 y0, .int .i64 0, .int .i64 0, .string ⟨#[]⟩, .int .i64 0, .slice none 0 0]) := HR1.out.set 0 _
  have HQ2 : Hid (BoxN (W1.setCell ⟨rr, 0, none⟩ (.int .i64 y0)) w.heap.size 69 [.int .i64 0, .int .i64 0, .int .i64 0, .string ⟨#[]⟩, .int .i64 0, .slice none 0 0]) := HQ1.out.other (by omega) _
  have HB2 : Hid (Below w.heap.size w (W1.setCell ⟨rr, 0, none⟩ (.int .i64 y0))) := HB1.out.setCell (by dsimp only; omega) _
  go_upto_region 3 with fail
  obtain ⟨W2, hW⟩ : ∃ W2, (W1.setCell ⟨rr, 0, none⟩ (.int .i64 y0)) = W2 := ⟨_, rfl⟩
  rw [hW] at HR2 HQ2 HB2 ⊢
  clear hW hf hcc HR1 HQ1 HB1
  go_wp2_with fail
  refine (implGet_any a len cap 3 2 zs W2 (HS.out _ HB2.out) hc (by omega) (by omega) (by omega)).mono ?_
  rintro e V ⟨rfl, hV⟩
  rw [hV]
  clear hV V
  rw [show (gbr zs 3 2).1 = y1 from HY1.out]
  generalize (gbr zs 3 2).2 = bb2
  have hf := HR2.out.frozen 1
  have hcc := HR2.out.cell 1 rfl
  have HR3 : Hid (BoxN (W2.setCell ⟨rr, 1, none⟩ (.int .i64 y1)) rr 69 [.int .i64 y0, .int .i64 y1, .int .i64 0, .string ⟨#[]⟩, .int .i64 0, .slice none 0 0]) := HR2.out.set 1 _
  have HQ3 : Hid (BoxN (W2.setCell ⟨rr, 1, none⟩ (.int .i64 y1)) w.heap.size 69 [.int .i64 0, .int .i64 0, .int .i64 0, .string ⟨#[]⟩, .int .i64 0, .slice none 0 0]) := HQ2.out.other (by omega) _
  have HB3 : Hid (Below w.heap.size w (W2.setCell ⟨rr, 1, none⟩ (.int .i64 y1))) := HB2.out.setCell (by dsimp only; omega) _
  go_upto_region 4 with fail
  obtain ⟨W3, hW⟩ : ∃ W3, (W2.setCell ⟨rr, 1, none⟩ (.int .i64 y1)) = W3 := ⟨_, rfl⟩
  rw [hW] at HR3 HQ3 HB3 ⊢
  clear hW hf hcc HR2 HQ2 HB2
  go_wp2_with fail
  refine (implGet_any a len cap 5 1 zs W3 (HS.out _ HB3.out) hc (by omega) (by omega) (by omega)).mono ?_
  rintro e V ⟨rfl, hV⟩
  rw [hV]
  clear hV V
  rw [show (gbr zs 5 1).1 = y2 from HY2.out]
  generalize (gbr zs 5 1).2 = bb3
  have hf := HR3.out.frozen 2
  have hcc := HR3.out.cell 2 rfl
  have HR4 : Hid (BoxN (W3.setCell ⟨rr, 2, none⟩ (.int .i64 y2)) rr 69 [.int .i64 y0, .int .i64 y1, .int .i64 y2, .string ⟨#[]⟩, .int .i64 0, .slice none 0 0]) := HR3.out.set 2 _
  have HQ4 : Hid (BoxN (W3.setCell ⟨rr, 2, none⟩ (.int .i64 y2)) w.heap.size 69 [.int .i64 0, .int .i64 0, .int .i64 0, .string ⟨#[]⟩, .int .i64 0, .slice none 0 0]) := HQ3.out.other (by omega) _
  have HB4 : Hid (Below w.heap.size w (W3.setCell ⟨rr, 2, none⟩ (.int .i64 y2))) := HB3.out.setCell (by dsimp only; omega) _
  go_upto_region 5 with fail
  obtain ⟨W4, hW⟩ : ∃ W4, (W3.setCell ⟨rr, 2, none⟩ (.int .i64 y2)) = W4 := ⟨_, rfl⟩
  rw [hW] at HR4 HQ4 HB4 ⊢
  clear hW hf hcc HR3 HQ3 HB3
  go_wp2_with fail
  refine (shortAt_any a len cap 6 zs W4 (HS.out _ HB4.out) hc (by omega) (by omega)).mono ?_
  rintro e V ⟨⟨ai, rfl, hsi⟩, hV⟩
  rw [hV]
  clear hV V
  rw [HLi.out] at hsi
  rw [HN6.out, HLi.out]
  have HSi : Hid (∀ W, Below w.heap.size w W → Seg W ai Li.length Li) := fun W h => hsi W (HS.out W h)
  clear hsi
  generalize hni : Li.length = ni at *
  clear hni
  go_upto_region 6 with fail
  go_wp2_with fail
  refine (implGet_any a len cap ((7 + N : Nat) : Int) 4 zs W4 (HS.out _ HB4.out) hc (by omega) (by omega) (by omega)).mono ?_
  rintro e V ⟨rfl, hV⟩
  rw [hV]
  clear hV V
  rw [show (gbr zs ((7 + N : Nat) : Int) 4).1 = y4 from HY4.out]
  generalize (gbr zs ((7 + N : Nat) : Int) 4).2 = bb4
  have hf := HR4.out.frozen 4
  have hcc := HR4.out.cell 4 rfl
  have HR5 : Hid (BoxN (W4.setCell ⟨rr, 4, none⟩ (.int .i64 y4)) rr 69 [.int .i64 y0, .int .i64 y1, .int .i64 y2, .string ⟨#[]⟩, .int .i64 y4, .slice none 0 0]) := HR4.out.set 4 _
  have HQ5 : Hid (BoxN (W4.setCell ⟨rr, 4, none⟩ (.int .i64 y4)) w.heap.size 69 [.int .i64 0, .int .i64 0, .int .i64 0, .string ⟨#[]⟩, .int .i64 0, .slice none 0 0]) := HQ4.out.other (by omega) _
  have HB5 : Hid (Below w.heap.size w (W4.setCell ⟨rr, 4, none⟩ (.int .i64 y4))) := HB4.out.setCell (by dsimp only; omega) _
  go_upto_region 7 with fail
  obtain ⟨W5, hW⟩ : ∃ W5, (W4.setCell ⟨rr, 4, none⟩ (.int .i64 y4)) = W5 := ⟨_, rfl⟩
  rw [hW] at HR5 HQ5 HB5 ⊢
  clear hW hf hcc HR4 HQ4 HB4
  go_wp2_with fail
  refine (shortAt_at a len cap (11 + N) _ (by omega) zs W5 (HS.out _ HB5.out) hc (by omega) (by omega)).mono ?_
  rintro e V ⟨⟨ad, rfl, hsd⟩, hV⟩
  rw [hV]
  clear hV V
  rw [HLd.out] at hsd
  rw [HLd.out]
  generalize 11 + N + 1 + shortN zs (11 + N) = pe
  have HSd : Hid (Seg W5 ad Ld.length Ld) := hsd W5 (HS.out W5 HB5.out)
  have hLl : Ld.length ≤ 48 := HLl.out
  clear hsd
  go_upto_region 8 with fail
  have hcv := conv_seg (c := ni) (HSi.out _ HB5.out.drew)
  have HSd1 : Hid (Seg W5.drew ad Ld.length Ld) := HSd.out.below ((Below.refl _ _).drew)
  have HBd : Hid (Below w.heap.size w W5.drew) := HB5.out.drew
  have HRd : Hid (BoxN W5.drew rr 69 [.int .i64 y0, .int .i64 y1, .int .i64 y2, .string ⟨#[]⟩, .int .i64 y4, .slice none 0 0]) := HR5.out
  have HQd : Hid (BoxN W5.drew w.heap.size 69 [.int .i64 0, .int .i64 0, .int .i64 0, .string ⟨#[]⟩, .int .i64 0, .slice none 0 0]) := HQ5.out
  have hrl : rr < W5.drew.heap.size := HRd.out.lt
  have HFin : Hid (∀ V Ad Cd, Owns V W5.drew.heap.size Ad Ld.length Cd Ld → Below W5.drew.heap.size W5.drew V → Hid (BoxN ((V.setCell ⟨rr, 3, none⟩ (.string (txU Li))).setCell ⟨rr, 5, none⟩ (.slice Ad Ld.length Cd)) rr 69 [.int .i64 y0, .int .i64 y1, .int .i64 y2, .string (txU Li), .int .i64 y4, .slice Ad Ld.length Cd]) ∧ Hid (BoxN ((V.setCell ⟨rr, 3, none⟩ (.string (txU Li))).setCell ⟨rr, 5, none⟩ (.slice Ad Ld.length Cd)) w.heap.size 69 [.int .i64 0, .int .i64 0, .int .i64 0, .string ⟨#[]⟩, .int .i64 0, .slice none 0 0]) ∧ Hid (Below w.heap.size w ((V.setCell ⟨rr, 3, none⟩ (.string (txU Li))).setCell ⟨rr, 5, none⟩ (.slice Ad Ld.length Cd))) ∧ Hid (Owns ((V.setCell ⟨rr, 3, none⟩ (.string (txU Li))).setCell ⟨rr, 5, none⟩ (.slice Ad Ld.length Cd)) (rr + 1) Ad Ld.length Cd Ld)) := by
    intro V Ad Cd ho hb
    have hA : Ad.map (·.block) ≠ some rr := fun e => by have := (ho.lt _ e).1; omega
    refine ⟨((HRd.out.stays hb).set 3 _).set 5 _, ((HQd.out.stays hb).other (by omega) _).other (by omega) _, ((HBd.out.trans (hb.mono HBd.out.size)).setCell (by dsimp only; omega) _).setCell (by dsimp only; omega) _, owns_low (owns_set (owns_set ho hA) hA) (by omega)⟩
  have HKp : Hid (∀ V, Below W5.drew.heap.size W5.drew V → (convert 22 9 (.slice ai ni ni)).run Tryz.prog V = .ok (.string (txU Li)) V ∧ V.cell? ⟨rr, 3, none⟩ = some (.string ⟨#[]⟩) ∧ V.cell? ⟨rr, 5, none⟩ = some (.slice none 0 0) ∧ V.frozen? ⟨rr, 3, none⟩ = false ∧ V.frozen? ⟨rr, 5, none⟩ = false) := fun V hb => ⟨conv_seg (HSi.out V (HBd.out.trans (hb.mono HBd.out.size))), (HRd.out.stays hb).cell 3 rfl, (HRd.out.stays hb).cell 5 rfl, (HRd.out.stays hb).frozen 3, (HRd.out.stays hb).frozen 5⟩
  clear HSd HR5 HQ5 HB5 hcv
  go_cut [] from 9 (fun W => ∃ Ad Cd, Hid (BoxN W rr 69 [.int .i64 y0, .int .i64 y1, .int .i64 y2, .string (txU Li), .int .i64 y4, .slice Ad Ld.length Cd]) ∧ Hid (BoxN W w.heap.size 69 [.int .i64 0, .int .i64 0, .int .i64 0, .string ⟨#[]⟩, .int .i64 0, .slice none 0 0]) ∧ Hid (Below w.heap.size w W) ∧ Hid (Owns W (rr + 1) Ad Ld.length Cd Ld))
  case first =>
    have hcv0 := (HKp.out _ (Below.refl _ _)).1
    go_region_with (first
      | (go_at_call 86; refine (cloneB_any ad Ld.length Ld.length Ld _ HSd1.out (by omega)).mono ?_; rintro e V ⟨Ad, Cd, rfl, ho, hbV⟩
         obtain ⟨hcv, k3, k5, z3, z5⟩ := HKp.out V hbV)
      | fail)
    all_goals
      have HF := (show Hid _ from HFin.out V Ad Cd ho hbV)
      clear ho hbV hcv k3 k5 z3 z5 hcv0
      go_wp2_with fail
      go_meet
      exact ⟨Ad, Cd, HF.out⟩
  case rest =>
  obtain ⟨W6, hW6⟩ : ∃ W6, wc = W6 := ⟨_, rfl⟩
  rw [hW6] at hcut ⊢
  clear hW6 HFin HKp HBd HRd HQd HSd1 hrl
  obtain ⟨Ad, Cd, HR6, HQ6, HB6, HO6⟩ := hcut
  have HO9 : Hid (∀ (u0 u1 u2 u3 u4 u5 : Value), Owns ((((((W6.setCell ⟨w.heap.size, 0, none⟩ u0).setCell ⟨w.heap.size, 1, none⟩ u1).setCell ⟨w.heap.size, 2, none⟩ u2).setCell ⟨w.heap.size, 3, none⟩ u3).setCell ⟨w.heap.size, 4, none⟩ u4).setCell ⟨w.heap.size, 5, none⟩ u5) w.heap.size Ad Ld.length Cd Ld) := fun u0 u1 u2 u3 u4 u5 => by
    have hA : Ad.map (·.block) ≠ some w.heap.size := fun e => by have := (HO6.out.lt _ e).1; omega
    exact owns_low (owns_set (owns_set (owns_set (owns_set (owns_set (owns_set HO6.out hA) hA) hA) hA) hA) hA) (by omega)
  obtain ⟨z0, z1, z2, z3, z4, z5⟩ := (show _ ∧ _ ∧ _ ∧ _ ∧ _ ∧ _ from ⟨HR6.out.cell 0 rfl, HR6.out.cell 1 rfl, HR6.out.cell 2 rfl, HR6.out.cell 3 rfl, HR6.out.cell 4 rfl, HR6.out.cell 5 rfl⟩)
  obtain ⟨r0, r1, r2, r3, r4, r5⟩ := (show _ ∧ _ ∧ _ ∧ _ ∧ _ ∧ _ from ⟨HQ6.out.cell 0 rfl, HQ6.out.cell 1 rfl, HQ6.out.cell 2 rfl, HQ6.out.cell 3 rfl, HQ6.out.cell 4 rfl, HQ6.out.cell 5 rfl⟩)
  have f0 := HQ6.out.frozen 0
  have f1 := HQ6.out.frozen 1
  have f2 := HQ6.out.frozen 2
  have f3 := HQ6.out.frozen 3
  have f4 := HQ6.out.frozen 4
  have f5 := HQ6.out.frozen 5
  clear HR6 HQ6 HO6
  go_wp2_with fail
  refine bodyPost_ret (v := .agg #[.int .i64 y0, .int .i64 y1, .int .i64 y2, .string (txU Li), .int .i64 y4, .slice Ad Ld.length Cd]) (by simp [results, Tryz.f100, go_sem, r0, r1, r2, r3, r4, r5]) rfl ?_
  exact ⟨⟨Ad, Cd, rfl, HO9.out _ _ _ _ _ _⟩, (((((HB6.out.setCell (Nat.le_refl _) _).setCell (Nat.le_refl _) _).setCell (Nat.le_refl _) _).setCell (Nat.le_refl _) _).setCell (Nat.le_refl _) _).setCell (Nat.le_refl _) _⟩

end Go.Proofs.YtjaihnmhojabfaaGreatDoor

namespace Go.Proofs.YtjaihnmhojabfaaGreatDoor
open Go.RowKit
set_option linter.unusedVariables false

/-- The greatest N of a kind; the fewest and the most bytes of data. -/
def rMost (k : Nat) : Int := if k = 1 ∨ k = 2 then 1000000000 else 0
def rLo (k : Nat) : Int := if k = 2 then 1 else 0
def rHi (k : Nat) : Int := if k = 2 then 24 else 0

/-- The variable holds the table: five rows of three numbers. -/
def RecT (w : World) : Prop := 0 < w.heap.size ∧ ∀ k : Nat, k ≤ 4 → w.cell? ⟨0, k * 3, none⟩ = some (.int .i64 (rMost k)) ∧ w.cell? ⟨0, k * 3 + 1, none⟩ = some (.int .i64 (rLo k)) ∧ w.cell? ⟨0, k * 3 + 2, none⟩ = some (.int .i64 (rHi k))

theorem RecT.below {w W : World} (h : RecT w) (hb : Below w.heap.size w W) : RecT W :=
  ⟨Nat.lt_of_lt_of_le h.1 hb.size, fun k hk => ⟨(hb.cell (p := ⟨0, k * 3, none⟩) h.1).trans (h.2 k hk).1, (hb.cell (p := ⟨0, k * 3 + 1, none⟩) h.1).trans (h.2 k hk).2.1, (hb.cell (p := ⟨0, k * 3 + 2, none⟩) h.1).trans (h.2 k hk).2.2⟩⟩

/-- Which numbers and how many bytes fit a kind, by the table. -/
theorem kindB_tab (k : Nat) (h1 : 1 ≤ k) (h4 : k ≤ 4) (n : Int) (d : Nat) : kindB (k : Int) n d = decide (0 ≤ n ∧ n ≤ rMost k ∧ rLo k ≤ (d : Int) ∧ (d : Int) ≤ rHi k) := by
  have hk : k = 1 ∨ k = 2 ∨ k = 3 ∨ k = 4 := by omega
  rw [Bool.eq_iff_iff]
  rcases hk with rfl | rfl | rfl | rfl
  all_goals
    simp [kindB, rMost, rLo, rHi]
    omega

theorem kindB_out (k : Int) (h : ¬ (1 ≤ k ∧ k ≤ 4)) (n : Int) (d : Nat) : kindB k n d = false := by
  rw [kindB, if_neg (by omega), if_neg (by omega), if_neg (by omega)]

end Go.Proofs.YtjaihnmhojabfaaGreatDoor

namespace Go.Proofs.YtjaihnmhojabfaaGreatDoor
open Go.RowKit
set_option linter.unusedVariables false

theorem data_at (s : ByteArray) (k : Nat) (h : k < s.size) : s.data.toList.getD k 0 = s[k] := by
  have h2 : k < s.data.toList.length := by rw [Array.length_toList]; exact h
  rw [List.getD, List.getElem?_eq_getElem h2, Option.getD_some, Array.getElem_toList]
  rfl

theorem data_get (s : ByteArray) (k : Nat) (h : k < s.size) : s.data.toList[k]'(by rw [Array.length_toList]; exact h) = s[k] := by
  rw [Array.getElem_toList]
  rfl

theorem ret_bool' {a b : Bool} (h : a = b) : Ending.returned (.bool a) = .returned (.bool b) := by rw [h]

set_option maxRecDepth 10000 in
set_option maxHeartbeats 800000 in
theorem implId_any (s : ByteArray) (w : World) (hm : s.size ≤ 9223372036854775807) :
    Calls Tryz.prog 75 #[.string s] w fun e w' => e = .returned (.bool (idB s.data.toList)) ∧ Below w.heap.size w w' := by
  have HL : Hid (s.data.toList.length = s.size) := Array.length_toList
  by_cases hsz : 1 ≤ s.size ∧ s.size ≤ 8
  case neg =>
    have HF : Hid (idB s.data.toList = false) := idB_long (by rw [HL.out]; exact hsz)
    by_cases h0 : s.size < 1
    · have hi : (s.size : Int) < 1 := by omega
      clear hsz
      go_enter Tryz.func75, Tryz.ntmps75
      go_wp2_with fail
      go_ret
      exact ⟨ret_bool' HF.out.symm, Below.refl _ _⟩
    · have hi : ¬ (s.size : Int) < 1 := by omega
      have hj : (8 : Int) < (s.size : Int) := by omega
      clear hsz
      go_enter Tryz.func75, Tryz.ntmps75
      go_wp2_with fail
      go_ret
      exact ⟨ret_bool' HF.out.symm, Below.refl _ _⟩
  obtain ⟨hs1, hs8⟩ := hsz
  have hi : ¬ (s.size : Int) < 1 := by omega
  have hj : ¬ (8 : Int) < (s.size : Int) := by omega
  have hcv := Lib.run_convert_string_bytes (P := Tryz.prog) w 9 22 5 s (u := .string) Tryz.underlying9 Tryz.underlying22 Tryz.underlying5
  have HC : Hid (∀ j (hj : j < s.size), (Lib.bytesWorld w 5 s).cell? ⟨w.heap.size, j, none⟩ = some (.int .u8 (s[j].toNat : Int))) := fun j hj => by rw [Lib.bytesWorld_cell w 5 s j hj, data_at s j hj]
  have HB : Hid (Below w.heap.size w (Lib.bytesWorld w 5 s)) := Lib.bytesWorld_below w 5 s
  obtain ⟨W1, hW1⟩ : ∃ W1, Lib.bytesWorld w 5 s = W1 := ⟨_, rfl⟩
  rw [hW1] at hcv HC HB
  clear hW1
  go_enter Tryz.func75, Tryz.ntmps75
  go_wp2_with fail
  go_loop [16] (fun v => ∃ k : Nat, k ≤ s.size ∧ v = .int .i64 k ∧ Hid (∀ j (hj : j < s.data.toList.length), j < k → idC s.data.toList[j] = true)) (fun v => s.size - (intOf v).toNat)
  case atStart => exact ⟨0, Nat.zero_le _, rfl, fun j _ hj => absurd hj (Nat.not_lt_zero _)⟩
  case round =>
    obtain ⟨k, hk, rfl, HN⟩ := hrel
    by_cases hlt : k < s.size
    · have hki : (k : Int) < (s.size : Int) := by omega
      have hc := HC.out k hlt
      have hc0 : (0 : Int) ≤ (s[k].toNat : Int) := by omega
      have hc1 : (s[k].toNat : Int) ≤ 255 := by have := s[k].toNat_lt; omega
      have HA : Hid (idC (s.data.toList[k]'(by rw [Array.length_toList]; exact hlt)) = ((decide (97 ≤ s[k].toNat) && decide (s[k].toNat ≤ 122)) || (decide (48 ≤ s[k].toNat) && decide (s[k].toNat ≤ 57)))) := by show _ = _; rw [data_get s k hlt, idC]
      have HG : Hid (idC (s.data.toList[k]'(by rw [Array.length_toList]; exact hlt)) = true → ∀ j (hj : j < s.data.toList.length), j < k + 1 → idC s.data.toList[j] = true) := fun h j hj hjk => by
        by_cases e : j = k
        · subst e; exact h
        · exact HN.out j hj (by omega)
      have HBd : Hid (idC (s.data.toList[k]'(by rw [Array.length_toList]; exact hlt)) = false → idB s.data.toList = false) := fun h => idB_bad (by rw [Array.length_toList]; exact hlt) h
      have HS : Hid (idC (s.data.toList[k]'(by rw [Array.length_toList]; exact hlt)) = true ∧ ((97 ≤ (s[k].toNat : Int) ∧ (s[k].toNat : Int) ≤ 122) ∨ (48 ≤ (s[k].toNat : Int) ∧ (s[k].toNat : Int) ≤ 57)) ∨ idC (s.data.toList[k]'(by rw [Array.length_toList]; exact hlt)) = false ∧ ¬ (97 ≤ (s[k].toNat : Int) ∧ (s[k].toNat : Int) ≤ 122) ∧ ¬ (48 ≤ (s[k].toNat : Int) ∧ (s[k].toNat : Int) ≤ 57)) := by
        show _ ∨ _
        rw [HA.out]
        by_cases h1 : 97 ≤ s[k].toNat ∧ s[k].toNat ≤ 122
        · exact .inl ⟨by rw [decide_eq_true h1.1, decide_eq_true h1.2]; rfl, .inl (by omega)⟩
        · by_cases h2 : 48 ≤ s[k].toNat ∧ s[k].toNat ≤ 57
          · exact .inl ⟨by rw [decide_eq_true h2.1, decide_eq_true h2.2]; simp, .inr (by omega)⟩
          · refine .inr ⟨?_, by omega, by omega⟩
            rw [Bool.or_eq_false_iff, Bool.and_eq_false_iff, Bool.and_eq_false_iff]
            simp only [decide_eq_false_iff_not]
            omega
      clear HA HC HN
      generalize (s[k].toNat : Int) = c at *
      rcases HS.out with ⟨hok, hr⟩ | ⟨hno, hr1, hr2⟩
      · have HT : Hid (∀ j (hj : j < s.data.toList.length), j < k + 1 → idC s.data.toList[j] = true) := HG.out hok
        clear HG HBd HS hok
        rcases hr with ⟨r1, r2⟩ | ⟨r1, r2⟩
        · have q1 : ¬ c < 97 := by omega
          have q2 : ¬ (122 : Int) < c := by omega
          go_wp2_with fail
          go_round
          case rel => exact ⟨k + 1, by omega, by go_num, HT⟩
          case measure => simp [intOf]; omega
        · have q1 : c < 97 := by omega
          have q3 : ¬ c < 48 := by omega
          have q4 : ¬ (57 : Int) < c := by omega
          go_wp2_with fail
          go_round
          case rel => exact ⟨k + 1, by omega, by go_num, HT⟩
          case measure => simp [intOf]; omega
      · have HF : Hid (idB s.data.toList = false) := HBd.out hno
        clear HG HBd HS hno
        by_cases q1 : c < 97
        · by_cases q3 : c < 48
          · clear hr1 hr2
            go_wp2_with fail
            go_ret
            exact ⟨ret_bool' HF.out.symm, HB.out⟩
          · have q4 : (57 : Int) < c := by omega
            clear hr1 hr2
            go_wp2_with fail
            go_ret
            exact ⟨ret_bool' HF.out.symm, HB.out⟩
        · have q2 : (122 : Int) < c := by omega
          have q3 : ¬ c < 48 := by omega
          have q4 : (57 : Int) < c := by omega
          clear hr1 hr2
          go_wp2_with fail
          go_ret
          exact ⟨ret_bool' HF.out.symm, HB.out⟩
    · have hkl : k = s.size := by omega
      subst hkl
      have HE : Hid (idB s.data.toList = true) := by
        show _ = _
        rw [idB_good fun j hj => HN.out j hj (by rw [HL.out] at hj; exact hj), HL.out, decide_eq_true_eq]
        omega
      clear HN
      go_wp2_with fail
      go_ret
      exact ⟨ret_bool' HE.out.symm, HB.out⟩

end Go.Proofs.YtjaihnmhojabfaaGreatDoor
