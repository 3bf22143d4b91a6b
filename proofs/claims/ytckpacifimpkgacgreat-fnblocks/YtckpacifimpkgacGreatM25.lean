/- What the specification's GetFields answers of a block of at most 4000 bytes: its code. What the program's PutFields answers. What the draws give: a cursor over the code's bytes that only its own block is written by; numbers of a list; bytes in memory of its own. For codes of at most 2^40 bytes. What is drawn with a cursor: a number below a bound, one of a list, bytes of a drawn number; only the cursor's block is written, and new memory made. For codes of at most 2^40 bytes. Texts that are drawn: one of a list; up to five of them one behind the other. For codes of at most 2^40 bytes. -/
import Derived.Test.YtckpacifimpkgacGreatM24
import Derived.Test.YtckpacifimpkgacGreatM22
import Derived.Test.YtckpacifimpkgacGreatM23
import Derived.Test.YtckpacifimpkgacGreatM09
import Derived.Test.YtckpacifimpkgacGreatM24
import Derived.Test.YtckpacifimpkgacGreatM14
import Derived.Test.YtckpacifimpkgacGreatM11
import Derived.Deep.Cut
import Derived.Test.YtckpacifimpkgacGreatM01
namespace Go.Proofs.YtckpacifimpkgacGreat
open Go.RowKit
set_option linter.unusedVariables false

/-- The place of a reader. -/
def atSp (r : Nat) (W : World) : Nat := match W.cell? ⟨r, 4, none⟩ with | some (.int _ n) => n.toNat | _ => 0

/-- The end: the table is put into the answer's variable. -/
theorem sp_fin {w W : World} {rb : Nat} {x y : Value} (hbW : Below w.heap.size w W) (hrb : w.heap.size ≤ rb) (hq : Box2 W rb 26 x y) (m' : Int) (v : Value) :
    Box2 ((W.setCell ⟨rb, 0, none⟩ (.int .i64 m')).setCell ⟨rb, 1, none⟩ v) rb 26 (.int .i64 m') v ∧ Below w.heap.size w ((W.setCell ⟨rb, 0, none⟩ (.int .i64 m')).setCell ⟨rb, 1, none⟩ v) :=
  ⟨two_set1 (two_set0 hq _) _, (hbW.setCell (p := ⟨rb, 0, none⟩) hrb _).setCell (p := ⟨rb, 1, none⟩) hrb _⟩

theorem StepAns.many_zero {zs : List Int} {most : Int} {i : Nat} {m : Int} {xs fs : List Fld} {j m' : Int} {ys gs : List Fld} {code : Int} (h : StepAns zs most i m xs fs j m' ys gs (many code gs)) (hc : ¬ (code = 0 ∧ 100 < gs.length)) : StepAns zs most i m xs fs j m' ys gs code := by
  rw [many, if_neg hc] at h
  exact h

set_option maxRecDepth 10000 in
set_option maxHeartbeats 3200000 in
theorem specGetFs_any (m : Int) (a : Option Addr) (len ca : Nat) (xs : List Fld) (most : Int) (ba : Option Addr) (bl bc : Nat) (zs : List Int) (w : World) (hx : Flds w a len xs) (hs : Seg w ba bl zs) (hcap : bl ≤ bc) (hl : len + fldBytes xs ≤ 1048576) (hbl : bl ≤ 4000) :
    Calls Tryz.prog 10 #[.agg #[.int .i64 m, .slice a len ca], .int .i64 most, .slice ba bl bc] w fun e w' => ∃ (gs : List Fld) (m' : Int) (ys : List Fld) (code : Int) (u : Value) (sa : Option Addr) (sn sc : Nat), e = .returned (.tuple #[u, .agg #[.int .i64 m', .slice sa sn sc], .int .i64 code]) ∧ GetAns zs most m xs gs m' ys code ∧ Below w.heap.size w w' := by
  obtain ⟨i0, hi0, hz0, hz1, hz2⟩ := info_parts info_field
  have HX : Hid (Flds w a len xs) := hx
  have HS : Hid (Seg w ba bl zs) := hs
  have HZ : Hid (∀ x ∈ zs, 0 ≤ x ∧ x ≤ 255) := hs.2.1
  have HZL : Hid (zs.length = bl) := hs.1
  have HCap : Hid (bl ≤ bc) := hcap
  have HLen : Hid (len + fldBytes xs ≤ 1048576) := hl
  have hlen2 : len ≤ 2097152 := by omega
  clear hx hs hcap hl
  obtain ⟨w2, hw2⟩ : ∃ w2, (((w.alloc (.cells #[.int .i64 m, .slice a len ca] 26)).alloc (.cells #[.int .i64 0, .slice none 0 0] 26)).alloc (.cells #[] 43)) = w2 := ⟨_, rfl⟩
  have q1 : Box2 w2 w.heap.size 26 (.int .i64 m) (.slice a len ca) := by rw [← hw2]; exact ((Box2.new _ _ _ _).alloc _).alloc _
  have q2 : Box2 w2 (w.heap.size + 1) 26 (.int .i64 0) (.slice none 0 0) := by
    rw [← hw2]
    have := Box2.new (w.alloc (.cells #[.int .i64 m, .slice a len ca] 26)) 26 (.int .i64 0) (.slice none 0 0)
    rw [World.size_alloc] at this
    exact this.alloc _
  have HS2 : Hid (w2.heap.size = w.heap.size + 3) := by show _ = _; rw [← hw2]; simp
  have HO2 : Hid (w2.ownsRow w.heap.size 43 2 (.slice (some ⟨w.heap.size + 1 + 1, 0, none⟩) 0 0) 0 []) := by
    show World.ownsRow _ _ _ _ _ _ _
    rw [← hw2]
    have := World.ownsRow_lit (e := 43) (base := w.heap.size) (size := 2) ((w.alloc (.cells #[.int .i64 m, .slice a len ca] 26)).alloc (.cells #[.int .i64 0, .slice none 0 0] 26)) #[] 0 (by simp; omega) (Nat.zero_le _) rfl
    rw [World.size_alloc, World.size_alloc] at this
    exact this
  have HB2 : Hid (Below w.heap.size w w2) := by show Below _ _ _; rw [← hw2]; exact (((Below.refl _ _).alloc (Nat.le_refl _) _).alloc (by simp) _).alloc (by simp; omega) _
  have HQ1 : Hid (Box2 w2 w.heap.size 26 (.int .i64 m) (.slice a len ca)) := q1
  have HQ2 : Hid (Box2 w2 (w.heap.size + 1) 26 (.int .i64 0) (.slice none 0 0)) := q2
  obtain ⟨c0, c1, _, _⟩ := q1.cells
  have HT : Hid (∀ W : World, Below w2.heap.size w2 W → Flds W a len xs ∧ W.cell? ⟨w.heap.size, 0, none⟩ = some (.int .i64 m) ∧ W.cell? ⟨w.heap.size, 1, none⟩ = some (.slice a len ca) ∧ W.cell? ⟨w.heap.size + 1, 0, none⟩ = some (.int .i64 0) ∧ W.cell? ⟨w.heap.size + 1, 1, none⟩ = some (.slice none 0 0) ∧ W.frozen? ⟨w.heap.size + 1, 0, none⟩ = false ∧ W.frozen? ⟨w.heap.size + 1, 1, none⟩ = false) := fun W hW => by
    obtain ⟨a1, a2, _, _⟩ := (HQ1.out.stays hW).cells
    obtain ⟨b1, b2, b3, b4⟩ := (HQ2.out.stays hW).cells
    exact ⟨HX.out.below (HB2.out.trans (hW.mono HB2.out.size)), a1, a2, b1, b2, b3, b4⟩
  clear q1 q2
  have HOk : Hid (∀ W : World, Below w2.heap.size w2 W → Calls Tryz.prog 26 #[.agg #[.int .i64 m, .slice a len ca]] W fun e w' => e = .returned (.bool (okT m xs)) ∧ Below W.heap.size W w') := fun W hW => specOk_any m a len ca xs W (HT.out W hW).1 (by have := HLen.out; omega)
  have HMx : Hid (∀ W : World, Calls Tryz.prog 27 #[.int .i64 most, .int .i64 0, .int .i64 4096] W fun e w' => e = .returned (.bool (decide (0 ≤ most ∧ most ≤ 4096))) ∧ w' = W) := fun W => l1In_any most 0 4096 W
  have HCp : Hid (∀ W : World, Below w2.heap.size w2 W → Calls Tryz.prog 28 #[.agg #[.int .i64 m, .slice a len ca]] W fun e w' => ∃ v, e = .returned (.agg #[.int .i64 m, v]) ∧ OwnF w' W.heap.size v len xs ∧ Below W.heap.size W w') := fun W hW => specCopy_any m a len ca xs W (HT.out W hW).1 hlen2
  by_cases hgood : okT m xs = true ∧ 0 ≤ most ∧ most ≤ 4096
  case neg =>
    have HNo : Hid (¬ (okT m xs = true ∧ 0 ≤ most ∧ most ≤ 4096)) := hgood
    obtain ⟨ok, hok⟩ : ∃ ok, okT m xs = ok := ⟨_, rfl⟩
    obtain ⟨mo, hmo⟩ : ∃ mo, decide (0 ≤ most ∧ most ≤ 4096) = mo := ⟨_, rfl⟩
    have hcase : ok = false ∨ (ok = true ∧ mo = false) := by
      cases ok with
      | false => exact .inl rfl
      | true =>
        cases mo with
        | false => exact .inr ⟨rfl, rfl⟩
        | true => exact absurd ⟨hok, of_decide_eq_true hmo⟩ hgood
    rw [hok] at HOk
    rw [hmo] at HMx
    clear hok hmo hgood
    rcases hcase with rfl | ⟨rfl, rfl⟩
    all_goals
      go_enter Tryz.func10, Tryz.ntmps10
      go_wp2_with fail
      refine (HOk.out _ (Below.refl _ _)).mono ?_
      rintro e w3 ⟨rfl, hb3⟩
      have HB3 : Hid (Below w2.heap.size w2 w3) := hb3
      clear hb3 c0 c1
      obtain ⟨_, c0, c1, _, _, _, _⟩ := HT.out w3 HB3.out
      first
        | (go_wp2_with fail
           refine (HMx.out _).mono ?_
           rintro e w9 ⟨rfl, hw9⟩
           subst w9
           go_wp2_with fail
           refine (HCp.out w3 HB3.out).mono ?_)
        | (go_wp2_with fail
           refine (HCp.out w3 HB3.out).mono ?_)
      rintro e w5 ⟨v, rfl, ho5, hb5⟩
      obtain ⟨va, vc, rfl⟩ := ho5.shape
      have HB5 : Hid (Below w2.heap.size w2 w5) := HB3.out.trans (hb5.mono HB3.out.size)
      clear hb5 ho5 c0 c1 hw2
      obtain ⟨_, _, _, r0, r1, r2, r3⟩ := HT.out w5 HB5.out
      have HFin : Hid _ := sp_fin (HB2.out.trans (HB5.out.mono HB2.out.size)) (Nat.le_succ _) (HQ2.out.stays HB5.out) m (.slice va len vc)
      obtain ⟨k0, k1, _, _⟩ := HFin.out.1.cells
      go_wp2_with fail
      refine bodyPost_ret (v := .tuple #[.slice (some ⟨w.heap.size + 1 + 1, 0, none⟩) 0 0, .agg #[.int .i64 m, .slice va len vc], .int .i64 1]) (by simp [results, Tryz.f10, go_sem, r0, r1]) rfl ?_
      exact ⟨[], m, xs, 1, _, _, _, _, rfl, .inl ⟨HNo.out, rfl, rfl, rfl, rfl⟩, HFin.out.2⟩
  have HG : Hid (okT m xs = true ∧ 0 ≤ most ∧ most ≤ 4096) := hgood
  rw [hgood.1] at HOk
  rw [decide_eq_true hgood.2] at HMx
  clear hgood
  go_enter Tryz.func10, Tryz.ntmps10
  go_wp2_with fail
  refine (HOk.out _ (Below.refl _ _)).mono ?_
  rintro e w3 ⟨rfl, hb3⟩
  have HB3 : Hid (Below w2.heap.size w2 w3) := hb3
  clear hb3 c0 c1
  obtain ⟨_, c0, c1, _, _, _, _⟩ := HT.out w3 HB3.out
  go_wp2_with fail
  refine (HMx.out _).mono ?_
  rintro e w9 ⟨rfl, hw9⟩
  subst w9
  go_wp2_with fail
  refine (HCp.out w3 HB3.out).mono ?_
  rintro e w4 ⟨v, rfl, ho4, hb4⟩
  obtain ⟨va, vc, rfl⟩ := ho4.shape
  have HB4 : Hid (Below w2.heap.size w2 w4) := HB3.out.trans (hb4.mono HB3.out.size)
  have HO4 : Hid (OwnF w4 w2.heap.size (.slice va len vc) len xs) := ⟨own_down ho4.1 HB3.out.size, ho4.2⟩
  clear hb4 ho4 c0 c1 hw2
  have HB5 : Hid (Below w2.heap.size w2 (w4.alloc (.cells #[.int .i64 m, .slice va len vc, .int .i64 most, .slice ba bl bc, .int .i64 0, .slice none 0 0] 58))) := HB4.out.alloc HB4.out.size _
  have HR5 : Hid (SdO (w4.alloc (.cells #[.int .i64 m, .slice va len vc, .int .i64 most, .slice ba bl bc, .int .i64 0, .slice none 0 0] 58)) w2.heap.size w4.heap.size (.slice ba bl bc) ((0 : Nat) : Int) most m va len vc xs none 0 0 []) := by
    show SdO _ _ _ _ _ _ _ _ _ _ _ _ _ _ _
    have hb45 : Below w4.heap.size w4 (w4.alloc (.cells #[.int .i64 m, .slice va len vc, .int .i64 most, .slice ba bl bc, .int .i64 0, .slice none 0 0] 58)) := (Below.refl _ _).alloc (Nat.le_refl _) _
    exact ⟨heap_alloc_new w4 _, HB4.out.size, HO4.out.stays hb45, ⟨⟨rfl, .inl ⟨rfl, rfl⟩⟩, by simp⟩, by simp⟩
  go_wp2_with fail
  obtain ⟨w5, hw5⟩ : ∃ w5, w4.alloc (.cells #[.int .i64 m, .slice va len vc, .int .i64 most, .slice ba bl bc, .int .i64 0, .slice none 0 0] 58) = w5 := ⟨_, rfl⟩
  rw [hw5] at HB5 HR5 ⊢
  generalize w4.heap.size = r at *
  clear hw5
  go_loopw [] (fun wr => ∃ (k i : Nat) (m' : Int) (ta : Option Addr) (tl tc : Nat) (ys : List Fld) (fa : Option Addr) (fl fc : Nat) (fs : List Fld), i ≤ bl ∧ fl = fs.length ∧ Hid (RunN zs most m xs k i m' ys fs) ∧ Hid (SdO wr w2.heap.size r (.slice ba bl bc) (i : Int) most m' ta tl tc ys fa fl fc fs) ∧ Hid (Below w2.heap.size w2 wr)) (fun wr => bl - atSp r wr)
  case atStart => exact ⟨0, 0, m, va, len, vc, xs, none, 0, 0, [], Nat.zero_le _, rfl, ⟨rfl, rfl, rfl, rfl⟩, HR5, HB5⟩
  case round =>
    clear HR5 HB5 HO4
    obtain ⟨k, i, m', ta, tl, tc, ys, fa, fl, fc, fs, hil, hfl, HRun, HR, HB⟩ := hrel
    have HK : Hid (k ≤ i ∧ i ≤ zs.length ∧ okT m' ys = true ∧ fs.length ≤ 100) := HRun.out.kept HZ.out HG.out.1
    obtain ⟨s0, s1, s2, s3, s4, s5, _⟩ := HR.out.1.cells
    have HAt : Hid (atSp r wr = i) := by show _ = _; simp [atSp, s4]
    by_cases hlt : i < bl
    · have hii : (i : Int) < (bl : Int) := by omega
      obtain ⟨bb, off, rfl, hbb⟩ : ∃ bb off, ba = some ⟨bb, off, none⟩ ∧ bb < w.heap.size := by
        rcases HS.out.2.2 with h | ⟨b, o, e, h, _⟩
        · omega
        · exact ⟨b, o, e, h⟩
      clear hbb
      go_wp2_with fail
      refine (spOne_any w2 r bb off bl bc i zs most m' ta tl tc ys fa fl fc fs wr HB.out (HS.out.below HB2.out) HR.out HCap.out hbl hlt HK.out.2.2.1 (by rw [hfl]; exact HK.out.2.2.2)).mono ?_
      rintro e w6 ⟨code, j, m2, va2, k2, vc2, y2, fa2, fc2, gs, hans, rfl, hb6, hr6⟩
      have HA : Hid (StepAns zs most i m' ys fs j m2 y2 gs (many code gs)) := hans
      have HB6 : Hid (Below w2.heap.size w2 w6) := hb6
      have HR6 : Hid (code = 0 → SdO w6 w2.heap.size r (.slice (some ⟨bb, off, none⟩) bl bc) j most m2 va2 k2 vc2 y2 fa2 gs.length fc2 gs) := hr6
      clear hans hb6 hr6 s0 s1 s2 s3 s4 s5 HR HB
      by_cases hmany : code = 0 ∧ 100 < gs.length
      · obtain ⟨rfl, hm100⟩ := hmany
        have HA4 : Hid (StepAns zs most i m' ys fs j m2 y2 gs 4) := by
          have := HA.out
          rw [many, if_pos ⟨rfl, hm100⟩] at this
          exact this
        have hg1 : decide ((100 : Int) < (gs.length : Int)) = true := by simp; omega
        have hg1p : ((100 : Int) < (gs.length : Int)) = True := by simp; omega
        obtain ⟨u0, u1, u2, u3, u4, u5, _⟩ := (HR6.out rfl).1.cells
        obtain ⟨_, t0, t1, _, _, _, _⟩ := HT.out w6 HB6.out
        clear HA HR6
        go_wp2_with fail
        refine (HCp.out w6 HB6.out).mono ?_
        rintro e w8 ⟨v8, rfl, ho8, hb8⟩
        obtain ⟨va8, vc8, rfl⟩ := ho8.shape
        have HB8 : Hid (Below w2.heap.size w2 w8) := HB6.out.trans (hb8.mono HB6.out.size)
        clear hb8 ho8 t0 t1 u0 u1 u2 u3 u4 u5
        obtain ⟨_, _, _, r0, r1, r2, r3⟩ := HT.out w8 HB8.out
        have HFin : Hid _ := sp_fin (HB2.out.trans (HB8.out.mono HB2.out.size)) (Nat.le_succ _) (HQ2.out.stays HB8.out) m (.slice va8 len vc8)
        go_wp2_with fail
        refine bodyPost_ret (v := .tuple #[.slice (some ⟨w.heap.size + 1 + 1, 0, none⟩) 0 0, .agg #[.int .i64 m, .slice va8 len vc8], .int .i64 4]) (by simp [results, Tryz.f10, go_sem, r0, r1]) rfl ?_
        exact ⟨[], m, xs, 4, _, _, _, _, rfl, .inr ⟨HG.out, .inr ⟨by decide, rfl, rfl, rfl, k, i, m', ys, fs, j, m2, y2, gs, HRun.out, by rw [HZL.out]; exact hlt, HA4.out⟩⟩, HFin.out.2⟩
      · have HA4 : Hid (StepAns zs most i m' ys fs j m2 y2 gs code) := HA.out.many_zero hmany
        clear HA
        by_cases hc : code = 0
        · subst hc
          obtain ⟨i', rfl, h1, h2, h3, h4⟩ := HA4.out.kept HZ.out HK.out.2.2.1 HK.out.2.2.2
          have HRd : Hid (SdO w6 w2.heap.size r (.slice (some ⟨bb, off, none⟩) bl bc) (i' : Int) most m2 va2 k2 vc2 y2 fa2 gs.length fc2 gs) := HR6.out rfl
          have HAt2 : Hid (atSp r w6 = i') := by show _ = _; simp [atSp, HRd.out.1.cells.2.2.2.2.1]
          have H2 : Hid (i' ≤ bl) := by show _ ≤ _; rw [← HZL.out]; exact h2
          have hg1 : decide ((100 : Int) < (gs.length : Int)) = false := by simp; omega
          have hg1p : ((100 : Int) < (gs.length : Int)) = False := by simp; omega
          obtain ⟨u0, u1, u2, u3, u4, u5, _⟩ := HRd.out.1.cells
          clear h2 h3 h4 HR6 hmany
          go_wp2_with fail
          go_roundw
          case rel => exact ⟨k + 1, i', m2, va2, k2, vc2, y2, fa2, gs.length, fc2, gs, H2.out, rfl, ⟨i, m', ys, fs, HRun.out, by rw [HZL.out]; exact hlt, HA4.out⟩, HRd, HB6⟩
          case measure => rw [HAt.out, HAt2.out]; omega
        · have hne : (code != 0) = true := by simpa using hc
          have hne2 : (code == 0) = false := by simpa using hc
          have HNe : Hid (code ≠ 0) := hc
          clear hc HR6 hmany
          obtain ⟨_, t0, t1, _, _, _, _⟩ := HT.out w6 HB6.out
          go_wp2_with fail
          refine (HCp.out w6 HB6.out).mono ?_
          rintro e w8 ⟨v8, rfl, ho8, hb8⟩
          obtain ⟨va8, vc8, rfl⟩ := ho8.shape
          have HB8 : Hid (Below w2.heap.size w2 w8) := HB6.out.trans (hb8.mono HB6.out.size)
          clear hb8 ho8 t0 t1
          obtain ⟨_, _, _, r0, r1, r2, r3⟩ := HT.out w8 HB8.out
          have HFin : Hid _ := sp_fin (HB2.out.trans (HB8.out.mono HB2.out.size)) (Nat.le_succ _) (HQ2.out.stays HB8.out) m (.slice va8 len vc8)
          go_wp2_with fail
          refine bodyPost_ret (v := .tuple #[.slice (some ⟨w.heap.size + 1 + 1, 0, none⟩) 0 0, .agg #[.int .i64 m, .slice va8 len vc8], .int .i64 code]) (by simp [results, Tryz.f10, go_sem, r0, r1]) rfl ?_
          exact ⟨[], m, xs, code, _, _, _, _, rfl, .inr ⟨HG.out, .inr ⟨HNe.out, rfl, rfl, rfl, k, i, m', ys, fs, j, m2, y2, gs, HRun.out, by rw [HZL.out]; exact hlt, HA4.out⟩⟩, HFin.out.2⟩
    · obtain rfl : i = bl := by omega
      have hii : ¬ (i : Int) < (i : Int) := by omega
      subst hfl
      have HRunE : Hid (RunN zs most m xs k zs.length m' ys fs) := by show RunN _ _ _ _ _ _ _ _ _; rw [HZL.out]; exact HRun.out
      obtain ⟨_, _, _, r0, r1, r2, r3⟩ := HT.out wr HB.out
      have hfl100 : fs.length ≤ 100 := HK.out.2.2.2
      have HA1 : Hid (0 + fs.length ≤ maxLen ∧ (0 + fs.length) * 32 ≤ 140737488355328 ∧ (fieldCells fs).length = fs.length * 2) := ⟨by unfold maxLen; omega, by omega, by rw [fieldCells_len]; omega⟩
      have HNil : Hid (fa = none → fs.length = 0) := fun h => HR.out.2.2.2.1.flds.none_nil h
      have HFs : Hid (Flds wr.drew fa fs.length fs) := HR.out.2.2.2.1.flds.below (Below.refl wr.heap.size wr).drew
      have HOw : Hid (wr.drew.ownsRow w.heap.size 43 2 (.slice (some ⟨w.heap.size + 1 + 1, 0, none⟩) 0 0) 0 []) := (OwnF.stays (xs := []) ⟨HO2.out, by simp⟩ HB.out).1
      have HSz : Hid (w.heap.size ≤ wr.drew.heap.size) := Nat.le_trans HB2.out.size HB.out.size
      have hne1 : ¬ r = w.heap.size + 1 := by have h1 := HR.out.2.1; have h2 := HS2.out; omega
      have hne2 : ¬ w.heap.size + 1 = r := by omega
      have HU : Hid (∀ W, wr.drew.grownBy W (some (w.heap.size + 1 + 1)) → Sd W r (.slice ba i bc) i most m' (.slice ta tl tc) (.slice fa fs.length fc) ∧ Box2 W (w.heap.size + 1) 26 (.int .i64 0) (.slice none 0 0) ∧ Below w.heap.size w W) := by
        intro W hg
        have h1 := HR.out.2.1
        have h2 := HS2.out
        refine ⟨Sd.grew (W := wr.drew) HR.out.1 hg (fun e => by injection e with e; omega), ?_, ?_⟩
        · have h3 := HQ2.out.stays HB.out
          have h4 : w.heap.size + 1 < wr.heap.size := h3.lt
          exact (hg.block _ h4 (fun e => by injection e with e; omega)).trans h3
        · exact ((HB2.out.trans (HB.out.mono HB2.out.size)).drew).grown hg HSz.out (fun k hk => by injection hk with hk; omega)
      obtain ⟨s0, s1, s2, s3, s4, s5, _⟩ := HR.out.1.cells
      go_wp2_with fail
      go_region_law (first
        | (refine step_append_src rfl (.tmp 55) (.tmp 59) 24 rfl w.heap.size 43 i0 (.agg #[.string ⟨#[]⟩, .string ⟨#[]⟩]) 2 32 Tryz.underlying24 hi0 hz0 hz1 hz2 rfl (by decide) (w.heap.size + 1 + 1) 0 0 [] rfl HOw.out fa fs.length fc (fieldCells fs) rfl HNil.out HA1.out.2.2 HFs.out.cells (fieldCells_one fs) HA1.out.1 HA1.out.2.1 HSz.out ?_; intro v4 w7 hown hgrow; obtain ⟨a4, cap4, rfl⟩ := own_shape hown; obtain ⟨hu1, hu2, hu3⟩ := HU.out w7 hgrow; obtain ⟨g0, g1, g2, g3, g4, g5, _⟩ := hu1.cells; obtain ⟨v0, v1, v2, v3⟩ := hu2.cells; have HFin : Hid _ := sp_fin hu3 (Nat.le_succ _) hu2 m' (.slice ta tl tc); clear hu1 hu2 hu3 hown hgrow))
      all_goals
        go_wp2_with fail
        refine bodyPost_ret (v := .tuple #[.slice a4 (0 + fs.length) cap4, .agg #[.int .i64 m', .slice ta tl tc], .int .i64 0]) (by simp [results, Tryz.f10, go_sem, *]) rfl ?_
        exact ⟨fs, m', ys, 0, _, _, _, _, rfl, .inr ⟨HG.out, .inl ⟨rfl, k, HRunE.out⟩⟩, HFin.out.2⟩

end Go.Proofs.YtckpacifimpkgacGreat

namespace Go.Proofs.YtckpacifimpkgacGreat
open Go.RowKit
set_option linter.unusedVariables false

set_option maxRecDepth 10000 in
set_option maxHeartbeats 3200000 in
theorem implPuts_any (m : Int) (a : Option Addr) (len ca : Nat) (xs : List Fld) (la : Option Addr) (ll lc : Nat) (L : List Fld) (w : World) (hx : Flds w a len xs) (hL : Flds w la ll L) (hl : len + ll + fldBytes xs + fldBytes L ≤ 1048576) :
    Calls Tryz.prog 6 #[.agg #[.int .i64 m, .slice a len ca], .slice la ll lc] w fun e w' => ∃ (q : List Int) (a' : Option Addr) (c' : Nat) (v : Value) (n : Nat) (ys : List Fld), e = .returned (.tuple #[.slice a' q.length c', .agg #[.int .i64 m, v]]) ∧ PutN L m xs ll q ys ∧ Owns w' w.heap.size a' q.length c' q ∧ OwnF w' w.heap.size v n ys ∧ Below w.heap.size w w' := by
  obtain ⟨i0, hi, hz0, hz1, hz2⟩ := info_parts Tryz.info5
  have HX : Hid (Flds w a len xs) := hx
  have HL : Hid (Flds w la ll L) := hL
  have hlen := hx.1
  have hll := hL.1
  clear hx hL
  obtain ⟨w2, hw2⟩ : ∃ w2, ((w.alloc (.cells #[.int .i64 m, .slice a len ca] 26)).alloc (.cells #[.int .i64 0, .slice none 0 0] 26)) = w2 := ⟨_, rfl⟩
  have q1 : Box2 w2 w.heap.size 26 (.int .i64 m) (.slice a len ca) := by rw [← hw2]; exact (Box2.new _ _ _ _).alloc _
  have q2 : Box2 w2 (w.heap.size + 1) 26 (.int .i64 0) (.slice none 0 0) := by
    rw [← hw2]
    have := Box2.new (w.alloc (.cells #[.int .i64 m, .slice a len ca] 26)) 26 (.int .i64 0) (.slice none 0 0)
    rwa [World.size_alloc] at this
  have HB2 : Hid (Below w.heap.size w w2) := by show Below _ _ _; rw [← hw2]; exact ((Below.refl _ _).alloc (Nat.le_refl _) _).alloc (by simp) _
  have HW2 : Hid (w2.heap.size = w.heap.size + 2) := by show _ = _; rw [← hw2]; simp
  have HQ2 : Hid (Box2 w2 (w.heap.size + 1) 26 (.int .i64 0) (.slice none 0 0)) := q2
  obtain ⟨c0, c1, _, _⟩ := q1.cells
  clear q2
  obtain ⟨w3, hw3⟩ : ∃ w3, w2.alloc (.cells #[] 5) = w3 := ⟨_, rfl⟩
  have hb3 : Below w2.heap.size w2 w3 := by rw [← hw3]; exact (Below.refl _ _).alloc (Nat.le_refl _) _
  have HO3 : Hid (Owns w3 w2.heap.size (some ⟨w2.heap.size, 0, none⟩) 0 0 []) := by
    show Owns _ _ _ _ _ _
    rw [← hw3]
    exact ⟨⟨rfl, .inr ⟨w2.heap.size, 0, #[], rfl, Nat.le_refl _, heap_alloc_new w2 _, Nat.le_refl _, by decide, rfl, rfl⟩⟩, by simp⟩
  have HB3 : Hid (Below w2.heap.size w2 w3) := hb3
  obtain ⟨d0, d1, _, _⟩ := (q1.stays hb3).cells
  clear hb3 q1
  go_enter Tryz.func6, Tryz.ntmps6
  go_wp2_with fail
  refine (implCopy_any m a len ca xs _ (HX.out.below (HB2.out.trans (HB3.out.mono HB2.out.size))) (by omega)).mono ?_
  rintro e w4 ⟨v4, rfl, how4, hb4⟩
  obtain ⟨a4, c4, rfl⟩ := how4.shape
  have HS4 : Hid (PSt w (w4.alloc (.cells #[.int .i64 m, .slice a4 len c4] 26)) w4.heap.size m [] 0 w2.heap.size 0 a4 len c4 xs) := by
    have hb24 : Below w2.heap.size w2 w4 := HB3.out.trans (hb4.mono HB3.out.size)
    have hn := (Below.refl w4.heap.size w4).alloc (Nat.le_refl _) (.cells #[.int .i64 m, .slice a4 len c4] 26)
    have hs := HW2.out
    have hs4 := hb24.size
    have hs3 := HB3.out.size
    have hb5 : Below w.heap.size w w4 := HB2.out.trans (hb24.mono HB2.out.size)
    refine ⟨hb5.alloc hb5.size _, by omega, (HQ2.out.stays hb24).stays hn, Box2.new _ _ _ _, ?_, ?_⟩
    · exact ((HO3.out.below hb4).below hn).low (by omega)
    · have := how4.stays hn
      exact ⟨own_down this.1 (by omega), this.2⟩
  clear hb4 how4 HO3 HB3 HQ2 c0 c1 d0 d1 hw2 hw3
  go_wp2_with fail
  obtain ⟨bb, hbb⟩ : ∃ bb, w4.heap.size = bb := ⟨_, rfl⟩
  obtain ⟨w5, hw5⟩ : ∃ w5, w4.alloc (.cells #[.int .i64 m, .slice a4 len c4] 26) = w5 := ⟨_, rfl⟩
  rw [hw5, hbb] at HS4
  rw [hw5, hbb]
  clear hw5 hbb
  go_loopw [6, 17] (fun v i wr => ∃ (k : Nat) (q : List Int) (ql g c : Nat) (va : Option Addr) (n vc : Nat) (ys : List Fld), k ≤ ll ∧ i = .int .i64 k ∧ v = .slice (some ⟨g, 0, none⟩) ql c ∧ Hid (q.length = ql) ∧ Hid (PutN L m xs k q ys) ∧ Hid (PSt w wr bb m q ql g c va n vc ys)) (fun _ i _ => ll - (intOf i).toNat)
  case atStart => exact ⟨0, [], 0, _, 0, a4, len, c4, xs, Nat.zero_le _, rfl, rfl, rfl, ⟨rfl, rfl⟩, HS4⟩
  case round =>
    clear HS4
    obtain ⟨k, q, ql, g, c, va, n, vc, ys, hk, rfl, rfl, HQL, HP, HS⟩ := hrel
    have hfit := HP.out.fits
    have hyn : ys.length = n := HS.out.2.2.2.2.2.len
    have hql := HQL.out
    by_cases hlt : k < ll
    · obtain ⟨ba, oa, x, y, rfl, hba, hfa, ha0, ha1⟩ := HL.out.at hlt
      have ga0 : wr.cell? ⟨ba, oa + k * 2, none⟩ = some (.string x) := (HS.out.1.cell (p := ⟨ba, _, none⟩) hba).trans ha0
      have ga1 : wr.cell? ⟨ba, oa + k * 2 + 1, none⟩ = some (.string y) := (HS.out.1.cell (p := ⟨ba, _, none⟩) hba).trans ha1
      have hst := fldBytes_step L k x y hfa
      have hle := fldBytes_take L (k + 1)
      have hbd : n + (x.size + y.size) + fldBytes ys ≤ 1048576 := by omega
      have hqb : ql + (x.size + y.size + 18) ≤ 100000000 := by omega
      have hxs : x.size ≤ maxLen := by unfold maxLen; omega
      have hys : y.size ≤ maxLen := by unfold maxLen; omega
      have HF : Hid (L[k]? = some (x, y)) := hfa
      clear hfa hst hle ha0 ha1 hfit hyn hql
      have hki : (k : Int) < (ll : Int) := by omega
      have hk0 : (0 : Int) ≤ (k : Int) := by omega
      obtain ⟨x1, hx1⟩ : ∃ x1, wr.alloc (.cells #[.string x, .string y] 43) = x1 := ⟨_, rfl⟩
      have hb1 : Below wr.heap.size wr x1 := by rw [← hx1]; exact (Below.refl _ _).alloc (Nat.le_refl _) _
      have HS1 : Hid (PSt w x1 bb m q ql g c va n vc ys) := HS.out.stays hb1
      obtain ⟨u0, u1, _, _⟩ := HS1.out.2.2.2.1.cells
      obtain ⟨u2, u3, _, _⟩ : x1.cell? ⟨wr.heap.size, 0, none⟩ = some (.string x) ∧ x1.cell? ⟨wr.heap.size, 1, none⟩ = some (.string y) ∧ x1.frozen? ⟨wr.heap.size, 0, none⟩ = false ∧ x1.frozen? ⟨wr.heap.size, 1, none⟩ = false := by rw [← hx1]; exact (Box2.new wr 43 (.string x) (.string y)).cells
      clear hb1
      by_cases hsx : (x.toList == [97, 117, 116, 104, 111, 114, 105, 122, 97, 116, 105, 111, 110]) = true
      · have HMd : Hid (fmode x = 3) := by show _ = _; rw [fmode, if_pos hsx]
        go_wp2_with fail
        refine (implPutF_any m va n vc ys x y 3 _ HS1.out.2.2.2.2.2.flds ⟨hxs, hys⟩ hbd).mono ?_
        rintro e x2 ⟨r, ra, rc, v2, n2, zs, rfl, hadd, hor, how, hb⟩
        obtain ⟨a2, c2, rfl⟩ := how.shape
        obtain ⟨rl, hrl⟩ : ∃ rl, r.length = rl := ⟨_, rfl⟩
        have HAdd : Hid (PutAns m ys x y (fmode x) r zs) := by show PutAns _ _ _ _ _ _ _; rw [HMd.out]; exact hadd
        have hrl2 : rl ≤ x.size + y.size + 18 := by have := hadd.fits.2.2; omega
        rw [hrl] at hor ⊢
        have HRL : Hid (r.length = rl) := hrl
        have hs2 := HS1.out.stays hb
        have HS3 : Hid (PSt w ((x2.setCell ⟨bb, 0, none⟩ (.int .i64 m)).setCell ⟨bb, 1, none⟩ (.slice a2 n2 c2)) bb m q ql g c a2 n2 c2 zs) := hs2.put HS1.out.1.size how
        have HR3 : Hid (Owns ((x2.setCell ⟨bb, 0, none⟩ (.int .i64 m)).setCell ⟨bb, 1, none⟩ (.slice a2 n2 c2)) x1.heap.size ra rl rc r) := owns_setTwo hor hs2.2.2.2.1 _ _
        obtain ⟨b0, b1, b2, b3⟩ := hs2.2.2.2.1.cells
        clear hadd hor how hb hrl hs2 u0 u1 u2 u3 ga0 ga1 hx1
        obtain ⟨x3, hx3⟩ : ∃ x3, (x2.setCell ⟨bb, 0, none⟩ (.int .i64 m)).setCell ⟨bb, 1, none⟩ (.slice a2 n2 c2) = x3 := ⟨_, rfl⟩
        rw [hx3] at HS3 HR3
        have HSrc : Hid (Src Tryz.prog 1 22 (.slice ra rl rc) rl (r.map (Value.int .u8)) x3) := Src.ofSeg Tryz.underlying22 HR3.out.seg HR3.out.none
        have hA : ql + rl ≤ maxLen := by unfold maxLen; omega
        have hA2 : (ql + rl) * 1 ≤ 140737488355328 := by omega
        go_wp2_with (at_builtin; refine wpList_append_got rfl _ _ 22 22 rfl w.heap.size 5 i0 (.int .u8 0) 1 1 Tryz.underlying22 hi hz0 hz1 hz2 rfl (by decide) g ql c (q.map (Value.int .u8)) rfl HS3.out.2.2.2.2.1.1 (.slice ra rl rc) rl (r.map (Value.int .u8)) rfl HSrc.out hA hA2 HS3.out.1.size ?_; intro g' c' x4 hown hgrow; refine Hid.out ?_)
        refine hidden ?_
        have HS5 : Hid (PSt w x4 bb m (q ++ r) (ql + rl) g' c' a2 n2 c2 zs) := HS3.out.app hgrow hown HR3.out.2
        clear hown hgrow HS3 HR3 HSrc hx3 b0 b1 b2 b3 hA hA2
        go_wp2
        go_roundw
        case rel =>
          refine ⟨k + 1, q ++ r, ql + rl, g', c', a2, n2, c2, zs, by omega, by go_num, rfl, ?_, ⟨q, ys, x, y, r, HP.out, HF.out, HAdd.out, rfl⟩, HS5⟩
          show _ = _
          rw [List.length_append, HQL.out, HRL.out]
        case measure => simp [intOf]; omega
      · have HMd : Hid (fmode x = 1) := by show _ = _; rw [fmode, if_neg hsx]
        have hs1 : (x.toList == [97, 117, 116, 104, 111, 114, 105, 122, 97, 116, 105, 111, 110]) = false := by simpa using hsx
        clear hsx
        go_wp2_with fail
        refine (implPutF_any m va n vc ys x y 1 _ HS1.out.2.2.2.2.2.flds ⟨hxs, hys⟩ hbd).mono ?_
        rintro e x2 ⟨r, ra, rc, v2, n2, zs, rfl, hadd, hor, how, hb⟩
        obtain ⟨a2, c2, rfl⟩ := how.shape
        obtain ⟨rl, hrl⟩ : ∃ rl, r.length = rl := ⟨_, rfl⟩
        have HAdd : Hid (PutAns m ys x y (fmode x) r zs) := by show PutAns _ _ _ _ _ _ _; rw [HMd.out]; exact hadd
        have hrl2 : rl ≤ x.size + y.size + 18 := by have := hadd.fits.2.2; omega
        rw [hrl] at hor ⊢
        have HRL : Hid (r.length = rl) := hrl
        have hs2 := HS1.out.stays hb
        have HS3 : Hid (PSt w ((x2.setCell ⟨bb, 0, none⟩ (.int .i64 m)).setCell ⟨bb, 1, none⟩ (.slice a2 n2 c2)) bb m q ql g c a2 n2 c2 zs) := hs2.put HS1.out.1.size how
        have HR3 : Hid (Owns ((x2.setCell ⟨bb, 0, none⟩ (.int .i64 m)).setCell ⟨bb, 1, none⟩ (.slice a2 n2 c2)) x1.heap.size ra rl rc r) := owns_setTwo hor hs2.2.2.2.1 _ _
        obtain ⟨b0, b1, b2, b3⟩ := hs2.2.2.2.1.cells
        clear hadd hor how hb hrl hs2 u0 u1 u2 u3 ga0 ga1 hx1
        obtain ⟨x3, hx3⟩ : ∃ x3, (x2.setCell ⟨bb, 0, none⟩ (.int .i64 m)).setCell ⟨bb, 1, none⟩ (.slice a2 n2 c2) = x3 := ⟨_, rfl⟩
        rw [hx3] at HS3 HR3
        have HSrc : Hid (Src Tryz.prog 1 22 (.slice ra rl rc) rl (r.map (Value.int .u8)) x3) := Src.ofSeg Tryz.underlying22 HR3.out.seg HR3.out.none
        have hA : ql + rl ≤ maxLen := by unfold maxLen; omega
        have hA2 : (ql + rl) * 1 ≤ 140737488355328 := by omega
        go_wp2_with (at_builtin; refine wpList_append_got rfl _ _ 22 22 rfl w.heap.size 5 i0 (.int .u8 0) 1 1 Tryz.underlying22 hi hz0 hz1 hz2 rfl (by decide) g ql c (q.map (Value.int .u8)) rfl HS3.out.2.2.2.2.1.1 (.slice ra rl rc) rl (r.map (Value.int .u8)) rfl HSrc.out hA hA2 HS3.out.1.size ?_; intro g' c' x4 hown hgrow; refine Hid.out ?_)
        refine hidden ?_
        have HS5 : Hid (PSt w x4 bb m (q ++ r) (ql + rl) g' c' a2 n2 c2 zs) := HS3.out.app hgrow hown HR3.out.2
        clear hown hgrow HS3 HR3 HSrc hx3 b0 b1 b2 b3 hA hA2
        go_wp2
        go_roundw
        case rel =>
          refine ⟨k + 1, q ++ r, ql + rl, g', c', a2, n2, c2, zs, by omega, by go_num, rfl, ?_, ⟨q, ys, x, y, r, HP.out, HF.out, HAdd.out, rfl⟩, HS5⟩
          show _ = _
          rw [List.length_append, HQL.out, HRL.out]
        case measure => simp [intOf]; omega
    · obtain rfl : k = ll := by omega
      have hki : ¬ (k : Int) < (k : Int) := by omega
      obtain ⟨c0, c1, _, _⟩ := HS.out.2.2.2.1.cells
      obtain ⟨c2, c3, c4', c5⟩ := HS.out.2.2.1.cells
      have HFn : Hid _ := HS.out.fin
      clear hfit hyn hql
      go_wp2_with fail
      go_region
      all_goals
        clear c0 c1 c4' c5
        go_wp2_with fail
        refine bodyPost_ret (v := .tuple #[.slice (some ⟨g, 0, none⟩) ql c, .agg #[.int .i64 m, .slice va n vc]]) (by simp [results, Tryz.f6, go_sem, c2, c3]) rfl ?_
        exact ⟨q, _, _, _, n, ys, by rw [HQL.out], HP.out, by rw [HQL.out]; exact HFn.out.2.2.1, HFn.out.2.2.2, HFn.out.1⟩

end Go.Proofs.YtckpacifimpkgacGreat

namespace Go.Proofs.YtckpacifimpkgacGreat
open Go.RowKit
set_option linter.unusedVariables false

/-- The cursor in block c: the code's bytes lie below block B, which is not above c. -/
def Cur (w : World) (B c : Nat) (a : Option Addr) (len cap : Nat) (zs : List Int) : Prop :=
  B ≤ c ∧ (∀ x, a = some x → len ≠ 0 → x.block < B) ∧ Seg w a len zs ∧
    ∃ (i : Nat) (h : Int), i ≤ len ∧ w.heap[c]? = some (.cells #[.slice a len cap, .int .i64 i, .int .i64 h] 62 (0, 0))

theorem and_mask (x : Int) (m : Nat) (hm : m < 9223372036854775808) : 0 ≤ bits .and .i64 x (m : Int) ∧ bits .and .i64 x (m : Int) ≤ (m : Int) := by
  have e : bits .and .i64 x (m : Int) = (((BitVec.ofInt 64 x).toNat &&& m : Nat) : Int) := by
    show IntKind.i64.wrap ((BitVec.ofInt 64 x &&& BitVec.ofInt 64 (m : Int)).toNat : Int) = _
    rw [BitVec.toNat_and, ofInt64 m (by omega)]
    have h1 : (BitVec.ofInt 64 x).toNat &&& m ≤ m := Nat.and_le_right
    exact wrap_i64_small _ (by omega)
  have h1 : (BitVec.ofInt 64 x).toNat &&& m ≤ m := Nat.and_le_right
  rw [e]
  omega

theorem cur_new {w : World} {a : Option Addr} {len cap : Nat} {zs : List Int} (hs : Seg w a len zs) (h : Int) :
    Cur (w.alloc (.cells #[.slice a len cap, .int .i64 0, .int .i64 h] 62)) w.heap.size w.heap.size a len cap zs := by
  refine ⟨Nat.le_refl _, ?_, hs.below ((Below.refl _ _).alloc (Nat.le_refl _) _), 0, h, Nat.zero_le _, heap_alloc_new w _⟩
  rintro x rfl hl
  rcases hs.2.2 with h0 | ⟨b, off, e, hb, _⟩
  · exact absurd h0 hl
  · obtain rfl := Option.some.inj e
    exact hb

set_option maxRecDepth 10000 in
set_option maxHeartbeats 400000 in
theorem l1New_any (a : Option Addr) (len cap : Nat) (zs : List Int) (w : World) (hs : Seg w a len zs) (hl : len ≤ 1099511627776) :
    Calls Tryz.prog 12 #[.slice a len cap] w fun e w' => e = .returned (.pointer (some ⟨w.heap.size, 0, none⟩)) ∧ Cur w' w.heap.size w.heap.size a len cap zs ∧ Below w.heap.size w w' := by
  have HS : Hid (Seg w a len zs) := hs
  clear hs
  go_enter Tryz.func12, Tryz.ntmps12
  go_wp2
  go_loop [3, 4] (fun n i => ∃ (k : Nat) (m : Int), k ≤ len ∧ i = .int .i64 k ∧ n = .int .i64 m) (fun _ i => len - (intOf i).toNat)
  case atStart => exact ⟨0, _, Nat.zero_le _, rfl, rfl⟩
  case round =>
    obtain ⟨k, m, hk, rfl, rfl⟩ := hrel
    by_cases hlt : k < len ∧ k < 4000
    · obtain ⟨hlt, h4⟩ := hlt
      obtain ⟨b, off, rfl, hb, hc⟩ : ∃ b off, a = some ⟨b, off, none⟩ ∧ b < w.heap.size ∧ ∀ i, i < len → w.cell? ⟨b, off + i, none⟩ = some (.int .u8 (zs.getD i 0)) := by
        rcases HS.out.2.2 with h | h
        · omega
        · exact h
      have hcell : w.cell? ⟨b, off + k, none⟩ = some (.int .u8 (zs.getD k 0)) := hc k hlt
      have h4i : (k : Int) < 4000 := by omega
      clear hc h4
      go_wp2
      go_round
      case rel => exact ⟨k + 1, _, by omega, by go_num, rfl⟩
      case measure => simp [intOf]; omega
    · by_cases hlt2 : k < len
      · have h4i : ¬ (k : Int) < 4000 := by omega
        clear hlt
        go_wp2
        go_ret
        exact ⟨rfl, cur_new HS.out _, (Below.refl _ _).alloc (Nat.le_refl _) _⟩
      · clear hlt
        go_wp2
        go_ret
        exact ⟨rfl, cur_new HS.out _, (Below.refl _ _).alloc (Nat.le_refl _) _⟩

theorem cells_of_three {w : World} {c : Nat} {x y z : Value} {t : TypeId} (h : w.heap[c]? = some (.cells #[x, y, z] t (0, 0))) :
    w.cell? ⟨c, 0, none⟩ = some x ∧ w.cell? ⟨c, 1, none⟩ = some y ∧ w.cell? ⟨c, 2, none⟩ = some z ∧ w.frozen? ⟨c, 1, none⟩ = false ∧ w.frozen? ⟨c, 2, none⟩ = false := by
  refine ⟨?_, ?_, ?_, frozen_of_row w c 1 _ t h, frozen_of_row w c 2 _ t h⟩
  · rw [cell_of_row w c 0 _ t (0, 0) h]; rfl
  · rw [cell_of_row w c 1 _ t (0, 0) h]; rfl
  · rw [cell_of_row w c 2 _ t (0, 0) h]; rfl

theorem gset (w : World) (c o : Nat) (v : Value) : w.grownBy (w.setCell ⟨c, o, none⟩ v) (some c) :=
  ⟨rfl, rfl, rfl, by simp [World.setCell], fun k _ hk => Below.heap_setCell _ _ _ _ (fun e => hk (by simp [e]))⟩
theorem gdrew (w : World) (n : Nat) (row : Option Nat) : w.grownBy (w.drewN n) row := ⟨rfl, rfl, rfl, Nat.le_refl _, fun _ _ _ => rfl⟩
theorem gtrans {w w1 w2 : World} {row : Option Nat} (h : w.grownBy w1 row) (k : w1.grownBy w2 row) : w.grownBy w2 row :=
  ⟨k.os.trans h.os, k.tape.trans h.tape, k.output.trans h.output, Nat.le_trans h.size k.size, fun j hj hne => (k.block j (Nat.lt_of_lt_of_le hj h.size) hne).trans (h.block j hj hne)⟩
theorem gbelow {w w' : World} (h : Below w.heap.size w w') (row : Option Nat) : w.grownBy w' row := ⟨h.os, h.tape, h.output, h.size, fun k hk _ => h.block k hk⟩

theorem seg_grown {w w' : World} {B c : Nat} {a : Option Addr} {len : Nat} {zs : List Int} (hB : B ≤ c) (hlow : ∀ x, a = some x → len ≠ 0 → x.block < B) (hs : Seg w a len zs) (hg : w.grownBy w' (some c)) : Seg w' a len zs := by
  refine ⟨hs.1, hs.2.1, ?_⟩
  by_cases h0 : len = 0
  · exact .inl h0
  · rcases hs.2.2 with h | ⟨b, off, rfl, hb, hc⟩
    · exact .inl h
    · have hbB : b < B := hlow _ rfl h0
      refine .inr ⟨b, off, rfl, Nat.lt_of_lt_of_le hb hg.size, fun i hi => ?_⟩
      exact (World.cell?_of_block (w := w) (a := ⟨b, off + i, none⟩) (hg.block b hb (fun e => by have := Option.some.inj e; omega))).trans (hc i hi)

theorem Cur.again {w w' : World} {B c : Nat} {a : Option Addr} {len cap : Nat} {zs : List Int} (hB : B ≤ c) (hlow : ∀ x, a = some x → len ≠ 0 → x.block < B) (hs : Seg w a len zs) (hg : w.grownBy w' (some c))
    (i : Nat) (h : Int) (hi : i ≤ len) (hh : w'.heap[c]? = some (.cells #[.slice a len cap, .int .i64 i, .int .i64 h] 62 (0, 0))) : Cur w' B c a len cap zs :=
  ⟨hB, hlow, seg_grown hB hlow hs hg, i, h, hi, hh⟩

/-- A world in which other blocks than the cursor's have turned, and new ones come. -/
theorem Cur.kept {w w' : World} {B c : Nat} {a : Option Addr} {len cap : Nat} {zs : List Int} {row : Option Nat} (h : Cur w B c a len cap zs) (hg : w.grownBy w' row) (hr : ∀ k, row = some k → B ≤ k ∧ k ≠ c) : Cur w' B c a len cap zs := by
  obtain ⟨hB, hlow, hs, i, hh, hi, hc⟩ := h
  have hcl : c < w.heap.size := by
    by_cases hk : c < w.heap.size
    · exact hk
    · rw [Array.getElem?_eq_none (by omega)] at hc; cases hc
  refine ⟨hB, hlow, ?_, i, hh, hi, (hg.block c hcl (fun e => (hr c e.symm).2 rfl)).trans hc⟩
  refine ⟨hs.1, hs.2.1, ?_⟩
  by_cases h0 : len = 0
  · exact .inl h0
  · rcases hs.2.2 with h | ⟨b, off, rfl, hb, hcc⟩
    · exact .inl h
    · have hbB : b < B := hlow _ rfl h0
      refine .inr ⟨b, off, rfl, Nat.lt_of_lt_of_le hb hg.size, fun j hj => ?_⟩
      exact (World.cell?_of_block (w := w) (a := ⟨b, off + j, none⟩) (hg.block b hb (fun e => by have := (hr b e.symm).1; omega))).trans (hcc j hj)

theorem Cur.lt {w : World} {B c : Nat} {a : Option Addr} {len cap : Nat} {zs : List Int} (h : Cur w B c a len cap zs) : c < w.heap.size := by
  obtain ⟨_, _, _, i, hh, _, hc⟩ := h
  by_cases hk : c < w.heap.size
  · exact hk
  · rw [Array.getElem?_eq_none (by omega)] at hc; cases hc

set_option maxRecDepth 10000 in
set_option maxHeartbeats 400000 in
theorem l1Byte_any (B c : Nat) (a : Option Addr) (len cap : Nat) (zs : List Int) (w : World) (hcur : Cur w B c a len cap zs) (hl : len ≤ 1099511627776) :
    Calls Tryz.prog 25 #[.pointer (some ⟨c, 0, none⟩)] w fun e w' => ∃ x : Int, 0 ≤ x ∧ x ≤ 255 ∧ e = .returned (.int .i64 x) ∧ Cur w' B c a len cap zs ∧ w.grownBy w' (some c) := by
  obtain ⟨hB, hlow, hs, i, h, hi, hh⟩ := hcur
  obtain ⟨c0, c1, c2, f1, f2⟩ := cells_of_three hh
  have HH : Hid _ := hh
  have HS : Hid (Seg w a len zs) := hs
  have HL : Hid (∀ x, a = some x → len ≠ 0 → x.block < B) := hlow
  clear hh hs hlow
  by_cases hlt : i < len
  · obtain ⟨b, off, rfl, hb, hc⟩ : ∃ b off, a = some ⟨b, off, none⟩ ∧ b < w.heap.size ∧ ∀ i, i < len → w.cell? ⟨b, off + i, none⟩ = some (.int .u8 (zs.getD i 0)) := by
      rcases HS.out.2.2 with h | h
      · omega
      · exact h
    have hbB := HL.out _ rfl (by omega)
    have hbc : ¬ b = c := by simp at hbB; omega
    have hcell : w.cell? ⟨b, off + i, none⟩ = some (.int .u8 (zs.getD i 0)) := hc i hlt
    clear hc hbB
    go_enter Tryz.func25, Tryz.ntmps25
    go_wp2
    generalize wrap64 (wrap64 (h * 6364136223846793005) + 1442695040888963407) = h'
    go_quiet (fail)
    go_wp2
    obtain ⟨hx0, hx1⟩ := and_mask (bits BinOp.xor .i64 (h' / 8589934592) (h' / 140737488355328)) 255 (by omega)
    generalize bits BinOp.and .i64 (bits BinOp.xor .i64 (h' / 8589934592) (h' / 140737488355328)) 255 = x at *
    go_quiet (fail)
    go_wp2
    go_quiet (fail)
    go_wp2
    go_ret
    obtain ⟨hy0, hy1⟩ := and_mask (wrap64 (x + wrap64 (zs.getD i 0))) 255 (by omega)
    refine ⟨_, hy0, hy1, by simp, ?_, ?_⟩
    · refine Cur.again hB HL.out HS.out (gtrans (gtrans (gset w c 2 _) (gdrew _ _ _)) (gset _ c 1 _)) (i + 1) h' (by omega) ?_
      have h1 := heap_setCell_same w c 2 _ 62 (.int .i64 h') HH.out
      exact heap_setCell_same ((w.setCell ⟨c, 2, none⟩ (.int .i64 h')).drewN _) c 1 _ 62 _ h1
    · exact gtrans (gtrans (gset w c 2 _) (gdrew _ _ _)) (gset _ c 1 _)
  · go_enter Tryz.func25, Tryz.ntmps25
    go_wp2
    generalize wrap64 (wrap64 (h * 6364136223846793005) + 1442695040888963407) = h'
    go_quiet (fail)
    go_wp2
    obtain ⟨hx0, hx1⟩ := and_mask (bits BinOp.xor .i64 (h' / 8589934592) (h' / 140737488355328)) 255 (by omega)
    generalize bits BinOp.and .i64 (bits BinOp.xor .i64 (h' / 8589934592) (h' / 140737488355328)) 255 = x at *
    go_quiet (fail)
    go_wp2
    go_ret
    refine ⟨x, hx0, hx1, rfl, ?_, ?_⟩
    · exact Cur.again hB HL.out HS.out (gtrans (gtrans (gset w c 2 _) (gdrew _ _ _)) (gdrew _ _ _)) i h' hi (heap_setCell_same w c 2 _ 62 (.int .i64 h') HH.out)
    · exact gtrans (gtrans (gset w c 2 _) (gdrew _ _ _)) (gdrew _ _ _)

end Go.Proofs.YtckpacifimpkgacGreat

namespace Go.Proofs.YtckpacifimpkgacGreat
open Go.RowKit
set_option linter.unusedVariables false

set_option maxRecDepth 10000 in
set_option maxHeartbeats 400000 in
theorem l1Below_any (B c : Nat) (a : Option Addr) (len cap : Nat) (zs : List Int) (n : Int) (w : World) (hcur : Cur w B c a len cap zs) (hl : len ≤ 1099511627776) (hn1 : 1 ≤ n) (hn2 : n ≤ 1000000) :
    Calls Tryz.prog 24 #[.pointer (some ⟨c, 0, none⟩), .int .i64 n] w fun e w' => ∃ x : Int, e = .returned (.int .i64 x) ∧ 0 ≤ x ∧ x < n ∧ Cur w' B c a len cap zs ∧ w.grownBy w' (some c) := by
  have HC : Hid _ := hcur
  clear hcur
  have hne : (n == 0) = false := by rw [beq_eq_false_iff_ne]; omega
  by_cases h256 : n ≤ 256
  · go_enter Tryz.func24, Tryz.ntmps24
    go_wp2_with fail
    refine (l1Byte_any B c a len cap zs _ HC.out hl).mono ?_
    rintro e w1 ⟨x, hx0, hx1, rfl, hc1, hg1⟩
    have HC1 : Hid _ := hc1
    have HG1 : Hid _ := hg1
    clear hc1 hg1
    go_wp2_with fail
    go_ret
    refine ⟨_, rfl, ?_, ?_, HC1.out, HG1.out⟩
    · first | exact Int.emod_nonneg _ (by omega) | exact Int.tmod_nonneg _ (by omega)
    · first | exact Int.emod_lt_of_pos _ (by omega) | exact Int.tmod_lt_of_pos _ (by omega)
  · go_enter Tryz.func24, Tryz.ntmps24
    go_wp2_with fail
    refine (l1Byte_any B c a len cap zs _ HC.out hl).mono ?_
    rintro e w1 ⟨x, hx0, hx1, rfl, hc1, hg1⟩
    have HC1 : Hid _ := hc1
    have HG1 : Hid _ := hg1
    clear hc1 hg1
    go_wp2_with fail
    refine (l1Byte_any B c a len cap zs _ HC1.out hl).mono ?_
    rintro e w2 ⟨y, hy0, hy1, rfl, hc2, hg2⟩
    have HC2 : Hid _ := hc2
    have HG2 : Hid _ := gtrans HG1.out hg2
    clear hc2 hg2
    go_wp2_with fail
    refine (l1Byte_any B c a len cap zs _ HC2.out hl).mono ?_
    rintro e w3 ⟨z, hz0, hz1, rfl, hc3, hg3⟩
    have HC3 : Hid _ := hc3
    have HG3 : Hid _ := gtrans HG2.out hg3
    clear hc3 hg3
    go_wp2_with fail
    go_ret
    refine ⟨_, rfl, ?_, ?_, HC3.out, HG3.out⟩
    · first | exact Int.emod_nonneg _ (by omega) | exact Int.tmod_nonneg _ (by omega)
    · first | exact Int.emod_lt_of_pos _ (by omega) | exact Int.tmod_lt_of_pos _ (by omega)

theorem cell_of_ints {w : World} {g : Nat} {L : List Int} (h : w.heap[g]? = some (.cells (L.map (Value.int .i64)).toArray 3 (0, 0))) (k : Nat) (hk : k < L.length) : w.cell? ⟨g, k, none⟩ = some (.int .i64 (L.getD k 0)) := by
  rw [cell_of_row w g k _ 3 (0, 0) h]
  simp [List.getD_eq_getElem?_getD, hk]

set_option maxRecDepth 10000 in
set_option maxHeartbeats 400000 in
theorem l1Int_any (B c : Nat) (a : Option Addr) (len cap : Nat) (zs : List Int) (g n cp : Nat) (L : List Int) (w : World) (hcur : Cur w B c a len cap zs) (hl : len ≤ 1099511627776)
    (hL : w.heap[g]? = some (.cells (L.map (Value.int .i64)).toArray 3 (0, 0))) (hgc : g ≠ c) (hn : L.length = n) (h1 : 1 ≤ n) (h2 : n ≤ 256) :
    Calls Tryz.prog 23 #[.pointer (some ⟨c, 0, none⟩), .slice (some ⟨g, 0, none⟩) n cp] w fun e w' => ∃ v : Int, e = .returned (.int .i64 v) ∧ v ∈ L ∧ Cur w' B c a len cap zs ∧ w.grownBy w' (some c) := by
  have HC : Hid _ := hcur
  have HL : Hid _ := hL
  have HN : Hid (L.length = n) := hn
  clear hcur hL hn
  have hi1 : (1 : Int) ≤ (n : Int) := by omega
  have hi2 : (n : Int) ≤ 1000000 := by omega
  have hglt : g < w.heap.size := by
    by_cases hk : g < w.heap.size
    · exact hk
    · have := HL.out; rw [Array.getElem?_eq_none (by omega)] at this; cases this
  go_enter Tryz.func23, Tryz.ntmps23
  go_wp2_with fail
  refine (l1Below_any B c a len cap zs _ _ HC.out hl hi1 hi2).mono ?_
  rintro e w1 ⟨x, rfl, hx0, hx1, hc1, hg1⟩
  obtain ⟨k, rfl⟩ := Int.eq_ofNat_of_zero_le hx0
  have HC1 : Hid _ := hc1
  have HG1 : Hid _ := hg1
  have hcell : w1.cell? ⟨g, k, none⟩ = some (.int .i64 (L.getD k 0)) := by
    refine cell_of_ints ?_ k (by have := HN.out; omega)
    rw [hg1.block g hglt (fun e => hgc (Option.some.inj e))]
    exact HL.out
  clear hc1 hg1
  go_wp2_with fail
  go_ret
  refine ⟨_, rfl, ?_, HC1.out, HG1.out⟩
  have hk : k < L.length := by have := HN.out; omega
  rw [List.getElem?_eq_getElem hk]
  exact List.getElem_mem hk

theorem gown {w w1 w2 : World} {c row : Option Nat} (h : w.grownBy w1 c) (k : w1.grownBy w2 row) (hr : ∀ j, row = some j → w.heap.size ≤ j) : w.grownBy w2 c :=
  ⟨k.os.trans h.os, k.tape.trans h.tape, k.output.trans h.output, Nat.le_trans h.size k.size, fun j hj hne => (k.block j (Nat.lt_of_lt_of_le hj h.size) (fun e => by have := hr j e.symm; omega)).trans (h.block j hj hne)⟩

theorem own_some5 {w : World} {base n : Nat} {v : Value} {xs : List Value} (h : w.ownsRow base 5 1 v n xs) (hv : ¬ v = .slice none 0 0) : ∃ g cp, v = .slice (some ⟨g, 0, none⟩) n cp ∧ base ≤ g := by
  rcases h.2 with ⟨rfl, _⟩ | ⟨g, cap, cur, rfl, hb, _⟩
  · exact absurd rfl hv
  · exact ⟨g, cap, rfl, hb⟩

theorem gnew {w W : World} {c : Option Nat} (h : w.grownBy W c) (o : Obj) : w.grownBy (W.alloc o) c := gown h (World.grownBy_alloc W o none) (by simp)
theorem gput {w W : World} {c : Option Nat} (h : w.grownBy W c) {b k : Nat} (hb : w.heap.size ≤ b) (v : Value) : w.grownBy (W.setCell ⟨b, k, none⟩ v) c := gown h (gset W b k v) (fun j e => by injection e with e; omega)
theorem Cur.put {w : World} {B c : Nat} {a : Option Addr} {len cap : Nat} {zs : List Int} (h : Cur w B c a len cap zs) {b k : Nat} (hb : c < b) (v : Value) : Cur (w.setCell ⟨b, k, none⟩ v) B c a len cap zs := h.kept (gset w b k v) (fun j e => by injection e with e; have := h.1; omega)
theorem Cur.new {w : World} {B c : Nat} {a : Option Addr} {len cap : Nat} {zs : List Int} (h : Cur w B c a len cap zs) (o : Obj) : Cur (w.alloc o) B c a len cap zs := h.kept (World.grownBy_alloc w o none) (by simp)


end Go.Proofs.YtckpacifimpkgacGreat

namespace Go.Proofs.YtckpacifimpkgacGreat
open Go.RowKit
set_option linter.unusedVariables false

theorem cell_of_strs {w : World} {g : Nat} {L : List ByteArray} (h : w.heap[g]? = some (.cells (L.map Value.string).toArray 9 (0, 0))) (k : Nat) (hk : k < L.length) : w.cell? ⟨g, k, none⟩ = some (.string (L[k]'hk)) := by
  rw [cell_of_row w g k _ 9 (0, 0) h]
  simp [hk]

set_option maxRecDepth 10000 in
set_option maxHeartbeats 400000 in
theorem l1Str_any (B c : Nat) (a : Option Addr) (len cap : Nat) (zs : List Int) (g n cp : Nat) (L : List ByteArray) (w : World) (hcur : Cur w B c a len cap zs) (hl : len ≤ 1099511627776)
    (hL : w.heap[g]? = some (.cells (L.map Value.string).toArray 9 (0, 0))) (hgc : g ≠ c) (hn : L.length = n) (h1 : 1 ≤ n) (h2 : n ≤ 256) :
    Calls Tryz.prog 52 #[.pointer (some ⟨c, 0, none⟩), .slice (some ⟨g, 0, none⟩) n cp] w fun e w' => ∃ v : ByteArray, e = .returned (.string v) ∧ v ∈ L ∧ Cur w' B c a len cap zs ∧ w.grownBy w' (some c) := by
  have HC : Hid _ := hcur
  have HL : Hid _ := hL
  have HN : Hid (L.length = n) := hn
  clear hcur hL hn
  have hi1 : (1 : Int) ≤ (n : Int) := by omega
  have hi2 : (n : Int) ≤ 1000000 := by omega
  have hglt : g < w.heap.size := by
    by_cases hk : g < w.heap.size
    · exact hk
    · have := HL.out; rw [Array.getElem?_eq_none (by omega)] at this; cases this
  go_enter Tryz.func52, Tryz.ntmps52
  go_wp2_with fail
  refine (l1Below_any B c a len cap zs _ _ HC.out hl hi1 hi2).mono ?_
  rintro e w1 ⟨x, rfl, hx0, hx1, hc1, hg1⟩
  obtain ⟨k, rfl⟩ := Int.eq_ofNat_of_zero_le hx0
  have HC1 : Hid _ := hc1
  have HG1 : Hid _ := hg1
  have hkl : k < L.length := by have := HN.out; omega
  obtain ⟨v, hv⟩ : ∃ v, L[k] = v := ⟨_, rfl⟩
  have hcell : w1.cell? ⟨g, k, none⟩ = some (.string v) := by
    rw [← hv]
    refine cell_of_strs ?_ k hkl
    rw [hg1.block g hglt (fun e => hgc (Option.some.inj e))]
    exact HL.out
  have HV : Hid (v ∈ L) := by
    show v ∈ L
    rw [← hv]
    exact List.getElem_mem hkl
  clear hc1 hg1 hv
  go_wp2_with fail
  go_ret
  exact ⟨v, rfl, HV.out, HC1.out, HG1.out⟩

end Go.Proofs.YtckpacifimpkgacGreat
