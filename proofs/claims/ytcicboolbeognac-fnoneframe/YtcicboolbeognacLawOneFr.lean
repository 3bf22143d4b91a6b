/- The law on one drawn frame. -/
import Derived.Test.YtcicboolbeognacDrawFrAny
import Derived.Test.YtcicboolbeognacSameFr
import Derived.Test.YtcicboolbeognacFrBack
import Derived.Test.YtcicboolbeognacFrPut
import Derived.Test.YtcicboolbeognacFrOkS
import Derived.Test.YtcicboolbeognacFrCode
import Derived.Test.YtcicboolbeognacFrCodeS
import Derived.Test.YtcicboolbeognacFrGetF
import Derived.Test.YtcicboolbeognacLawBig
import Derived.Test.YtcicboolbeognacTabStep
import Derived.Deep.RegionHeld3
namespace Go.Proofs.Ytcicboolbeognac
open Go.RowKit
set_option linter.unusedVariables false

set_option maxHeartbeats 800000 in
theorem drawPut_any (a : Option Addr) (len cap : Nat) (zs : List Int) (w : World) (hs : Seg w a len zs) (hl : len ≤ 1099511627776) :
    Calls Try.prog 22 #[.slice a len cap] w fun e w' => ∃ (k f s : Int) (g n cp : Nat) (ys : List Int), e = .returned (.agg #[.int .i64 k, .int .i64 f, .int .i64 s, .slice (some ⟨g, 0, none⟩) n cp]) ∧ n ≤ 1001 ∧ Owns w' w.heap.size (some ⟨g, 0, none⟩) n cp ys ∧ Below w.heap.size w w' := by
  have HS : Hid (Seg w a len zs) := hs
  clear hs
  obtain ⟨w1, hw1⟩ : ∃ w1, w.alloc (.cells #[.int .i64 0, .int .i64 0, .int .i64 0, .slice none 0 0] 44) = w1 := ⟨_, rfl⟩
  have HQ1 : Hid (Box4 w1 w.heap.size 44 (.int .i64 0) (.int .i64 0) (.int .i64 0) (.slice none 0 0)) := by show Box4 _ _ _ _ _ _ _; rw [← hw1]; exact Box4.new _ _ _ _ _ _
  have HB1 : Hid (Below w.heap.size w w1) := by show Below _ _ _; rw [← hw1]; exact (Below.refl _ _).alloc (Nat.le_refl _) _
  go_enter Try.func22, Try.ntmps22
  go_wp2_with fail
  try rw [hw1]
  refine (l1New_any a len cap zs w1 (HS.out.below HB1.out) hl).mono ?_
  rintro e w2 ⟨rfl, hc2, hb2⟩
  have HC2 : Hid (Cur w2 w1.heap.size w1.heap.size a len cap zs) := hc2
  have HQ2 : Hid (Box4 w2 w.heap.size 44 (.int .i64 0) (.int .i64 0) (.int .i64 0) (.slice none 0 0)) := HQ1.out.stays hb2
  have HB2 : Hid (Below w.heap.size w w2) := HB1.out.trans (hb2.mono HB1.out.size)
  have hlt : w.heap.size < w1.heap.size := HQ1.out.lt
  clear hc2 hb2 hw1 HQ1 HB1
  go_wp2_with fail
  refine (l6Any_any w1.heap.size w1.heap.size a len cap zs w2 HC2.out hl).mono ?_
  rintro e w3 ⟨k, f, s, g, n, cp, ys, rfl, hn, hg, ho, hc3, hg3⟩
  have hq3 : Box4 w3 w.heap.size 44 (.int .i64 0) (.int .i64 0) (.int .i64 0) (.slice none 0 0) := HQ2.out.grown hg3 (fun e => by injection e with e; omega)
  have HB3 : Hid (Below w.heap.size w w3) := HB2.out.grown hg3 HB2.out.size (fun q e => by injection e with e; omega)
  have hne := (ho.low (b' := w.heap.size) HB2.out.size).other hq3 (by decide)
  have HO3 : Hid (Owns ((((w3.setCell ⟨w.heap.size, 0, none⟩ (.int .i64 k)).setCell ⟨w.heap.size, 1, none⟩ (.int .i64 f)).setCell ⟨w.heap.size, 2, none⟩ (.int .i64 s)).setCell ⟨w.heap.size, 3, none⟩ (.slice (some ⟨g, 0, none⟩) n cp)) w.heap.size (some ⟨g, 0, none⟩) n cp ys) := ((((ho.low (b' := w.heap.size) HB2.out.size).put hne).put hne).put hne).put hne
  obtain ⟨c0, c1, c2, c3⟩ := hq3.cells
  have f0 := hq3.frozen 0
  have f1 := hq3.frozen 1
  have f2 := hq3.frozen 2
  have f3 := hq3.frozen 3
  clear hc3 hg3 hq3 ho hne
  go_wp2_with fail
  refine bodyPost_ret (v := .agg #[.int .i64 k, .int .i64 f, .int .i64 s, .slice (some ⟨g, 0, none⟩) n cp]) (by simp [results, Try.f22, go_sem, c0, c1, c2, c3]) rfl ?_
  first
    | exact ⟨k, f, s, g, n, cp, ys, rfl, hn, HO3.out, (((HB3.out.setCell (Nat.le_refl _) _).setCell (Nat.le_refl _) _).setCell (Nat.le_refl _) _).setCell (Nat.le_refl _) _⟩
    | exact ⟨k, f, s, g, n, cp, rfl, hn, ⟨ys, HO3.out⟩, (((HB3.out.setCell (Nat.le_refl _) _).setCell (Nat.le_refl _) _).setCell (Nat.le_refl _) _).setCell (Nat.le_refl _) _⟩

theorem getF_long : getF [0, 4, 0, 0, 0, 0, 0, 0, 1] 0 = (0, 0, 0, [], 0, 2) := by decide

theorem ownCap {w : World} {base size n cap : Nat} {a : Option Addr} {e : TypeId} {xs : List Value} (h : w.ownsRow base e size (.slice a n cap) n xs) : n ≤ cap := by
  rcases h.2 with ⟨he, hn⟩ | ⟨g, cap', cur, he, _, _, hc, _⟩
  · omega
  · injection he with _ _ e3
    omega

theorem ownSome {w : World} {base n cap : Nat} {a : Option Addr} {zs : List Int} (h : Owns w base a n cap zs) (hn : 0 < n) : ∃ g, a = some ⟨g, 0, none⟩ := by
  rcases h.1.2 with ⟨_, h0⟩ | ⟨g, cap', cur, he, _⟩
  · omega
  · injection he with e1 _ _
    exact ⟨g, e1⟩

/-- What the law keeps of the drawn frame: its variable, its body, its bytes. -/
def OF (w W : World) (bf : Nat) (k f s : Int) (g n cp : Nat) (ys : List Int) (qa : Option Addr) (ql qc : Nat) (q : List Int) : Prop :=
  Below w.heap.size w W ∧ Box4 W bf 44 (.int .i64 k) (.int .i64 f) (.int .i64 s) (.slice (some ⟨g, 0, none⟩) n cp) ∧ Owns W w.heap.size (some ⟨g, 0, none⟩) n cp ys ∧ Owns W w.heap.size qa ql qc q

theorem OF.stays {w W W' : World} {bf : Nat} {k f s : Int} {g n cp : Nat} {ys : List Int} {qa : Option Addr} {ql qc : Nat} {q : List Int} (h : OF w W bf k f s g n cp ys qa ql qc q) (hb : Below W.heap.size W W') : OF w W' bf k f s g n cp ys qa ql qc q :=
  ⟨h.1.trans (hb.mono h.1.size), h.2.1.stays hb, h.2.2.1.below hb, h.2.2.2.below hb⟩

set_option maxRecDepth 10000 in
set_option maxHeartbeats 3200000 in
theorem lawOneFr_any (a : Option Addr) (len cap : Nat) (zs : List Int) (w : World) (hm : len ≤ maxLen) (hs : Seg w a len zs) :
    Calls Try.prog 6 #[.slice a len cap] w fun e w' => e = .returned (.bool true) ∧ Below w.heap.size w w' := by
  obtain ⟨i0, hi, hz0, hz1, hz2⟩ := info_parts Try.info5
  have HS : Hid (Seg w a len zs) := hs
  clear hs
  go_enter Try.func6, Try.ntmps6
  go_wp2_with fail
  refine (big_any a len cap w hm).mono ?_
  rintro e w0 ⟨rfl, rfl⟩
  by_cases hbig : (1048576 : Int) < (len : Int)
  · rw [decide_eq_true hbig]
    go_wp2_with fail
    go_ret
    exact ⟨rfl, Below.refl _ _⟩
  rw [decide_eq_false hbig]
  have hl : len ≤ 1099511627776 := by omega
  clear hbig
  go_wp2_with fail
  refine (drawPut_any a len cap zs w0 HS.out hl).mono ?_
  rintro e w1 ⟨k, f, s, g, n, cp, ys, rfl, hn, ho1, hb1⟩
  have HO1 : Hid (Owns (w1.alloc (.cells #[.int .i64 k, .int .i64 f, .int .i64 s, .slice (some ⟨g, 0, none⟩) n cp] 44)) w0.heap.size (some ⟨g, 0, none⟩) n cp ys) := ho1.below ((Below.refl _ _).alloc (Nat.le_refl _) _)
  have HB1 : Hid (Below w0.heap.size w0 (w1.alloc (.cells #[.int .i64 k, .int .i64 f, .int .i64 s, .slice (some ⟨g, 0, none⟩) n cp] 44))) := hb1.alloc hb1.size _
  have HX1 : Hid (Box4 (w1.alloc (.cells #[.int .i64 k, .int .i64 f, .int .i64 s, .slice (some ⟨g, 0, none⟩) n cp] 44)) w1.heap.size 44 (.int .i64 k) (.int .i64 f) (.int .i64 s) (.slice (some ⟨g, 0, none⟩) n cp)) := Box4.new _ _ _ _ _ _
  clear ho1 hb1
  go_upto_region 4 with fail
  obtain ⟨w2, hw2⟩ : ∃ w2, w1.alloc (.cells #[.int .i64 k, .int .i64 f, .int .i64 s, .slice (some ⟨g, 0, none⟩) n cp] 44) = w2 := ⟨_, rfl⟩
  rw [hw2] at HO1 HB1 HX1 ⊢
  clear hw2
  generalize w1.heap.size = bf at *
  obtain ⟨c0, c1, c2, c3⟩ := HX1.out.cells
  go_wp2_with fail
  refine (implPutF_any k f s _ n cp ys w2 HO1.out.seg).mono ?_
  rintro e w3 ⟨qa, qc, rfl, oq3, hb3⟩
  have hyl : ys.length = n := HO1.out.seg.1
  obtain ⟨q, hq⟩ : ∃ q, putF k f s ys = q := ⟨_, rfl⟩
  have HQ : Hid (putF k f s ys = q) := hq
  rw [hq] at oq3 ⊢
  obtain ⟨ql, hql⟩ : ∃ ql, q.length = ql := ⟨_, rfl⟩
  have HQL : Hid (q.length = ql) := hql
  rw [hql] at oq3 ⊢
  have hqb : ql ≤ 1009 := by have := putF_len k f s ys; rw [hq, hql] at this; exact this
  clear hq hql
  have HF3 : Hid (OF w0 w3 bf k f s g n cp ys qa ql qc q) := ⟨HB1.out.trans (hb3.mono HB1.out.size), HX1.out.stays hb3, HO1.out.below hb3, oq3.low HB1.out.size⟩
  clear oq3 hb3 HO1 HB1 HX1 c0 c1 c2 c3
  obtain ⟨c0, c1, c2, c3⟩ := HF3.out.2.1.cells
  go_wp2_with fail
  refine (specOk_any k f s _ n cp w3).mono ?_
  rintro e w4 ⟨rfl, hb4⟩
  have HF4 : Hid (OF w0 w4 bf k f s g n cp ys qa ql qc q) := HF3.out.stays hb4
  clear hb4 HF3 c0 c1 c2 c3
  obtain ⟨c0, c1, c2, c3⟩ := HF4.out.2.1.cells
  cases hok : okF k f s n with
  | false =>
    have hq0 : ql = 0 := by
      have h1 := HQ.out
      rw [putF, hyl, hok] at h1
      have h2 := HQL.out
      rw [← h1] at h2
      simpa using h2.symm
    have HC : Hid (codeF k f s n = 2) := by show _ = _; rw [codeF, hok]; simp
    subst hq0
    go_wp2_with fail
    refine (implCode_any k f s _ n cp w4).mono ?_
    rintro e w5 ⟨rfl, hb5⟩
    rw [HC.out]
    have HB5 : Hid (Below w0.heap.size w0 w5) := (HF4.out.stays hb5).1
    clear hb5
    go_wp2_with fail
    go_ret
    exact ⟨rfl, HB5.out⟩
  | true =>
    obtain ⟨hback, hplen⟩ := getF_put [9, 9] [] ys k f s (by rw [hyl]; exact hok)
    rw [HQ.out, List.append_nil, hyl] at hback
    rw [HQ.out, HQL.out, hyl] at hplen
    subst hplen
    have HBack : Hid (getF ([9, 9] ++ q) 2 = (k, f, s, ys, 2 + 9 + (n : Int), 0)) := hback
    have HLq : Hid (q.length = 9 + n) := HQL.out
    clear hback HQL HQ hok
    have hTwo : Hid ((w4.alloc (.cells #[.int .u8 9, .int .u8 9] 5)).ownsRow w0.heap.size 5 1 (.slice (some ⟨w4.heap.size, 0, none⟩) 2 2) 2 [.int .u8 9, .int .u8 9]) := own_low (World.ownsRow_lit w4 #[.int .u8 9, .int .u8 9] 2 (Nat.le_refl _) (by unfold maxLen; omega) rfl) HF4.out.1.size
    obtain ⟨gq, rfl⟩ := ownSome HF4.out.2.2.2 (by omega)
    have HCe : Hid (∀ j u, (q.map (Value.int .u8))[j]? = some u → (w4.alloc (.cells #[.int .u8 9, .int .u8 9] 5)).cell? ((⟨gq, 0, none⟩ : Addr).add j) = some u) := cells_ints (HF4.out.2.2.2.seg.below ((Below.refl _ _).alloc (Nat.le_refl _) _))
    have HLn : Hid ((q.map (Value.int .u8)).length = (9 + n) * 1) := by show _ = _; rw [List.length_map, HLq.out, Nat.mul_one]
    go_wp2_with (at_builtin; refine wpList_append_own _ rfl _ _ 22 rfl w0.heap.size 5 i0 (.int .u8 0) 1 1 Try.underlying22 hi hz0 hz1 hz2 rfl (by decide) (.slice (some ⟨w4.heap.size, 0, none⟩) 2 2) 2 _ rfl hTwo.out ⟨gq, 0, none⟩ (9 + n) qc (q.map (Value.int .u8)) rfl HLn.out HCe.out (ints_one q) (by unfold maxLen; omega) (by omega) (by have := HF4.out.1.size; simp; omega) ?_; intro v5 w5 hown5 hgrow5 _; refine Hid.out ?_)
    refine hidden ?_
    obtain ⟨a5, cap5, rfl⟩ := shape_of_owns hown5
    have hcap5 := ownCap hown5
    have hb45 : Below w4.heap.size w4 w5 := ((Below.refl _ _).alloc (Nat.le_refl _) _).grown hgrow5 (by simp) (by simp [Value.ownBlock])
    have HF5 : Hid (OF w0 w5 bf k f s g n cp ys (some ⟨gq, 0, none⟩) (9 + n) qc q) := HF4.out.stays hb45
    have HO5 : Hid (Owns w5 w0.heap.size a5 (2 + (9 + n)) cap5 ([9, 9] ++ q)) := ⟨by simpa using hown5, fun x hx => by
      rcases List.mem_append.1 hx with hx | hx
      · simp at hx; omega
      · exact HF4.out.2.2.2.2 x hx⟩
    clear hown5 hgrow5 hb45 HF4 HCe HLn hTwo c0 c1 c2 c3
    have hG := implGetF_any a5 (2 + (9 + n)) cap5 2 ([9, 9] ++ q) w5 HO5.out.seg hcap5 (by omega) ⟨by omega, by omega⟩
    rw [HBack.out] at hG
    dsimp only at hG
    rw [hyl] at hG
    have HG : Hid (Calls Try.prog 25 #[.slice a5 (2 + (9 + n)) cap5, .int .i64 2] w5 fun e w' => ∃ a' cap', e = .returned (.tuple #[.agg #[.int .i64 k, .int .i64 f, .int .i64 s, .slice a' n cap'], .int .i64 (2 + 9 + (n : Int)), .int .i64 0]) ∧ Owns w' w5.heap.size a' n cap' ys ∧ Below w5.heap.size w5 w') := hG
    clear hG
    go_wp2_with fail
    refine HG.out.mono ?_
    rintro e w6 ⟨ga, gc, rfl, og6, hb6⟩
    have hb67 : Below w5.heap.size w5 (w6.alloc (.cells #[.int .i64 k, .int .i64 f, .int .i64 s, .slice ga n gc] 44)) := hb6.alloc hb6.size _
    have HF7 : Hid (OF w0 (w6.alloc (.cells #[.int .i64 k, .int .i64 f, .int .i64 s, .slice ga n gc] 44)) bf k f s g n cp ys (some ⟨gq, 0, none⟩) (9 + n) qc q) := HF5.out.stays hb67
    have HX7 : Hid (Box4 (w6.alloc (.cells #[.int .i64 k, .int .i64 f, .int .i64 s, .slice ga n gc] 44)) w6.heap.size 44 (.int .i64 k) (.int .i64 f) (.int .i64 s) (.slice ga n gc) ∧ Owns (w6.alloc (.cells #[.int .i64 k, .int .i64 f, .int .i64 s, .slice ga n gc] 44)) w5.heap.size ga n gc ys) := ⟨Box4.new _ _ _ _ _ _, og6.below ((Below.refl _ _).alloc (Nat.le_refl _) _)⟩
    clear og6 hb6 hb67 HF5 HO5 HG HBack
    go_upto_region 8 with fail
    obtain ⟨w7, hw7⟩ : ∃ w7, w6.alloc (.cells #[.int .i64 k, .int .i64 f, .int .i64 s, .slice ga n gc] 44) = w7 := ⟨_, rfl⟩
    rw [hw7] at HF7 HX7 ⊢
    clear hw7
    generalize w6.heap.size = bx at *
    have hb78 : Below w7.heap.size w7 (w7.alloc (.cells #[.int .u8 0, .int .u8 4, .int .u8 0, .int .u8 0, .int .u8 0, .int .u8 0, .int .u8 0, .int .u8 0, .int .u8 1] 5)) := (Below.refl _ _).alloc (Nat.le_refl _) _
    have HS8 : Hid (Seg (w7.alloc (.cells #[.int .u8 0, .int .u8 4, .int .u8 0, .int .u8 0, .int .u8 0, .int .u8 0, .int .u8 0, .int .u8 0, .int .u8 1] 5)) (some ⟨w7.heap.size, 0, none⟩) 9 [0, 4, 0, 0, 0, 0, 0, 0, 1]) := Seg.ofOwn (zs := [0, 4, 0, 0, 0, 0, 0, 0, 1]) (World.ownsRow_lit w7 #[.int .u8 0, .int .u8 4, .int .u8 0, .int .u8 0, .int .u8 0, .int .u8 0, .int .u8 0, .int .u8 0, .int .u8 1] 9 (Nat.le_refl _) (by unfold maxLen; omega) rfl) (by intro x hx; simp at hx; omega)
    have HF8 : Hid (OF w0 (w7.alloc (.cells #[.int .u8 0, .int .u8 4, .int .u8 0, .int .u8 0, .int .u8 0, .int .u8 0, .int .u8 0, .int .u8 0, .int .u8 1] 5)) bf k f s g n cp ys (some ⟨gq, 0, none⟩) (9 + n) qc q) := HF7.out.stays hb78
    have HX8 : Hid (Box4 (w7.alloc (.cells #[.int .u8 0, .int .u8 4, .int .u8 0, .int .u8 0, .int .u8 0, .int .u8 0, .int .u8 0, .int .u8 0, .int .u8 1] 5)) bx 44 (.int .i64 k) (.int .i64 f) (.int .i64 s) (.slice ga n gc) ∧ Owns (w7.alloc (.cells #[.int .u8 0, .int .u8 4, .int .u8 0, .int .u8 0, .int .u8 0, .int .u8 0, .int .u8 0, .int .u8 0, .int .u8 1] 5)) w5.heap.size ga n gc ys) := ⟨HX7.out.1.stays hb78, HX7.out.2.below hb78⟩
    clear hb78 HF7 HX7
    go_wp2_with fail
    have hL := implGetF_any (some ⟨w7.heap.size, 0, none⟩) 9 9 0 [0, 4, 0, 0, 0, 0, 0, 0, 1] _ HS8.out (Nat.le_refl _) (by omega) ⟨by omega, by omega⟩
    rw [getF_long] at hL
    refine hL.mono ?_
    clear hL
    rintro e w9 ⟨la, lc, rfl, _, hb9⟩
    have HU : Hid (∀ W, Below (w9.alloc (.cells #[.int .i64 0, .int .i64 0, .int .i64 0, .slice la 0 lc] 44)).heap.size (w9.alloc (.cells #[.int .i64 0, .int .i64 0, .int .i64 0, .slice la 0 lc] 44)) W → OF w0 W bf k f s g n cp ys (some ⟨gq, 0, none⟩) (9 + n) qc q ∧ Box4 W bx 44 (.int .i64 k) (.int .i64 f) (.int .i64 s) (.slice ga n gc) ∧ Owns W w5.heap.size ga n gc ys) := by
      intro W hW
      have h1 : Below (w7.alloc (.cells #[.int .u8 0, .int .u8 4, .int .u8 0, .int .u8 0, .int .u8 0, .int .u8 0, .int .u8 0, .int .u8 0, .int .u8 1] 5)).heap.size (w7.alloc (.cells #[.int .u8 0, .int .u8 4, .int .u8 0, .int .u8 0, .int .u8 0, .int .u8 0, .int .u8 0, .int .u8 0, .int .u8 1] 5)) (w9.alloc (.cells #[.int .i64 0, .int .i64 0, .int .i64 0, .slice la 0 lc] 44)) := hb9.alloc hb9.size _
      have hb := h1.trans (hW.mono h1.size)
      exact ⟨HF8.out.stays hb, HX8.out.1.stays hb, HX8.out.2.below hb⟩
    clear hb9 HF8 HX8 HS8
    go_upto_region 9 with fail
    obtain ⟨w10, hw10⟩ : ∃ w10, w9.alloc (.cells #[.int .i64 0, .int .i64 0, .int .i64 0, .slice la 0 lc] 44) = w10 := ⟨_, rfl⟩
    rw [hw10] at HU ⊢
    clear hw10
    obtain ⟨ql, hql⟩ : ∃ ql, 9 + n = ql := ⟨_, rfl⟩
    obtain ⟨X, hX⟩ : ∃ X : Int, 11 + (n : Int) = X := ⟨_, rfl⟩
    rw [hql] at HU
    have hw1 : IntKind.i64.wrap ((ql : Int) + 2) = X := by rw [IntKind.wrap_i64]; omega
    have hw2 : IntKind.i64.wrap ((n : Int) + 9) = (ql : Int) := by rw [IntKind.wrap_i64]; omega
    have e1 : (X == X) = true := by simp
    have e2 : ((ql : Int) == (ql : Int)) = true := by simp
    obtain ⟨cd, hcd⟩ : ∃ cd, codeF k f s n = cd := ⟨_, rfl⟩
    have HCd : Hid (codeF k f s n = cd) := hcd
    have e3 : (cd == cd) = true := by simp
    simp only [hql, hX]
    clear hql hX hcd
    obtain ⟨c0, c1, c2, c3⟩ := (HU.out w10 (Below.refl _ _)).1.2.1.cells
    obtain ⟨d0, d1, d2, d3⟩ := (HU.out w10 (Below.refl _ _)).2.1.cells
    go_region_held3 (fun W => W.cell? ⟨bf, 0, none⟩ = some (.int .i64 k) ∧ W.cell? ⟨bf, 1, none⟩ = some (.int .i64 f) ∧ W.cell? ⟨bf, 2, none⟩ = some (.int .i64 s) ∧ W.cell? ⟨bf, 3, none⟩ = some (.slice (some ⟨g, 0, none⟩) n cp) ∧ W.cell? ⟨bx, 0, none⟩ = some (.int .i64 k) ∧ W.cell? ⟨bx, 1, none⟩ = some (.int .i64 f) ∧ W.cell? ⟨bx, 2, none⟩ = some (.int .i64 s) ∧ W.cell? ⟨bx, 3, none⟩ = some (.slice ga n gc)) (refine ⟨?_, ?_, ?_, ?_, ?_, ?_, ?_, ?_⟩ <;> assumption) (first
      | (go_at_call 21; refine (sameFrame_same k f s ga (some ⟨g, 0, none⟩) n gc cp ys _ (HU.out _ (Below.refl _ _).drew).2.2.seg (HU.out _ (Below.refl _ _).drew).1.2.2.1.seg (by omega)).mono ?_; rintro e y1 ⟨rfl, hb1⟩
         have hb1' : Below w10.heap.size w10 y1 := (Below.refl w10.heap.size w10).drew.trans (hb1.mono (Nat.le_refl _))
         obtain ⟨k0, k1, k2, k3⟩ := (HU.out y1 hb1').1.2.1.cells
         obtain ⟨l0, l1, l2, l3⟩ := (HU.out y1 hb1').2.1.cells)
      | (go_at_call 24; refine (implCode_any k f s _ n cp _).mono ?_; rintro e y2 ⟨rfl, hb2⟩; rw [HCd.out]
         first
           | have hb2' : Below w10.heap.size w10 y2 := hb1'.trans (hb2.mono hb1'.size)
           | have hb2' : Below w10.heap.size w10 y2 := hb3'.trans (hb2.mono hb3'.size)
           | fail
         obtain ⟨m0, m1, m2, m3⟩ := (HU.out y2 hb2').1.2.1.cells
         obtain ⟨n0, n1, n2, n3⟩ := (HU.out y2 hb2').2.1.cells)
      | (go_at_call 26; refine (specCode_any k f s _ n cp _).mono ?_; rintro e y3 ⟨rfl, hb3⟩; rw [HCd.out]
         first
           | have hb3' : Below w10.heap.size w10 y3 := hb2'.trans (hb3.mono hb2'.size)
           | have hb3' : Below w10.heap.size w10 y3 := hb1'.trans (hb3.mono hb1'.size)
           | fail
         obtain ⟨o0, o1, o2, o3⟩ := (HU.out y3 hb3').1.2.1.cells
         obtain ⟨p0, p1, p2, p3⟩ := (HU.out y3 hb3').2.1.cells)
      | fail)
    all_goals
      have HBz : Hid (Below w0.heap.size w0 y2 ∧ Below w0.heap.size w0 y3) := ⟨(HU.out y2 hb2').1.1, (HU.out y3 hb3').1.1⟩
      clear hb1 hb1' hb2 hb2' hb3 hb3' k0 k1 k2 k3 l0 l1 l2 l3 m0 m1 m2 m3 n0 n1 n2 n3 o0 o1 o2 o3 p0 p1 p2 p3 c0 c1 c2 c3 d0 d1 d2 d3
      go_wp2_with fail
      go_ret
      first
        | exact ⟨rfl, HBz.out.1⟩
        | exact ⟨rfl, HBz.out.2⟩

end Go.Proofs.Ytcicboolbeognac
