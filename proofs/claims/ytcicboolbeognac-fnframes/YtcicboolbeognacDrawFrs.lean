/- The draw of frames that are right. -/
import Derived.Test.YtcicboolbeognacDrawFr
import Derived.Test.YtcicboolbeognacFrRead
import Derived.Test.YtcicboolbeognacFrOk
namespace Go.Proofs.Ytcicboolbeognac
open Go.RowKit
set_option linter.unusedVariables false

/-- A drawn frame is right, and its body short. -/
def okE (e : FE) : Prop := okF e.k e.f e.s e.n = true ∧ e.n ≤ 13

theorem FrRow.cur {W W' : World} {base B c : Nat} {v : Value} {l : List FE} {a : Option Addr} {len cap : Nat} {zs : List Int} (h : FrRow W base v l) (hc : Cur W B c a len cap zs) (hg : W.grownBy W' (some c)) : FrRow W' base v l := by
  obtain ⟨_, _, _, i, hh, _, hcell⟩ := hc
  refine h.grown hg (fun q e e2 => ?_) (fun x hx q e e2 => ?_)
  · injection e with e
    subst e
    rcases h.1.2 with ⟨rfl, _⟩ | ⟨g, cap', cur, rfl, _, hgg, _⟩
    · cases e2
    · obtain rfl : g = c := by simpa [Value.ownBlock] using e2
      rw [hgg] at hcell
      injection hcell with h1
      injection h1 with _ h2 _
      exact absurd h2 (by decide)
  · injection e with e
    subst e
    exact (h.2.1 x hx).other hcell (by decide) e2

set_option maxRecDepth 10000 in
set_option maxHeartbeats 1600000 in
theorem drawFrames_any (a : Option Addr) (len cap : Nat) (zs : List Int) (w : World) (hs : Seg w a len zs) (hl : len ≤ 1099511627776) :
    Calls Try.prog 16 #[.slice a len cap] w fun e w' => ∃ v l, e = .returned v ∧ FrRow w' w.heap.size v l ∧ l.length ≤ 5 ∧ (∀ e ∈ l, okE e) ∧ Below w.heap.size w w' := by
  obtain ⟨i0, hi, hz0, hz1, hz2⟩ := info_parts info_frame
  have HS : Hid (Seg w a len zs) := hs
  clear hs
  go_enter Try.func16, Try.ntmps16
  go_wp2_with fail
  refine (l1New_any a len cap zs w HS.out hl).mono ?_
  rintro e w1 ⟨rfl, hc1, hb1⟩
  have HC1 : Hid (Cur (w1.alloc (.cells #[] 44)) w.heap.size w.heap.size a len cap zs) := hc1.new _
  have HB1 : Hid (Below w.heap.size w (w1.alloc (.cells #[] 44))) := hb1.alloc hb1.size _
  have HR1 : Hid (FrRow (w1.alloc (.cells #[] 44)) w.heap.size (.slice (some ⟨w1.heap.size, 0, none⟩) 0 0) []) := (FrRow.nil w1).low hb1.size
  clear hc1 hb1
  go_wp2_with fail
  refine (l1Below_any w.heap.size w.heap.size a len cap zs 6 _ HC1.out hl (by omega) (by omega)).mono ?_
  rintro e w2 ⟨q, rfl, hq0, hq1, hc2, hg2⟩
  obtain ⟨Q, rfl⟩ := Int.eq_ofNat_of_zero_le hq0
  have HC2 : Hid (Cur w2 w.heap.size w.heap.size a len cap zs) := hc2
  have HR2 : Hid (FrRow w2 w.heap.size (.slice (some ⟨w1.heap.size, 0, none⟩) 0 0) []) := HR1.out.cur HC1.out hg2
  have HB2 : Hid (Below w.heap.size w w2) := HB1.out.grown hg2 HB1.out.size (fun k e => by injection e with e; omega)
  clear hc2 hg2 HC1 HR1 HB1
  go_wp2_with fail
  go_loopw [4, 5] (fun v i wr => ∃ (j : Nat) (l : List FE), l.length + j ≤ 5 ∧ i = .int .i64 j ∧ Hid (FrRow wr w.heap.size v l) ∧ Hid (∀ e ∈ l, okE e) ∧ Hid (Cur wr w.heap.size w.heap.size a len cap zs) ∧ Hid (Below w.heap.size w wr)) (fun _ i _ => (intOf i).toNat)
  case atStart => exact ⟨Q, [], by simp; omega, rfl, HR2, by intro e he; simp at he, HC2, HB2⟩
  case round =>
    clear HR2 HC2 HB2
    obtain ⟨j, l, hj, rfl, HR, HE, HC, HB⟩ := hrel
    obtain ⟨va, vc, hv⟩ := HR.out.shape
    subst hv
    by_cases hj0 : j = 0
    · subst hj0
      go_wp2_with fail
      go_ret
      exact ⟨_, _, rfl, HR.out, by omega, HE.out, HB.out⟩
    · have hj1 : (0 : Int) < (j : Int) := by omega
      go_wp2_with fail
      refine (l6Frame_any w.heap.size w.heap.size a len cap zs wr HC.out hl).mono ?_
      rintro e x1 ⟨k, f, s, g, n, cp, ys, rfl, hk, hf, hs, hn, hg, ho1, hc1, hg1⟩
      have HC2 : Hid (Cur x1 w.heap.size w.heap.size a len cap zs) := hc1
      have HR2 : Hid (FrRow x1 w.heap.size (.slice va l.length vc) l) := HR.out.cur HC.out hg1
      have HB2 : Hid (Below w.heap.size w x1) := HB.out.grown hg1 HB.out.size (fun k e => by injection e with e; omega)
      have HO2 : Hid (Owns x1 wr.heap.size (some ⟨g, 0, none⟩) n cp ys) := ho1
      have HAp : Hid (∀ e ∈ l, ∀ q, e.a.map (·.block) = some q → q < wr.heap.size) := fun e he q hq => ((HR.out.2.1 e he).lt q hq).2
      have HOk : Hid (okE ⟨k, f, s, some ⟨g, 0, none⟩, n, cp, ys⟩) := ⟨show okF k f s n = true from decide_eq_true ⟨by omega, by omega, by omega, by omega⟩, hn⟩
      have hws : w.heap.size ≤ wr.heap.size := HB.out.size
      clear hc1 hg1 ho1 hk hf hs hn hg HR HC HB
      have HN : Hid (∀ j u, (FE.cells ⟨k, f, s, some ⟨g, 0, none⟩, n, cp, ys⟩)[j]? = some u → (x1.alloc (.cells #[.int .i64 k, .int .i64 f, .int .i64 s, .slice (some ⟨g, 0, none⟩) n cp] 44)).cell? ((⟨x1.heap.size, 0, none⟩ : Addr).add j) = some u) := four_new x1 k f s _ n cp ys
      have HO2' : Hid ((x1.alloc (.cells #[.int .i64 k, .int .i64 f, .int .i64 s, .slice (some ⟨g, 0, none⟩) n cp] 44)).ownsRow w.heap.size 44 4 (.slice va l.length vc) l.length (feCells l)) := HR2.out.1.alloc _
      go_wp2_with (at_builtin; refine wpList_append_own _ rfl _ _ 40 rfl w.heap.size 44 i0 (.agg #[.int .i64 0, .int .i64 0, .int .i64 0, .slice none 0 0]) 4 48 Try.underlying40 hi hz0 hz1 hz2 rfl (by decide) (.slice va l.length vc) l.length _ rfl HO2'.out ⟨x1.heap.size, 0, none⟩ 1 1 (FE.cells ⟨k, f, s, some ⟨g, 0, none⟩, n, cp, ys⟩) rfl rfl HN.out (four_one k f s _ n cp ys) (by unfold maxLen; omega) (by omega) (by have := HB2.out.size; simp; omega) ?_; intro v3 x3 hown3 hgrow3 _; refine Hid.out ?_)
      refine hidden ?_
      have HR3 : Hid (FrRow x3 w.heap.size v3 (l ++ [⟨k, f, s, some ⟨g, 0, none⟩, n, cp, ys⟩])) := HR2.out.snoc HO2.out hws HAp.out hown3 hgrow3
      have HB3 : Hid (Below w.heap.size w x3) := (HB2.out.alloc HB2.out.size _).grown hgrow3 (by have := HB2.out.size; simp; omega) (fun q hq => (HR2.out.1.lt q hq).1)
      have HC3 : Hid (Cur x3 w.heap.size w.heap.size a len cap zs) := by
        refine (HC2.out.new (.cells #[.int .i64 k, .int .i64 f, .int .i64 s, .slice (some ⟨g, 0, none⟩) n cp] 44)).kept hgrow3 (fun q e => ⟨(HR2.out.1.lt q e).1, fun h => ?_⟩)
        subst h
        obtain ⟨_, _, _, i, hh, _, hcell⟩ := HC2.out
        rcases HR2.out.1.2 with ⟨he, _⟩ | ⟨g', cap', cur, he, _, hgg, _⟩
        · rw [he] at e; cases e
        · rw [he] at e
          obtain rfl : g' = w.heap.size := by simpa [Value.ownBlock] using e
          rw [hgg] at hcell
          injection hcell with h1
          injection h1 with _ h2 _
          exact absurd h2 (by decide)
      have HE3 : Hid (∀ e ∈ l ++ [⟨k, f, s, some ⟨g, 0, none⟩, n, cp, ys⟩], okE e) := fun e he => by
        rcases List.mem_append.1 he with he | he
        · exact HE.out e he
        · obtain rfl : e = ⟨k, f, s, some ⟨g, 0, none⟩, n, cp, ys⟩ := by simpa using he
          exact HOk.out
      clear hown3 hgrow3 HN HO2' HR2 HO2 HB2 HC2 HE HOk HAp
      go_wp2
      go_roundw
      case rel =>
        obtain ⟨j', rfl⟩ : ∃ j', j = j' + 1 := ⟨j - 1, by omega⟩
        exact ⟨j', _, by rw [List.length_append]; simp; omega, by go_num, HR3, HE3, HC3, HB3⟩
      case measure => simp [intOf]; omega

end Go.Proofs.Ytcicboolbeognac
