/- What records make by the program, one behind the other; no program in it. What the program's FoldRecs answers. What the program's sameUp answers, and the library's EqualFunc with it. What the program's sectorLong and hasSector answer. What the library's IndexFunc and ContainsFunc answer of texts that may be too long. What the program's DiskOk answers. -/
import Derived.Test.YtlkgopoicpnacaaGreatDoorM37
import Derived.Test.YtlkgopoicpnacaaGreatDoorM05
import Derived.Defers
import Derived.Recover
import Derived.Test.YtlkgopoicpnacaaGreatDoorM06
import Derived.Test.YtlkgopoicpnacaaGreatDoorM10
import Derived.Test.YtlkgopoicpnacaaGreatDoorM04
import Derived.Shelf.Abstract
import Derived.Deep.CutBlock
import Derived.Test.YtlkgopoicpnacaaGreatDoorM03
namespace Go.Proofs.YtlkgopoicpnacaaGreatDoor
open Go.RowKit
set_option linter.unusedVariables false

/-- What records make by the program. -/
def foldP (rs : List R) : Option (List U) := rs.foldlM oneU []

theorem foldP_step (rs : List R) (k : Nat) (r : R) (h : rs[k]? = some r) : foldP (rs.take (k + 1)) = (foldP (rs.take k)).bind fun l => oneU l r := by
  rw [List.take_add_one, h, foldP, foldP, List.foldlM_append]
  simp [List.foldlM]

theorem foldP_stop (rs : List R) (k : Nat) (h : foldP (rs.take k) = none) : foldP rs = none := by
  have e : rs = rs.take k ++ rs.drop k := (List.take_append_drop k rs).symm
  rw [e, foldP, List.foldlM_append]
  rw [foldP] at h
  rw [h]
  rfl

/-- What fits fits behind a record too. -/
theorem oneU_fit {l l' : List U} {r : R} (hn : -9223372036854775808 ≤ r.n ∧ r.n ≤ 9223372036854775807) (h : oneU l r = some l') (hl : ∀ u ∈ l, UFit u) : ∀ u ∈ l', UFit u := by
  rw [oneU] at h
  split at h
  · split at h
    · injection h with h
      subst h
      intro u hu
      rcases List.mem_append.1 hu with h | h
      · exact hl u (List.mem_of_mem_take h)
      · rcases List.mem_cons.1 h with rfl | h
        · exact ⟨hn, .inr rfl⟩
        · exact hl u (List.mem_of_mem_drop h)
    · cases h
  · split at h
    · cases h
    · split at h
      · cases h
      · rename_i k _ x hx
        have hxl := hl x (List.mem_of_getElem? hx)
        split at h
        · split at h
          · cases h
          · rename_i hc
            injection h with h
            subst h
            intro u hu
            simp only [not_or] at hc
            rcases List.mem_or_eq_of_mem_set hu with h | rfl
            · exact hl u h
            · refine ⟨hxl.1, .inl ?_⟩
              simp only [List.length_append]
              have h1 : r.n = (x.zs.length : Int) := by omega
              omega
        · split at h
          · split at h
            · cases h
            · injection h with h
              subst h
              intro u hu
              rcases List.mem_or_eq_of_mem_set hu with h | rfl
              · exact hl u h
              · exact hxl
          · split at h
            · injection h with h
              subst h
              intro u hu
              exact hl u (List.mem_of_mem_eraseIdx hu)
            · cases h

theorem foldP_ok (rs : List R) : foldP rs = foldU rs := rfl

end Go.Proofs.YtlkgopoicpnacaaGreatDoor

namespace Go.Proofs.YtlkgopoicpnacaaGreatDoor
open Go.RowKit
set_option linter.unusedVariables false

/-- The deferred function, behind a panic: it is caught, nothing and false is answered. -/
theorem catch_pan (ub ob : Nat) (x y : Value) (u : TypeId) (pv : Value) (older : List PanicEntry) (w : World) (hu0 : w.cell? ⟨ub, 0, none⟩ = some x) (hu1 : w.frozen? ⟨ub, 0, none⟩ = false) (ho0 : w.cell? ⟨ob, 0, none⟩ = some y) (ho1 : w.frozen? ⟨ob, 0, none⟩ = false) (hne : ub ≠ ob) :
    CallsD Tryz.prog 65 #[.pointer (some ⟨ub, 0, none⟩), .pointer (some ⟨ob, 0, none⟩)] (.panicking ({ v := .iface u pv, recovered := false } :: older)) w fun e u' w' =>
      e = .returned (.tuple #[]) ∧ u' = .panicking ({ v := .iface u pv, recovered := true } :: older) ∧ w' = (w.setCell ⟨ub, 0, none⟩ (.slice none 0 0)).setCell ⟨ob, 0, none⟩ (.bool false) := by
  refine callsD_of_wpS Tryz.func65 rfl fun c₀ cs hu => ?_
  apply wpS_seq
  apply wpS_region
  simp [wpOpsS, go_sem, recoverD, hu, Tryz.ntmps65, Exit.thenS]
  refine wpS_cond (t := true) (by simp [Act.eval, Array.replicate]) ?_
  simp only [if_true]
  apply wpS_region
  simp [wpOpsS, go_sem, hu0, hu1, ho0, ho1, bodyPostS, results, Tryz.results65]

/-- .. where nothing panics. -/
theorem catch_idle (ub ob : Nat) (w : World) :
    CallsD Tryz.prog 65 #[.pointer (some ⟨ub, 0, none⟩), .pointer (some ⟨ob, 0, none⟩)] .returning w fun e u' w' => e = .returned (.tuple #[]) ∧ u' = .returning ∧ w' = w := by
  refine callsD_of_wpS Tryz.func65 rfl fun c₀ cs hu => ?_
  apply wpS_seq
  apply wpS_region
  simp [wpOpsS, go_sem, recoverD, hu, Tryz.ntmps65, Exit.thenS]
  refine wpS_cond (t := false) (by simp [Act.eval, Array.replicate]) ?_
  simp only [Bool.false_eq_true, if_false]
  refine wpS_of_wp (wp_skip ?_)
  cases c₀
  simp_all [bodyPostS, results, Tryz.results65]

set_option maxRecDepth 10000 in
set_option maxHeartbeats 1600000 in
theorem implFold_any (a : Option Addr) (n c lo : Nat) (rs : List RE) (B : Nat) (w : World) (h : RcRow w lo (.slice a n c) rs) (hn : n = rs.length) (hl : n ≤ 1099511627776) (hB : ∀ e ∈ rs, e.n ≤ B) (hnB : n * B ≤ 1099511627776) (hB2 : B ≤ 1099511627776) (hi : ∀ e ∈ rs, -9223372036854775808 ≤ e.r.n ∧ e.r.n ≤ 9223372036854775807) (he : ErrN w) :
    Calls Tryz.prog 39 #[.slice a n c] w fun e w' => (∃ x l', e = .returned (.tuple #[x, .bool (foldP (rs.map RE.r)).isSome]) ∧ UpRow w' w.heap.size x l' ∧ l'.map UE.u = (foldP (rs.map RE.r)).getD [] ∧ l'.length ≤ 10) ∧ Below w.heap.size w w' := by
  have hmf : ∀ (fn : Fn) (first cap : Array Value) (w : World), (Instr.makeFunc fn first cap).run Tryz.prog w = .ok (.func fn first cap) w := fun _ _ _ _ => rfl
  obtain ⟨w0, hw0⟩ : ∃ w0, (((w.alloc (.cells #[.slice none 0 0] 27)).alloc (.cells #[.bool false] 4)).alloc (.cells #[.slice none 0 0] 112)) = w0 := ⟨_, rfl⟩
  have HE : Hid ((((w.alloc (.cells #[.slice none 0 0] 27)).alloc (.cells #[.bool false] 4)).alloc (.cells #[.slice none 0 0] 112)) = w0) := hw0
  have HU : Hid (BoxN w0 w.heap.size 27 [.slice none 0 0]) := by show BoxN _ _ _ _; rw [← hw0]; exact ((BoxN.new _ _ _).alloc _).alloc _
  have HO : Hid (BoxN w0 (w.heap.size + 1) 4 [.bool false]) := by
    show BoxN _ _ _ _
    rw [← hw0]
    have := (BoxN.new (w.alloc (.cells #[.slice none 0 0] 27)) 4 [.bool false]).alloc (.cells #[.slice none 0 0] 112)
    rw [World.size_alloc] at this
    exact this
  have HF0 : Hid (BoxN w0 (w.heap.size + 1 + 1) 112 [.slice none 0 0]) := by
    show BoxN _ _ _ _
    rw [← hw0]
    have := BoxN.new ((w.alloc (.cells #[.slice none 0 0] 27)).alloc (.cells #[.bool false] 4)) 112 [.slice none 0 0]
    rw [World.size_alloc, World.size_alloc] at this
    exact this
  have HBw : Hid (Below w.heap.size w w0) := by show Below _ _ _; rw [← hw0]; exact (((Below.refl _ _).alloc (Nat.le_refl _) _).alloc (by simp) _).alloc (by simp; omega) _
  obtain ⟨fb, hfb⟩ : ∃ fb, w.heap.size + 1 + 1 = fb := ⟨_, rfl⟩
  have hfb1 : w.heap.size + 1 < fb := by omega
  have HfE : Hid (w.heap.size + 1 + 1 = fb) := hfb
  rw [hfb] at HF0
  have hfl : fb < w0.heap.size := HF0.out.lt
  have HX : Hid (∀ W, Below fb w0 W → RcRow W lo (.slice a n c) rs ∧ ErrN W ∧ Below w.heap.size w W ∧ BoxN W w.heap.size 27 [.slice none 0 0] ∧ BoxN W (w.heap.size + 1) 4 [.bool false]) := fun W hb => by
    have hb1 : Below w.heap.size w W := HBw.out.trans (hb.mono (by omega))
    exact ⟨h.stays hb1, he.below hb1, hb1, (hb.block _ (by omega)).trans HU.out, (hb.block _ (by omega)).trans HO.out⟩
  have HN : Hid (n = rs.length) := hn
  have HBs : Hid (∀ e ∈ rs, e.n ≤ B) := hB
  have HI : Hid (∀ e ∈ rs, -9223372036854775808 ≤ e.r.n ∧ e.r.n ≤ 9223372036854775807) := hi
  have HR0 : Hid (UpRow w0 fb (.slice none 0 0) []) := ⟨⟨rfl, .inl ⟨rfl, rfl⟩⟩, by simp, List.Pairwise.nil⟩
  clear hw0 h hn hB hi he HU HO hfb
  go_enter_defers Tryz.func39, Tryz.ntmps39
  go_wp2_with fail
  rw [HE.out]
  rw [HfE.out]
  clear HE
  go_loopw [11] (fun i wr => ∃ (k : Nat) (va : Option Addr) (vn vc : Nat) (l : List UE), k ≤ n ∧ i = .int .i64 (k : Int) ∧ vn = l.length ∧ l.length ≤ 10 ∧ Hid (BoxN wr fb 112 [.slice va vn vc]) ∧ Hid (UpRow wr fb (.slice va vn vc) l) ∧ Hid (foldP ((rs.map RE.r).take k) = some (l.map UE.u)) ∧ Hid (∀ u ∈ l.map UE.u, u.zs.length ≤ k * B) ∧ Hid (∀ x ∈ l.map UE.u, UFit x) ∧ Hid (Asc (l.map UE.u)) ∧ Hid (Below fb w0 wr)) (fun i _ => n - (intOf i).toNat)
  case atStart => exact ⟨0, none, 0, 0, [], Nat.zero_le _, rfl, rfl, Nat.zero_le _, HF0, HR0, rfl, (fun u hu => absurd hu (by simp)), (fun u hu => absurd hu (by simp)), List.Pairwise.nil, Below.refl _ _⟩
  case round =>
    clear HR0
    obtain ⟨k, va, vn, vc, l, hk, rfl, hvn, hl10, HF, HR, HP, HS, HUf, HA, HB⟩ := hrel
    have HVn : Hid (vn = l.length) := hvn
    have hvn10 : vn ≤ 10 := by omega
    have hsz : fb < wr.heap.size := HF.out.lt
    clear hvn
    by_cases hlt : k < n
    case neg =>
      obtain rfl : k = n := by omega
      have HEq : Hid (foldP (rs.map RE.r) = some (l.map UE.u)) := by show _ = _; rw [← HP.out, List.take_of_length_le (by rw [List.length_map, HN.out]; exact Nat.le_refl _)]
      have hx := HX.out _ HB.out
      have u0 := hx.2.2.2.1.cell 0 rfl
      have u1 := hx.2.2.2.1.frozen 0
      have o0 := hx.2.2.2.2.cell 0 rfl
      have o1 := hx.2.2.2.2.frozen 0
      have f0 := HF.out.cell 0 rfl
      have HRf : Hid (UpRow ((wr.setCell ⟨w.heap.size, 0, none⟩ (.slice va vn vc)).setCell ⟨w.heap.size + 1, 0, none⟩ (.bool true)) w.heap.size (.slice va vn vc) l) := by
        have h1 : UpRow (wr.setCell ⟨w.heap.size, 0, none⟩ (.slice va vn vc)) fb (.slice va vn vc) l := HR.out.setBox hx.2.2.2.1 (by decide) (by decide)
        exact (h1.setBox (hx.2.2.2.2.other (by omega) _) (by decide) (by decide)).low (by omega)
      have HBf : Hid (Below w.heap.size w ((wr.setCell ⟨w.heap.size, 0, none⟩ (.slice va vn vc)).setCell ⟨w.heap.size + 1, 0, none⟩ (.bool true))) := (hx.2.2.1.setCell (by exact Nat.le_refl _) _).setCell (by dsimp only; omega) _
      have HuO : Hid (BoxN (wr.setCell ⟨w.heap.size, 0, none⟩ (.slice va vn vc)) w.heap.size 27 [.slice va vn vc]) := hx.2.2.2.1.set 0 _
      have hO2 := hx.2.2.2.2
      clear HP HS HUf HA HB HR hx
      go_wp2_with fail
      refine leaves_cons (f := 65) (args := #[.pointer (some ⟨w.heap.size, 0, none⟩), .pointer (some ⟨w.heap.size + 1, 0, none⟩)]) (by simp) (by simp [go_sem]) ?_
      refine (catch_idle w.heap.size (w.heap.size + 1) _).mono ?_
      rintro e u' w'' ⟨rfl, rfl, rfl⟩
      obtain ⟨wf, hwf⟩ : ∃ wf, (wr.setCell ⟨w.heap.size, 0, none⟩ (.slice va vn vc)).setCell ⟨w.heap.size + 1, 0, none⟩ (.bool true) = wf := ⟨_, rfl⟩
      rw [hwf] at HRf HBf ⊢
      have cu : wf.cell? ⟨w.heap.size, 0, none⟩ = some (.slice va vn vc) := by rw [← hwf]; exact (HuO.out.other (by omega) _).cell 0 rfl
      have co : wf.cell? ⟨w.heap.size + 1, 0, none⟩ = some (.bool true) := by
        rw [← hwf]
        exact ((hO2.other (by omega) (.slice va vn vc)).set 0 (.bool true)).cell 0 rfl
      clear hwf
      simp [Leaves, settle, results, Tryz.results39, go_sem, cu, co]
      exact ⟨⟨_, ⟨rfl, by rw [HEq.out]; rfl⟩, l, HRf.out, by rw [HEq.out]; rfl, hl10⟩, HBf.out⟩
    have hkl : k < rs.length := by rw [← HN.out]; exact hlt
    have hki : (k : Int) < (n : Int) := by omega
    have hk0 : (0 : Int) ≤ (k : Int) := by omega
    have hkB : k * B ≤ 1099511627776 := Nat.le_trans (Nat.mul_le_mul_right _ hk) hnB
    obtain ⟨g, rfl, g0, g1, g2, g3, g4, g5, _⟩ := (HX.out _ HB.out).1.at HN.out hkl
    have HSg : Hid (∀ W, Below fb w0 W → Seg W (rs[k]).a (rs[k]).n (rs[k]).r.zs) := fun W hb => ((HX.out W hb).1.2.1 (rs[k]) (List.getElem_mem hkl)).seg
    have hen : (rs[k]).n ≤ B := HBs.out _ (List.getElem_mem hkl)
    have HIk : Hid (-9223372036854775808 ≤ (rs[k]).r.n ∧ (rs[k]).r.n ≤ 9223372036854775807) := HI.out _ (List.getElem_mem hkl)
    have HSt : Hid (foldP ((rs.map RE.r).take (k + 1)) = oneU (l.map UE.u) (rs[k]).r) := by
      show _ = _
      rw [foldP_step (rs.map RE.r) k (rs[k]).r (by rw [List.getElem?_map, List.getElem?_eq_getElem hkl]; rfl), HP.out]
      rfl
    have HSp : Hid (foldP ((rs.map RE.r).take (k + 1)) = none → foldP (rs.map RE.r) = none) := foldP_stop _ _
    generalize rs[k] = e at *
    have HZl : Hid (∀ x ∈ l, x.n ≤ 1099511627776) := fun x hx => by
      have h1 := (HR.out.2.1 x hx).seg.1
      have h2 := HS.out x.u (List.mem_map_of_mem hx)
      omega
    have HUl : Hid (∀ x ∈ l, UFit x.u) := fun x hx => HUf.out x.u (List.mem_map_of_mem hx)
    have hen2 : e.n ≤ 1099511627776 := by omega
    obtain ⟨w2, hw2⟩ : ∃ w2, wr.alloc (.cells #[.int .i64 e.r.e, .int .i64 e.r.q, .int .i64 e.r.k, .string e.r.id, .int .i64 e.r.n, .slice e.a e.n e.c] 107) = w2 := ⟨_, rfl⟩
    have HE2 : Hid (wr.alloc (.cells #[.int .i64 e.r.e, .int .i64 e.r.q, .int .i64 e.r.k, .string e.r.id, .int .i64 e.r.n, .slice e.a e.n e.c] 107) = w2) := hw2
    have hb2 : Below wr.heap.size wr w2 := by rw [← hw2]; exact (Below.refl _ _).alloc (Nat.le_refl _) _
    have hq2 : BoxN w2 wr.heap.size 107 [.int .i64 e.r.e, .int .i64 e.r.q, .int .i64 e.r.k, .string e.r.id, .int .i64 e.r.n, .slice e.a e.n e.c] := by rw [← hw2]; exact BoxN.new _ _ _
    have HB2 : Hid (Below fb w0 w2) := HB.out.trans (hb2.mono (by omega))
    have HF2 : Hid (BoxN w2 fb 112 [.slice va vn vc]) := HF.out.stays hb2
    have HR2 : Hid (UpRow w2 fb (.slice va vn vc) l) := HR.out.stays hb2
    have q0 := hq2.cell 0 rfl
    have q1 := hq2.cell 1 rfl
    have q2 := hq2.cell 2 rfl
    have q3 := hq2.cell 3 rfl
    have q4 := hq2.cell 4 rfl
    have q5 := hq2.cell 5 rfl
    have HC : Hid (Calls Tryz.prog 66 #[.pointer (some ⟨fb, 0, none⟩), .agg #[.int .i64 e.r.e, .int .i64 e.r.q, .int .i64 e.r.k, .string e.r.id, .int .i64 e.r.n, .slice e.a e.n e.c]] w2 fun ee w' => FoldAns w2 fb fb (oneU (l.map UE.u) e.r) ee w') :=
      implTake_any fb fb va vn vc l e.r.e e.r.q e.r.k e.r.id e.r.n e.a e.n e.c w2 HF2.out HR2.out HVn.out (by omega) (HX.out _ HB2.out).2.1 (by have := HF2.out.lt; omega) (Nat.le_refl _) e.r.zs (HSg.out _ HB2.out) hen2 HUl.out HZl.out (by omega) HA.out
    clear hw2 hb2 hq2 HP HF HR
    go_wp2_with fail
    rw [HE2.out]
    clear HE2 g0 g1 g2 g3 g4 g5
    go_wp2_with fail
    refine HC.out.mono ?_
    rintro ee w3 ⟨hans, hb3⟩
    have HB3 : Hid (Below fb w0 w3) := HB2.out.trans hb3
    clear hb3 HC q0 q1 q2 q3 q4 q5
    rcases hans with ⟨hno, t, v, rfl⟩ | ⟨a', n', c', l', rfl, hmap, hlen, hbx, hrow⟩
    · have HEq : Hid (foldP (rs.map RE.r) = none) := HSp.out (by rw [HSt.out]; exact hno)
      have hx := HX.out _ HB3.out
      have HuO : Hid (BoxN w3 w.heap.size 27 [.slice none 0 0]) := hx.2.2.2.1
      have HoO : Hid (BoxN w3 (w.heap.size + 1) 4 [.bool false]) := hx.2.2.2.2
      have HB4 : Hid (Below w.heap.size w w3) := hx.2.2.1
      clear hno hx HSt HSp
      go_wp2_with fail
      refine leaves_cons (f := 65) (args := #[.pointer (some ⟨w.heap.size, 0, none⟩), .pointer (some ⟨w.heap.size + 1, 0, none⟩)]) (by simp) (by simp [go_sem]) ?_
      refine (catch_pan w.heap.size (w.heap.size + 1) _ _ t v [] w3 (HuO.out.cell 0 rfl) (HuO.out.frozen 0) (HoO.out.cell 0 rfl) (HoO.out.frozen 0) (by omega)).mono ?_
      rintro e u' w'' ⟨rfl, rfl, rfl⟩
      obtain ⟨wf, hwf⟩ : ∃ wf, (w3.setCell ⟨w.heap.size, 0, none⟩ (.slice none 0 0)).setCell ⟨w.heap.size + 1, 0, none⟩ (.bool false) = wf := ⟨_, rfl⟩
      have cu : wf.cell? ⟨w.heap.size, 0, none⟩ = some (.slice none 0 0) := by rw [← hwf]; exact ((HuO.out.set 0 (.slice none 0 0)).other (by omega) _).cell 0 rfl
      have co : wf.cell? ⟨w.heap.size + 1, 0, none⟩ = some (.bool false) := by
        rw [← hwf]
        exact ((HoO.out.other (by omega) (.slice none 0 0)).set 0 (.bool false)).cell 0 rfl
      have HBf : Hid (Below w.heap.size w wf) := by
        show Below _ _ _
        rw [← hwf]
        exact (HB4.out.setCell (by exact Nat.le_refl _) _).setCell (by dsimp only; omega) _
      rw [hwf]
      clear hwf
      simp [Leaves, settle, results, Tryz.results39, go_sem, cu, co]
      exact ⟨⟨_, ⟨rfl, by rw [HEq.out]⟩, [], ⟨⟨rfl, .inl ⟨rfl, rfl⟩⟩, by simp, List.Pairwise.nil⟩, by rw [HEq.out]; rfl, Nat.zero_le _⟩, HBf.out⟩
    · have HF3 : Hid (BoxN w3 fb 112 [.slice a' n' c']) := hbx
      have HR3 : Hid (UpRow w3 fb (.slice a' n' c') l') := hrow
      have HP3 : Hid (foldP ((rs.map RE.r).take (k + 1)) = some (l'.map UE.u)) := by show _ = _; rw [HSt.out, hmap]
      have HS3 : Hid (∀ u ∈ l'.map UE.u, u.zs.length ≤ (k + 1) * B) := fun u hu => by
        have h1 := oneU_zs hmap HS.out u hu
        have h2 := (HSg.out _ HB2.out).1
        rw [Nat.add_mul, Nat.one_mul]
        omega
      have h10 : l'.length ≤ 10 := by
        have h1 := oneU_len hmap
        rw [List.length_map, List.length_map] at h1
        omega
      have HU3 : Hid (∀ x ∈ l'.map UE.u, UFit x) := oneU_fit HIk.out hmap HUf.out
      have HA3 : Hid (Asc (l'.map UE.u)) := oneU_asc HA.out hmap
      have HL3 : Hid (n' = l'.length) := hlen
      clear hmap hlen hbx hrow HSt HSp HS HUf HA
      go_wp2_with fail
      go_roundw
      case rel => exact ⟨k + 1, a', n', c', l', by omega, by go_num, HL3.out, h10, HF3, HR3, HP3, HS3, HU3, HA3, HB3⟩
      case measure => simp [intOf]; omega

end Go.Proofs.YtlkgopoicpnacaaGreatDoor

namespace Go.Proofs.YtlkgopoicpnacaaGreatDoor
open Go.RowKit
set_option linter.unusedVariables false

/-- The library's Equal of bytes. -/
theorem bytesEq_any (a : Option Addr) (n c : Nat) (xs : List Int) (b : Option Addr) (m d : Nat) (ys : List Int) (w : World) (hx : Seg w a n xs) (hy : Seg w b m ys) :
    Calls Tryz.prog 68 #[.slice a n c, .slice b m d] w fun e w' => e = .returned (.bool (decide (xs = ys))) ∧ w' = w := by
  have h1 : (convert 22 9 (.slice a n c)).run Tryz.prog w = .ok (.string (txU xs)) w := conv_bytes hx
  have h2 : (convert 22 9 (.slice b m d)).run Tryz.prog w = .ok (.string (txU ys)) w := conv_bytes hy
  have he := ids_eq (txU xs) (txU ys)
  have HD : Hid (decide (txU xs = txU ys) = decide (xs = ys)) := by
    show _ = _
    rw [Bool.eq_iff_iff, decide_eq_true_eq, decide_eq_true_eq]
    exact txU_same hx.2.1 hy.2.1
  clear hx hy
  generalize txU xs = p at *
  generalize txU ys = q at *
  go_enter Tryz.func68, Tryz.ntmps68
  go_wp2_with fail
  go_ret
  exact ⟨by rw [← HD.out]; rfl, rfl⟩

/-- Whether two uploads are the same. -/
def sameB (u v : U) : Bool := decide (u.id = v.id) && decide (u.want = v.want) && decide (u.done = v.done) && decide (u.zs = v.zs)

theorem sameB_iff {u v : U} : sameB u v = true ↔ u = v := by
  simp only [sameB, Bool.and_eq_true, decide_eq_true_eq]
  constructor
  · rintro ⟨⟨⟨h1, h2⟩, h3⟩, h4⟩
    cases u
    cases v
    simp_all
  · rintro rfl
    exact ⟨⟨⟨rfl, rfl⟩, rfl⟩, rfl⟩

set_option maxRecDepth 10000 in
set_option maxHeartbeats 800000 in
theorem implSame_any (x y : UE) (w : World) (hx : Seg w x.a x.n x.u.zs) (hy : Seg w y.a y.n y.u.zs) :
    Calls Tryz.prog 45 #[.agg #[.string x.u.id, .int .i64 x.u.want, .slice x.a x.n x.c, .bool x.u.done], .agg #[.string y.u.id, .int .i64 y.u.want, .slice y.a y.n y.c, .bool y.u.done]] w fun e w' => e = .returned (.bool (sameB x.u y.u)) ∧ Below w.heap.size w w' := by
  have HB : Hid (Below w.heap.size w ((w.alloc (.cells #[.string x.u.id, .int .i64 x.u.want, .slice x.a x.n x.c, .bool x.u.done] 64)).alloc (.cells #[.string y.u.id, .int .i64 y.u.want, .slice y.a y.n y.c, .bool y.u.done] 64))) := ((Below.refl _ _).alloc (Nat.le_refl _) _).alloc (by simp) _
  have HC : Hid (Calls Tryz.prog 68 #[.slice x.a x.n x.c, .slice y.a y.n y.c] ((w.alloc (.cells #[.string x.u.id, .int .i64 x.u.want, .slice x.a x.n x.c, .bool x.u.done] 64)).alloc (.cells #[.string y.u.id, .int .i64 y.u.want, .slice y.a y.n y.c, .bool y.u.done] 64)) fun e w' => e = .returned (.bool (decide (x.u.zs = y.u.zs))) ∧ w' = ((w.alloc (.cells #[.string x.u.id, .int .i64 x.u.want, .slice x.a x.n x.c, .bool x.u.done] 64)).alloc (.cells #[.string y.u.id, .int .i64 y.u.want, .slice y.a y.n y.c, .bool y.u.done] 64))) := bytesEq_any x.a x.n x.c x.u.zs y.a y.n y.c y.u.zs _ (hx.below HB.out) (hy.below HB.out)
  have he := ids_eq x.u.id y.u.id
  clear hx hy
  by_cases h0 : x.u.id = y.u.id
  case neg =>
    have HF : Hid (sameB x.u y.u = false) := by show _ = _; rw [sameB, decide_eq_false h0]; simp
    rw [decide_eq_false h0] at he
    clear h0
    go_enter Tryz.func45, Tryz.ntmps45
    go_wp2_with fail
    go_ret
    exact ⟨by rw [HF.out]; rfl, HB.out⟩
  rw [decide_eq_true h0] at he
  by_cases h1 : x.u.want = y.u.want
  case neg =>
    have HF : Hid (sameB x.u y.u = false) := by show _ = _; rw [sameB, decide_eq_false h1]; simp
    have e1 : (x.u.want == y.u.want) = false := by simpa using h1
    clear h0 h1
    go_enter Tryz.func45, Tryz.ntmps45
    go_wp2_with fail
    go_ret
    exact ⟨by rw [HF.out]; rfl, HB.out⟩
  have e1 : (x.u.want == y.u.want) = true := by simpa using h1
  by_cases h2 : x.u.done = y.u.done
  case neg =>
    have HF : Hid (sameB x.u y.u = false) := by show _ = _; rw [sameB, decide_eq_false h2]; simp
    have e2 : (x.u.done == y.u.done) = false := by simpa using h2
    clear h0 h1 h2
    go_enter Tryz.func45, Tryz.ntmps45
    go_wp2_with fail
    go_ret
    exact ⟨by rw [HF.out]; rfl, HB.out⟩
  have e2 : (x.u.done == y.u.done) = true := by simpa using h2
  have HF : Hid (sameB x.u y.u = decide (x.u.zs = y.u.zs)) := by show _ = _; rw [sameB, decide_eq_true h0, decide_eq_true h1, decide_eq_true h2]; simp
  clear h0 h1 h2
  go_enter Tryz.func45, Tryz.ntmps45
  go_wp2_with fail
  refine HC.out.mono ?_
  rintro _ _ ⟨rfl, rfl⟩
  go_wp2_with fail
  go_ret
  exact ⟨by rw [HF.out]; rfl, HB.out⟩

set_option maxRecDepth 10000 in
set_option maxHeartbeats 1600000 in
theorem implEqualU_any (a : Option Addr) (n c lo : Nat) (l : List UE) (a' : Option Addr) (n' c' lo' : Nat) (l' : List UE) (w : World) (h : UpRow w lo (.slice a n c) l) (hn : n = l.length) (h' : UpRow w lo' (.slice a' n' c') l') (hn' : n' = l'.length) (hl : n ≤ 1099511627776) (hl' : n' ≤ 1099511627776) :
    Calls Tryz.prog 44 #[.slice a n c, .slice a' n' c', .func (.func 45) #[] #[]] w fun e w' => (∃ b : Bool, e = .returned (.bool b) ∧ (b = true ↔ l.map UE.u = l'.map UE.u)) ∧ Below w.heap.size w w' := by
  have HX : Hid (∀ W, Below w.heap.size w W → UpRow W lo (.slice a n c) l ∧ UpRow W lo' (.slice a' n' c') l') := fun W hb => ⟨h.stays hb, h'.stays hb⟩
  have HN : Hid (n = l.length) := hn
  have HN' : Hid (n' = l'.length) := hn'
  have eg : ∀ (args : Array Value) (w : World), Sem.run Tryz.prog (callFunc 45 args) w = .ok (.enter 45 args) w := enters_of Tryz.func45 (by kernel_rfl) rfl
  clear h h' hn hn'
  by_cases hnn : n = n'
  case neg =>
    have hnb : ((n : Int) != (n' : Int)) = true := by simp; omega
    have HF : Hid (¬ (l.map UE.u = l'.map UE.u)) := fun h => by
      have h1 := congrArg List.length h
      rw [List.length_map, List.length_map, ← HN.out, ← HN'.out] at h1
      exact hnn h1
    go_enter Tryz.func44, Tryz.ntmps44
    go_wp2_with fail
    go_ret
    exact ⟨⟨false, rfl, ⟨fun h => (by cases h), fun h => absurd h HF.out⟩⟩, Below.refl _ _⟩
  subst hnn
  go_enter Tryz.func44, Tryz.ntmps44
  go_wp2_with fail
  go_loopw [17] (fun v wr => ∃ k : Nat, k ≤ n ∧ v = .int .i64 (k : Int) ∧ Hid ((l.map UE.u).take k = (l'.map UE.u).take k) ∧ Hid (Below w.heap.size w wr)) (fun v _ => n - (intOf v).toNat)
  case atStart => exact ⟨0, Nat.zero_le _, rfl, rfl, Below.refl _ _⟩
  case round =>
    obtain ⟨k, hk, rfl, HT, HW⟩ := hrel
    by_cases hlt : k < n
    case neg =>
      obtain rfl : k = n := by omega
      have HF : Hid (l.map UE.u = l'.map UE.u) := by
        show _ = _
        have h1 := HT.out
        rw [List.take_of_length_le (by rw [List.length_map, ← HN.out]; exact Nat.le_refl _), List.take_of_length_le (by rw [List.length_map, ← HN'.out]; exact Nat.le_refl _)] at h1
        exact h1
      clear HT
      go_wp2_with fail
      go_ret
      exact ⟨⟨true, rfl, ⟨fun _ => HF.out, fun _ => rfl⟩⟩, HW.out⟩
    have hkl : k < l.length := by rw [← HN.out]; exact hlt
    have hkl' : k < l'.length := by rw [← HN'.out]; exact hlt
    have hki : (k : Int) < (n : Int) := by omega
    have hk0 : (0 : Int) ≤ (k : Int) := by omega
    obtain ⟨g, rfl, g0, g1, g2, g3, _⟩ := (HX.out _ HW.out).1.at HN.out hkl
    obtain ⟨q, rfl, q0, q1, q2, q3, _⟩ := (HX.out _ HW.out).2.at HN'.out hkl'
    have HA : Hid (∀ W, Below w.heap.size w W → Seg W (l[k]).a (l[k]).n (l[k]).u.zs ∧ Seg W (l'[k]).a (l'[k]).n (l'[k]).u.zs) := fun W hb => ⟨((HX.out W hb).1.2.1 _ (List.getElem_mem hkl)).seg, ((HX.out W hb).2.2.1 _ (List.getElem_mem hkl')).seg⟩
    have HNo : Hid ((l[k]).u ≠ (l'[k]).u → ¬ (l.map UE.u = l'.map UE.u)) := fun hne h => by
      have h1 := congrArg (fun x => x[k]?) h
      simp only [List.getElem?_map, List.getElem?_eq_getElem hkl, List.getElem?_eq_getElem hkl', Option.map_some, Option.some.injEq] at h1
      exact hne h1
    have HYe : Hid ((l[k]).u = (l'[k]).u → (l.map UE.u).take (k + 1) = (l'.map UE.u).take (k + 1)) := fun he => by
      rw [List.take_add_one, List.take_add_one, HT.out, List.getElem?_map, List.getElem?_map, List.getElem?_eq_getElem hkl, List.getElem?_eq_getElem hkl']
      simp [he]
    generalize l[k] = x at *
    generalize l'[k] = y at *
    obtain ⟨w2, hw2⟩ : ∃ w2, (wr.alloc (.cells #[.string x.u.id, .int .i64 x.u.want, .slice x.a x.n x.c, .bool x.u.done] 64)).alloc (.cells #[.string y.u.id, .int .i64 y.u.want, .slice y.a y.n y.c, .bool y.u.done] 64) = w2 := ⟨_, rfl⟩
    have hb2 : Below wr.heap.size wr w2 := by rw [← hw2]; exact ((Below.refl _ _).alloc (Nat.le_refl _) _).alloc (by simp) _
    have HB2 : Hid (Below w.heap.size w w2) := HW.out.trans (hb2.mono HW.out.size)
    have HC : Hid (Calls Tryz.prog 45 #[.agg #[.string x.u.id, .int .i64 x.u.want, .slice x.a x.n x.c, .bool x.u.done], .agg #[.string y.u.id, .int .i64 y.u.want, .slice y.a y.n y.c, .bool y.u.done]] w2 fun e w' => e = .returned (.bool (sameB x.u y.u)) ∧ Below w2.heap.size w2 w') := implSame_any x y w2 (HA.out _ HB2.out).1 (HA.out _ HB2.out).2
    have hb1 : Below wr.heap.size wr (wr.alloc (.cells #[.string x.u.id, .int .i64 x.u.want, .slice x.a x.n x.c, .bool x.u.done] 64)) := (Below.refl _ _).alloc (Nat.le_refl _) _
    have p0 := (hb1.cell (p := ⟨q, k * 4, none⟩) (lt_of_cell q0)).trans q0
    have p1 := (hb1.cell (p := ⟨q, k * 4 + 1, none⟩) (lt_of_cell q0)).trans q1
    have p2 := (hb1.cell (p := ⟨q, k * 4 + 2, none⟩) (lt_of_cell q0)).trans q2
    have p3 := (hb1.cell (p := ⟨q, k * 4 + 3, none⟩) (lt_of_cell q0)).trans q3
    have bx := (BoxN.new wr 64 [.string x.u.id, .int .i64 x.u.want, .slice x.a x.n x.c, .bool x.u.done]).alloc (.cells #[.string y.u.id, .int .i64 y.u.want, .slice y.a y.n y.c, .bool y.u.done] 64)
    rw [hw2] at bx
    have by' := BoxN.new (wr.alloc (.cells #[.string x.u.id, .int .i64 x.u.want, .slice x.a x.n x.c, .bool x.u.done] 64)) 64 [.string y.u.id, .int .i64 y.u.want, .slice y.a y.n y.c, .bool y.u.done]
    rw [World.size_alloc] at by'
    have by2 : BoxN w2 (wr.heap.size + 1) 64 [.string y.u.id, .int .i64 y.u.want, .slice y.a y.n y.c, .bool y.u.done] := by rw [← hw2]; exact by'
    have t0 := by2.cell 0 rfl
    have t1 := by2.cell 1 rfl
    have t2 := by2.cell 2 rfl
    have t3 := by2.cell 3 rfl
    have z0 := bx.cell 0 rfl
    have z1 := bx.cell 1 rfl
    have z2 := bx.cell 2 rfl
    have z3 := bx.cell 3 rfl
    go_wp2_with fail
    refine HC.out.mono ?_
    rintro _ w3 ⟨rfl, hb3⟩
    have HB3 : Hid (Below w.heap.size w w3) := HB2.out.trans (hb3.mono HB2.out.size)
    clear bx by' by2 t0 t1 t2 t3 z0 z1 z2 z3 hb3 hb2 hb1 p0 p1 p2 p3 HC hw2 g0 g1 g2 g3 q0 q1 q2 q3
    by_cases hs : x.u = y.u
    · have HT2 : Hid ((l.map UE.u).take (k + 1) = (l'.map UE.u).take (k + 1)) := HYe.out hs
      rw [sameB_iff.2 hs]
      clear hs HNo HYe HT
      go_wp2_with fail
      go_roundw
      case rel => exact ⟨k + 1, by omega, by go_num, HT2, HB3⟩
      case measure => simp [intOf]; omega
    · have HF : Hid (¬ (l.map UE.u = l'.map UE.u)) := HNo.out hs
      rw [show sameB x.u y.u = false from by rw [Bool.eq_false_iff]; exact fun h => hs (sameB_iff.1 h)]
      clear hs HNo HYe HT
      go_wp2_with fail
      go_ret
      exact ⟨⟨false, rfl, ⟨fun h => (by cases h), fun h => absurd h HF.out⟩⟩, HB3.out⟩

end Go.Proofs.YtlkgopoicpnacaaGreatDoor

namespace Go.Proofs.YtlkgopoicpnacaaGreatDoor
open Go.RowKit
set_option linter.unusedVariables false

theorem ret_bD {a b : Bool} (h : a = b) : Ending.returned (.bool a) = .returned (.bool b) := by rw [h]

theorem implLong_any (s : ByteArray) (w : World) (hs : s.size ≤ maxLen) :
    Calls Tryz.prog 63 #[.string s] w fun e w' => e = .returned (.bool (!fitsD s)) ∧ w' = w := by
  have hmm : maxLen < 9223372036854775808 := by decide
  have HF : Hid ((!fitsD s) = decide ((64 : Int) < (s.size : Int))) := by
    show _ = _
    rw [fitsD, ← decide_not, decide_eq_decide]
    omega
  go_enter Tryz.func63, Tryz.ntmps63
  go_wp2_with fail
  go_ret
  exact ⟨ret_bD HF.out.symm, rfl⟩

end Go.Proofs.YtlkgopoicpnacaaGreatDoor

namespace Go.Proofs.YtlkgopoicpnacaaGreatDoor
open Go.RowKit
set_option linter.unusedVariables false

/-- Whether one of the texts is too long. -/
def anyL (xs : List ByteArray) : Bool := !xs.all fitsD

theorem anyL_false {xs : List ByteArray} (h : ∀ (k : Nat) (x : ByteArray), xs[k]? = some x → fitsD x = true) : anyL xs = false := by
  have : xs.all fitsD = true := by
    rw [List.all_eq_true]
    intro f hf
    obtain ⟨k, hk, rfl⟩ := List.mem_iff_getElem.1 hf
    exact h k _ (List.getElem?_eq_getElem hk)
  rw [anyL, this]
  rfl

theorem anyL_true {xs : List ByteArray} {k : Nat} {x : ByteArray} (h : xs[k]? = some x) (hw : fitsD x = false) : anyL xs = true := by
  have : xs.all fitsD = false := by
    rw [List.all_eq_false]
    exact ⟨x, List.mem_of_getElem? h, by simp [hw]⟩
  rw [anyL, this]
  rfl

set_option maxRecDepth 10000 in
set_option maxHeartbeats 800000 in
theorem implIdxL_any (a : Option Addr) (len cap : Nat) (xs : List ByteArray) (w : World) (hx : Strs w a len xs) (hl : len ≤ 1099511627776) :
    Calls Tryz.prog 90 #[.slice a len cap, .func (.func 63) #[] #[]] w fun e w' => (∃ k : Int, e = .returned (.int .i64 k) ∧ decide (0 ≤ k) = anyL xs) ∧ Below w.heap.size w w' := by
  have HX : Hid (Strs w a len xs) := hx
  have HL : Hid (xs.length = len) := hx.1
  clear hx
  go_enter Tryz.func90, Tryz.ntmps90
  go_wp2_with fail
  go_loopw [8] (fun v wr => ∃ k : Nat, k ≤ len ∧ v = .int .i64 k ∧ Hid (Below w.heap.size w wr) ∧ Hid (∀ (j : Nat) (x : ByteArray), j < k → xs[j]? = some x → fitsD x = true)) (fun v _ => len - (intOf v).toNat)
  case atStart => exact ⟨0, Nat.zero_le _, rfl, Below.refl _ _, fun j _ hj => absurd hj (Nat.not_lt_zero _)⟩
  case round =>
    obtain ⟨k, hk, rfl, HB, HN⟩ := hrel
    by_cases hlt : k < len
    · have hki : (k : Int) < (len : Int) := by omega
      obtain ⟨b, off, x, rfl, hb, hkx, hp⟩ := (HX.out.below HB.out).at hlt
      have hxm := HX.out.2.1 x (List.mem_of_getElem? hkx)
      have HK : Hid (xs[k]? = some x) := hkx
      have HO : Hid (∀ W : World, Calls Tryz.prog 63 #[.string x] W fun e w' => e = .returned (.bool (!fitsD x)) ∧ w' = W) := fun W => implLong_any x W hxm
      clear hkx hxm
      go_wp2_with fail
      refine (HO.out _).mono ?_
      rintro e w1 ⟨rfl, rfl⟩
      cases hpr : fitsD x
      case false =>
        have HE : Hid (anyL xs = true) := anyL_true HK.out hpr
        clear hpr
        go_wp2_with fail
        go_ret
        exact ⟨⟨k, rfl, by rw [HE.out]; simp⟩, HB.out⟩
      case true =>
        have HN2 : Hid (∀ (j : Nat) (x : ByteArray), j < k + 1 → xs[j]? = some x → fitsD x = true) := fun j u hj hju => by
          by_cases e : j = k
          · subst e
            rw [HK.out] at hju
            injection hju with e1
            rw [← e1]
            exact hpr
          · exact HN.out j u (by omega) hju
        clear hpr HN
        go_wp2_with fail
        go_roundw
        case rel => exact ⟨k + 1, by omega, by go_num, HB, HN2⟩
        case measure => simp [intOf]; omega
    · have HE : Hid (anyL xs = false) := anyL_false fun j x hjx => HN.out j x (by have := (List.getElem?_eq_some_iff.1 hjx).1; have := HL.out; omega) hjx
      have hkl : len = k := by omega
      clear HN HX HL
      subst hkl
      go_wp2_with fail
      go_ret
      exact ⟨⟨-1, rfl, by rw [HE.out]; rfl⟩, HB.out⟩

set_option maxRecDepth 10000 in
theorem implAnyL_any (a : Option Addr) (len cap : Nat) (xs : List ByteArray) (w : World) (hx : Strs w a len xs) (hl : len ≤ 1099511627776) :
    Calls Tryz.prog 62 #[.slice a len cap, .func (.func 63) #[] #[]] w fun e w' => e = .returned (.bool (anyL xs)) ∧ Below w.heap.size w w' := by
  go_enter Tryz.func62, Tryz.ntmps62
  go_wp2_with fail
  refine (implIdxL_any a len cap xs w hx hl).mono ?_
  rintro e w1 ⟨⟨k, rfl, hk⟩, hb1⟩
  have HK : Hid (decide (0 ≤ k) = anyL xs) := hk
  have HB1 : Hid (Below w.heap.size w w1) := hb1
  clear hk hb1 hx
  go_wp2_with fail
  go_ret
  exact ⟨ret_bD HK.out, HB1.out⟩

end Go.Proofs.YtlkgopoicpnacaaGreatDoor

namespace Go.Proofs.YtlkgopoicpnacaaGreatDoor
open Go.RowKit
set_option linter.unusedVariables false

set_option maxRecDepth 10000 in
set_option maxHeartbeats 1600000 in
theorem implDok_any (a : Option Addr) (n ca : Nat) (xs : List ByteArray) (a' : Option Addr) (n' ca' : Nat) (ys : List ByteArray) (w : World) (h1 : Strs w a n xs) (h3 : Strs w a' n' ys) (hn : n ≤ 1099511627776) (hn' : n' ≤ 1099511627776) :
    Calls Tryz.prog 37 #[.agg #[.slice a n ca, .slice a' n' ca']] w fun e w' => e = .returned (.bool (okD xs ys)) ∧ Below w.heap.size w w' := by
  have HX : Hid (∀ W, Below w.heap.size w W → Strs W a n xs ∧ Strs W a' n' ys) := fun W h => ⟨h1.below h, h3.below h⟩
  have HL : Hid (xs.length = n ∧ ys.length = n') := ⟨h1.1, h3.1⟩
  clear h1 h3
  have HA : Hid (Box2R (w.alloc (Obj.cells #[Value.slice a n ca, Value.slice a' n' ca'] 26)) w.heap.size 26 (.slice a n ca) (.slice a' n' ca')) := Box2R.new _ _ _ _
  have HB : Hid (Below w.heap.size w (w.alloc (Obj.cells #[Value.slice a n ca, Value.slice a' n' ca'] 26))) := (Below.refl _ _).alloc (Nat.le_refl _) _
  by_cases hne : n = n'
  case neg =>
    have HF : Hid (okD xs ys = false) := okD_len (fun h => hne (by rw [← HL.out.1, ← HL.out.2]; exact h.1))
    have e1 : ((n : Int) != (n' : Int)) = true := by simp; omega
    go_enter Tryz.func37, Tryz.ntmps37
    go_wp2_with fail
    go_ret
    exact ⟨by rw [HF.out]; rfl, HB.out⟩
  subst hne
  have e1 : ((n : Int) != (n : Int)) = false := by simp
  by_cases hbig : 200 < n
  · have HF : Hid (okD xs ys = false) := okD_len (fun h => by have := HL.out; omega)
    go_enter Tryz.func37, Tryz.ntmps37
    go_wp2_with fail
    go_ret
    exact ⟨by rw [HF.out]; rfl, HB.out⟩
  have HO : Hid (okD xs ys = (!anyL xs && !anyL ys)) := by
    show _ = _
    rw [okD, anyL, anyL, decide_eq_true (show xs.length = ys.length ∧ xs.length ≤ 200 by have := HL.out; omega), Bool.true_and, Bool.not_not, Bool.not_not]
  go_enter Tryz.func37, Tryz.ntmps37
  go_wp2_with fail
  obtain ⟨w0, hw0⟩ : ∃ w0, w.alloc (Obj.cells #[Value.slice a n ca, Value.slice a' n ca'] 26) = w0 := ⟨_, rfl⟩
  rw [hw0] at HA HB ⊢
  clear hw0
  refine (implAnyL_any a n ca xs _ (HX.out _ HB.out).1 hn).mono ?_
  rintro e w1 ⟨rfl, hb1⟩
  have HB1 : Hid (Below w.heap.size w w1) := HB.out.trans (hb1.mono HB.out.size)
  obtain ⟨c0, c1⟩ := (HA.out.stays hb1).cells
  clear hb1 HB HA
  cases hA : anyL xs
  · have HF : Hid (okD xs ys = !anyL ys) := by show _ = _; rw [HO.out, hA]; rfl
    clear hA HO
    go_wp2_with fail
    refine (implAnyL_any a' n ca' ys _ (HX.out _ HB1.out).2 hn).mono ?_
    rintro e w2 ⟨rfl, hb2⟩
    have HB2 : Hid (Below w.heap.size w w2) := HB1.out.trans (hb2.mono HB1.out.size)
    clear hb2
    go_wp2_with fail
    go_ret
    exact ⟨ret_bD HF.out.symm, HB2.out⟩
  · have HF : Hid (okD xs ys = false) := by show _ = _; rw [HO.out, hA]; rfl
    clear hA HO
    go_wp2_with fail
    go_ret
    exact ⟨ret_bD HF.out.symm, HB1.out⟩

end Go.Proofs.YtlkgopoicpnacaaGreatDoor
