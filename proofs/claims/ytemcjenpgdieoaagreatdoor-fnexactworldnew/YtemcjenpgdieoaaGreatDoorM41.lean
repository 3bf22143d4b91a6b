/- What the program's copy of a world answers in which nothing is yet. What the specification's ClientOk answers. What the specification says of a world's clients. -/
import Derived.Test.YtemcjenpgdieoaaGreatDoorM38
import Derived.Test.YtemcjenpgdieoaaGreatDoorM38
import Derived.Test.YtemcjenpgdieoaaGreatDoorM40
import Derived.Test.YtemcjenpgdieoaaGreatDoorM40
import Derived.Test.YtemcjenpgdieoaaGreatDoorM10
import Derived.Test.YtemcjenpgdieoaaGreatDoorM19
import Derived.Test.YtemcjenpgdieoaaGreatDoorM03
import Derived.Deep.CutBlock
import Derived.Test.YtemcjenpgdieoaaGreatDoorM12
import Derived.Test.YtemcjenpgdieoaaGreatDoorM07
namespace Go.Proofs.YtemcjenpgdieoaaGreatDoor
open Go.RowKit
set_option linter.unusedVariables false

theorem svNew_any (sa : Option Addr) (sc : Nat) (sa' : Option Addr) (sc' : Nat) (su : Option Addr) (suc lo : Nat) (ha : Option Addr) (hc M : Nat) (w : World) (h : StoAt w lo sa M sc (List.replicate M ⟨#[]⟩) sa' M sc' (List.replicate M ⟨#[]⟩) su 0 suc []) (hM : M ≤ 1048576) :
    Calls Tryz.prog 62 #[.agg #[.slice sa M sc, .slice sa' M sc', .int .i64 0, .int .i64 0, .slice su 0 suc, .slice ha 0 hc]] w fun e w' => (∃ x1 y1 x2 y2 x3 y3 x4 y4, e = .returned (.agg #[.slice x1 M y1, .slice x2 M y2, .int .i64 0, .int .i64 0, .slice x3 0 y3, .slice x4 0 y4]) ∧ StoAt w' w.heap.size x1 M y1 (List.replicate M ⟨#[]⟩) x2 M y2 (List.replicate M ⟨#[]⟩) x3 0 y3 []) ∧ Below w.heap.size w w' := by
  refine (implVcopy_any sa M sc (List.replicate M ⟨#[]⟩) sa' M sc' (List.replicate M ⟨#[]⟩) 0 0 su 0 suc lo [] ha 0 hc [] w h.now.strs h.sure.strs hM hM h.ups rfl (by omega) (by simp) ⟨rfl, by simp, .inl rfl⟩ (by omega)).mono ?_
  rintro e w' ⟨⟨v, rfl, hv⟩, hb⟩
  obtain ⟨b, cb, b', cb', vu, vc, l', hA, hC, rfl, hs, hm, _⟩ := hv.get
  obtain rfl : l' = [] := by cases l' with
    | nil => rfl
    | cons x xs => simp at hm
  have hl : ((List.replicate M ⟨#[]⟩) : List ByteArray).length = M := List.length_replicate
  have hs := hs.sto
  rw [hl] at hs ⊢
  exact ⟨⟨_, _, _, _, _, _, _, _, rfl, hs⟩, hb⟩

set_option maxRecDepth 10000 in
set_option maxHeartbeats 6400000 in
theorem implWcopy_any (sa : Option Addr) (sc : Nat) (sa' : Option Addr) (sc' : Nat) (su : Option Addr) (suc lo : Nat) (ha : Option Addr) (hc : Nat) (ca : Option Addr) (cc : Nat) (ba : Option Addr) (bc : Nat) (wa : Option Addr) (wc : Nat) (ta : Option Addr) (tc : Nat) (za : Option Addr) (zc M N : Nat) (l : List CE) (w : World) (hs : StoAt w lo sa M sc (List.replicate M ⟨#[]⟩) sa' M sc' (List.replicate M ⟨#[]⟩) su 0 suc []) (hcl : ClRow w lo (.slice ca N cc) l) (hN : N = l.length) (hbo : w.ownsRow lo 4 1 (.slice ba N bc) N (bcells (List.replicate N false))) (hio : w.ownsRow lo 3 1 (.slice za N zc) N (icells (List.replicate N (-1)))) (hM : M ≤ 1048576) (hNb : N ≤ 1048576) (hz : ∀ e ∈ l, e.n ≤ 1048576) :
    Calls Tryz.prog 21 #[.agg #[.slice sa M sc, .slice sa' M sc', .int .i64 0, .int .i64 0, .slice su 0 suc, .slice ha 0 hc, .slice ca N cc, .slice ba N bc, .slice wa 0 wc, .slice ta 0 tc, .slice za N zc]] w fun e w' => (∃ v, e = .returned v ∧ AnsWd w.heap.size M (l.map CE.u) v w') ∧ Below w.heap.size w w' := by
  have HLn : Hid (N = l.length ∧ ∀ e ∈ l, e.n ≤ 1048576) := ⟨hN, hz⟩
  have HLen : Hid (∀ l2 : List CE, l2.map CE.u = l.map CE.u → N = l2.length) := fun l2 h => by have := congrArg List.length h; simp at this; rw [hN, this]
  obtain ⟨W2, hW2⟩ : ∃ W2, (w.alloc (.cells #[.slice sa M sc, .slice sa' M sc', .int .i64 0, .int .i64 0, .slice su 0 suc, .slice ha 0 hc, .slice ca N cc, .slice ba N bc, .slice wa 0 wc, .slice ta 0 tc, .slice za N zc] 38)).alloc (.cells #[.slice none 0 0, .slice none 0 0, .int .i64 0, .int .i64 0, .slice none 0 0, .slice none 0 0, .slice none 0 0, .slice none 0 0, .slice none 0 0, .slice none 0 0, .slice none 0 0] 38) = W2 := ⟨_, rfl⟩
  have HE : Hid ((w.alloc (.cells #[.slice sa M sc, .slice sa' M sc', .int .i64 0, .int .i64 0, .slice su 0 suc, .slice ha 0 hc, .slice ca N cc, .slice ba N bc, .slice wa 0 wc, .slice ta 0 tc, .slice za N zc] 38)).alloc (.cells #[.slice none 0 0, .slice none 0 0, .int .i64 0, .int .i64 0, .slice none 0 0, .slice none 0 0, .slice none 0 0, .slice none 0 0, .slice none 0 0, .slice none 0 0, .slice none 0 0] 38) = W2) := hW2
  have HB2 : Hid (Below w.heap.size w W2) := by show Below _ _ _; rw [← hW2]; exact ((Below.refl _ _).alloc (Nat.le_refl _) _).alloc (by simp) _
  have q1 : BoxN W2 w.heap.size 38 [.slice sa M sc, .slice sa' M sc', .int .i64 0, .int .i64 0, .slice su 0 suc, .slice ha 0 hc, .slice ca N cc, .slice ba N bc, .slice wa 0 wc, .slice ta 0 tc, .slice za N zc] := by rw [← hW2]; exact (BoxN.new _ _ _).alloc _
  have q2 : BoxN W2 (w.heap.size + 1) 38 [.slice none 0 0, .slice none 0 0, .int .i64 0, .int .i64 0, .slice none 0 0, .slice none 0 0, .slice none 0 0, .slice none 0 0, .slice none 0 0, .slice none 0 0, .slice none 0 0] := by
    rw [← hW2]
    have := BoxN.new (w.alloc (.cells #[.slice sa M sc, .slice sa' M sc', .int .i64 0, .int .i64 0, .slice su 0 suc, .slice ha 0 hc, .slice ca N cc, .slice ba N bc, .slice wa 0 wc, .slice ta 0 tc, .slice za N zc] 38)) 38 [.slice none 0 0, .slice none 0 0, .int .i64 0, .int .i64 0, .slice none 0 0, .slice none 0 0, .slice none 0 0, .slice none 0 0, .slice none 0 0, .slice none 0 0, .slice none 0 0]
    rwa [World.size_alloc] at this
  have HQ : Hid (∀ W, Below W2.heap.size W2 W → BoxN W w.heap.size 38 [.slice sa M sc, .slice sa' M sc', .int .i64 0, .int .i64 0, .slice su 0 suc, .slice ha 0 hc, .slice ca N cc, .slice ba N bc, .slice wa 0 wc, .slice ta 0 tc, .slice za N zc] ∧ BoxN W (w.heap.size + 1) 38 [.slice none 0 0, .slice none 0 0, .int .i64 0, .int .i64 0, .slice none 0 0, .slice none 0 0, .slice none 0 0, .slice none 0 0, .slice none 0 0, .slice none 0 0, .slice none 0 0]) := fun W h => ⟨q1.stays h, q2.stays h⟩
  have HX : Hid (∀ W, Below W2.heap.size W2 W → StoAt W lo sa M sc (List.replicate M ⟨#[]⟩) sa' M sc' (List.replicate M ⟨#[]⟩) su 0 suc [] ∧ ClRow W lo (.slice ca N cc) l ∧ W.ownsRow lo 4 1 (.slice ba N bc) N (bcells (List.replicate N false)) ∧ W.ownsRow lo 3 1 (.slice za N zc) N (icells (List.replicate N (-1)))) := fun W h => by
    have hw := HB2.out.trans (h.mono HB2.out.size)
    exact ⟨hs.stays hw, hcl.stays hw, own_below hbo hw, own_below hio hw⟩
  have hs2 : w.heap.size + 1 < W2.heap.size := q2.lt
  clear hW2 q1 q2 hs hcl hN hbo hio hz
  go_enter Tryz.func21, Tryz.ntmps21
  go_upto_region 1 with fail
  rw [HE.out]
  clear HE
  refine wp_region_grow 19 [Stay.val (.pointer (some ⟨w.heap.size, 0, none⟩)), Stay.val (.agg #[.slice sa M sc, .slice sa' M sc', .int .i64 0, .int .i64 0, .slice su 0 suc, .slice ha 0 hc]), ⟨fun v W => ∃ x1 y1 x2 y2 x3 y3 x4 y4, v = .agg #[.slice x1 M y1, .slice x2 M y2, .int .i64 0, .int .i64 0, .slice x3 0 y3, .slice x4 0 y4] ∧ StoAt W W2.heap.size x1 M y1 (List.replicate M ⟨#[]⟩) x2 M y2 (List.replicate M ⟨#[]⟩) x3 0 y3 [], fun ⟨x1, y1, x2, y2, x3, y3, x4, y4, h0, h1⟩ hb => ⟨x1, y1, x2, y2, x3, y3, x4, y4, h0, h1.stays hb⟩⟩, Stay.val (.pointer (some ⟨w.heap.size, 6, none⟩)), Stay.val (.slice ca N cc), ⟨fun v W => ∃ x5 y5 l2, v = .slice x5 N y5 ∧ ClRow W W2.heap.size (.slice x5 N y5) l2 ∧ l2.map CE.u = l.map CE.u, fun ⟨x5, y5, l2, h0, h1, h2⟩ hb => ⟨x5, y5, l2, h0, h1.stays hb, h2⟩⟩, Stay.val (.pointer (some ⟨w.heap.size, 7, none⟩)), Stay.val (.slice ba N bc), ⟨fun v W => ∃ x6 y6, v = .slice x6 N y6 ∧ W.ownsRow W2.heap.size 4 1 (.slice x6 N y6) N (bcells (List.replicate N false)), fun ⟨x6, y6, h0, h1⟩ hb => ⟨x6, y6, h0, own_below h1 hb⟩⟩, Stay.val (.pointer (some ⟨w.heap.size, 8, none⟩)), Stay.val (.slice wa 0 wc), ⟨fun v W => ∃ x7 y7, v = .slice x7 0 y7, fun h _ => h⟩, Stay.val (.pointer (some ⟨w.heap.size, 9, none⟩)), Stay.val (.slice ta 0 tc), ⟨fun v W => ∃ x8 y8, v = .slice x8 0 y8, fun h _ => h⟩, Stay.val (.pointer (some ⟨w.heap.size, 10, none⟩)), Stay.val (.slice za N zc), ⟨fun v W => ∃ x9 y9, v = .slice x9 N y9 ∧ W.ownsRow W2.heap.size 3 1 (.slice x9 N y9) N (icells (List.replicate N (-1))), fun ⟨x9, y9, h0, h1⟩ hb => ⟨x9, y9, h0, own_below h1 hb⟩⟩, ⟨fun v W => ∃ x1 y1 x2 y2 x3 y3 x4 y4 x5 y5 l2 x6 y6 x7 y7 x8 y8 x9 y9, v = .agg #[.slice x1 M y1, .slice x2 M y2, .int .i64 0, .int .i64 0, .slice x3 0 y3, .slice x4 0 y4, .slice x5 N y5, .slice x6 N y6, .slice x7 0 y7, .slice x8 0 y8, .slice x9 N y9] ∧ WdAt W W2.heap.size M x1 y1 x2 y2 x3 y3 x5 y5 x6 y6 x9 y9 N l2 ∧ l2.map CE.u = l.map CE.u, fun ⟨x1, y1, x2, y2, x3, y3, x4, y4, x5, y5, l2, x6, y6, x7, y7, x8, y8, x9, y9, h0, h1, h2⟩ hb => ⟨x1, y1, x2, y2, x3, y3, x4, y4, x5, y5, l2, x6, y6, x7, y7, x8, y8, x9, y9, h0, h1.stays hb, h2⟩⟩] (by kernel_rfl) (by kernel_rfl) ?_ ?_
  · refine (all_succ (all_succ (all_succ (all_succ (all_succ (all_succ (all_succ (all_succ (all_succ (all_succ (all_succ (all_succ (all_succ (all_succ (all_succ (all_succ (all_succ (all_succ (all_succ all_zero ?g0) ?g1) ?g2) ?g3) ?g4) ?g5) ?g6) ?g7) ?g8) ?g9) ?g10) ?g11) ?g12) ?g13) ?g14) ?g15) ?g16) ?g17) ?g18)
    case g0 =>
      intro o ho vs W hb hd
      have HBW : Hid (Below w.heap.size w W) := HB2.out.trans (hb.mono HB2.out.size)
      have HS : Hid (W2.heap.size ≤ W.heap.size) := hb.size
      have HXW : Hid (Below W2.heap.size W2 W) := hb
      clear hb
      obtain rfl := Option.some.inj ho
      clear ho hd
      intro K hK
      simp only [List.take, putsT, put_mk, List.setIfInBounds_toArray, List.set_cons_succ, List.set_cons_zero] at hK ⊢
      have HK : Hid _ := hK
      clear hK
      go_wp2_with fail
      exact HK.out _ _ (Below.refl _ _) rfl
    case g1 =>
      intro o ho vs W hb hd
      have HBW : Hid (Below w.heap.size w W) := HB2.out.trans (hb.mono HB2.out.size)
      have HS : Hid (W2.heap.size ≤ W.heap.size) := hb.size
      have HXW : Hid (Below W2.heap.size W2 W) := hb
      clear hb
      obtain rfl := Option.some.inj ho
      have h0 : vs 0 = _ := hd 0 (by decide) (by kernel_rfl)
      clear ho hd
      have hq := (HQ.out _ HXW.out).1
      have c0 := hq.cell 0 rfl
      have c1 := hq.cell 1 rfl
      have c2 := hq.cell 2 rfl
      have c3 := hq.cell 3 rfl
      have c4 := hq.cell 4 rfl
      have c5 := hq.cell 5 rfl
      clear hq
      intro K hK
      simp only [List.take, putsT, put_mk, List.setIfInBounds_toArray, List.set_cons_succ, List.set_cons_zero] at hK ⊢
      rw [h0] at hK ⊢
      clear h0
      have HK : Hid _ := hK
      clear hK
      go_wp2_with fail
      exact HK.out _ _ (Below.refl _ _) rfl
    case g2 =>
      intro o ho vs W hb hd
      have HBW : Hid (Below w.heap.size w W) := HB2.out.trans (hb.mono HB2.out.size)
      have HS : Hid (W2.heap.size ≤ W.heap.size) := hb.size
      have HXW : Hid (Below W2.heap.size W2 W) := hb
      clear hb
      obtain rfl := Option.some.inj ho
      have h1 : vs 1 = _ := hd 1 (by decide) (by kernel_rfl)
      clear ho hd
      intro K hK
      simp only [List.take, putsT, put_mk, List.setIfInBounds_toArray, List.set_cons_succ, List.set_cons_zero] at hK ⊢
      rw [h1] at hK ⊢
      clear h1
      have HK : Hid _ := hK
      clear hK
      go_wp2_with fail
      refine (svNew_any sa sc sa' sc' su suc lo ha hc M W (HX.out _ HXW.out).1 (by omega)).mono ?_
      rintro e w' ⟨⟨x1, y1, x2, y2, x3, y3, x4, y4, rfl, hs⟩, hb1⟩
      go_wp2_with fail
      exact HK.out _ _ hb1 ⟨_, _, _, _, _, _, _, _, rfl, hs.low HS.out⟩
    case g3 =>
      intro o ho vs W hb hd
      have HBW : Hid (Below w.heap.size w W) := HB2.out.trans (hb.mono HB2.out.size)
      have HS : Hid (W2.heap.size ≤ W.heap.size) := hb.size
      have HXW : Hid (Below W2.heap.size W2 W) := hb
      clear hb
      obtain rfl := Option.some.inj ho
      clear ho hd
      intro K hK
      simp only [List.take, putsT, put_mk, List.setIfInBounds_toArray, List.set_cons_succ, List.set_cons_zero] at hK ⊢
      have HK : Hid _ := hK
      clear hK
      go_wp2_with fail
      exact HK.out _ _ (Below.refl _ _) rfl
    case g4 =>
      intro o ho vs W hb hd
      have HBW : Hid (Below w.heap.size w W) := HB2.out.trans (hb.mono HB2.out.size)
      have HS : Hid (W2.heap.size ≤ W.heap.size) := hb.size
      have HXW : Hid (Below W2.heap.size W2 W) := hb
      clear hb
      obtain rfl := Option.some.inj ho
      have h3 : vs 3 = _ := hd 3 (by decide) (by kernel_rfl)
      clear ho hd
      have hq := (HQ.out _ HXW.out).1
      have c6 := hq.cell 6 rfl
      clear hq
      intro K hK
      simp only [List.take, putsT, put_mk, List.setIfInBounds_toArray, List.set_cons_succ, List.set_cons_zero] at hK ⊢
      rw [h3] at hK ⊢
      clear h3
      have HK : Hid _ := hK
      clear hK
      go_wp2_with fail
      exact HK.out _ _ (Below.refl _ _) rfl
    case g5 =>
      intro o ho vs W hb hd
      have HBW : Hid (Below w.heap.size w W) := HB2.out.trans (hb.mono HB2.out.size)
      have HS : Hid (W2.heap.size ≤ W.heap.size) := hb.size
      have HXW : Hid (Below W2.heap.size W2 W) := hb
      clear hb
      obtain rfl := Option.some.inj ho
      have h4 : vs 4 = _ := hd 4 (by decide) (by kernel_rfl)
      clear ho hd
      intro K hK
      simp only [List.take, putsT, put_mk, List.setIfInBounds_toArray, List.set_cons_succ, List.set_cons_zero] at hK ⊢
      rw [h4] at hK ⊢
      clear h4
      have HK : Hid _ := hK
      clear hK
      go_wp2_with fail
      refine (implEachCl_any ca N cc lo l W (HX.out _ HXW.out).2.1 HLn.out.1 (by omega) HLn.out.2).mono ?_
      rintro e w' ⟨⟨x5, y5, l2, rfl, hr, hm⟩, hb1⟩
      go_wp2_with fail
      exact HK.out _ _ hb1 ⟨_, _, _, rfl, hr.low HS.out, hm⟩
    case g6 =>
      intro o ho vs W hb hd
      have HBW : Hid (Below w.heap.size w W) := HB2.out.trans (hb.mono HB2.out.size)
      have HS : Hid (W2.heap.size ≤ W.heap.size) := hb.size
      have HXW : Hid (Below W2.heap.size W2 W) := hb
      clear hb
      obtain rfl := Option.some.inj ho
      clear ho hd
      intro K hK
      simp only [List.take, putsT, put_mk, List.setIfInBounds_toArray, List.set_cons_succ, List.set_cons_zero] at hK ⊢
      have HK : Hid _ := hK
      clear hK
      go_wp2_with fail
      exact HK.out _ _ (Below.refl _ _) rfl
    case g7 =>
      intro o ho vs W hb hd
      have HBW : Hid (Below w.heap.size w W) := HB2.out.trans (hb.mono HB2.out.size)
      have HS : Hid (W2.heap.size ≤ W.heap.size) := hb.size
      have HXW : Hid (Below W2.heap.size W2 W) := hb
      clear hb
      obtain rfl := Option.some.inj ho
      have h6 : vs 6 = _ := hd 6 (by decide) (by kernel_rfl)
      clear ho hd
      have hq := (HQ.out _ HXW.out).1
      have c7 := hq.cell 7 rfl
      clear hq
      intro K hK
      simp only [List.take, putsT, put_mk, List.setIfInBounds_toArray, List.set_cons_succ, List.set_cons_zero] at hK ⊢
      rw [h6] at hK ⊢
      clear h6
      have HK : Hid _ := hK
      clear hK
      go_wp2_with fail
      exact HK.out _ _ (Below.refl _ _) rfl
    case g8 =>
      intro o ho vs W hb hd
      have HBW : Hid (Below w.heap.size w W) := HB2.out.trans (hb.mono HB2.out.size)
      have HS : Hid (W2.heap.size ≤ W.heap.size) := hb.size
      have HXW : Hid (Below W2.heap.size W2 W) := hb
      clear hb
      obtain rfl := Option.some.inj ho
      have h7 : vs 7 = _ := hd 7 (by decide) (by kernel_rfl)
      clear ho hd
      intro K hK
      simp only [List.take, putsT, put_mk, List.setIfInBounds_toArray, List.set_cons_succ, List.set_cons_zero] at hK ⊢
      rw [h7] at hK ⊢
      clear h7
      have HK : Hid _ := hK
      clear hK
      go_wp2_with fail
      refine (cloneBo_any lo ba N bc (List.replicate N false) W (HX.out _ HXW.out).2.2.1 (by omega)).mono ?_
      rintro e w' ⟨x6, y6, rfl, hr, hb1⟩
      go_wp2_with fail
      exact HK.out _ _ hb1 ⟨_, _, rfl, own_low hr HS.out⟩
    case g9 =>
      intro o ho vs W hb hd
      have HBW : Hid (Below w.heap.size w W) := HB2.out.trans (hb.mono HB2.out.size)
      have HS : Hid (W2.heap.size ≤ W.heap.size) := hb.size
      have HXW : Hid (Below W2.heap.size W2 W) := hb
      clear hb
      obtain rfl := Option.some.inj ho
      clear ho hd
      intro K hK
      simp only [List.take, putsT, put_mk, List.setIfInBounds_toArray, List.set_cons_succ, List.set_cons_zero] at hK ⊢
      have HK : Hid _ := hK
      clear hK
      go_wp2_with fail
      exact HK.out _ _ (Below.refl _ _) rfl
    case g10 =>
      intro o ho vs W hb hd
      have HBW : Hid (Below w.heap.size w W) := HB2.out.trans (hb.mono HB2.out.size)
      have HS : Hid (W2.heap.size ≤ W.heap.size) := hb.size
      have HXW : Hid (Below W2.heap.size W2 W) := hb
      clear hb
      obtain rfl := Option.some.inj ho
      have h9 : vs 9 = _ := hd 9 (by decide) (by kernel_rfl)
      clear ho hd
      have hq := (HQ.out _ HXW.out).1
      have c8 := hq.cell 8 rfl
      clear hq
      intro K hK
      simp only [List.take, putsT, put_mk, List.setIfInBounds_toArray, List.set_cons_succ, List.set_cons_zero] at hK ⊢
      rw [h9] at hK ⊢
      clear h9
      have HK : Hid _ := hK
      clear hK
      go_wp2_with fail
      exact HK.out _ _ (Below.refl _ _) rfl
    case g11 =>
      intro o ho vs W hb hd
      have HBW : Hid (Below w.heap.size w W) := HB2.out.trans (hb.mono HB2.out.size)
      have HS : Hid (W2.heap.size ≤ W.heap.size) := hb.size
      have HXW : Hid (Below W2.heap.size W2 W) := hb
      clear hb
      obtain rfl := Option.some.inj ho
      have h10 : vs 10 = _ := hd 10 (by decide) (by kernel_rfl)
      clear ho hd
      intro K hK
      simp only [List.take, putsT, put_mk, List.setIfInBounds_toArray, List.set_cons_succ, List.set_cons_zero] at hK ⊢
      rw [h10] at hK ⊢
      clear h10
      have HK : Hid _ := hK
      clear hK
      go_wp2_with fail
      refine (eachWz_any wa wc _ W).mono ?_
      rintro e w' ⟨⟨x7, y7, rfl⟩, hb1⟩
      go_wp2_with fail
      exact HK.out _ _ hb1 ⟨_, _, rfl⟩
    case g12 =>
      intro o ho vs W hb hd
      have HBW : Hid (Below w.heap.size w W) := HB2.out.trans (hb.mono HB2.out.size)
      have HS : Hid (W2.heap.size ≤ W.heap.size) := hb.size
      have HXW : Hid (Below W2.heap.size W2 W) := hb
      clear hb
      obtain rfl := Option.some.inj ho
      clear ho hd
      intro K hK
      simp only [List.take, putsT, put_mk, List.setIfInBounds_toArray, List.set_cons_succ, List.set_cons_zero] at hK ⊢
      have HK : Hid _ := hK
      clear hK
      go_wp2_with fail
      exact HK.out _ _ (Below.refl _ _) rfl
    case g13 =>
      intro o ho vs W hb hd
      have HBW : Hid (Below w.heap.size w W) := HB2.out.trans (hb.mono HB2.out.size)
      have HS : Hid (W2.heap.size ≤ W.heap.size) := hb.size
      have HXW : Hid (Below W2.heap.size W2 W) := hb
      clear hb
      obtain rfl := Option.some.inj ho
      have h12 : vs 12 = _ := hd 12 (by decide) (by kernel_rfl)
      clear ho hd
      have hq := (HQ.out _ HXW.out).1
      have c9 := hq.cell 9 rfl
      clear hq
      intro K hK
      simp only [List.take, putsT, put_mk, List.setIfInBounds_toArray, List.set_cons_succ, List.set_cons_zero] at hK ⊢
      rw [h12] at hK ⊢
      clear h12
      have HK : Hid _ := hK
      clear hK
      go_wp2_with fail
      exact HK.out _ _ (Below.refl _ _) rfl
    case g14 =>
      intro o ho vs W hb hd
      have HBW : Hid (Below w.heap.size w W) := HB2.out.trans (hb.mono HB2.out.size)
      have HS : Hid (W2.heap.size ≤ W.heap.size) := hb.size
      have HXW : Hid (Below W2.heap.size W2 W) := hb
      clear hb
      obtain rfl := Option.some.inj ho
      have h13 : vs 13 = _ := hd 13 (by decide) (by kernel_rfl)
      clear ho hd
      intro K hK
      simp only [List.take, putsT, put_mk, List.setIfInBounds_toArray, List.set_cons_succ, List.set_cons_zero] at hK ⊢
      rw [h13] at hK ⊢
      clear h13
      have HK : Hid _ := hK
      clear hK
      go_wp2_with fail
      refine (cloneH_any ta 0 tc [] W ⟨rfl, by simp, .inl rfl⟩ (by omega)).mono ?_
      rintro e w' ⟨x8, y8, rfl, _, hb1⟩
      go_wp2_with fail
      exact HK.out _ _ hb1 ⟨_, _, rfl⟩
    case g15 =>
      intro o ho vs W hb hd
      have HBW : Hid (Below w.heap.size w W) := HB2.out.trans (hb.mono HB2.out.size)
      have HS : Hid (W2.heap.size ≤ W.heap.size) := hb.size
      have HXW : Hid (Below W2.heap.size W2 W) := hb
      clear hb
      obtain rfl := Option.some.inj ho
      clear ho hd
      intro K hK
      simp only [List.take, putsT, put_mk, List.setIfInBounds_toArray, List.set_cons_succ, List.set_cons_zero] at hK ⊢
      have HK : Hid _ := hK
      clear hK
      go_wp2_with fail
      exact HK.out _ _ (Below.refl _ _) rfl
    case g16 =>
      intro o ho vs W hb hd
      have HBW : Hid (Below w.heap.size w W) := HB2.out.trans (hb.mono HB2.out.size)
      have HS : Hid (W2.heap.size ≤ W.heap.size) := hb.size
      have HXW : Hid (Below W2.heap.size W2 W) := hb
      clear hb
      obtain rfl := Option.some.inj ho
      have h15 : vs 15 = _ := hd 15 (by decide) (by kernel_rfl)
      clear ho hd
      have hq := (HQ.out _ HXW.out).1
      have c10 := hq.cell 10 rfl
      clear hq
      intro K hK
      simp only [List.take, putsT, put_mk, List.setIfInBounds_toArray, List.set_cons_succ, List.set_cons_zero] at hK ⊢
      rw [h15] at hK ⊢
      clear h15
      have HK : Hid _ := hK
      clear hK
      go_wp2_with fail
      exact HK.out _ _ (Below.refl _ _) rfl
    case g17 =>
      intro o ho vs W hb hd
      have HBW : Hid (Below w.heap.size w W) := HB2.out.trans (hb.mono HB2.out.size)
      have HS : Hid (W2.heap.size ≤ W.heap.size) := hb.size
      have HXW : Hid (Below W2.heap.size W2 W) := hb
      clear hb
      obtain rfl := Option.some.inj ho
      have h16 : vs 16 = _ := hd 16 (by decide) (by kernel_rfl)
      clear ho hd
      intro K hK
      simp only [List.take, putsT, put_mk, List.setIfInBounds_toArray, List.set_cons_succ, List.set_cons_zero] at hK ⊢
      rw [h16] at hK ⊢
      clear h16
      have HK : Hid _ := hK
      clear hK
      go_wp2_with fail
      refine (cloneIn_any lo za N zc (List.replicate N (-1)) W (HX.out _ HXW.out).2.2.2 (by omega)).mono ?_
      rintro e w' ⟨x9, y9, rfl, hr, hb1⟩
      go_wp2_with fail
      exact HK.out _ _ hb1 ⟨_, _, rfl, own_low hr HS.out⟩
    case g18 =>
      intro o ho vs W hb hd
      have HBW : Hid (Below w.heap.size w W) := HB2.out.trans (hb.mono HB2.out.size)
      have HS : Hid (W2.heap.size ≤ W.heap.size) := hb.size
      have HXW : Hid (Below W2.heap.size W2 W) := hb
      clear hb
      obtain rfl := Option.some.inj ho
      obtain ⟨x1, y1, x2, y2, x3, y3, x4, y4, h2, hs⟩ := hd 2 (by decide) (by kernel_rfl)
      obtain ⟨x5, y5, l2, h5, hr, hm⟩ := hd 5 (by decide) (by kernel_rfl)
      obtain ⟨x6, y6, h8, hbo⟩ := hd 8 (by decide) (by kernel_rfl)
      obtain ⟨x7, y7, h11⟩ := hd 11 (by decide) (by kernel_rfl)
      obtain ⟨x8, y8, h14⟩ := hd 14 (by decide) (by kernel_rfl)
      obtain ⟨x9, y9, h17, hio⟩ := hd 17 (by decide) (by kernel_rfl)
      clear ho hd
      have HA : Hid (WdAt W W2.heap.size M x1 y1 x2 y2 x3 y3 x5 y5 x6 y6 x9 y9 N l2) := ⟨hs, hr, HLen.out l2 hm, hbo, hio⟩
      clear hs hr hbo hio
      intro K hK
      simp only [List.take, putsT, put_mk, List.setIfInBounds_toArray, List.set_cons_succ, List.set_cons_zero] at hK ⊢
      rw [h2, h5, h8, h11, h14, h17] at hK ⊢
      clear h2 h5 h8 h11 h14 h17
      have HK : Hid _ := hK
      clear hK
      go_wp2_with fail
      exact HK.out _ _ (Below.refl _ _) ⟨_, _, _, _, _, _, _, _, _, _, _, _, _, _, _, _, _, _, _, rfl, HA.out, hm⟩
  intro vs W hb hd
  have HBW : Hid (Below w.heap.size w W) := HB2.out.trans (hb.mono HB2.out.size)
  have HS : Hid (W2.heap.size ≤ W.heap.size) := hb.size
  have HXW : Hid (Below W2.heap.size W2 W) := hb
  clear hb
  simp only [List.take, List.drop, putsT, put_mk, List.setIfInBounds_toArray, List.set_cons_succ, List.set_cons_zero]
  obtain ⟨x1, y1, x2, y2, x3, y3, x4, y4, x5, y5, l2, x6, y6, x7, y7, x8, y8, x9, y9, h18, hS, hM2⟩ := hd 18 (by decide)
  have h18 : vs 18 = _ := h18
  rw [h18]
  clear h18 hd HS
  have HW : Hid (WdAt W W2.heap.size M x1 y1 x2 y2 x3 y3 x5 y5 x6 y6 x9 y9 N l2) := hS
  have HM : Hid (l2.map CE.u = l.map CE.u) := hM2
  have hqr := (HQ.out _ HXW.out).2
  have HRs : Hid (BoxN W (w.heap.size + 1) 38 [.slice none 0 0, .slice none 0 0, .int .i64 0, .int .i64 0, .slice none 0 0, .slice none 0 0, .slice none 0 0, .slice none 0 0, .slice none 0 0, .slice none 0 0, .slice none 0 0]) := hqr
  have r0 := hqr.cell 0 rfl
  have f0 := hqr.frozen 0
  have r1 := hqr.cell 1 rfl
  have f1 := hqr.frozen 1
  have r2 := hqr.cell 2 rfl
  have f2 := hqr.frozen 2
  have r3 := hqr.cell 3 rfl
  have f3 := hqr.frozen 3
  have r4 := hqr.cell 4 rfl
  have f4 := hqr.frozen 4
  have r5 := hqr.cell 5 rfl
  have f5 := hqr.frozen 5
  have r6 := hqr.cell 6 rfl
  have f6 := hqr.frozen 6
  have r7 := hqr.cell 7 rfl
  have f7 := hqr.frozen 7
  have r8 := hqr.cell 8 rfl
  have f8 := hqr.frozen 8
  have r9 := hqr.cell 9 rfl
  have f9 := hqr.frozen 9
  have r10 := hqr.cell 10 rfl
  have f10 := hqr.frozen 10
  clear hqr hS hM2 HXW HQ HX
  go_wp2_with fail
  refine bodyPost_ret (v := .agg #[.slice x1 M y1, .slice x2 M y2, .int .i64 0, .int .i64 0, .slice x3 0 y3, .slice x4 0 y4, .slice x5 N y5, .slice x6 N y6, .slice x7 0 y7, .slice x8 0 y8, .slice x9 N y9]) (by simp [results, Tryz.f21, go_sem, r0, r1, r2, r3, r4, r5, r6, r7, r8, r9, r10]) rfl ?_
  have hk : ∀ t, t ≠ 38 → KeptE t W (((((((((((W.setCell ⟨w.heap.size + 1, 0, none⟩ (.slice x1 M y1)).setCell ⟨w.heap.size + 1, 1, none⟩ (.slice x2 M y2)).setCell ⟨w.heap.size + 1, 2, none⟩ (.int .i64 0)).setCell ⟨w.heap.size + 1, 3, none⟩ (.int .i64 0)).setCell ⟨w.heap.size + 1, 4, none⟩ (.slice x3 0 y3)).setCell ⟨w.heap.size + 1, 5, none⟩ (.slice x4 0 y4)).setCell ⟨w.heap.size + 1, 6, none⟩ (.slice x5 N y5)).setCell ⟨w.heap.size + 1, 7, none⟩ (.slice x6 N y6)).setCell ⟨w.heap.size + 1, 8, none⟩ (.slice x7 0 y7)).setCell ⟨w.heap.size + 1, 9, none⟩ (.slice x8 0 y8)).setCell ⟨w.heap.size + 1, 10, none⟩ (.slice x9 N y9)) := fun t ht => kept_eleven HRs.out (Ne.symm ht) _ _ _ _ _ _ _ _ _ _ _ 
  refine ⟨⟨_, rfl, x1, y1, x2, y2, x3, y3, x4, y4, x5, y5, x6, y6, x7, y7, x8, y8, x9, y9, N, l2, rfl, ?_, HM.out, by rw [List.length_map]; exact HLn.out.1⟩, (((((((((((HBW.out.setCell (by dsimp only; omega) _).setCell (by dsimp only; omega) _).setCell (by dsimp only; omega) _).setCell (by dsimp only; omega) _).setCell (by dsimp only; omega) _).setCell (by dsimp only; omega) _).setCell (by dsimp only; omega) _).setCell (by dsimp only; omega) _).setCell (by dsimp only; omega) _).setCell (by dsimp only; omega) _).setCell (by dsimp only; omega) _)⟩
  exact WdAt.low ⟨HW.out.sto.keptE (hk _ (by decide)) (hk _ (by decide)) (hk _ (by decide)), HW.out.cls.keptE (hk _ (by decide)) (hk _ (by decide)), HW.out.len, ownsRow_keptE HW.out.busy (hk _ (by decide)), ownsRow_keptE HW.out.best (hk _ (by decide))⟩ (by omega)

end Go.Proofs.YtemcjenpgdieoaaGreatDoor

namespace Go.Proofs.YtemcjenpgdieoaaGreatDoor
open Go.RowKit
set_option linter.unusedVariables false

set_option maxRecDepth 10000 in
set_option maxHeartbeats 1600000 in
theorem specClOk_any (id : ByteArray) (a : Option Addr) (n ca : Nat) (st off : Int) (w : World) (hi : id.size ≤ maxLen) (hn : n ≤ 1099511627776) :
    Calls Tryz.prog 80 #[.agg #[.string id, .slice a n ca, .int .i64 st, .int .i64 off]] w fun e w' => e = .returned (.bool (okC id n st off)) ∧ Below w.heap.size w w' := by
  have HR : Hid (okC id n st off = (idB id.data.toList && decide (n ≤ 400) && decide (1 ≤ st ∧ st ≤ 6) && decide (0 ≤ off ∧ off ≤ (n : Int)))) := rfl
  have hmm : maxLen < 9223372036854775808 := by decide
  obtain ⟨w0, hw0⟩ : ∃ w0, w.alloc (.cells #[.string id, .slice a n ca, .int .i64 st, .int .i64 off] 51) = w0 := ⟨_, rfl⟩
  have HE : Hid (w.alloc (.cells #[.string id, .slice a n ca, .int .i64 st, .int .i64 off] 51) = w0) := hw0
  have HQ0 : Hid (BoxN w0 w.heap.size 51 [.string id, .slice a n ca, .int .i64 st, .int .i64 off]) := by show BoxN _ _ _ _; rw [← hw0]; exact BoxN.new _ _ _
  have HB : Hid (Below w.heap.size w w0) := by show Below _ _ _; rw [← hw0]; exact (Below.refl _ _).alloc (Nat.le_refl _) _
  clear hw0
  obtain ⟨c0, c1, c2, c3⟩ := (show _ ∧ _ ∧ _ ∧ _ from ⟨HQ0.out.cell 0 rfl, HQ0.out.cell 1 rfl, HQ0.out.cell 2 rfl, HQ0.out.cell 3 rfl⟩)
  go_enter Tryz.func80, Tryz.ntmps80
  go_upto_region 1 with fail
  rw [HE.out]
  clear HE
  go_wp2_with fail
  refine (specId_any id _ (by omega)).mono ?_
  rintro e w2 ⟨rfl, hw2⟩
  subst hw2
  generalize idB id.data.toList = b1 at *
  cases b1
  · go_wp2_with fail
    go_ret
    exact ⟨ret_bool (by rw [HR.out]; rfl), HB.out⟩
  by_cases hn4 : n ≤ 400
  case neg =>
    have HF : Hid (okC id n st off = false) := by show _ = _; rw [HR.out, decide_eq_false hn4]; rfl
    have h4 : ¬ (n : Int) ≤ 400 := by omega
    clear hn4
    go_wp2_with fail
    go_ret
    exact ⟨ret_bool HF.out.symm, HB.out⟩
  have HR2 : Hid (okC id n st off = (decide (1 ≤ st ∧ st ≤ 6) && decide (0 ≤ off ∧ off ≤ (n : Int)))) := by show _ = _; rw [HR.out, decide_eq_true hn4]; rfl
  have h4 : (n : Int) ≤ 400 := by omega
  clear HR hn4
  go_wp2_with fail
  refine (l1In_any st 1 6 _).mono ?_
  rintro e w3 ⟨rfl, hw3⟩
  subst hw3
  generalize decide (1 ≤ st ∧ st ≤ 6) = b2 at *
  cases b2
  · go_wp2_with fail
    go_ret
    exact ⟨ret_bool (by rw [HR2.out]; rfl), HB.out⟩
  go_wp2_with fail
  refine (l1In_any off 0 (n : Int) _).mono ?_
  rintro e w4 ⟨rfl, hw4⟩
  subst hw4
  generalize decide (0 ≤ off ∧ off ≤ (n : Int)) = b3 at *
  go_wp2_with fail
  go_ret
  exact ⟨ret_bool (by rw [HR2.out]; rfl), HB.out⟩

end Go.Proofs.YtemcjenpgdieoaaGreatDoor

namespace Go.Proofs.YtemcjenpgdieoaaGreatDoor
open Go.RowKit
set_option linter.unusedVariables false

set_option maxRecDepth 10000 in
set_option maxHeartbeats 1600000 in
theorem specCls_any (a0 a1 ua ha ca ba wa ta za : Option Addr) (n0 c0 n1 c1 un uc hn hc cn cc bc wn wc tn tc zc : Nat) (ep nx : Int) (lo : Nat) (l : List CE) (w : World) (h : ClRow w lo (.slice ca cn cc) l) (hcn : cn = l.length) (hl : cn ≤ 1048576) (hz : ∀ e ∈ l, e.u.id.size ≤ maxLen ∧ e.n ≤ 1048576) :
    Calls Tryz.prog 44 #[.agg #[.slice a0 n0 c0, .slice a1 n1 c1, .int .i64 ep, .int .i64 nx, .slice ua un uc, .slice ha hn hc, .slice ca cn cc, .slice ba cn bc, .slice wa wn wc, .slice ta tn tc, .slice za cn zc]] w fun e w' => e = .returned (.bool (clsB (l.map CE.u))) ∧ Below w.heap.size w w' := by
  obtain ⟨w0, hw0⟩ : ∃ w0, w.alloc (.cells #[.slice a0 n0 c0, .slice a1 n1 c1, .int .i64 ep, .int .i64 nx, .slice ua un uc, .slice ha hn hc, .slice ca cn cc, .slice ba cn bc, .slice wa wn wc, .slice ta tn tc, .slice za cn zc] 38) = w0 := ⟨_, rfl⟩
  have HE : Hid (w.alloc (.cells #[.slice a0 n0 c0, .slice a1 n1 c1, .int .i64 ep, .int .i64 nx, .slice ua un uc, .slice ha hn hc, .slice ca cn cc, .slice ba cn bc, .slice wa wn wc, .slice ta tn tc, .slice za cn zc] 38) = w0) := hw0
  have hB : Below w.heap.size w w0 := by rw [← hw0]; exact (Below.refl _ _).alloc (Nat.le_refl _) _
  have hQ : BoxN w0 w.heap.size 38 [.slice a0 n0 c0, .slice a1 n1 c1, .int .i64 ep, .int .i64 nx, .slice ua un uc, .slice ha hn hc, .slice ca cn cc, .slice ba cn bc, .slice wa wn wc, .slice ta tn tc, .slice za cn zc] := by rw [← hw0]; exact BoxN.new _ _ _
  have HX : Hid (∀ W, Below w0.heap.size w0 W → BoxN W w.heap.size 38 [.slice a0 n0 c0, .slice a1 n1 c1, .int .i64 ep, .int .i64 nx, .slice ua un uc, .slice ha hn hc, .slice ca cn cc, .slice ba cn bc, .slice wa wn wc, .slice ta tn tc, .slice za cn zc] ∧ ClRow W lo (.slice ca cn cc) l ∧ Below w.heap.size w W) := fun W hb => ⟨hQ.stays hb, (h.stays hB).stays hb, hB.trans (hb.mono hB.size)⟩
  have HZ : Hid (cn = l.length ∧ ∀ e ∈ l, e.u.id.size ≤ maxLen ∧ e.n ≤ 1048576) := ⟨hcn, hz⟩
  have HL : Hid (∀ e ∈ l, e.n = e.u.zs.length) := h.len
  have HA0 : Hid (Below w0.heap.size w0 w0) := Below.refl _ _
  clear hw0 hB hQ h hcn hz
  have c6 := (HX.out _ HA0.out).1.cell 6 rfl
  go_enter Tryz.func44, Tryz.ntmps44
  go_upto_region 1 with fail
  rw [HE.out]
  clear HE
  go_wp2_with fail
  clear c6
  go_loopw [4] (fun v wr => ∃ k : Nat, k ≤ cn ∧ v = .int .i64 k ∧ Hid (Below w0.heap.size w0 wr) ∧ Hid (∀ j, j < k → oneOk (l.map CE.u) j)) (fun v _ => cn - (intOf v).toNat)
  case atStart => exact ⟨0, Nat.zero_le _, rfl, HA0, fun j hj => absurd hj (Nat.not_lt_zero _)⟩
  case round =>
    clear HA0
    obtain ⟨k, hk, rfl, HB, HJ⟩ := hrel
    by_cases hlt : k < cn
    · have hkl : k < l.length := by rw [← HZ.out.1]; exact hlt
      have hkm : k < (l.map CE.u).length := by rw [List.length_map]; exact hkl
      have hki : (k : Int) < (cn : Int) := by omega
      have hk0 : (0 : Int) ≤ (k : Int) := by omega
      have hz2 := HZ.out.2 _ (List.getElem_mem hkl)
      have hln := HL.out _ (List.getElem_mem hkl)
      have hgm : (l.map CE.u)[k] = (l[k]).u := by simp
      have HOk : Hid (okCu (l[k]).u = okC (l[k]).u.id (l[k]).n (l[k]).u.st (l[k]).u.off) := by show _ = _; rw [okCu, hln]
      have HBad : Hid (okCu (l[k]).u = false → clsB (l.map CE.u) = false) := fun h => clsB_not hkm (oneOk_bad hkm (by rw [hgm]; exact h))
      have HTw : Hid (∀ j (hj : j < l.length), j < k → (l[j]).u.id = (l[k]).u.id → clsB (l.map CE.u) = false) := fun j hj hjk he => clsB_not hkm (oneOk_twice hkm (atC_take_some (l := l.map CE.u) (k := j) (by rw [List.length_map]; exact hj) hjk (by rw [hgm]; simpa using he)))
      have HYes : Hid (okCu (l[k]).u = true → (∀ j (hj : j < l.length), j < k → (l[j]).u.id ≠ (l[k]).u.id) → ∀ j, j < k + 1 → oneOk (l.map CE.u) j) := fun h h2 j hj => by
        by_cases e : j = k
        · subst e
          exact oneOk_yes hkm (by rw [hgm]; exact h) (by rw [hgm]; exact atC_take_none (fun i hi hik => by have := h2 i (by simpa using hi) hik; simpa using this))
        · exact HJ.out j (by omega)
      have HAt : Hid (∀ W, Below w0.heap.size w0 W → ∃ g, ca = some ⟨g, 0, none⟩ ∧ W.cell? ⟨g, k * 4, none⟩ = some (.string (l[k]).u.id) ∧ W.cell? ⟨g, k * 4 + 2, none⟩ = some (.int .i64 (l[k]).u.st) ∧ W.cell? ⟨g, k * 4 + 1, none⟩ = some (.slice (l[k]).a (l[k]).n (l[k]).c) ∧ W.cell? ⟨g, k * 4 + 3, none⟩ = some (.int .i64 (l[k]).u.off)) := fun W hb => by
        obtain ⟨g, e, g0, g1, g2, g3, _⟩ := (HX.out W hb).2.1.at HZ.out.1 hkl
        exact ⟨g, e, g0, g1, g2, g3⟩
      clear hgm hkm hln HJ
      generalize l[k] = x at *
      obtain ⟨g, rfl, g0, g1, g2, g3⟩ := HAt.out _ HB.out
      have c6 := (HX.out _ HB.out).1.cell 6 rfl
      cases hok : okCu x.u
      case false =>
        have HF : Hid (clsB (l.map CE.u) = false) := HBad.out hok
        have HOk2 : Hid (okC x.u.id x.n x.u.st x.u.off = false) := by show _ = _; rw [← HOk.out]; exact hok
        clear HTw HYes HBad HOk hok HAt
        go_wp2_with fail
        refine (specClOk_any x.u.id x.a x.n x.c x.u.st x.u.off _ hz2.1 (by omega)).mono ?_
        rintro e w1 ⟨rfl, hb1⟩
        have HB1 : Hid (Below w.heap.size w w1) := (HX.out _ (HB.out.trans (hb1.mono HB.out.size))).2.2
        rw [HOk2.out]
        clear hb1
        go_wp2_with fail
        go_ret
        exact ⟨by rw [HF.out]; rfl, HB1.out⟩
      case true =>
        have HOk2 : Hid (okC x.u.id x.n x.u.st x.u.off = true) := by show _ = _; rw [← HOk.out]; exact hok
        have HY2 := HYes.out hok
        have HY : Hid ((∀ j (hj : j < l.length), j < k → (l[j]).u.id ≠ x.u.id) → ∀ j, j < k + 1 → oneOk (l.map CE.u) j) := HY2
        clear HYes HY2 HBad HOk hok
        go_wp2_with fail
        refine (specClOk_any x.u.id x.a x.n x.c x.u.st x.u.off _ hz2.1 (by omega)).mono ?_
        rintro e w1 ⟨rfl, hb1⟩
        have HB1 : Hid (Below w0.heap.size w0 w1) := HB.out.trans (hb1.mono HB.out.size)
        rw [HOk2.out]
        clear hb1 g0 g1 g2 g3 c6 HOk2
        go_wp2_with fail
        go_loopw [5] (fun v wr => ∃ m : Nat, m ≤ k ∧ v = .int .i64 m ∧ Hid (Below w0.heap.size w0 wr) ∧ Hid (∀ j (hj : j < l.length), j < m → (l[j]).u.id ≠ x.u.id)) (fun v _ => k - (intOf v).toNat)
        case atStart => exact ⟨0, Nat.zero_le _, rfl, HB1, fun j _ hj => absurd hj (Nat.not_lt_zero _)⟩
        case round =>
          clear HB1
          obtain ⟨m, hm, rfl, HB2, HM⟩ := hrel
          by_cases hmk : m < k
          · have hml : m < l.length := by omega
            have hmi : (m : Int) < (k : Int) := by omega
            have hmn : (m : Int) < (cn : Int) := by omega
            have hm0 : (0 : Int) ≤ (m : Int) := by omega
            have g0 : ∀ P : Past wr, P.world.cell? ⟨g, k * 4, none⟩ = some (.string x.u.id) := fun P => by
              obtain ⟨g', hg', g0, _⟩ := HAt.out _ (HB2.out.trans (P.below.mono HB2.out.size))
              injection hg' with hg'
              injection hg' with hg'
              subst hg'
              exact g0
            have m0 : ∀ P : Past wr, P.world.cell? ⟨g, m * 4, none⟩ = some (.string (l[m]).u.id) := fun P => by
              obtain ⟨g', hg', m0, _⟩ := (HX.out _ (HB2.out.trans (P.below.mono HB2.out.size))).2.1.at HZ.out.1 hml
              injection hg' with hg'
              injection hg' with hg'
              subst hg'
              exact m0
            have c6 : ∀ P : Past wr, P.world.cell? ⟨w.heap.size, 6, none⟩ = some (.slice (some ⟨g, 0, none⟩) cn cc) := fun P => (HX.out _ (HB2.out.trans (P.below.mono HB2.out.size))).1.cell 6 rfl
            have hnp := past_some wr
            have he := ids_eq (l[m]).u.id x.u.id
            by_cases hid : (l[m]).u.id = x.u.id
            · rw [decide_eq_true hid] at he
              have HF : Hid (clsB (l.map CE.u) = false) := HTw.out m hml hmk hid
              have HB3 : Hid (Below w.heap.size w wr) := (HX.out _ HB2.out).2.2
              clear hid HM HY HTw HAt
              generalize l[m] = y at *
              go_wp2_with fail
              refine wp_region_past (by kernel_rfl) (by kernel_rfl) ?_
              repeat (quiet_step (fail))
              refine wpQuiet_nil ?_
              rintro _ ⟨z, rfl⟩
              have HB4 : Hid (Below w.heap.size w z.world) := HB3.out.trans (z.below.mono HB3.out.size)
              go_wp2_with fail
              go_ret
              exact ⟨by rw [HF.out]; rfl, HB4.out⟩
            · rw [decide_eq_false hid] at he
              have HM2 : Hid (∀ j (hj : j < l.length), j < m + 1 → (l[j]).u.id ≠ x.u.id) := fun j hj hjm => by
                by_cases e : j = m
                · subst e; exact hid
                · exact HM.out j hj (by omega)
              clear hid HM HY HTw HAt
              generalize l[m] = y at *
              go_wp2_with fail
              refine wp_region_past (by kernel_rfl) (by kernel_rfl) ?_
              repeat (quiet_step (fail))
              refine wpQuiet_nil ?_
              rintro _ ⟨z, rfl⟩
              have HB3 : Hid (Below w0.heap.size w0 z.world) := HB2.out.trans (z.below.mono HB2.out.size)
              go_wp2_with fail
              go_roundw
              case rel => exact ⟨m + 1, by omega, by go_num, HB3, HM2⟩
              case measure => simp [intOf]; omega
          · have HJ2 : Hid (∀ j, j < k + 1 → oneOk (l.map CE.u) j) := HY.out (fun j hj hjk => HM.out j hj (by omega))
            clear HM HY HTw HAt
            have hmk2 : (m : Int) = (k : Int) := by omega
            have hmeq : m = k := by omega
            subst hmeq
            go_wp2_with fail
            go_roundw
            case rel => exact ⟨m + 1, by omega, by go_num, HB2, HJ2⟩
            case measure => simp [intOf]; omega
    · have HF : Hid (clsB (l.map CE.u) = decide (cn ≤ 6)) := by
        show _ = _
        rw [clsB_len (fun i hi => HJ.out i (by rw [List.length_map, ← HZ.out.1] at hi; omega)), List.length_map, ← HZ.out.1]
      have HBw : Hid (Below w.heap.size w wr) := (HX.out _ HB.out).2.2
      obtain rfl : k = cn := by omega
      have c7 := (HX.out _ HB.out).1.cell 7 rfl
      have c10 := (HX.out _ HB.out).1.cell 10 rfl
      clear HJ
      by_cases h6 : k ≤ 6
      · have h6i : (k : Int) ≤ 6 := by omega
        rw [decide_eq_true h6] at HF
        go_wp2_with fail
        go_ret
        exact ⟨by rw [HF.out]; rfl, HBw.out⟩
      · have h6i : ¬ (k : Int) ≤ 6 := by omega
        rw [decide_eq_false h6] at HF
        go_wp2_with fail
        go_ret
        exact ⟨by rw [HF.out]; rfl, HBw.out⟩

end Go.Proofs.YtemcjenpgdieoaaGreatDoor
