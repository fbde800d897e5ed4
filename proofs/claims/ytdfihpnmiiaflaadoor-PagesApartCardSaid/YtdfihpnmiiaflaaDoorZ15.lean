/- Texts of this claim, one behind the other: PPg, PPs, PNm0. -/
import Derived.Test.YtdfihpnmiiaflaaDoorZ14
import Derived.Test.YtdfihpnmiiaflaaDoorZ11
set_option linter.unusedSimpArgs false
set_option linter.unusedVariables false
section
/- A page file: Keep. -/
namespace Go.Proofs.YtdfihpnmiiaflaaDoor
set_option maxRecDepth 8192
set_option linter.unusedSimpArgs false
set_option linter.unusedVariables false
open Go.RowKit Go.Maps

section
variable {w w' : World} {q g p s m : Nat} {B : List UInt8} {C : Ca} {W : List Nat} {U : List Bool}
/-- Are they all in use? -/
def allU (U : List Bool) (l : List Int) : Prop := ∀ u ∈ l, 0 ≤ u ∧ U.getD u.toNat false = true
theorem keep_any (h : Pg w q g p s m B C W U) {A : Option Addr} {n c : Nat} {l : List Int} (hl : Zi w w.heap.size A n c l) (hn : n ≤ 1048576) :
    Calls Tryd.prog 11 #[ptr q, .slice A n c] w fun e w' =>
      (allU U l → ∃ g' W', e = .returned (.tuple #[.int .i64 ((U.count true : Int) - ((setL (List.replicate U.length false) l).count true : Int)), .int .i64 0]) ∧ Pg w' q g' p s m B C W' (setL (List.replicate U.length false) l) ∧ w.heap.size ≤ g') ∧
      (¬ allU U l → e = .returned (.tuple #[.int .i64 0, .int .i64 6]) ∧ Below w.heap.size w w') ∧ Kp (· = q) w w' := by
  have HM := Lib.hid (made_pg h)
  have HG := Lib.hid h
  have HL := Lib.hid hl
  have hcap := hl.2.1
  have c1 := h.c1
  have c2 := h.c2
  have hul := h.ul
  have HQ := Lib.hid h.qlt
  have h2 := h.hd.plt; have h3 := h.hd.slt; have h4 := h.hd.mlt; have h5 := h.hb.lt
  clear h hl
  have HN := Lib.hid (newb w U.length (by omega))
  have HB1 := Lib.hid (bl_alloc (bl0 w) (.cells (cN (List.replicate ((U.length + 63) / 64) 0)).toArray 78))
  have HW1 := Lib.hid (Bk.new w (cN (List.replicate ((U.length + 63) / 64) 0)) 78)
  have HW2 := Lib.hid (Bw.none U.length)
  have hrl : (List.replicate ((U.length + 63) / 64) 0).length = (U.length + 63) / 64 := by simp
  generalize List.replicate ((U.length + 63) / 64) 0 = W0 at *
  obtain ⟨M, hM⟩ : ∃ M, M = (U.length + 63) / 64 := ⟨_, rfl⟩
  rw [← hM] at HN hrl
  have hM8 : M ≤ 16384 := by omega
  have HMM := Lib.hid hM
  have HRL := Lib.hid (show (List.replicate U.length false).length = U.length by simp)
  generalize List.replicate U.length false = U0 at *
  clear hM
  go_enter Tryd.func11, Tryd.ntmps11
  go_wp2_with (first | (go_at_call 29; refine HM.out.mono ?_; rintro e w' ⟨rfl, hw⟩; subst w') | (go_at_call 27; refine HN.out.mono ?_; rintro e w' ⟨rfl, hw⟩; subst w'))
  clear c1 c2
  go_loopw [20] (fun vi wr => ∃ i : Nat, i ≤ n ∧ vi = .int .i64 (i : Int) ∧ Hid (allU U (l.take i)) ∧ ∃ W, Hid (Bk wr w.heap.size (cN W)) ∧ Hid (Bw W (setL U0 (l.take i))) ∧ Hid (Below w.heap.size w wr)) (fun vi _ => n - (RowKit.intOf vi).toNat)
  case atStart => exact ⟨0, by omega, rfl, Lib.hid (fun u hu => by simp at hu), W0, HW1, by simpa [setL] using HW2, HB1⟩
  case round =>
    obtain ⟨i, hi, rfl, HI, W', HK, HW, HB⟩ := hrel
    have HGr := Lib.hid (HG.out.old HB.out)
    have c2 := HGr.out.c2
    by_cases hlt : i < n
    · obtain ⟨ad, u, rfl, hu, hcu, hu1, hu2⟩ := (HL.out.below HB.out).at_ hlt
      have hcu' : wr.cell? (ad.add i) = some (.int .i64 u) := hcu
      by_cases hin : 0 ≤ u ∧ U.getD u.toNat false = true
      · obtain ⟨v, rfl⟩ : ∃ v : Nat, u = (v : Int) := ⟨u.toNat, by omega⟩
        have hv : v < U.length := used_lt hin.2
        have HH := Lib.hid (has_yes HGr.out v hin.2)
        have hsl := setL_length (l.take i) U0
        have hWM : W'.length = M := by rw [HW.out.len, hsl, HRL.out, HMM.out]
        have HA := add_b HK.out HW.out (by omega) v (by rw [hsl, HRL.out]; exact hv)
        rw [hWM] at HA
        have HA := Lib.hid HA
        have HAW := Lib.hid (HW.out.add (i := v) (by rw [hsl, HRL.out]; exact hv))
        have HT := Lib.hid (setL_take (U := U0) hu)
        have HI2 : Hid (allU U (l.take (i + 1))) := Lib.hid (by
          intro x hx
          have hlt2 := (List.getElem?_eq_some_iff.1 hu).1
          rw [List.take_succ_eq_append_getElem hlt2, (List.getElem?_eq_some_iff.1 hu).2] at hx
          rcases List.mem_append.1 hx with h | h
          · exact HI.out x h
          · simp at h; subst h; exact hin)
        clear hu hin hcu hsl hWM
        go_wp2_with (first | (go_at_call 30; refine HH.out.mono ?_; rintro e w' ⟨rfl, hw⟩; subst w') | (go_at_call 28; refine HA.out.mono ?_; rintro e w' ⟨rfl, hk2, ho2⟩; have HK2 := Lib.hid hk2; have HO2 := Lib.hid ho2; clear hk2 ho2))
        go_roundw
        case rel => exact ⟨i + 1, by omega, by go_num, HI2, _, HK2, Lib.hid (by rw [HT.out]; exact HAW.out), Lib.hid (HB.out.trans (HO2.out.below HB.out.size (fun x e => by omega)))⟩
        case measure => simp [RowKit.intOf]; omega
      · have HNI : Hid (¬ allU U l) := Lib.hid (fun h => hin (h u (List.mem_of_getElem? hu)))
        have HH := Lib.hid (has_not HGr.out u hu1 hu2 hin)
        clear hu hin
        go_wp2_with (first | (go_at_call 30; refine HH.out.mono ?_; rintro e w' ⟨rfl, hw⟩; subst w'))
        go_ret2
        exact ⟨fun h => absurd h HNI.out, fun _ => ⟨rfl, HB.out⟩, Kp.of_old HB.out⟩
    · obtain rfl : i = n := by omega
      have HLl := HL.out.1
      rw [List.take_of_length_le (by omega)] at HI HW
      have hsl := setL_length l U0
      have hWM : W'.length = M := by rw [HW.out.len, hsl, HRL.out, HMM.out]
      have HWM := Lib.hid hWM
      have HSL := Lib.hid hsl
      have hlow : w.heap.size < wr.heap.size := HK.out.lt
      have HS1 := size_b HGr.out.hb HGr.out.hW.lt (by have := HGr.out.wl; omega)
      rw [HGr.out.hW.count] at HS1
      have HS1 := Lib.hid HS1
      have HS2 := size_b HK.out HW.out.lt (by omega)
      rw [HW.out.count, hWM] at HS2
      have HS2 := Lib.hid HS2
      have hc1 := List.count_le_length (a := true) (l := U)
      have hc2 := List.count_le_length (a := true) (l := setL U0 l)
      rw [hsl, HRL.out] at hc2
      have hfr : wr.frozen? ⟨q, 2, none⟩ = false := by
        have := HGr.out.hq
        simp [World.frozen?, this]
      clear hsl hWM HLl
      generalize hgc : U.count true = a1 at *
      generalize hgc2 : (setL U0 l).count true = a2 at *
      have HC2 := Lib.hid hgc2
      have HC1 := Lib.hid hgc
      clear hgc hgc2
      go_wp2_with fail
      refine HS1.out.mono ?_; rintro e w' ⟨rfl, hw⟩; subst w'
      go_wp2_with fail
      refine HS2.out.mono ?_; rintro e w' ⟨rfl, hw⟩; subst w'
      go_wp2
      go_ret2
      have hk2 : Kp (· = q) wr (wr.setCell ⟨q, 2, none⟩ (bmv w.heap.size M)) := Kp.of_only (Only.set _ _ _)
      have hqr := HGr.out.hq
      refine ⟨fun _ => ⟨w.heap.size, W', by rw [HC1.out, HC2.out]; rfl, ⟨?_, HGr.out.hd.kp hk2 (fun e => HGr.out.qp e.symm) (fun e => HGr.out.qs e.symm) (fun e => HGr.out.qm e.symm), ?_, HW.out, ?_, HGr.out.qp, HGr.out.qs, HGr.out.qm, by have := HQ.out; omega, by omega, by omega, by omega⟩, Nat.le_refl _⟩, fun h => absurd HI.out h, (Kp.of_old HB.out).trans hk2⟩
      · rw [heap_setCell_same wr q 2 _ 67 _ hqr, HSL.out, HRL.out, HWM.out]
        rfl
      · obtain ⟨t, h⟩ := HK.out
        exact ⟨t, (hk2.block _ HK.out.lt (by have := HQ.out; omega)).trans h⟩
      · rw [HSL.out, HRL.out]
        exact HGr.out.hn
end
end Go.Proofs.YtdfihpnmiiaflaaDoor
end
section
/- A page file that a law has made: all of its blocks are the law's own. The chapter's examples live. -/
namespace Go.Proofs.YtdfihpnmiiaflaaDoor
set_option maxRecDepth 8192
set_option linter.unusedSimpArgs false
set_option linter.unusedVariables false
open Go.RowKit Go.Maps

structure Ps (w0 w : World) (q g p s m : Nat) (B : List UInt8) (C : Ca) (U : List Bool) : Prop where
  ex : ∃ W, Pg w q g p s m B C W U
  tab : Tab w0
  bl : Below w0.heap.size w0 w
  lq : w0.heap.size ≤ q
  lg : w0.heap.size ≤ g
  lp : w0.heap.size ≤ p
  ls : w0.heap.size ≤ s
  lm : w0.heap.size ≤ m
section
variable {w0 w w' : World} {q g p s m : Nat} {B B' : List UInt8} {C C' : Ca} {U U' : List Bool}
theorem Ps.tabw (h : Ps w0 w q g p s m B C U) : Tab w := h.tab.below h.bl h.tab.pos
theorem Ps.old (h : Ps w0 w q g p s m B C U) (hb : Below w.heap.size w w') : Ps w0 w' q g p s m B C U :=
  ⟨by obtain ⟨W, hW⟩ := h.ex; exact ⟨W, hW.old hb⟩, h.tab, bl_call h.bl hb, h.lq, h.lg, h.lp, h.ls, h.lm⟩
theorem Ps.step {may : Nat → Prop} {g' q' : Nat} (h : Ps w0 w q g p s m B C U) (hg : ∃ W, Pg w' q' g' p s m B' C' W U') (hk : Kp may w w') (hm : ∀ x, may x → w0.heap.size ≤ x) (hq : w0.heap.size ≤ q') (hg2 : w0.heap.size ≤ g') : Ps w0 w' q' g' p s m B' C' U' :=
  ⟨hg, h.tab, bl_kp h.bl hk hm, hq, hg2, h.lp, h.ls, h.lm⟩
theorem Ps.kp {may : Nat → Prop} (h : Ps w0 w q g p s m B C U) (hk : Kp may w w') (hm : ∀ x, may x → w0.heap.size ≤ x) (h1 : ¬ may q) (h2 : ¬ may g) (h3 : ¬ may p) (h4 : ¬ may s) (h5 : ¬ may m) : Ps w0 w' q g p s m B C U :=
  h.step (by obtain ⟨W, hW⟩ := h.ex; exact ⟨W, hW.kp hk h1 h2 h3 h4 h5⟩) hk hm h.lq h.lg
theorem Ps.drew (h : Ps w0 w q g p s m B C U) : Ps w0 w.drew q g p s m B C U := h.step (by obtain ⟨W, hW⟩ := h.ex; exact ⟨W, hW.drew⟩) (Kp.drew (Kp.refl (fun _ => False) w)) (fun _ h => h.elim) h.lq h.lg
theorem Ps.ul (h : Ps w0 w q g p s m B C U) : U.length = C.length / 2 := by obtain ⟨W, hW⟩ := h.ex; exact hW.hn
theorem ps_open {A : Option Addr} {n c : Nat} {l : List Int} (hd : Dk w p s m B C) (hT : Tab w0) (hb : Below w0.heap.size w0 w) (hp : w0.heap.size ≤ p) (hs : w0.heap.size ≤ s) (hm : w0.heap.size ≤ m) (hl : Zi w w.heap.size A n c l) (hn : n ≤ 1048576) (hin : inP (C.length / 2) l) :
    Calls Tryd.prog 8 #[ptr p, .slice A n c] w fun e w' => ∃ q g, e = .returned (.tuple #[ptr q, .int .i64 0]) ∧ Ps w0 w' q g p s m B C (setL (List.replicate (C.length / 2) false) l) ∧ w.heap.size ≤ q ∧ w.heap.size ≤ g ∧ Below w.heap.size w w' := by
  refine (open_any hd hl hn).mono ?_
  rintro e w' ⟨h1, _, h3⟩
  obtain ⟨q, g, W, he, hg, hq, hgg⟩ := h1 hin
  have := hb.size
  exact ⟨q, g, he, ⟨⟨W, hg⟩, hT, bl_call hb h3, by omega, by omega, hp, hs, hm⟩, hq, hgg, h3⟩
theorem ps_openbad {A : Option Addr} {n c : Nat} {l : List Int} (hd : Dk w p s m B C) (hl : Zi w w.heap.size A n c l) (hn : n ≤ 1048576) (hin : ¬ inP (C.length / 2) l) :
    Calls Tryd.prog 8 #[ptr p, .slice A n c] w fun e w' => e = .returned (.tuple #[.pointer none, .int .i64 2]) ∧ Below w.heap.size w w' := by
  refine (open_any hd hl hn).mono ?_
  rintro e w' ⟨_, h2, h3⟩
  exact ⟨h2 hin, h3⟩
theorem ps_new (h : Ps w0 w q g p s m B C U) {A : Option Addr} {k c : Nat} {b : List UInt8} (n : Nat) (hr : Rd w w.heap.size A k c b) (hk : k ≤ 500) (hn : U.idxOf false = n) (hf : n < U.length) :
    Calls Tryd.prog 10 #[ptr q, .slice A k c] w fun e w' => e = .returned (.tuple #[.int .i64 (n : Int), .int .i64 0]) ∧ Ps w0 w' q g p s m B (putPg C n (pageB n b)) (U.set n true) ∧ Kp (fun x => x = m ∨ x = g) w w' := by
  obtain ⟨W, hW⟩ := h.ex
  subst hn
  refine (new_pg hW h.tabw hr hk hf).mono ?_
  rintro e w' ⟨he, hg, hk2⟩
  exact ⟨he, h.step hg hk2 (by rintro x (rfl | rfl); exact h.lm; exact h.lg) h.lq h.lg, hk2⟩
theorem ps_long (h : Ps w0 w q g p s m B C U) {A : Option Addr} {k c : Nat} (hk : 500 < k) (hk2 : k ≤ 1152921504606846976) :
    Calls Tryd.prog 10 #[ptr q, .slice A k c] w fun e w' => e = .returned (.tuple #[.int .i64 0, .int .i64 2]) ∧ w' = w := by
  obtain ⟨W, hW⟩ := h.ex
  exact new_long hW hk hk2
theorem ps_full (h : Ps w0 w q g p s m B C U) {A : Option Addr} {k c : Nat} (hk : k ≤ 500) (hf : U.length ≤ U.idxOf false) :
    Calls Tryd.prog 10 #[ptr q, .slice A k c] w fun e w' => e = .returned (.tuple #[.int .i64 0, .int .i64 7]) ∧ w' = w := by
  obtain ⟨W, hW⟩ := h.ex
  exact new_full hW h.tabw hk hf
theorem ps_read (h : Ps w0 w q g p s m B C U) (k : Nat) (hc : U.getD k false = true) : Calls Tryd.prog 9 #[ptr q, .int .i64 (k : Int)] w (ReadG w k (pageAt B C k)) := by
  obtain ⟨W, hW⟩ := h.ex
  exact read_pg hW k hc
theorem ps_readnot (h : Ps w0 w q g p s m B C U) (n : Int) (h1 : -9223372036854775808 ≤ n) (h2 : n ≤ 9223372036854775807) (hc : ¬ (0 ≤ n ∧ U.getD n.toNat false = true)) :
    Calls Tryd.prog 9 #[ptr q, .int .i64 n] w fun e w' => e = .returned (.tuple #[.slice none 0 0, .int .i64 6]) ∧ w' = w := by
  obtain ⟨W, hW⟩ := h.ex
  exact read_not hW n h1 h2 hc
theorem ps_free (h : Ps w0 w q g p s m B C U) (k : Nat) (hc : U.getD k false = true) : Calls Tryd.prog 20 #[ptr q, .int .i64 (k : Int)] w fun e w' => e = .returned (.int .i64 0) ∧ Ps w0 w' q g p s m B C (U.set k false) ∧ Kp (· = g) w w' := by
  obtain ⟨W, hW⟩ := h.ex
  have hk := used_lt hc
  have := hW.ul
  refine (free_pg hW (k : Int) (by omega) (by omega)).mono ?_
  rintro e w' hh
  rw [if_pos ⟨by omega, by simpa using hc⟩] at hh
  exact ⟨hh.1, h.step (by simpa using hh.2.1) hh.2.2 (by rintro x rfl; exact h.lg) h.lq h.lg, hh.2.2⟩
theorem ps_freenot (h : Ps w0 w q g p s m B C U) (n : Int) (h1 : -9223372036854775808 ≤ n) (h2 : n ≤ 9223372036854775807) (hc : ¬ (0 ≤ n ∧ U.getD n.toNat false = true)) :
    Calls Tryd.prog 20 #[ptr q, .int .i64 n] w fun e w' => e = .returned (.int .i64 6) ∧ w' = w := by
  obtain ⟨W, hW⟩ := h.ex
  refine (free_pg hW n h1 h2).mono ?_
  rintro e w' hh
  rw [if_neg hc] at hh
  exact hh
theorem ps_sync (h : Ps w0 w q g p s m B C U) : Calls Tryd.prog 21 #[ptr q] w fun e w' => e = .returned (.int .i64 0) ∧ Ps w0 w' q g p s m (settle C (idx 0 C) B) (noC C.length) U ∧ Kp (fun k => k = s ∨ k = m) w w' := by
  obtain ⟨W, hW⟩ := h.ex
  refine (sync_pg hW).mono ?_
  rintro e w' ⟨he, hg, hk⟩
  exact ⟨he, h.step ⟨W, hg⟩ hk (by rintro x (rfl | rfl); exact h.ls; exact h.lm) h.lq h.lg, hk⟩
theorem ps_used (h : Ps w0 w q g p s m B C U) : Calls Tryd.prog 16 #[ptr q] w fun e w' => ∃ v, e = .returned v ∧ Oi w' w.heap.size v (trues 0 U) ∧ Below w.heap.size w w' := by
  obtain ⟨W, hW⟩ := h.ex
  exact used_pg hW h.tabw
theorem ps_spare (h : Ps w0 w q g p s m B C U) : Calls Tryd.prog 14 #[ptr q] w fun e w' => e = .returned (.int .i64 ((U.length - U.count true : Nat) : Int)) ∧ w' = w.drew := by
  obtain ⟨W, hW⟩ := h.ex
  exact spare_pg hW
theorem ps_keep (h : Ps w0 w q g p s m B C U) {A : Option Addr} {n c : Nat} {l : List Int} (hl : Zi w w.heap.size A n c l) (hn : n ≤ 1048576) (ha : allU U l) :
    Calls Tryd.prog 11 #[ptr q, .slice A n c] w fun e w' => ∃ g', e = .returned (.tuple #[.int .i64 ((U.count true : Int) - ((setL (List.replicate U.length false) l).count true : Int)), .int .i64 0]) ∧
      Ps w0 w' q g' p s m B C (setL (List.replicate U.length false) l) ∧ w.heap.size ≤ g' ∧ Kp (· = q) w w' := by
  obtain ⟨W, hW⟩ := h.ex
  refine (keep_any hW hl hn).mono ?_
  rintro e w' ⟨h1, _, h3⟩
  obtain ⟨g', W', he, hg, hgg⟩ := h1 ha
  have := h.bl.size
  exact ⟨g', he, h.step ⟨W', hg⟩ h3 (by rintro x rfl; exact h.lq) h.lq (by omega), hgg, h3⟩
theorem ps_keepnot (h : Ps w0 w q g p s m B C U) {A : Option Addr} {n c : Nat} {l : List Int} (hl : Zi w w.heap.size A n c l) (hn : n ≤ 1048576) (ha : ¬ allU U l) :
    Calls Tryd.prog 11 #[ptr q, .slice A n c] w fun e w' => e = .returned (.tuple #[.int .i64 0, .int .i64 6]) ∧ Below w.heap.size w w' := by
  obtain ⟨W, hW⟩ := h.ex
  refine (keep_any hW hl hn).mono ?_
  rintro e w' ⟨_, h2, _⟩
  exact h2 ha
end
section
variable {B : List UInt8} {C : Ca}
theorem look_set_same {i : Nat} {x : List UInt8} (h : i < C.length) : look B (C.set i (some x)) i = x := look_some (by rw [List.getD_eq_getElem?_getD, List.getElem?_set_self h]; rfl)
theorem look_set_ne {i j : Nat} {x : Option (List UInt8)} (h : i ≠ j) : look B (C.set i x) j = look B C j := by
  unfold look
  rw [List.getD_eq_getElem?_getD, List.getElem?_set_ne h, ← List.getD_eq_getElem?_getD]
/-- A page that was put is what is read. -/
theorem pageAt_put {n : Nat} {X : List UInt8} (h : 2 * n + 1 < C.length) : pageAt B (putPg C n X) n = X := by
  rw [pageAt, putPg, look_set_ne (by omega), look_set_same (by omega), look_set_same (by simp; omega), List.take_append_drop]
theorem pageAt_ne {n k : Nat} {X : List UInt8} (h : k ≠ n) : pageAt B (putPg C n X) k = pageAt B C k := by
  rw [pageAt, pageAt, putPg, look_set_ne (by omega), look_set_ne (by omega), look_set_ne (by omega), look_set_ne (by omega)]
theorem goodP_page {n : Nat} {b : List UInt8} (h : b.length ≤ 500) : goodP n (pageB n b) ∧ (pageB n b).drop 12 = padP b := by
  have hd : (pageB n b).drop 12 = padP b := by rw [pageB, List.drop_append_of_le_length (by rw [sumP_length]; omega), List.drop_eq_nil_of_le (by rw [sumP_length]; omega)]; rfl
  refine ⟨?_, hd⟩
  unfold goodP
  rw [hd]
  unfold pageB
  rw [padP_self (padP_length h)]
end
end Go.Proofs.YtdfihpnmiiaflaaDoor
end
section
/- A page that nobody wrote is none. -/
namespace Go.Proofs.YtdfihpnmiiaflaaDoor
open Go.RowKit Go.Maps
theorem fresh1 : pageAt (zs (5 * 256)) (noC 5) 1 = List.replicate 512 0 := by decide +kernel
theorem bad1 : (sumS (OwordB 1 4 ++ List.replicate 500 0)).take 1 ≠ [0] := by decide +kernel
set_option maxRecDepth 100000 in
theorem notgood1 : ¬ goodP 1 (pageAt (zs (5 * 256)) (noC 5) 1) := by
  rw [fresh1]
  intro h
  unfold goodP at h
  rw [List.drop_replicate] at h
  have h2 := congrArg (fun l => l.take 1) h
  have hp : padP (List.replicate (512 - 12) (0 : UInt8)) = List.replicate 500 0 := by rw [padP_self (by simp)]
  rw [pageB, hp, List.take_append_of_le_length (by rw [sumP_length]; omega), sumP, List.take_take] at h2
  simp only [List.take_replicate] at h2
  exact bad1 h2.symm
end Go.Proofs.YtdfihpnmiiaflaaDoor
end
