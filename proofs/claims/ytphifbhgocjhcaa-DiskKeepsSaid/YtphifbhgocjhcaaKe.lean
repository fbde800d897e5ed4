/- DiskKeeps: what was written last is read; behind a crash each sector is what was written there last, or what it was at the last flush. -/
import Derived.Test.YtphifbhgocjhcaaKd
import Derived.RegionTactic
import Derived.Deep.CutBlock
namespace Go.Proofs.Ytphifbhgocjhcaa
set_option linter.unusedSimpArgs false
set_option linter.unusedVariables false
open Go.RowKit Go.Maps

set_option maxRecDepth 100000 in
set_option maxHeartbeats 2000000 in
theorem DiskKeeps_walk (n : Int) (A1 : Option Addr) (n1 c1 : Nat) (l1 : List Av) (w : World) (_hn : -9223372036854775808 ≤ n) (_hn2 : n ≤ 9223372036854775807) (h1 : Ai w w.heap.size A1 n1 c1 l1) :
    Calls Try.prog 6 #[.int .i64 n, .slice A1 n1 c1] w fun e w' => e = .returned (.bool true) ∧ Below w.heap.size w w' := by
  have HA1 := Lib.hid h1
  clear h1 _hn _hn2
  go_enter Try.func6, Try.ntmps6
  go_wp2_with fail
  refine (lives_any _).mono ?_
  rintro e w1 ⟨rfl, hb⟩
  have HB := Lib.hid hb
  clear hb
  have HS1 := Lib.hid (small_any w1 (HA1.out.below HB.out))
  by_cases hf1 : few l1
  rotate_left
  · rw [show decide (few l1) = false from decide_eq_false hf1] at HS1
    clear hf1
    go_wp2_with fail
    refine HS1.out.mono ?_
    rintro e w2 ⟨rfl, rfl⟩
    go_wp2
    go_ret
    exact ⟨rfl, HB.out⟩
  rw [show decide (few l1) = true from decide_eq_true hf1] at HS1
  have HF1 := Lib.hid hf1
  have hn1 : n1 ≤ 80 := by have := hf1.1; have := HA1.out.1; omega
  clear hf1
  go_wp2_with fail
  refine HS1.out.mono ?_
  rintro e w2 ⟨rfl, rfl⟩
  go_wp2_with fail
  have hlt := pickN_lt n 40 (by omega)
  refine (pick_any _ n 40 (by omega) (by omega)).mono ?_
  rintro e w2 ⟨rfl, rfl⟩
  generalize pickN n 40 = k at hlt
  have hk40 : k < 40 := by omega
  have HNw := Lib.hid (new_one w2 k hk40)
  clear HS1 hlt
  go_wp2_with fail
  have hNk : 1 + (k : Int) = ((1 + k : Nat) : Int) := by omega
  rw [hNk] at HNw ⊢
  obtain ⟨N, hN⟩ : ∃ N, N = 1 + k := ⟨_, rfl⟩
  rw [← hN] at HNw ⊢
  have hN1 : 1 ≤ N := by omega
  have hN40 : N ≤ 40 := by omega
  clear hNk hk40 hN
  refine HNw.out.mono ?_
  rintro e w3 ⟨p, s, m, rfl, hd, hh, hb⟩
  have hs1 := HB.out.size
  have HH : Hid (Hi w.heap.size p s m) := Lib.hid (by unfold Hi at *; omega)
  have HD := Lib.hid hd
  have HB := Lib.hid (bl_call HB.out hb)
  clear hd hh hb hs1 HNw
  go_wp2_with fail
  obtain ⟨S0, hS0⟩ : ∃ S0 : List UInt8 × Ca, S0 = (zs (N * 256), noC N) := ⟨_, rfl⟩
  have HS0 := Lib.hid hS0
  have HL0 : Hid (S0.2.length = N) := Lib.hid (by rw [hS0]; exact noC_len N)
  replace HD : Hid (Dk w3 p s m S0.1 S0.2) := Lib.hid (by rw [hS0]; exact HD.out)
  clear hS0
  have hm55 : ∀ W, (Instr.makeSlice 55 (.int .i64 (N : Int)) (.int .i64 (N : Int))).run Try.prog W = .ok (.slice (some ⟨W.heap.size, 0, none⟩) N N) (W.alloc (.cells ((List.replicate N ([] : List UInt8)).map fun x => Value.string (str x)).toArray 9)) := fun W => run_make55 W N (by omega)
  have hm44 : ∀ W, (Instr.makeSlice 44 (.int .i64 (N : Int)) (.int .i64 (N : Int))).run Try.prog W = .ok (.slice (some ⟨W.heap.size, 0, none⟩) N N) (W.alloc (.cells ((List.replicate N false).map Value.bool).toArray 4)) := fun W => run_make44 W N (by omega)
  have hX : ∃ X, X = (.cells ((List.replicate N ([] : List UInt8)).map fun x => Value.string (str x)).toArray 9 : Obj) := ⟨_, rfl⟩
  obtain ⟨X, hX⟩ := hX
  have hY : ∃ Y, Y = (.cells ((List.replicate N false).map Value.bool).toArray 4 : Obj) := ⟨_, rfl⟩
  obtain ⟨Y, hY⟩ := hY
  rw [← hX] at hm55
  rw [← hY] at hm44
  have HX := Lib.hid hX
  have HY := Lib.hid hY
  clear hX hY
  refine region_meet3 (fun g1 g2 g3 a => ((((((((a.put (some 37) (.int .i64 (N : Int))).put (some 38) (.slice (some ⟨g1, 0, none⟩) N N)).put (some 39) (.int .i64 (N : Int))).put (some 40) (.slice (some ⟨g2, 0, none⟩) N N)).put (some 41) (.int .i64 (N : Int))).put (some 42) (.slice (some ⟨g3, 0, none⟩) N N)).put (some 7) (.slice (some ⟨g1, 0, none⟩) N N)).put (some 8) (.slice (some ⟨g2, 0, none⟩) N N)).put (some 9) (.slice (some ⟨g3, 0, none⟩) N N)) (Three w3 N) ?_ ?_
  · simp only [Act.put, List.getElem_toArray, List.getElem_cons_succ, List.getElem_cons_zero, List.setIfInBounds_toArray, List.set_cons_zero, List.set_cons_succ]
    go_region
    all_goals refine ⟨rfl, _, _, _, rfl, ?_⟩
    all_goals (refine three_at w3 N _ _ _ ?_ ?_ ?_ ⟨?_, ?_, ?_⟩ ⟨?_, ?_, ?_⟩)
    all_goals first | omega | (rw [← HX.out]; first | exact (h3 w3.drew _ _ _).1 | exact (h3 w3.drew _ _ _).2.1 | exact (h3 w3.drew _ _ _).2.2) | (rw [← HY.out]; first | exact (h3 w3.drew _ _ _).1 | exact (h3 w3.drew _ _ _).2.1 | exact (h3 w3.drew _ _ _).2.2)
  intro nb sb cb w4 hrows
  simp only [Act.put, List.getElem_toArray, List.getElem_cons_succ, List.getElem_cons_zero, List.setIfInBounds_toArray, List.set_cons_zero, List.set_cons_succ]
  obtain ⟨ha, hs, hc, hlow, hdis, hb4⟩ := hrows
  have HD0 := HD
  have hw3 := HB.out.size
  have HD := Lib.hid (HD.out.old hb4)
  have HB := Lib.hid (bl_call HB.out hb4)
  have HLP : Hid (p < w3.heap.size ∧ s < w3.heap.size ∧ m < w3.heap.size) := Lib.hid ⟨HD0.out.plt, HD0.out.slt, HD0.out.mlt⟩
  obtain ⟨lo, hlo⟩ : ∃ lo, lo = w3.heap.size := ⟨_, rfl⟩
  rw [← hlo] at hlow HLP
  obtain ⟨Z, hZ⟩ : ∃ Z, Z = List.replicate 256 (0 : UInt8) := ⟨_, rfl⟩
  have HZ := Lib.hid hZ
  have HN : Hid (Sl w4 nb (List.replicate 0 Z ++ List.replicate (N - 0) [])) := Lib.hid ha
  have HSf : Hid (Sl w4 sb (List.replicate 0 Z ++ List.replicate (N - 0) [])) := Lib.hid hs
  have HC : Hid (Bo w4 cb (List.replicate N false)) := Lib.hid hc
  have HLow := Lib.hid hlow
  have HDis := Lib.hid hdis
  have HT : Hid (lo ≤ w4.heap.size) := Lib.hid (by rw [hlo]; exact hb4.size)
  have HWL : Hid (w.heap.size ≤ lo) := Lib.hid (by rw [hlo]; exact hw3)
  clear ha hs hc hlow hdis hb4 hlo hZ hm55 HX HD0 hw3
  have HZl : Hid (Z.length = 256) := Lib.hid (by rw [HZ.out]; exact List.length_replicate)
  have HRow := Lib.hid (fun W => row_z HZ.out W)
  go_wp2_with fail
  go_loopw [10] (fun v wr => ∃ i : Nat, i ≤ N ∧ v = .int .i64 (i : Int) ∧ Hid (Dk wr p s m S0.1 S0.2) ∧ Hid (Sl wr nb (List.replicate i Z ++ List.replicate (N - i) [])) ∧ Hid (Sl wr sb (List.replicate i Z ++ List.replicate (N - i) [])) ∧ Hid (Bo wr cb (List.replicate N false)) ∧ Hid (Below w.heap.size w wr) ∧ Hid (lo ≤ wr.heap.size)) (fun v _ => N - (RowKit.intOf v).toNat)
  case atStart => exact ⟨0, by omega, rfl, HD, HN, HSf, HC, HB, HT⟩
  case round =>
    clear HD HN HSf HC HB HT
    obtain ⟨i, hi, rfl, HD, HN, HSf, HC, HB, HT⟩ := hrel
    by_cases hlt : i < N
    · have HLt := Lib.hid hlt
      have HNl : Hid (nb < wr.heap.size ∧ sb < wr.heap.size ∧ cb < wr.heap.size) := Lib.hid ⟨HN.out.lt, HSf.out.lt, HC.out.lt⟩
      have HLn : Hid ((List.replicate i Z ++ List.replicate (N - i) []).length = N) := Lib.hid (by simp; omega)
      have hltZ : (i : Int) < (N : Int) := by omega
      go_wp2_with fail
      have hR := Kp.stays (fun k => k = nb ∨ k = sb)
      refine reg_start (Kp (fun k => k = nb ∨ k = sb)) follows_mixed ?_

    -- region 13 of f6: 12 operations, draws: true
      refine reg_take (v := ?_) hR 0 rfl (by kernel_rfl) (by kernel_rfl) (by kernel_rfl) (fun _ _ _ h => h) (by rfl) ?_ ?_
      rotate_left
      · intro W hW; go_simp; try with_reducible rfl
      try simp only [Act.put, List.getElem_toArray, List.getElem_cons_succ, List.getElem_cons_zero, List.setIfInBounds_toArray, List.set_cons_zero, List.set_cons_succ]
      refine reg_take (v := ?_) hR 1 rfl (by kernel_rfl) (by kernel_rfl) (by kernel_rfl) (fun _ _ _ h => h) (by rfl) ?_ ?_
      rotate_left
      · intro W hW; go_simp; try with_reducible rfl
      try simp only [Act.put, List.getElem_toArray, List.getElem_cons_succ, List.getElem_cons_zero, List.setIfInBounds_toArray, List.set_cons_zero, List.set_cons_succ]
      refine reg_take (v := ?_) hR 2 rfl (by kernel_rfl) (by kernel_rfl) (by kernel_rfl) (fun _ _ _ h => h) (by rfl) ?_ ?_
      rotate_left
      · intro W hW; go_simp; try with_reducible rfl
      try simp only [Act.put, List.getElem_toArray, List.getElem_cons_succ, List.getElem_cons_zero, List.setIfInBounds_toArray, List.set_cons_zero, List.set_cons_succ]
      refine reg_take (v := ?_) hR 3 rfl (by kernel_rfl) (by kernel_rfl) (by kernel_rfl) (fun _ _ _ h => h) (by rfl) ?_ ?_
      rotate_left
      · intro W hW; go_simp; try with_reducible rfl
      try simp only [Act.put, List.getElem_toArray, List.getElem_cons_succ, List.getElem_cons_zero, List.setIfInBounds_toArray, List.set_cons_zero, List.set_cons_succ]
      -- STEP 4: Op.call { callee := Callee.value (Operand.func 10), args := #[Operand.const (Value.int IntKind.u8 0)], argType
      refine reg_step hR 4 (by kernel_rfl) rfl fun K hK => ?_
      try simp only [Act.put, List.getElem_toArray, List.getElem_cons_succ, List.getElem_cons_zero, List.setIfInBounds_toArray, List.set_cons_zero, List.set_cons_succ]
      go_simp
      refine (HRow.out _).mono ?_; rintro e u1 ⟨rfl, hr1, hb1⟩
      have HB1 := Lib.hid (undrewN hb1); have HR1 : Hid (Row u1 wr.heap.size Z) := Lib.hid hr1; have HN1 : Hid (¬ (wr.heap.size = nb ∨ wr.heap.size = sb)) := Lib.hid (by have := HNl.out; omega); clear hr1 hb1
      refine hK.out _ _ ?_ ?_
      · exact Kp.old (redrewN HB1.out)
      clear hK K
      try simp only [Act.put, List.getElem_toArray, List.getElem_cons_succ, List.getElem_cons_zero, List.setIfInBounds_toArray, List.set_cons_zero, List.set_cons_succ]
      refine reg_take (v := .string (str Z)) hR 5 rfl (by kernel_rfl) (by kernel_rfl) (by kernel_rfl) (fun _ _ _ h => h) (by rfl) ?_ ?_
      · intro W hW; have := run_strZ HZl.out (HR1.out.of (hW.block _ HR1.out.lt HN1.out)); go_simp
      try simp only [Act.put, List.getElem_toArray, List.getElem_cons_succ, List.getElem_cons_zero, List.setIfInBounds_toArray, List.set_cons_zero, List.set_cons_succ]
      -- STEP 6: Op.call { callee := Callee.value (Operand.func 10), args := #[Operand.const (Value.int IntKind.u8 0)], argType
      refine reg_step hR 6 (by kernel_rfl) rfl fun K hK => ?_
      try simp only [Act.put, List.getElem_toArray, List.getElem_cons_succ, List.getElem_cons_zero, List.setIfInBounds_toArray, List.set_cons_zero, List.set_cons_succ]
      go_simp
      refine (HRow.out _).mono ?_; rintro e u2 ⟨rfl, hr2, hb2⟩
      have HB2 := Lib.hid hb2; have HR2 : Hid (Row u2 u1.heap.size Z) := Lib.hid hr2; have HN2 : Hid (¬ (u1.heap.size = nb ∨ u1.heap.size = sb)) := Lib.hid (by have := HNl.out; have := HB1.out.size; omega); clear hr2 hb2
      refine hK.out _ _ ?_ ?_
      · exact Kp.old HB2.out
      clear hK K
      try simp only [Act.put, List.getElem_toArray, List.getElem_cons_succ, List.getElem_cons_zero, List.setIfInBounds_toArray, List.set_cons_zero, List.set_cons_succ]
      refine reg_take (v := .string (str Z)) hR 7 rfl (by kernel_rfl) (by kernel_rfl) (by kernel_rfl) (fun _ _ _ h => h) (by rfl) ?_ ?_
      · intro W hW; have := run_strZ HZl.out (HR2.out.of (hW.block _ HR2.out.lt HN2.out)); go_simp
      try simp only [Act.put, List.getElem_toArray, List.getElem_cons_succ, List.getElem_cons_zero, List.setIfInBounds_toArray, List.set_cons_zero, List.set_cons_succ]
      refine reg_take (v := .pointer (some ⟨nb, i, none⟩)) hR 8 rfl (by kernel_rfl) (by kernel_rfl) (by kernel_rfl) (fun _ _ _ h => h) (by rfl) ?_ ?_
      · intro W hW; go_simp
      try simp only [Act.put, List.getElem_toArray, List.getElem_cons_succ, List.getElem_cons_zero, List.setIfInBounds_toArray, List.set_cons_zero, List.set_cons_succ]
      -- STEP 9: Op.store 9 (t56) (t53)
      refine reg_step hR 9 (by kernel_rfl) rfl fun K hK => ?_
      try simp only [Act.put, List.getElem_toArray, List.getElem_cons_succ, List.getElem_cons_zero, List.setIfInBounds_toArray, List.set_cons_zero, List.set_cons_succ]
      have HU2 := Lib.hid (HN.out.old (bl_call HB1.out HB2.out))
      rw [if_pos (by rfl)]
      refine wp_store_str _ _ rfl HU2.out (by rw [HLn.out]; exact HLt.out) rfl rfl ?_
      have hk9 := kp_set u2 nb i (.string (str Z)); have hs9 := HU2.out.set i Z
      generalize u2.setCell ⟨nb, i, none⟩ (.string (str Z)) = u3 at hk9 hs9 ⊢
      rw [rep_step N i HLt.out Z] at hs9
      have HK9 := Lib.hid hk9; have HS9 := Lib.hid hs9; clear hk9 hs9 HU2
      refine hK.out _ _ ?_ ?_
      · exact HK9.out.mono (fun k h => .inl h)
      clear hK K
      try simp only [Act.put, List.getElem_toArray, List.getElem_cons_succ, List.getElem_cons_zero, List.setIfInBounds_toArray, List.set_cons_zero, List.set_cons_succ]
      refine reg_take (v := .pointer (some ⟨sb, i, none⟩)) hR 10 rfl (by kernel_rfl) (by kernel_rfl) (by kernel_rfl) (fun _ _ _ h => h) (by rfl) ?_ ?_
      · intro W hW; go_simp
      try simp only [Act.put, List.getElem_toArray, List.getElem_cons_succ, List.getElem_cons_zero, List.setIfInBounds_toArray, List.set_cons_zero, List.set_cons_succ]
      -- STEP 11: Op.store 9 (t57) (t55)
      refine reg_step hR 11 (by kernel_rfl) rfl fun K hK => ?_
      try simp only [Act.put, List.getElem_toArray, List.getElem_cons_succ, List.getElem_cons_zero, List.setIfInBounds_toArray, List.set_cons_zero, List.set_cons_succ]
      have HU3 := Lib.hid ((HSf.out.old (bl_call HB1.out HB2.out)).kp HK9.out (fun h => HDis.out.1 h.symm))
      rw [if_pos (by rfl)]
      refine wp_store_str _ _ rfl HU3.out (by rw [HLn.out]; exact HLt.out) rfl rfl ?_
      have hk9 := kp_set u3 sb i (.string (str Z)); have hs9 := HU3.out.set i Z
      generalize u3.setCell ⟨sb, i, none⟩ (.string (str Z)) = u4 at hk9 hs9 ⊢
      rw [rep_step N i HLt.out Z] at hs9
      have HK10 := Lib.hid hk9; have HS10 := Lib.hid hs9; clear hk9 hs9 HU3
      refine hK.out _ _ ?_ ?_
      · exact HK10.out.mono (fun k h => .inr h)
      clear hK K
      try simp only [Act.put, List.getElem_toArray, List.getElem_cons_succ, List.getElem_cons_zero, List.setIfInBounds_toArray, List.set_cons_zero, List.set_cons_succ]
      refine reg_done (by kernel_rfl) ?_ _


      go_wp2
      go_roundw
      case rel => exact ⟨i + 1, by omega, by go_num, Lib.hid (((HD.out.old (bl_call HB1.out HB2.out)).kp HK9.out (by have := HLP.out; have := HLow.out; omega) (by have := HLP.out; have := HLow.out; omega) (by have := HLP.out; have := HLow.out; omega)).kp HK10.out (by have := HLP.out; have := HLow.out; omega) (by have := HLP.out; have := HLow.out; omega) (by have := HLP.out; have := HLow.out; omega)), Lib.hid (HS9.out.kp HK10.out HDis.out.1), HS10, Lib.hid (((HC.out.old (bl_call HB1.out HB2.out)).kp HK9.out (fun h => HDis.out.2.1 h.symm)).kp HK10.out (fun h => HDis.out.2.2 h.symm)), Lib.hid (((bl_call HB.out (bl_call HB1.out HB2.out)).trans (HK9.out.below (by have := HB.out.size; have := HB1.out.size; have := HB2.out.size; omega) (fun k h => by have := HLow.out; have := HWL.out; omega))).trans (HK10.out.below (by have := HB.out.size; have := HB1.out.size; have := HB2.out.size; have := HK9.out.size; omega) (fun k h => by have := HLow.out; have := HWL.out; omega))), Lib.hid (by have := HT.out; have := HB1.out.size; have := HB2.out.size; have := HK9.out.size; have := HK10.out.size; omega)⟩
      case measure => simp [RowKit.intOf]; omega
    · obtain rfl : N = i := by omega
      have e0 : safeL S0 = List.replicate N Z := by rw [HS0.out, HZ.out]; exact safeL_zs N
      have e1 : nowL S0 = List.replicate N Z := by rw [HS0.out, nowL_noC, HZ.out]; exact safeL_zs N
      have e2 : cachL S0 = List.replicate N false := by rw [HS0.out]; exact cachL_noC _ N
      have e3 : List.replicate N Z ++ List.replicate (N - N) [] = List.replicate N Z := by simp
      rw [e3, ← e1] at HN
      rw [e3, ← e0] at HSf
      rw [← e2] at HC
      have HDc : Hid (lo ≤ cb ∧ nb ≠ cb ∧ sb ≠ cb) := Lib.hid ⟨HLow.out.2.2, HDis.out.2⟩
      replace HLow : Hid (lo ≤ nb ∧ lo ≤ sb) := Lib.hid ⟨HLow.out.1, HLow.out.2.1⟩
      replace HDis : Hid (nb ≠ sb) := Lib.hid HDis.out.1
      clear e0 e1 e2 e3 HRow HS0 hlt hi
      go_wp2_with fail
      go_loopw [9, 11] (fun vc v wr => ∃ i cb : Nat, i ≤ n1 ∧ v = .int .i64 (i : Int) ∧ vc = .slice (some ⟨cb, 0, none⟩) N N ∧ Hid (Dk wr p s m (runL (l1.take i) S0).1 (runL (l1.take i) S0).2) ∧ Hid (Sl wr nb (nowL (runL (l1.take i) S0))) ∧ Hid (Sl wr sb (safeL (runL (l1.take i) S0))) ∧ Hid (Bo wr cb (cachL (runL (l1.take i) S0))) ∧ Hid (lo ≤ cb ∧ nb ≠ cb ∧ sb ≠ cb) ∧ Hid (Below w.heap.size w wr) ∧ Hid (lo ≤ wr.heap.size)) (fun _ v _ => n1 - (RowKit.intOf v).toNat)
      case atStart => exact ⟨0, cb, by omega, rfl, rfl, HD, HN, HSf, HC, HDc, HB, HT⟩
      case round =>
        clear HD HN HSf HC HDc HB HT
        obtain ⟨i, cb, hi, rfl, rfl, HD, HN, HSf, HC, HDc, HB, HT⟩ := hrel
        by_cases hlt : i < n1
        · obtain ⟨ad, x, rfl, hx, hm, ho, e0, e1, e2, e3, e4⟩ := (HA1.out.below HB.out).at_ hlt
          have HS := Lib.hid (runL_step l1 S0 hx)
          have HLS : Hid ((runL (l1.take i) S0).2.length = N) := Lib.hid (by rw [runL_len]; exact HL0.out)
          have HLS' : Hid ((runL (l1.take (i + 1)) S0).2.length = N) := Lib.hid (by rw [runL_len]; exact HL0.out)
          obtain ⟨S, hS⟩ : ∃ S, S = runL (l1.take i) S0 := ⟨_, rfl⟩
          obtain ⟨S', hS'⟩ : ∃ S', S' = runL (l1.take (i + 1)) S0 := ⟨_, rfl⟩
          rw [← hS] at HS HLS HD HN HSf HC
          rw [← hS'] at HS HLS'
          have HSe := Lib.hid hS'
          clear hS hS'
          go_upto_region 18 with fail
          obtain ⟨u0, hu0⟩ : ∃ u0, u0 = wr.alloc (.cells #[.int .i64 x.a.kind, .int .i64 x.a.at_, .int .u8 (x.a.b.toNat : Int), .bool x.a.long, .slice x.K x.a.keep.length x.kc] 46) := ⟨_, rfl⟩
          rw [← hu0]
          have hb0 : Below wr.heap.size wr u0 := by rw [hu0]; exact bl_alloc (bl0 wr) _
          have hX : ∀ j v, x.cells[j]? = some v → u0.cell? ⟨wr.heap.size, j, none⟩ = some v := fun j v hv => by rw [hu0]; exact box_act2 wr x j v hv
          have hlt0 : wr.heap.size < u0.heap.size := by rw [hu0]; simp
          have hnm : ∀ k, (k = s ∨ k = m ∨ k = nb ∨ k = sb ∨ k = cb ∨ u0.heap.size ≤ k) → k ≠ wr.heap.size := fun k hk => by
            have h1 := HD.out.slt
            have h2 := HD.out.mlt
            have h3 := HN.out.lt
            have h4 := HSf.out.lt
            have h5 := HC.out.lt
            omega
          have HQ0 := Lib.hid (fun W (hW : Kp (fun k => k = s ∨ k = m ∨ k = nb ∨ k = sb ∨ k = cb ∨ u0.heap.size ≤ k) u0 W) => (hW.cell (p := ⟨wr.heap.size, 0, none⟩) hlt0 (fun e => hnm _ e rfl)).trans (hX 0 _ rfl))
          have HQ1 := Lib.hid (fun W (hW : Kp (fun k => k = s ∨ k = m ∨ k = nb ∨ k = sb ∨ k = cb ∨ u0.heap.size ≤ k) u0 W) => (hW.cell (p := ⟨wr.heap.size, 1, none⟩) hlt0 (fun e => hnm _ e rfl)).trans (hX 1 _ rfl))
          have HQ2 := Lib.hid (fun W (hW : Kp (fun k => k = s ∨ k = m ∨ k = nb ∨ k = sb ∨ k = cb ∨ u0.heap.size ≤ k) u0 W) => (hW.cell (p := ⟨wr.heap.size, 2, none⟩) hlt0 (fun e => hnm _ e rfl)).trans (hX 2 _ rfl))
          have HQ3 := Lib.hid (fun W (hW : Kp (fun k => k = s ∨ k = m ∨ k = nb ∨ k = sb ∨ k = cb ∨ u0.heap.size ≤ k) u0 W) => (hW.cell (p := ⟨wr.heap.size, 3, none⟩) hlt0 (fun e => hnm _ e rfl)).trans (hX 3 _ rfl))
          have HQ4 := Lib.hid (fun W (hW : Kp (fun k => k = s ∨ k = m ∨ k = nb ∨ k = sb ∨ k = cb ∨ u0.heap.size ≤ k) u0 W) => (hW.cell (p := ⟨wr.heap.size, 4, none⟩) hlt0 (fun e => hnm _ e rfl)).trans (hX 4 _ rfl))
          have HD0 := Lib.hid (HD.out.old hb0)
          have HN0 := Lib.hid (HN.out.old hb0)
          have HSf0 := Lib.hid (HSf.out.old hb0)
          have HC0 := Lib.hid (HC.out.old hb0)
          have HB0 := Lib.hid (bl_call HB.out hb0)
          have HT0 := Lib.hid (Nat.le_trans HT.out hb0.size)
          have HKw : Hid (Bi u0 w.heap.size x.K x.a.keep.length x.kc x.a.keep) := Lib.hid (Bi.below ho (hb0.mono HB.out.size))
          have HKl := Lib.hid (HF1.out.2 x hm)
          have q1 := hX 1 _ rfl
          have q0 := hX 0 _ rfl
          clear hx hm ho e0 e1 e2 e3 e4 HD HN HSf HC HB HT hb0 hnm hu0 hX
          generalize wr.heap.size = bx at *
          go_cut [13] from 58 to 76 (fun v wx => ∃ b : Bool, v = .bool b ∧ Hid (b = decide (0 ≤ x.a.at_ ∧ x.a.at_ < (N : Int))) ∧ u0 = wx)
          case first =>
            by_cases h0 : 0 ≤ x.a.at_
            · by_cases h1 : x.a.at_ < (N : Int)
              · go_wp2_with fail
                go_meet
                case rel => exact ⟨true, rfl, Lib.hid (decide_eq_true ⟨by omega, by omega⟩).symm, rfl⟩
              · go_wp2_with fail
                go_meet
                case rel => exact ⟨false, rfl, Lib.hid (decide_eq_false (by omega)).symm, rfl⟩
            · go_wp2_with fail
              go_meet
              case rel => exact ⟨false, rfl, Lib.hid (decide_eq_false (by omega)).symm, rfl⟩
          case rest =>
            obtain ⟨b, rfl, HBt, rfl⟩ := hcut
            go_wp2_with fail
            refine (pick_any _ x.a.kind 5 (by omega) (by omega)).mono ?_
            rintro e u0 ⟨rfl, rfl⟩
            have HEq : Hid (doA ⟨x.a.kind, x.a.at_, x.a.b, x.a.long, x.a.keep⟩ S = if pickN x.a.kind 5 = 0 then S else if pickN x.a.kind 5 = 3 then (settle S.2 (idx 0 S.2) S.1, noC S.2.length) else if pickN x.a.kind 5 = 4 then (settle S.2 (chosen (idx 0 S.2) x.a.keep) S.1, noC S.2.length)
              else wrS x.a.at_ x.a.b x.a.long S) := Lib.hid rfl
            have hpl := pickN_lt x.a.kind 5 (by omega)
            generalize hnn : pickN x.a.kind 5 = nn at *
            clear hnn q0
            go_upto_block 4 with fail
            go_cut [9, 13] from 58 to 79 (fun vc v13 wx => ∃ cb : Nat, vc = .slice (some ⟨cb, 0, none⟩) N N ∧ Hid (Dk wx p s m S'.1 S'.2) ∧ Hid (Sl wx nb (nowL S')) ∧ Hid (Sl wx sb (safeL S')) ∧ Hid (Bo wx cb (cachL S')) ∧ Hid (lo ≤ cb ∧ nb ≠ cb ∧ sb ≠ cb) ∧ Hid (Below w.heap.size w wx) ∧ Hid (lo ≤ wx.heap.size))
            case first =>
              rcases (show nn = 0 ∨ nn = 3 ∨ nn = 4 ∨ (nn = 1 ∨ nn = 2) by omega) with rfl | rfl | rfl | h12
              · as_aux_lemma =>
                  have HSE : Hid (S' = S) := Lib.hid (by rw [HS.out]; exact HEq.out)
                  cases b with
                  | true =>
                    have hbt := of_decide_eq_true HBt.out.symm
                    obtain ⟨t, hat⟩ := Int.eq_ofNat_of_zero_le hbt.1
                    have htN : t < N := by omega
                    have HNt := Lib.hid htN
                    have HRd := Lib.hid (read_ok HD0.out t (by rw [HLS.out]; exact htN))
                    have HQt : Hid (∀ W : World, Kp (fun k => k = s ∨ k = m ∨ k = nb ∨ k = sb ∨ k = cb ∨ u0.heap.size ≤ k) u0 W → W.cell? ⟨bx, 1, none⟩ = some (.int .i64 (t : Int))) := Lib.hid (by rw [← hat]; exact HQ1.out)
                    rw [hat] at q1
                    have htz : (t : Int) < (N : Int) := by omega
                    clear hbt hat htN
                    go_wp2_with fail
                    refine HRd.out.mono ?_
                    rintro e u1 ⟨rfl, hr1, hb1⟩
                    have HR1 := Lib.hid hr1
                    have HB1 := Lib.hid hb1
                    clear hr1 hb1 q1 HRd
                    go_wp2_with fail
                    have hR := Old.stays
                    refine reg_start Old follows_mixed ?_
                  -- region 27 of f6: 17 operations, draws: true
                    refine reg_take (v := ?_) hR 0 rfl (by kernel_rfl) (by kernel_rfl) (by kernel_rfl) (fun _ _ _ h => h) (by rfl) ?_ ?_
                    rotate_left
                    · intro W hW; go_simp; try with_reducible rfl
                    try simp only [Act.put, List.getElem_toArray, List.getElem_cons_succ, List.getElem_cons_zero, List.setIfInBounds_toArray, List.set_cons_zero, List.set_cons_succ]
                    refine reg_take (v := ?_) hR 1 rfl (by kernel_rfl) (by kernel_rfl) (by kernel_rfl) (fun _ _ _ h => h) (by rfl) ?_ ?_
                    rotate_left
                    · intro W hW; go_simp; try with_reducible rfl
                    try simp only [Act.put, List.getElem_toArray, List.getElem_cons_succ, List.getElem_cons_zero, List.setIfInBounds_toArray, List.set_cons_zero, List.set_cons_succ]
                    refine reg_take (v := ?_) hR 2 rfl (by kernel_rfl) (by kernel_rfl) (by kernel_rfl) (fun _ _ _ h => h) (by rfl) ?_ ?_
                    rotate_left
                    · intro W hW; go_simp; try with_reducible rfl
                    try simp only [Act.put, List.getElem_toArray, List.getElem_cons_succ, List.getElem_cons_zero, List.setIfInBounds_toArray, List.set_cons_zero, List.set_cons_succ]
                    refine reg_take (v := .bool false) hR 3 rfl (by kernel_rfl) (by kernel_rfl) (by kernel_rfl) (fun _ _ _ h => h) (by rfl) ?_ ?_
                    · intro W hW; go_simp
                    try simp only [Act.put, List.getElem_toArray, List.getElem_cons_succ, List.getElem_cons_zero, List.setIfInBounds_toArray, List.set_cons_zero, List.set_cons_succ]
                    refine reg_take (v := ?_) hR 4 rfl (by kernel_rfl) (by kernel_rfl) (by kernel_rfl) (fun _ _ _ h => h) (by rfl) ?_ ?_
                    rotate_left
                    · intro W hW; go_simp; try with_reducible rfl
                    try simp only [Act.put, List.getElem_toArray, List.getElem_cons_succ, List.getElem_cons_zero, List.setIfInBounds_toArray, List.set_cons_zero, List.set_cons_succ]
                    refine reg_take (v := ?_) hR 5 rfl (by kernel_rfl) (by kernel_rfl) (by kernel_rfl) (fun _ _ _ h => h) (by rfl) ?_ ?_
                    rotate_left
                    · intro W hW; go_simp; try with_reducible rfl
                    try simp only [Act.put, List.getElem_toArray, List.getElem_cons_succ, List.getElem_cons_zero, List.setIfInBounds_toArray, List.set_cons_zero, List.set_cons_succ]
                    refine reg_take (v := ?_) hR 6 rfl (by kernel_rfl) (by kernel_rfl) (by kernel_rfl) (fun _ _ _ h => h) (by rfl) ?_ ?_
                    rotate_left
                    · intro W hW; go_simp; try with_reducible rfl
                    try simp only [Act.put, List.getElem_toArray, List.getElem_cons_succ, List.getElem_cons_zero, List.setIfInBounds_toArray, List.set_cons_zero, List.set_cons_succ]
                    refine reg_take (v := ?_) hR 7 rfl (by kernel_rfl) (by kernel_rfl) (by kernel_rfl) (fun _ _ _ h => h) (by rfl) ?_ ?_
                    rotate_left
                    · intro W hW; go_simp; try with_reducible rfl
                    try simp only [Act.put, List.getElem_toArray, List.getElem_cons_succ, List.getElem_cons_zero, List.setIfInBounds_toArray, List.set_cons_zero, List.set_cons_succ]
                    refine reg_take (v := .string (str (look S.1 S.2 t))) hR 8 rfl (by kernel_rfl) (by kernel_rfl) (by kernel_rfl) (fun _ _ _ h => h) (by rfl) ?_ ?_
                    · intro W hW; have := run_str (HR1.out.below (undrewN hW)); go_simp
                    try simp only [Act.put, List.getElem_toArray, List.getElem_cons_succ, List.getElem_cons_zero, List.setIfInBounds_toArray, List.set_cons_zero, List.set_cons_succ]
                    refine reg_take (v := ?_) hR 9 rfl (by kernel_rfl) (by kernel_rfl) (by kernel_rfl) (fun _ _ _ h => h) (by rfl) ?_ ?_
                    rotate_left
                    · intro W hW; go_simp; try with_reducible rfl
                    try simp only [Act.put, List.getElem_toArray, List.getElem_cons_succ, List.getElem_cons_zero, List.setIfInBounds_toArray, List.set_cons_zero, List.set_cons_succ]
                    refine reg_take (v := ?_) hR 10 rfl (by kernel_rfl) (by kernel_rfl) (by kernel_rfl) (fun _ _ _ h => h) (by rfl) ?_ ?_
                    rotate_left
                    · intro W hW; go_simp; try with_reducible rfl
                    try simp only [Act.put, List.getElem_toArray, List.getElem_cons_succ, List.getElem_cons_zero, List.setIfInBounds_toArray, List.set_cons_zero, List.set_cons_succ]
                    refine reg_take (v := .int .i64 (t : Int)) hR 11 rfl (by kernel_rfl) (by kernel_rfl) (by kernel_rfl) (fun _ _ _ h => h) (by rfl) ?_ ?_
                    · intro W hW; have q1 := HQt.out W ((Kp.old HB1.out).trans (Kp.old (undrewN hW))); go_simp
                    try simp only [Act.put, List.getElem_toArray, List.getElem_cons_succ, List.getElem_cons_zero, List.setIfInBounds_toArray, List.set_cons_zero, List.set_cons_succ]
                    refine reg_take (v := .pointer (some ⟨nb, t, none⟩)) hR 12 rfl (by kernel_rfl) (by kernel_rfl) (by kernel_rfl) (fun _ _ _ h => h) (by rfl) ?_ ?_
                    · intro W hW; go_simp
                    try simp only [Act.put, List.getElem_toArray, List.getElem_cons_succ, List.getElem_cons_zero, List.setIfInBounds_toArray, List.set_cons_zero, List.set_cons_succ]
                    refine reg_take (v := .string (str (look S.1 S.2 t))) hR 13 rfl (by kernel_rfl) (by kernel_rfl) (by kernel_rfl) (fun _ _ _ h => h) (by rfl) ?_ ?_
                    · intro W hW; have hc := (HN0.out.old (bl_call HB1.out (undrewN hW))).cell (nowL_get S (i := t) (by rw [HLS.out]; exact HNt.out)); go_simp
                    try simp only [Act.put, List.getElem_toArray, List.getElem_cons_succ, List.getElem_cons_zero, List.setIfInBounds_toArray, List.set_cons_zero, List.set_cons_succ]
                    refine reg_take (v := .bool false) hR 14 rfl (by kernel_rfl) (by kernel_rfl) (by kernel_rfl) (fun _ _ _ h => h) (by rfl) ?_ ?_
                    · intro W hW; go_simp
                    try simp only [Act.put, List.getElem_toArray, List.getElem_cons_succ, List.getElem_cons_zero, List.setIfInBounds_toArray, List.set_cons_zero, List.set_cons_succ]
                    refine reg_take (v := .bool false) hR 15 rfl (by kernel_rfl) (by kernel_rfl) (by kernel_rfl) (fun _ _ _ h => h) (by rfl) ?_ ?_
                    · intro W hW; go_simp
                    try simp only [Act.put, List.getElem_toArray, List.getElem_cons_succ, List.getElem_cons_zero, List.setIfInBounds_toArray, List.set_cons_zero, List.set_cons_succ]
                    refine reg_take (v := .bool false) hR 16 rfl (by kernel_rfl) (by kernel_rfl) (by kernel_rfl) (fun _ _ _ h => h) (by rfl) ?_ ?_
                    · intro W hW; go_simp
                    try simp only [Act.put, List.getElem_toArray, List.getElem_cons_succ, List.getElem_cons_zero, List.setIfInBounds_toArray, List.set_cons_zero, List.set_cons_succ]
                    refine reg_done (by kernel_rfl) ?_ _

                    go_wp2_with fail
                    go_meet
                    have hb1 := HB1.out.drew
                    case rel => exact ⟨cb, rfl, Lib.hid (by rw [HSE.out]; exact HD0.out.old hb1), Lib.hid (by rw [HSE.out]; exact HN0.out.old hb1), Lib.hid (by rw [HSE.out]; exact HSf0.out.old hb1), Lib.hid (by rw [HSE.out]; exact HC0.out.old hb1), HDc, Lib.hid (bl_call HB0.out hb1), Lib.hid (Nat.le_trans HT0.out hb1.size)⟩
                  | false =>
                    have hbf : ¬ (0 ≤ x.a.at_ ∧ x.a.at_ < (N : Int)) := of_decide_eq_false HBt.out.symm
                    have HRd := Lib.hid (read_bad HD0.out x.a.at_ (by rw [HLS.out]; exact hbf))
                    clear hbf
                    go_wp2_with fail
                    refine HRd.out.mono ?_
                    rintro e u0 ⟨rfl, rfl⟩
                    clear q1 HRd
                    go_wp2_with fail
                    have hR := Old.stays
                    refine reg_start Old follows_mixed ?_
                  -- region 27 of f6: 17 operations, draws: true
                    refine reg_take (v := ?_) hR 0 rfl (by kernel_rfl) (by kernel_rfl) (by kernel_rfl) (fun _ _ _ h => h) (by rfl) ?_ ?_
                    rotate_left
                    · intro W hW; go_simp; try with_reducible rfl
                    try simp only [Act.put, List.getElem_toArray, List.getElem_cons_succ, List.getElem_cons_zero, List.setIfInBounds_toArray, List.set_cons_zero, List.set_cons_succ]
                    refine reg_take (v := .bool false) hR 1 rfl (by kernel_rfl) (by kernel_rfl) (by kernel_rfl) (fun _ _ _ h => h) (by rfl) ?_ ?_
                    · intro W hW; go_simp
                    try simp only [Act.put, List.getElem_toArray, List.getElem_cons_succ, List.getElem_cons_zero, List.setIfInBounds_toArray, List.set_cons_zero, List.set_cons_succ]
                    refine reg_take (v := ?_) hR 2 rfl (by kernel_rfl) (by kernel_rfl) (by kernel_rfl) (fun _ _ _ h => h) (by rfl) ?_ ?_
                    rotate_left
                    · intro W hW; go_simp; try with_reducible rfl
                    try simp only [Act.put, List.getElem_toArray, List.getElem_cons_succ, List.getElem_cons_zero, List.setIfInBounds_toArray, List.set_cons_zero, List.set_cons_succ]
                    refine reg_take (v := .bool false) hR 3 rfl (by kernel_rfl) (by kernel_rfl) (by kernel_rfl) (fun _ _ _ h => h) (by rfl) ?_ ?_
                    · intro W hW; go_simp
                    try simp only [Act.put, List.getElem_toArray, List.getElem_cons_succ, List.getElem_cons_zero, List.setIfInBounds_toArray, List.set_cons_zero, List.set_cons_succ]
                    refine reg_take (v := ?_) hR 4 rfl (by kernel_rfl) (by kernel_rfl) (by kernel_rfl) (fun _ _ _ h => h) (by rfl) ?_ ?_
                    rotate_left
                    · intro W hW; go_simp; try with_reducible rfl
                    try simp only [Act.put, List.getElem_toArray, List.getElem_cons_succ, List.getElem_cons_zero, List.setIfInBounds_toArray, List.set_cons_zero, List.set_cons_succ]
                    refine reg_take (v := ?_) hR 5 rfl (by kernel_rfl) (by kernel_rfl) (by kernel_rfl) (fun _ _ _ h => h) (by rfl) ?_ ?_
                    rotate_left
                    · intro W hW; go_simp; try with_reducible rfl
                    try simp only [Act.put, List.getElem_toArray, List.getElem_cons_succ, List.getElem_cons_zero, List.setIfInBounds_toArray, List.set_cons_zero, List.set_cons_succ]
                    refine reg_take (v := ?_) hR 6 rfl (by kernel_rfl) (by kernel_rfl) (by kernel_rfl) (fun _ _ _ h => h) (by rfl) ?_ ?_
                    rotate_left
                    · intro W hW; go_simp; try with_reducible rfl
                    try simp only [Act.put, List.getElem_toArray, List.getElem_cons_succ, List.getElem_cons_zero, List.setIfInBounds_toArray, List.set_cons_zero, List.set_cons_succ]
                    refine reg_skip hR 7 rfl (by kernel_rfl) (by kernel_rfl) (by kernel_rfl) (fun _ _ _ h => h) (by rfl) ?_
                    try simp only [Act.put, List.getElem_toArray, List.getElem_cons_succ, List.getElem_cons_zero, List.setIfInBounds_toArray, List.set_cons_zero, List.set_cons_succ]
                    refine reg_skip hR 8 rfl (by kernel_rfl) (by kernel_rfl) (by kernel_rfl) (fun _ _ _ h => h) (by rfl) ?_
                    try simp only [Act.put, List.getElem_toArray, List.getElem_cons_succ, List.getElem_cons_zero, List.setIfInBounds_toArray, List.set_cons_zero, List.set_cons_succ]
                    refine reg_skip hR 9 rfl (by kernel_rfl) (by kernel_rfl) (by kernel_rfl) (fun _ _ _ h => h) (by rfl) ?_
                    try simp only [Act.put, List.getElem_toArray, List.getElem_cons_succ, List.getElem_cons_zero, List.setIfInBounds_toArray, List.set_cons_zero, List.set_cons_succ]
                    refine reg_skip hR 10 rfl (by kernel_rfl) (by kernel_rfl) (by kernel_rfl) (fun _ _ _ h => h) (by rfl) ?_
                    try simp only [Act.put, List.getElem_toArray, List.getElem_cons_succ, List.getElem_cons_zero, List.setIfInBounds_toArray, List.set_cons_zero, List.set_cons_succ]
                    refine reg_skip hR 11 rfl (by kernel_rfl) (by kernel_rfl) (by kernel_rfl) (fun _ _ _ h => h) (by rfl) ?_
                    try simp only [Act.put, List.getElem_toArray, List.getElem_cons_succ, List.getElem_cons_zero, List.setIfInBounds_toArray, List.set_cons_zero, List.set_cons_succ]
                    refine reg_skip hR 12 rfl (by kernel_rfl) (by kernel_rfl) (by kernel_rfl) (fun _ _ _ h => h) (by rfl) ?_
                    try simp only [Act.put, List.getElem_toArray, List.getElem_cons_succ, List.getElem_cons_zero, List.setIfInBounds_toArray, List.set_cons_zero, List.set_cons_succ]
                    refine reg_skip hR 13 rfl (by kernel_rfl) (by kernel_rfl) (by kernel_rfl) (fun _ _ _ h => h) (by rfl) ?_
                    try simp only [Act.put, List.getElem_toArray, List.getElem_cons_succ, List.getElem_cons_zero, List.setIfInBounds_toArray, List.set_cons_zero, List.set_cons_succ]
                    refine reg_skip hR 14 rfl (by kernel_rfl) (by kernel_rfl) (by kernel_rfl) (fun _ _ _ h => h) (by rfl) ?_
                    try simp only [Act.put, List.getElem_toArray, List.getElem_cons_succ, List.getElem_cons_zero, List.setIfInBounds_toArray, List.set_cons_zero, List.set_cons_succ]
                    refine reg_take (v := .bool false) hR 15 rfl (by kernel_rfl) (by kernel_rfl) (by kernel_rfl) (fun _ _ _ h => h) (by rfl) ?_ ?_
                    · intro W hW; go_simp
                    try simp only [Act.put, List.getElem_toArray, List.getElem_cons_succ, List.getElem_cons_zero, List.setIfInBounds_toArray, List.set_cons_zero, List.set_cons_succ]
                    refine reg_take (v := .bool false) hR 16 rfl (by kernel_rfl) (by kernel_rfl) (by kernel_rfl) (fun _ _ _ h => h) (by rfl) ?_ ?_
                    · intro W hW; go_simp
                    try simp only [Act.put, List.getElem_toArray, List.getElem_cons_succ, List.getElem_cons_zero, List.setIfInBounds_toArray, List.set_cons_zero, List.set_cons_succ]
                    refine reg_done (by kernel_rfl) ?_ _

                    go_wp2_with fail
                    go_meet
                    have hb1 := (Below.refl u0.heap.size u0).drew
                    case rel => exact ⟨cb, rfl, Lib.hid (by rw [HSE.out]; exact HD0.out.old hb1), Lib.hid (by rw [HSE.out]; exact HN0.out.old hb1), Lib.hid (by rw [HSE.out]; exact HSf0.out.old hb1), Lib.hid (by rw [HSE.out]; exact HC0.out.old hb1), HDc, Lib.hid (bl_call HB0.out hb1), Lib.hid (HT0.out)⟩

              · as_aux_lemma =>
                  have HSE : Hid (S' = (settle S.2 (idx 0 S.2) S.1, noC S.2.length)) := Lib.hid (by rw [HS.out]; exact HEq.out)
                  have HFl := Lib.hid (safeL_flush HD0.out.hC HD0.out.hB)
                  go_wp2_with fail
                  refine (flush_any HD0.out).mono ?_
                  rintro e u1 ⟨rfl, hd1, hk1⟩
                  have HD1 := Lib.hid hd1
                  have HK1 := Lib.hid hk1
                  have HN1 := Lib.hid (HN0.out.kp hk1 (by have := HLP.out; have := HLow.out; omega))
                  have HSf1 := Lib.hid (HSf0.out.kp hk1 (by have := HLP.out; have := HLow.out; omega))
                  clear hd1 hk1 q1
                  go_wp2_with (first | (refine wpList_copy_str rfl _ _ rfl HSf1.out HN1.out (by rw [safeL_len]; exact HLS.out) (by rw [nowL_len]; exact HLS.out) rfl rfl ?_; intro u2 hs2 hk2; have HS2 := Lib.hid hs2; have HK2 := Lib.hid hk2; clear hs2 hk2) | fail)
                  go_meet
                  case rel =>
                    have hb3 := bl_alloc (bl0 u2) Y
                    have z1 := HK1.out.size
                    have z2 := HK2.out.size
                    have z3 := HN0.out.lt
                    have z4 := HSf0.out.lt
                    have z5 := HT0.out
                    exact ⟨u2.heap.size, rfl, Lib.hid (by rw [HSE.out]; exact (HD1.out.kp HK2.out (by have := HLP.out; have := HLow.out; omega) (by have := HLP.out; have := HLow.out; omega) (by have := HLP.out; have := HLow.out; omega)).old hb3), Lib.hid (by rw [HSE.out, nowL_noC, HFl.out]; exact (HN1.out.kp HK2.out HDis.out).old hb3), Lib.hid (by rw [HSE.out, HFl.out]; exact HS2.out.old hb3), Lib.hid (by rw [HSE.out, cachL_noC, HLS.out, HY.out]; exact Bo.new u2 N), Lib.hid ⟨by omega, by omega, by omega⟩, Lib.hid (((HB0.out.trans (HK1.out.below HB0.out.size (fun k h => by have := HH.out; unfold Hi at this; omega))).trans (HK2.out.below (Nat.le_trans HB0.out.size z1) (fun k h => by have := HLow.out; have := HWL.out; omega))).trans (hb3.mono (Nat.le_trans HB0.out.size (Nat.le_trans z1 z2)))), Lib.hid (by have := hb3.size; omega)⟩

              · as_aux_lemma =>
                  have HSE : Hid (S' = (settle S.2 (chosen (idx 0 S.2) x.a.keep) S.1, noC S.2.length)) := Lib.hid (by rw [HS.out]; exact HEq.out)
                  have HSl : Hid (s < u0.heap.size ∧ m < u0.heap.size) := Lib.hid ⟨HD0.out.slt, HD0.out.mlt⟩
                  have HNl : Hid (nb < u0.heap.size ∧ sb < u0.heap.size ∧ cb < u0.heap.size) := Lib.hid ⟨HN0.out.lt, HSf0.out.lt, HC0.out.lt⟩
                  clear q1 HEq hpl
                  go_wp2_with fail
                  refine (clone_any HD0.out).mono ?_
                  rintro e u1 ⟨p', s', m', rfl, hd1, hh1, hb1⟩
                  have HE1 := Lib.hid hd1
                  have HH1 := Lib.hid hh1
                  have HB1 := Lib.hid hb1
                  have HD1 := Lib.hid (HD0.out.old hb1)
                  have HK1d : Hid (Bi u1.drew w.heap.size x.K x.a.keep.length x.kc x.a.keep) := Lib.hid (HKw.out.below ((hb1.mono HB0.out.size).drew))
                  have HK1t : Hid (w.heap.size ≤ u1.drew.heap.size) := Lib.hid (Nat.le_trans HB0.out.size hb1.size)
                  have HCh : Hid (∀ W, Dk W p s m (settle S.2 (chosen (idx 0 S.2) x.a.keep) S.1) (noC S.2.length) → Calls Try.prog 13 #[ptr p] W fun e w' => ∃ A c, e = .returned (.slice A 0 c) ∧ Below W.heap.size W w') := Lib.hid (fun W hW => by
                    have := cached_any hW
                    rw [idx_noC] at this
                    exact this.mono fun e w' ⟨A, c, h1, _, h2⟩ => ⟨A, c, h1, h2⟩)
                  have HM1 : Hid (∀ W, Kp (fun k => k = s ∨ k = m ∨ k = u1.heap.size) u1 W → Kp (fun k => k = s ∨ k = m ∨ k = nb ∨ k = sb ∨ k = cb ∨ u0.heap.size ≤ k) u0 W) := Lib.hid (fun W hW => (Kp.old HB1.out).trans (hW.mono (fun k hk => by
                    rcases hk with h | h | h
                    · exact .inl h
                    · exact .inr (.inl h)
                    · exact .inr (.inr (.inr (.inr (.inr (by rw [h]; exact HB1.out.size))))))))
                  clear hd1 hh1 hb1
                  go_upto_region 36 with fail
                  go_cut [175] from 148 to 175 (fun v wx => v = .bool false ∧ Hid (Dk wx p s m S'.1 S'.2) ∧ Hid (Kp (fun k => k = s ∨ k = m ∨ u0.heap.size ≤ k) u0 wx))
                  case first =>
                    by_cases hix : idx 0 S.2 = []
                    · as_aux_lemma =>
                      have HSt : Hid (settle S.2 (chosen (idx 0 S.2) x.a.keep) S.1 = S.1) := Lib.hid (by rw [hix]; rfl)
                      have HCc : Hid (∀ W, Dk W p' s' m' S.1 S.2 → Calls Try.prog 13 #[ptr p'] W fun e w' => ∃ A c, e = .returned (.slice A 0 c) ∧ Below W.heap.size W w') := Lib.hid (fun W hW => by
                        have := cached_any hW
                        rw [hix] at this
                        exact this.mono fun e w' ⟨A, c, h1, _, h2⟩ => ⟨A, c, h1, h2⟩)
                      clear hix
                      have hR := Kp.stays (fun k => k = s ∨ k = m ∨ k = u1.heap.size)
                      refine reg_start (Kp (fun k => k = s ∨ k = m ∨ k = u1.heap.size)) follows_mixed ?_
                      -- region 36 of f6: 28 operations, draws: true
                      refine reg_take (v := ?_) hR 0 rfl (by kernel_rfl) (by kernel_rfl) (by kernel_rfl) (fun _ _ _ h => h) (by rfl) ?_ ?_
                      rotate_left
                      · intro W hW; go_simp; try with_reducible rfl
                      try simp only [Act.put, List.getElem_toArray, List.getElem_cons_succ, List.getElem_cons_zero, List.setIfInBounds_toArray, List.set_cons_zero, List.set_cons_succ]
                      refine reg_take (v := ?_) hR 2 rfl (by kernel_rfl) (by kernel_rfl) (by kernel_rfl) (fun _ _ _ h => h) (by rfl) ?_ ?_
                      rotate_left
                      · intro W hW; go_simp; try with_reducible rfl
                      try simp only [Act.put, List.getElem_toArray, List.getElem_cons_succ, List.getElem_cons_zero, List.setIfInBounds_toArray, List.set_cons_zero, List.set_cons_succ]
                      refine reg_take (v := .slice x.K x.a.keep.length x.kc) hR 3 rfl (by kernel_rfl) (by kernel_rfl) (by kernel_rfl) (fun _ _ _ h => h) (by rfl) ?_ ?_
                      · intro W hW; have q4 := HQ4.out W (HM1.out W hW.undrew); go_simp
                      try simp only [Act.put, List.getElem_toArray, List.getElem_cons_succ, List.getElem_cons_zero, List.setIfInBounds_toArray, List.set_cons_zero, List.set_cons_succ]
                      -- STEP 1: Op.buildSlice 44 0 #[]
                      refine reg_step hR 1 (by kernel_rfl) rfl fun K hK => ?_
                      try simp only [Act.put, List.getElem_toArray, List.getElem_cons_succ, List.getElem_cons_zero, List.setIfInBounds_toArray, List.set_cons_zero, List.set_cons_succ]
                      go_simp

                      refine hK.out _ _ ?_ ?_
                      · exact Kp.of_old (bl_alloc (bl0 _) _)
                      clear hK K
                      try simp only [Act.put, List.getElem_toArray, List.getElem_cons_succ, List.getElem_cons_zero, List.setIfInBounds_toArray, List.set_cons_zero, List.set_cons_succ]
                      -- STEP 4: Op.call { callee := Callee.builtin Builtin.append, args := #[t149, t151], argTypes := #[44, 44] }
                      refine reg_step hR 4 (by kernel_rfl) rfl fun K hK => ?_
                      try simp only [Act.put, List.getElem_toArray, List.getElem_cons_succ, List.getElem_cons_zero, List.setIfInBounds_toArray, List.set_cons_zero, List.set_cons_succ]
                      rw [if_pos (by rfl)]
                      change Oper.wp _ _ _ (u1.drew.alloc (.cells #[] 4)) _ _
                      refine wp_appb _ _ rfl rfl rfl HK1d.out HK1t.out (by have := HKl.out; omega) ?_
                      intro A3 c3 u3 hk3 hb3 hz3
                      have HK3 := Lib.hid hk3; have HB3 := Lib.hid (undrewN hb3); have HZ3 : Hid (u1.heap.size < u3.heap.size) := Lib.hid hz3; clear hk3 hb3 hz3
                      refine hK.out _ _ ?_ ?_
                      · exact kp_appb1 (w := u1) HB3.out (Or.inr (Or.inr rfl)) HZ3.out
                      clear hK K
                      try simp only [Act.put, List.getElem_toArray, List.getElem_cons_succ, List.getElem_cons_zero, List.setIfInBounds_toArray, List.set_cons_zero, List.set_cons_succ]
                      -- STEP 5: Op.call { callee := Callee.value (Operand.func 23), args := #[t148, t152], argTypes := #[22, 44] }
                      refine reg_step hR 5 (by kernel_rfl) rfl fun K hK => ?_
                      try simp only [Act.put, List.getElem_toArray, List.getElem_cons_succ, List.getElem_cons_zero, List.setIfInBounds_toArray, List.set_cons_zero, List.set_cons_succ]
                      go_simp
                      refine (crash_any (HD1.out.old HB3.out) HK3.out (Nat.le_refl _) (by have := HKl.out; omega)).mono ?_; rintro e u4 ⟨rfl, hd4, hk4⟩
                      have HD4s : Hid (Dk u4 p s m S.1 (noC S.2.length)) := Lib.hid (by have := hd4; rw [HSt.out] at this; exact this); have HD4 := Lib.hid hd4; have HK4 := Lib.hid hk4; clear hd4 hk4
                      refine hK.out _ _ ?_ ?_
                      · exact HK4.out.mono (fun k hk => by rcases hk with h | h; exact .inl h; exact .inr (.inl h))
                      clear hK K
                      try simp only [Act.put, List.getElem_toArray, List.getElem_cons_succ, List.getElem_cons_zero, List.setIfInBounds_toArray, List.set_cons_zero, List.set_cons_succ]
                      refine reg_take (v := .bool false) hR 6 rfl (by kernel_rfl) (by kernel_rfl) (by kernel_rfl) (fun _ _ _ h => h) (by rfl) ?_ ?_
                      · intro W hW; go_simp
                      try simp only [Act.put, List.getElem_toArray, List.getElem_cons_succ, List.getElem_cons_zero, List.setIfInBounds_toArray, List.set_cons_zero, List.set_cons_succ]
                      refine reg_take (v := ?_) hR 7 rfl (by kernel_rfl) (by kernel_rfl) (by kernel_rfl) (fun _ _ _ h => h) (by rfl) ?_ ?_
                      rotate_left
                      · intro W hW; go_simp; try with_reducible rfl
                      try simp only [Act.put, List.getElem_toArray, List.getElem_cons_succ, List.getElem_cons_zero, List.setIfInBounds_toArray, List.set_cons_zero, List.set_cons_succ]
                      refine reg_take (v := ?_) hR 8 rfl (by kernel_rfl) (by kernel_rfl) (by kernel_rfl) (fun _ _ _ h => h) (by rfl) ?_ ?_
                      rotate_left
                      · intro W hW; go_simp; try with_reducible rfl
                      try simp only [Act.put, List.getElem_toArray, List.getElem_cons_succ, List.getElem_cons_zero, List.setIfInBounds_toArray, List.set_cons_zero, List.set_cons_succ]
                      -- STEP 9: Op.call { callee := Callee.value (Operand.func 13), args := #[t156], argTypes := #[22] }
                      refine reg_step hR 9 (by kernel_rfl) rfl fun K hK => ?_
                      try simp only [Act.put, List.getElem_toArray, List.getElem_cons_succ, List.getElem_cons_zero, List.setIfInBounds_toArray, List.set_cons_zero, List.set_cons_succ]
                      go_simp
                      refine (HCh.out _ HD4.out).mono ?_; rintro e u5 ⟨A7, c7, rfl, hb7⟩
                      have HB7 := Lib.hid hb7; have HE5 := Lib.hid (((HE1.out.old HB3.out).kp HK4.out (by have := HH1.out; have := HSl.out; omega) (by have := HH1.out; have := HSl.out; omega) (by have := HH1.out; have := HSl.out; omega)).old hb7); clear hb7
                      refine hK.out _ _ ?_ ?_
                      · exact Kp.old HB7.out
                      clear hK K
                      try simp only [Act.put, List.getElem_toArray, List.getElem_cons_succ, List.getElem_cons_zero, List.setIfInBounds_toArray, List.set_cons_zero, List.set_cons_succ]
                      refine reg_take (v := .int .i64 0) hR 10 rfl (by kernel_rfl) (by kernel_rfl) (by kernel_rfl) (fun _ _ _ h => h) (by rfl) ?_ ?_
                      · intro W hW; go_simp
                      try simp only [Act.put, List.getElem_toArray, List.getElem_cons_succ, List.getElem_cons_zero, List.setIfInBounds_toArray, List.set_cons_zero, List.set_cons_succ]
                      refine reg_take (v := .bool false) hR 11 rfl (by kernel_rfl) (by kernel_rfl) (by kernel_rfl) (fun _ _ _ h => h) (by rfl) ?_ ?_
                      · intro W hW; go_simp
                      try simp only [Act.put, List.getElem_toArray, List.getElem_cons_succ, List.getElem_cons_zero, List.setIfInBounds_toArray, List.set_cons_zero, List.set_cons_succ]
                      refine reg_take (v := .bool false) hR 12 rfl (by kernel_rfl) (by kernel_rfl) (by kernel_rfl) (fun _ _ _ h => h) (by rfl) ?_ ?_
                      · intro W hW; go_simp
                      try simp only [Act.put, List.getElem_toArray, List.getElem_cons_succ, List.getElem_cons_zero, List.setIfInBounds_toArray, List.set_cons_zero, List.set_cons_succ]
                      refine reg_take (v := ?_) hR 13 rfl (by kernel_rfl) (by kernel_rfl) (by kernel_rfl) (fun _ _ _ h => h) (by rfl) ?_ ?_
                      rotate_left
                      · intro W hW; go_simp; try with_reducible rfl
                      try simp only [Act.put, List.getElem_toArray, List.getElem_cons_succ, List.getElem_cons_zero, List.setIfInBounds_toArray, List.set_cons_zero, List.set_cons_succ]
                      refine reg_take (v := ?_) hR 14 rfl (by kernel_rfl) (by kernel_rfl) (by kernel_rfl) (fun _ _ _ h => h) (by rfl) ?_ ?_
                      rotate_left
                      · intro W hW; go_simp; try with_reducible rfl
                      try simp only [Act.put, List.getElem_toArray, List.getElem_cons_succ, List.getElem_cons_zero, List.setIfInBounds_toArray, List.set_cons_zero, List.set_cons_succ]
                      -- STEP 15: Op.call { callee := Callee.value (Operand.func 13), args := #[t162], argTypes := #[22] }
                      refine reg_step hR 15 (by kernel_rfl) rfl fun K hK => ?_
                      try simp only [Act.put, List.getElem_toArray, List.getElem_cons_succ, List.getElem_cons_zero, List.setIfInBounds_toArray, List.set_cons_zero, List.set_cons_succ]
                      go_simp
                      refine (HCc.out _ HE5.out).mono ?_; rintro e u6 ⟨A8, c8, rfl, hb8⟩
                      have HB8 := Lib.hid hb8; clear hb8
                      refine hK.out _ _ ?_ ?_
                      · exact Kp.old HB8.out
                      clear hK K
                      try simp only [Act.put, List.getElem_toArray, List.getElem_cons_succ, List.getElem_cons_zero, List.setIfInBounds_toArray, List.set_cons_zero, List.set_cons_succ]
                      refine reg_take (v := .int .i64 0) hR 16 rfl (by kernel_rfl) (by kernel_rfl) (by kernel_rfl) (fun _ _ _ h => h) (by rfl) ?_ ?_
                      · intro W hW; go_simp
                      try simp only [Act.put, List.getElem_toArray, List.getElem_cons_succ, List.getElem_cons_zero, List.setIfInBounds_toArray, List.set_cons_zero, List.set_cons_succ]
                      refine reg_take (v := .bool true) hR 17 rfl (by kernel_rfl) (by kernel_rfl) (by kernel_rfl) (fun _ _ _ h => h) (by rfl) ?_ ?_
                      · intro W hW; go_simp
                      try simp only [Act.put, List.getElem_toArray, List.getElem_cons_succ, List.getElem_cons_zero, List.setIfInBounds_toArray, List.set_cons_zero, List.set_cons_succ]
                      refine reg_take (v := ?_) hR 18 rfl (by kernel_rfl) (by kernel_rfl) (by kernel_rfl) (fun _ _ _ h => h) (by rfl) ?_ ?_
                      rotate_left
                      · intro W hW; go_simp; try with_reducible rfl
                      try simp only [Act.put, List.getElem_toArray, List.getElem_cons_succ, List.getElem_cons_zero, List.setIfInBounds_toArray, List.set_cons_zero, List.set_cons_succ]
                      refine reg_take (v := ?_) hR 19 rfl (by kernel_rfl) (by kernel_rfl) (by kernel_rfl) (fun _ _ _ h => h) (by rfl) ?_ ?_
                      rotate_left
                      · intro W hW; go_simp; try with_reducible rfl
                      try simp only [Act.put, List.getElem_toArray, List.getElem_cons_succ, List.getElem_cons_zero, List.setIfInBounds_toArray, List.set_cons_zero, List.set_cons_succ]
                      refine reg_take (v := ?_) hR 22 rfl (by kernel_rfl) (by kernel_rfl) (by kernel_rfl) (fun _ _ _ h => h) (by rfl) ?_ ?_
                      rotate_left
                      · intro W hW; go_simp; try with_reducible rfl
                      try simp only [Act.put, List.getElem_toArray, List.getElem_cons_succ, List.getElem_cons_zero, List.setIfInBounds_toArray, List.set_cons_zero, List.set_cons_succ]
                      -- STEP 20: Op.call { callee := Callee.value (Operand.func 29), args := #[t167], argTypes := #[22] }
                      refine reg_step hR 20 (by kernel_rfl) rfl fun K hK => ?_
                      try simp only [Act.put, List.getElem_toArray, List.getElem_cons_succ, List.getElem_cons_zero, List.setIfInBounds_toArray, List.set_cons_zero, List.set_cons_succ]
                      go_simp
                      refine (image_any (HE5.out.old HB8.out)).mono ?_; rintro e u7 ⟨v7, rfl, ho7, hb7⟩
                      obtain ⟨A9, c9, e9, _⟩ := ho7.rd
                      subst e9
                      have HO7 := Lib.hid ho7; have HU7 := Lib.hid hb7; have HM7 : Hid (∀ k, (k = s ∨ k = m ∨ k = u1.heap.size) → k < u6.heap.size) := Lib.hid (fun k hk => by have := HSl.out; have := HB1.out.size; have := HZ3.out; have := HK4.out.size; have := HB7.out.size; have := HB8.out.size; omega); clear ho7 hb7
                      refine hK.out _ _ ?_ ?_
                      · exact Kp.old HU7.out
                      clear hK K
                      try simp only [Act.put, List.getElem_toArray, List.getElem_cons_succ, List.getElem_cons_zero, List.setIfInBounds_toArray, List.set_cons_zero, List.set_cons_succ]
                      refine reg_take (v := .string (str S.1)) hR 21 rfl (by kernel_rfl) (by kernel_rfl) (by kernel_rfl) (fun _ _ _ h => h) (by rfl) ?_ ?_
                      · intro W hW; have := run_str_ow (HO7.out.kp hW HM7.out); go_simp
                      try simp only [Act.put, List.getElem_toArray, List.getElem_cons_succ, List.getElem_cons_zero, List.setIfInBounds_toArray, List.set_cons_zero, List.set_cons_succ]
                      -- STEP 23: Op.call { callee := Callee.value (Operand.func 29), args := #[t170], argTypes := #[22] }
                      refine reg_step hR 23 (by kernel_rfl) rfl fun K hK => ?_
                      try simp only [Act.put, List.getElem_toArray, List.getElem_cons_succ, List.getElem_cons_zero, List.setIfInBounds_toArray, List.set_cons_zero, List.set_cons_succ]
                      go_simp
                      refine (image_any ((HD4s.out.old HB7.out).old (bl_call HB8.out HU7.out))).mono ?_; rintro e u8 ⟨v8, rfl, ho8, hb8⟩
                      obtain ⟨A10, c10, e10, _⟩ := ho8.rd
                      subst e10
                      have HO8 := Lib.hid ho8; have HU8 := Lib.hid hb8; have HM8 : Hid (∀ k, (k = s ∨ k = m ∨ k = u1.heap.size) → k < u7.heap.size) := Lib.hid (fun k hk => Nat.lt_of_lt_of_le (HM7.out k hk) HU7.out.size); clear ho8 hb8
                      refine hK.out _ _ ?_ ?_
                      · exact Kp.old HU8.out
                      clear hK K
                      try simp only [Act.put, List.getElem_toArray, List.getElem_cons_succ, List.getElem_cons_zero, List.setIfInBounds_toArray, List.set_cons_zero, List.set_cons_succ]
                      refine reg_take (v := .string (str S.1)) hR 24 rfl (by kernel_rfl) (by kernel_rfl) (by kernel_rfl) (fun _ _ _ h => h) (by rfl) ?_ ?_
                      · intro W hW; have := run_str_ow (HO8.out.kp hW HM8.out); go_simp
                      try simp only [Act.put, List.getElem_toArray, List.getElem_cons_succ, List.getElem_cons_zero, List.setIfInBounds_toArray, List.set_cons_zero, List.set_cons_succ]
                      refine reg_take (v := .bool false) hR 25 rfl (by kernel_rfl) (by kernel_rfl) (by kernel_rfl) (fun _ _ _ h => h) (by rfl) ?_ ?_
                      · intro W hW; go_simp
                      try simp only [Act.put, List.getElem_toArray, List.getElem_cons_succ, List.getElem_cons_zero, List.setIfInBounds_toArray, List.set_cons_zero, List.set_cons_succ]
                      refine reg_take (v := .bool false) hR 26 rfl (by kernel_rfl) (by kernel_rfl) (by kernel_rfl) (fun _ _ _ h => h) (by rfl) ?_ ?_
                      · intro W hW; go_simp
                      try simp only [Act.put, List.getElem_toArray, List.getElem_cons_succ, List.getElem_cons_zero, List.setIfInBounds_toArray, List.set_cons_zero, List.set_cons_succ]
                      refine reg_take (v := .bool false) hR 27 rfl (by kernel_rfl) (by kernel_rfl) (by kernel_rfl) (fun _ _ _ h => h) (by rfl) ?_ ?_
                      · intro W hW; go_simp
                      try simp only [Act.put, List.getElem_toArray, List.getElem_cons_succ, List.getElem_cons_zero, List.setIfInBounds_toArray, List.set_cons_zero, List.set_cons_succ]
                      refine reg_done (by kernel_rfl) ?_ _

                      have HDX := Lib.hid (HD4.out.old (bl_call HB7.out (bl_call HB8.out (bl_call HU7.out HU8.out))))
                      have HKX : Hid (Kp (fun k => k = s ∨ k = m ∨ u0.heap.size ≤ k) u0 u8) := Lib.hid ((((Kp.old (bl_call HB1.out HB3.out)).trans (HK4.out.mono (fun k hk => by rcases hk with h | h; exact .inl h; exact .inr (.inl h))))).trans (Kp.old (bl_call HB7.out (bl_call HB8.out (bl_call HU7.out HU8.out)))))
                      go_wp2_with fail
                      go_meet
                      case rel => exact ⟨rfl, Lib.hid (by rw [HSE.out]; exact HDX.out), HKX⟩

                    · as_aux_lemma =>
                      obtain ⟨nc, hnc⟩ : ∃ nc, nc = (idx 0 S.2).length := ⟨_, rfl⟩
                      have hnc0 : ¬ ((nc : Int) = 0) := by
                        have := List.length_pos_iff.2 hix
                        omega
                      have HCc : Hid (∀ W, Dk W p' s' m' S.1 S.2 → Calls Try.prog 13 #[ptr p'] W fun e w' => ∃ A c, e = .returned (.slice A nc c) ∧ Below W.heap.size W w') := Lib.hid (fun W hW => (cached_any hW).mono fun e w' ⟨A, c, h1, _, h2⟩ => ⟨A, c, by rw [h1, hnc], h2⟩)
                      clear hix hnc
                      have hR := Kp.stays (fun k => k = s ∨ k = m ∨ k = u1.heap.size)
                      refine reg_start (Kp (fun k => k = s ∨ k = m ∨ k = u1.heap.size)) follows_mixed ?_
                      -- region 36 of f6: 28 operations, draws: true
                      refine reg_take (v := ?_) hR 0 rfl (by kernel_rfl) (by kernel_rfl) (by kernel_rfl) (fun _ _ _ h => h) (by rfl) ?_ ?_
                      rotate_left
                      · intro W hW; go_simp; try with_reducible rfl
                      try simp only [Act.put, List.getElem_toArray, List.getElem_cons_succ, List.getElem_cons_zero, List.setIfInBounds_toArray, List.set_cons_zero, List.set_cons_succ]
                      refine reg_take (v := ?_) hR 2 rfl (by kernel_rfl) (by kernel_rfl) (by kernel_rfl) (fun _ _ _ h => h) (by rfl) ?_ ?_
                      rotate_left
                      · intro W hW; go_simp; try with_reducible rfl
                      try simp only [Act.put, List.getElem_toArray, List.getElem_cons_succ, List.getElem_cons_zero, List.setIfInBounds_toArray, List.set_cons_zero, List.set_cons_succ]
                      refine reg_take (v := .slice x.K x.a.keep.length x.kc) hR 3 rfl (by kernel_rfl) (by kernel_rfl) (by kernel_rfl) (fun _ _ _ h => h) (by rfl) ?_ ?_
                      · intro W hW; have q4 := HQ4.out W (HM1.out W hW.undrew); go_simp
                      try simp only [Act.put, List.getElem_toArray, List.getElem_cons_succ, List.getElem_cons_zero, List.setIfInBounds_toArray, List.set_cons_zero, List.set_cons_succ]
                      -- STEP 1: Op.buildSlice 44 0 #[]
                      refine reg_step hR 1 (by kernel_rfl) rfl fun K hK => ?_
                      try simp only [Act.put, List.getElem_toArray, List.getElem_cons_succ, List.getElem_cons_zero, List.setIfInBounds_toArray, List.set_cons_zero, List.set_cons_succ]
                      go_simp

                      refine hK.out _ _ ?_ ?_
                      · exact Kp.of_old (bl_alloc (bl0 _) _)
                      clear hK K
                      try simp only [Act.put, List.getElem_toArray, List.getElem_cons_succ, List.getElem_cons_zero, List.setIfInBounds_toArray, List.set_cons_zero, List.set_cons_succ]
                      -- STEP 4: Op.call { callee := Callee.builtin Builtin.append, args := #[t149, t151], argTypes := #[44, 44] }
                      refine reg_step hR 4 (by kernel_rfl) rfl fun K hK => ?_
                      try simp only [Act.put, List.getElem_toArray, List.getElem_cons_succ, List.getElem_cons_zero, List.setIfInBounds_toArray, List.set_cons_zero, List.set_cons_succ]
                      rw [if_pos (by rfl)]
                      change Oper.wp _ _ _ (u1.drew.alloc (.cells #[] 4)) _ _
                      refine wp_appb _ _ rfl rfl rfl HK1d.out HK1t.out (by have := HKl.out; omega) ?_
                      intro A3 c3 u3 hk3 hb3 hz3
                      have HK3 := Lib.hid hk3; have HB3 := Lib.hid (undrewN hb3); have HZ3 : Hid (u1.heap.size < u3.heap.size) := Lib.hid hz3; clear hk3 hb3 hz3
                      refine hK.out _ _ ?_ ?_
                      · exact kp_appb1 (w := u1) HB3.out (Or.inr (Or.inr rfl)) HZ3.out
                      clear hK K
                      try simp only [Act.put, List.getElem_toArray, List.getElem_cons_succ, List.getElem_cons_zero, List.setIfInBounds_toArray, List.set_cons_zero, List.set_cons_succ]
                      -- STEP 5: Op.call { callee := Callee.value (Operand.func 23), args := #[t148, t152], argTypes := #[22, 44] }
                      refine reg_step hR 5 (by kernel_rfl) rfl fun K hK => ?_
                      try simp only [Act.put, List.getElem_toArray, List.getElem_cons_succ, List.getElem_cons_zero, List.setIfInBounds_toArray, List.set_cons_zero, List.set_cons_succ]
                      go_simp
                      refine (crash_any (HD1.out.old HB3.out) HK3.out (Nat.le_refl _) (by have := HKl.out; omega)).mono ?_; rintro e u4 ⟨rfl, hd4, hk4⟩
                      have HD4 := Lib.hid hd4; have HK4 := Lib.hid hk4; clear hd4 hk4
                      refine hK.out _ _ ?_ ?_
                      · exact HK4.out.mono (fun k hk => by rcases hk with h | h; exact .inl h; exact .inr (.inl h))
                      clear hK K
                      try simp only [Act.put, List.getElem_toArray, List.getElem_cons_succ, List.getElem_cons_zero, List.setIfInBounds_toArray, List.set_cons_zero, List.set_cons_succ]
                      refine reg_take (v := .bool false) hR 6 rfl (by kernel_rfl) (by kernel_rfl) (by kernel_rfl) (fun _ _ _ h => h) (by rfl) ?_ ?_
                      · intro W hW; go_simp
                      try simp only [Act.put, List.getElem_toArray, List.getElem_cons_succ, List.getElem_cons_zero, List.setIfInBounds_toArray, List.set_cons_zero, List.set_cons_succ]
                      refine reg_take (v := ?_) hR 7 rfl (by kernel_rfl) (by kernel_rfl) (by kernel_rfl) (fun _ _ _ h => h) (by rfl) ?_ ?_
                      rotate_left
                      · intro W hW; go_simp; try with_reducible rfl
                      try simp only [Act.put, List.getElem_toArray, List.getElem_cons_succ, List.getElem_cons_zero, List.setIfInBounds_toArray, List.set_cons_zero, List.set_cons_succ]
                      refine reg_take (v := ?_) hR 8 rfl (by kernel_rfl) (by kernel_rfl) (by kernel_rfl) (fun _ _ _ h => h) (by rfl) ?_ ?_
                      rotate_left
                      · intro W hW; go_simp; try with_reducible rfl
                      try simp only [Act.put, List.getElem_toArray, List.getElem_cons_succ, List.getElem_cons_zero, List.setIfInBounds_toArray, List.set_cons_zero, List.set_cons_succ]
                      -- STEP 9: Op.call { callee := Callee.value (Operand.func 13), args := #[t156], argTypes := #[22] }
                      refine reg_step hR 9 (by kernel_rfl) rfl fun K hK => ?_
                      try simp only [Act.put, List.getElem_toArray, List.getElem_cons_succ, List.getElem_cons_zero, List.setIfInBounds_toArray, List.set_cons_zero, List.set_cons_succ]
                      go_simp
                      refine (HCh.out _ HD4.out).mono ?_; rintro e u5 ⟨A7, c7, rfl, hb7⟩
                      have HB7 := Lib.hid hb7; have HE5 := Lib.hid (((HE1.out.old HB3.out).kp HK4.out (by have := HH1.out; have := HSl.out; omega) (by have := HH1.out; have := HSl.out; omega) (by have := HH1.out; have := HSl.out; omega)).old hb7); clear hb7
                      refine hK.out _ _ ?_ ?_
                      · exact Kp.old HB7.out
                      clear hK K
                      try simp only [Act.put, List.getElem_toArray, List.getElem_cons_succ, List.getElem_cons_zero, List.setIfInBounds_toArray, List.set_cons_zero, List.set_cons_succ]
                      refine reg_take (v := .int .i64 0) hR 10 rfl (by kernel_rfl) (by kernel_rfl) (by kernel_rfl) (fun _ _ _ h => h) (by rfl) ?_ ?_
                      · intro W hW; go_simp
                      try simp only [Act.put, List.getElem_toArray, List.getElem_cons_succ, List.getElem_cons_zero, List.setIfInBounds_toArray, List.set_cons_zero, List.set_cons_succ]
                      refine reg_take (v := .bool false) hR 11 rfl (by kernel_rfl) (by kernel_rfl) (by kernel_rfl) (fun _ _ _ h => h) (by rfl) ?_ ?_
                      · intro W hW; go_simp
                      try simp only [Act.put, List.getElem_toArray, List.getElem_cons_succ, List.getElem_cons_zero, List.setIfInBounds_toArray, List.set_cons_zero, List.set_cons_succ]
                      refine reg_take (v := .bool false) hR 12 rfl (by kernel_rfl) (by kernel_rfl) (by kernel_rfl) (fun _ _ _ h => h) (by rfl) ?_ ?_
                      · intro W hW; go_simp
                      try simp only [Act.put, List.getElem_toArray, List.getElem_cons_succ, List.getElem_cons_zero, List.setIfInBounds_toArray, List.set_cons_zero, List.set_cons_succ]
                      refine reg_take (v := ?_) hR 13 rfl (by kernel_rfl) (by kernel_rfl) (by kernel_rfl) (fun _ _ _ h => h) (by rfl) ?_ ?_
                      rotate_left
                      · intro W hW; go_simp; try with_reducible rfl
                      try simp only [Act.put, List.getElem_toArray, List.getElem_cons_succ, List.getElem_cons_zero, List.setIfInBounds_toArray, List.set_cons_zero, List.set_cons_succ]
                      refine reg_take (v := ?_) hR 14 rfl (by kernel_rfl) (by kernel_rfl) (by kernel_rfl) (fun _ _ _ h => h) (by rfl) ?_ ?_
                      rotate_left
                      · intro W hW; go_simp; try with_reducible rfl
                      try simp only [Act.put, List.getElem_toArray, List.getElem_cons_succ, List.getElem_cons_zero, List.setIfInBounds_toArray, List.set_cons_zero, List.set_cons_succ]
                      -- STEP 15: Op.call { callee := Callee.value (Operand.func 13), args := #[t162], argTypes := #[22] }
                      refine reg_step hR 15 (by kernel_rfl) rfl fun K hK => ?_
                      try simp only [Act.put, List.getElem_toArray, List.getElem_cons_succ, List.getElem_cons_zero, List.setIfInBounds_toArray, List.set_cons_zero, List.set_cons_succ]
                      go_simp
                      refine (HCc.out _ HE5.out).mono ?_; rintro e u6 ⟨A8, c8, rfl, hb8⟩
                      have HB8 := Lib.hid hb8; clear hb8
                      refine hK.out _ _ ?_ ?_
                      · exact Kp.old HB8.out
                      clear hK K
                      try simp only [Act.put, List.getElem_toArray, List.getElem_cons_succ, List.getElem_cons_zero, List.setIfInBounds_toArray, List.set_cons_zero, List.set_cons_succ]
                      refine reg_take (v := .int .i64 (nc : Int)) hR 16 rfl (by kernel_rfl) (by kernel_rfl) (by kernel_rfl) (fun _ _ _ h => h) (by rfl) ?_ ?_
                      · intro W hW; go_simp
                      try simp only [Act.put, List.getElem_toArray, List.getElem_cons_succ, List.getElem_cons_zero, List.setIfInBounds_toArray, List.set_cons_zero, List.set_cons_succ]
                      refine reg_take (v := .bool false) hR 17 rfl (by kernel_rfl) (by kernel_rfl) (by kernel_rfl) (fun _ _ _ h => h) (by rfl) ?_ ?_
                      · intro W hW; go_simp; omega
                      try simp only [Act.put, List.getElem_toArray, List.getElem_cons_succ, List.getElem_cons_zero, List.setIfInBounds_toArray, List.set_cons_zero, List.set_cons_succ]
                      refine reg_take (v := ?_) hR 18 rfl (by kernel_rfl) (by kernel_rfl) (by kernel_rfl) (fun _ _ _ h => h) (by rfl) ?_ ?_
                      rotate_left
                      · intro W hW; go_simp; try with_reducible rfl
                      try simp only [Act.put, List.getElem_toArray, List.getElem_cons_succ, List.getElem_cons_zero, List.setIfInBounds_toArray, List.set_cons_zero, List.set_cons_succ]
                      refine reg_skip hR 19 rfl (by kernel_rfl) (by kernel_rfl) (by kernel_rfl) (fun _ _ _ h => h) (by rfl) ?_
                      try simp only [Act.put, List.getElem_toArray, List.getElem_cons_succ, List.getElem_cons_zero, List.setIfInBounds_toArray, List.set_cons_zero, List.set_cons_succ]
                      refine reg_skip hR 20 rfl (by kernel_rfl) (by kernel_rfl) (by kernel_rfl) (fun _ _ _ h => h) (by rfl) ?_
                      try simp only [Act.put, List.getElem_toArray, List.getElem_cons_succ, List.getElem_cons_zero, List.setIfInBounds_toArray, List.set_cons_zero, List.set_cons_succ]
                      refine reg_skip hR 21 rfl (by kernel_rfl) (by kernel_rfl) (by kernel_rfl) (fun _ _ _ h => h) (by rfl) ?_
                      try simp only [Act.put, List.getElem_toArray, List.getElem_cons_succ, List.getElem_cons_zero, List.setIfInBounds_toArray, List.set_cons_zero, List.set_cons_succ]
                      refine reg_skip hR 22 rfl (by kernel_rfl) (by kernel_rfl) (by kernel_rfl) (fun _ _ _ h => h) (by rfl) ?_
                      try simp only [Act.put, List.getElem_toArray, List.getElem_cons_succ, List.getElem_cons_zero, List.setIfInBounds_toArray, List.set_cons_zero, List.set_cons_succ]
                      refine reg_skip hR 23 rfl (by kernel_rfl) (by kernel_rfl) (by kernel_rfl) (fun _ _ _ h => h) (by rfl) ?_
                      try simp only [Act.put, List.getElem_toArray, List.getElem_cons_succ, List.getElem_cons_zero, List.setIfInBounds_toArray, List.set_cons_zero, List.set_cons_succ]
                      refine reg_skip hR 24 rfl (by kernel_rfl) (by kernel_rfl) (by kernel_rfl) (fun _ _ _ h => h) (by rfl) ?_
                      try simp only [Act.put, List.getElem_toArray, List.getElem_cons_succ, List.getElem_cons_zero, List.setIfInBounds_toArray, List.set_cons_zero, List.set_cons_succ]
                      refine reg_skip hR 25 rfl (by kernel_rfl) (by kernel_rfl) (by kernel_rfl) (fun _ _ _ h => h) (by rfl) ?_
                      try simp only [Act.put, List.getElem_toArray, List.getElem_cons_succ, List.getElem_cons_zero, List.setIfInBounds_toArray, List.set_cons_zero, List.set_cons_succ]
                      refine reg_take (v := .bool false) hR 26 rfl (by kernel_rfl) (by kernel_rfl) (by kernel_rfl) (fun _ _ _ h => h) (by rfl) ?_ ?_
                      · intro W hW; go_simp
                      try simp only [Act.put, List.getElem_toArray, List.getElem_cons_succ, List.getElem_cons_zero, List.setIfInBounds_toArray, List.set_cons_zero, List.set_cons_succ]
                      refine reg_take (v := .bool false) hR 27 rfl (by kernel_rfl) (by kernel_rfl) (by kernel_rfl) (fun _ _ _ h => h) (by rfl) ?_ ?_
                      · intro W hW; go_simp
                      try simp only [Act.put, List.getElem_toArray, List.getElem_cons_succ, List.getElem_cons_zero, List.setIfInBounds_toArray, List.set_cons_zero, List.set_cons_succ]
                      refine reg_done (by kernel_rfl) ?_ _

                      have HDX := Lib.hid (HD4.out.old (bl_call HB7.out HB8.out))
                      have HKX : Hid (Kp (fun k => k = s ∨ k = m ∨ u0.heap.size ≤ k) u0 u6) := Lib.hid ((((Kp.old (bl_call HB1.out HB3.out)).trans (HK4.out.mono (fun k hk => by rcases hk with h | h; exact .inl h; exact .inr (.inl h))))).trans (Kp.old (bl_call HB7.out HB8.out)))
                      go_wp2_with fail
                      go_meet
                      case rel => exact ⟨rfl, Lib.hid (by rw [HSE.out]; exact HDX.out), HKX⟩

                  case rest =>
                    as_aux_lemma =>
                    obtain ⟨rfl, HDX, HKX⟩ := hcut
                    clear HK1d HK1t HCh HM1 HE1 HH1 HB1 HD1
                    have HNw := Lib.hid (HN0.out.kp HKX.out (by have := HLP.out; have := HLow.out; have := HNl.out; omega))
                    have HSw := Lib.hid (HSf0.out.kp HKX.out (by have := HLP.out; have := HLow.out; have := HNl.out; omega))
                    have HCw := Lib.hid (HC0.out.kp HKX.out (by have := HLP.out; have := HDc.out; have := HNl.out; omega))
                    have HKb : Hid (Below w.heap.size w wc) := Lib.hid (HB0.out.trans (HKX.out.below HB0.out.size (fun k h => by have hq := HB0.out.size; have := HH.out; unfold Hi at this; omega)))
                    have HQw : Hid (∀ W, Kp (fun k => k = sb) wc W → W.cell? ⟨bx, 4, none⟩ = some (.slice x.K x.a.keep.length x.kc)) := Lib.hid (fun W hW => HQ4.out W ((HKX.out.mono (fun k hk => by rcases hk with h | h | h; exact .inl h; exact .inr (.inl h); exact .inr (.inr (.inr (.inr (.inr h)))))).trans (hW.mono (fun k h => .inr (.inr (.inr (.inl h)))))))
                    have HKk : Hid (∀ W, Kp (fun k => k = sb) wc W → Bi W w.heap.size x.K x.a.keep.length x.kc x.a.keep) := Lib.hid (fun W hW => (HKw.out.below (HKX.out.below HB0.out.size (fun k h => by have hq := HB0.out.size; have := HH.out; unfold Hi at this; omega))).below (hW.below HKb.out.size (fun k h => by have := HLow.out; have := HWL.out; omega)))
                    have HSC : Hid (∀ y, some y ∈ S.2 → y.length = 256) := Lib.hid HD0.out.hC
                    have HSB : Hid (S.1.length = 256 * S.2.length) := Lib.hid HD0.out.hB
                    have HDS : Hid (∀ j y, S.2.getD j none = some y → y.length = 256) := Lib.hid (fun j y h => HD0.out.getC h)
                    have HT3 : Hid (lo ≤ wc.heap.size) := Lib.hid (Nat.le_trans HT0.out HKX.out.size)
                    clear HQ0 HQ1 HQ2 HQ3 HQ4 HKw HN0 HSf0 HC0 HB0 HT0 HSl HD0 HKX
                    go_wp2_with fail
                    go_loopw [17, 18] (fun vk v wx => ∃ j : Nat, j ≤ N ∧ v = .int .i64 (j : Int) ∧ vk = .int .i64 ((idx 0 (S.2.take j)).length : Int) ∧ Hid (Sl wx sb (safeL (crB S x.a.keep j, S.2))) ∧ Hid (Kp (fun k => k = sb) wc wx)) (fun _ v _ => N - (RowKit.intOf v).toNat)
                    case atStart => exact ⟨0, by omega, rfl, rfl, Lib.hid (by rw [crB_zero]; exact HSw.out), Lib.hid (Kp.refl _ _)⟩
                    case round =>
                      obtain ⟨j, hj, rfl, rfl, HSj, HKj⟩ := hrel
                      by_cases hlj : j < N
                      · have hjS : j < S.2.length := by rw [HLS.out]; exact hlj
                        have HJS := Lib.hid hjS
                        have hcj := (HCw.out.kp HKj.out (fun h => HDc.out.2.2 h.symm)).cell (cachL_get S hjS)
                        have hj2 : (j : Int) < (N : Int) := by omega
                        have HJ := Lib.hid hlj
                        cases hg : S.2.getD j none with
                        | none =>
                          obtain ⟨c1, c2⟩ := crB_none S x.a.keep hjS hg
                          rw [hg] at hcj
                          have HC1 := Lib.hid c1
                          have HC2 := Lib.hid c2
                          clear c1 c2 hg hjS
                          go_wp2
                          go_roundw
                          case rel => exact ⟨j + 1, by have := HJ.out; omega, by go_num, by rw [HC2.out], Lib.hid (by rw [HC1.out]; exact HSj.out), HKj⟩
                          case measure => have := HJ.out; simp [RowKit.intOf]; omega
                        | some y =>
                          obtain ⟨c1, c2⟩ := crB_some S x.a.keep hjS hg
                          obtain ⟨kk, hkk⟩ : ∃ kk, kk = (idx 0 (S.2.take j)).length := ⟨_, rfl⟩
                          rw [← hkk] at c1 c2 ⊢
                          rw [hg] at hcj
                          have HC1 := Lib.hid c1
                          have HC2 := Lib.hid c2
                          have HLk := Lib.hid (look_some (B := S.1) hg)
                          have HY5 := Lib.hid (HDS.out j y hg)
                          have q4 := HQw.out _ HKj.out
                          have hkN : kk ≤ N := by
                            have := idx_len (S.2.take j) 0
                            rw [← hkk, List.length_take] at this
                            omega
                          clear c1 c2 hg hjS hkk
                          by_cases hkl : kk < x.a.keep.length
                          · obtain ⟨ad2, u, hKa, hku, hkc⟩ := (HKk.out _ HKj.out).at_ hkl
                            have hgd : x.a.keep.getD kk false = u := by rw [List.getD_eq_getElem?_getD, hku]; rfl
                            rw [hKa] at q4
                            have hkl2 : (kk : Int) < (x.a.keep.length : Int) := by omega
                            rw [hgd] at HC1
                            clear hKa hku hgd hkl
                            cases u with
                            | true =>
                              have hnj := (HNw.out.kp HKj.out HDis.out).cell (nowL_get S HJS.out)
                              rw [HLk.out] at hnj
                              go_wp2_with (first | (refine wpList_store_str rfl _ _ rfl HSj.out (by rw [safeL_len]; exact HJS.out) rfl rfl ?_) | fail)
                              have hk9 := kp_set wr sb j (.string (str y))
                              have hs9 := HSj.out.set j y
                              generalize wr.setCell ⟨sb, j, none⟩ (.string (str y)) = w9 at hk9 hs9 ⊢
                              have hz := safe_set (S := S) (B := crB S x.a.keep j) HY5.out (by rw [crB_len HSC.out HSB.out]; exact HSB.out) HJS.out
                              have HS9 : Hid (Sl w9 sb (safeL (crB S x.a.keep (j + 1), S.2))) := Lib.hid (by rw [HC1.out, if_pos rfl, hz]; exact hs9)
                              have HK9 : Hid (Kp (fun k => k = sb) wc w9) := Lib.hid (HKj.out.trans hk9)
                              clear hk9 hs9 hz q4 hkc hnj hcj
                              go_wp2
                              go_roundw
                              case rel => exact ⟨j + 1, by have := HJ.out; omega, by go_num, by rw [HC2.out]; go_num, HS9, HK9⟩
                              case measure => have := HJ.out; simp [RowKit.intOf]; omega
                            | false =>
                              go_wp2
                              go_roundw
                              case rel => exact ⟨j + 1, by have := HJ.out; omega, by go_num, by rw [HC2.out]; go_num, Lib.hid (by rw [HC1.out]; exact HSj.out), HKj⟩
                              case measure => have := HJ.out; simp [RowKit.intOf]; omega
                          · have hgd : x.a.keep.getD kk false = false := by rw [List.getD_eq_getElem?_getD, List.getElem?_eq_none (by omega)]; rfl
                            rw [hgd] at HC1
                            have hkl2 : ¬ (kk : Int) < (x.a.keep.length : Int) := by omega
                            clear hgd
                            go_wp2
                            go_roundw
                            case rel => exact ⟨j + 1, by have := HJ.out; omega, by go_num, by rw [HC2.out]; go_num, Lib.hid (by rw [HC1.out]; exact HSj.out), HKj⟩
                            case measure => have := HJ.out; simp [RowKit.intOf]; omega
                      · obtain rfl : N = j := by omega
                        have hcr : crB S x.a.keep N = S'.1 := by rw [← HLS.out, crB_end, HSE.out]
                        have HSN : Hid (Sl wr sb (safeL S')) := Lib.hid (by
                          have := HSj.out
                          rw [hcr, safeL_any S'.1 S.2 S'.2 (by rw [HLS.out, HLS'.out])] at this
                          exact this)
                        have HNN := Lib.hid (HNw.out.kp HKj.out HDis.out)
                        clear hcr HSj hlj hj
                        go_wp2_with (first | (refine wpList_copy_str rfl _ _ rfl HNN.out HSN.out (by rw [nowL_len]; exact HLS.out) (by rw [safeL_len]; exact HLS'.out) rfl rfl ?_; intro u8 hs8 hk8; have HS8 := Lib.hid hs8; have HK8 := Lib.hid hk8; clear hs8 hk8) | fail)
                        go_meet
                        case rel =>
                          have hb9 := bl_alloc (bl0 u8) Y
                          have z1 := HKj.out.size
                          have z2 := HK8.out.size
                          have z3 := HNN.out.lt
                          have z4 := HSN.out.lt
                          have z5 := HT3.out
                          exact ⟨u8.heap.size, rfl, Lib.hid (((HDX.out.kp HKj.out (by have := HLP.out; have := HLow.out; omega) (by have := HLP.out; have := HLow.out; omega) (by have := HLP.out; have := HLow.out; omega)).kp HK8.out (by have := HLP.out; have := HLow.out; omega) (by have := HLP.out; have := HLow.out; omega) (by have := HLP.out; have := HLow.out; omega)).old hb9), Lib.hid (by rw [show nowL S' = safeL S' from by rw [HSE.out, nowL_noC]]; exact HS8.out.old hb9), Lib.hid ((HSN.out.kp HK8.out (fun h => HDis.out h.symm)).old hb9), Lib.hid (by rw [HSE.out, cachL_noC, HLS.out, HY.out]; exact Bo.new u8 N), Lib.hid ⟨by omega, by omega, by omega⟩, Lib.hid (((HKb.out.trans (HKj.out.below HKb.out.size (fun k h => by have := HLow.out; have := HWL.out; omega))).trans (HK8.out.below (Nat.le_trans HKb.out.size z1) (fun k h => by have := HLow.out; have := HWL.out; omega))).trans (hb9.mono (Nat.le_trans HKb.out.size (Nat.le_trans z1 z2)))), Lib.hid (by have := hb9.size; omega)⟩


              · as_aux_lemma =>
                  have z0 : ¬ ((nn : Int) = 0) := by omega
                  have z3 : ¬ ((nn : Int) = 3) := by omega
                  have z4 : ¬ ((nn : Int) = 4) := by omega
                  have HSE : Hid (S' = wrS x.a.at_ x.a.b x.a.long S) := Lib.hid (by rw [HS.out, HEq.out, if_neg (show ¬ nn = 0 by omega), if_neg (show ¬ nn = 3 by omega), if_neg (show ¬ nn = 4 by omega)])
                  have HBy : Hid (∀ W : World, Calls Try.prog 25 #[.agg #[.int .i64 x.a.kind, .int .i64 x.a.at_, .int .u8 (x.a.b.toNat : Int), .bool x.a.long, .slice x.K x.a.keep.length x.kc]] W fun e w' => ∃ A' c', e = .returned (.slice A' (bytesOf ⟨x.a.kind, x.a.at_, x.a.b, x.a.long, x.a.keep⟩).length c') ∧ Rd w' w'.heap.size A' (bytesOf ⟨x.a.kind, x.a.at_, x.a.b, x.a.long, x.a.keep⟩).length c' (bytesOf ⟨x.a.kind, x.a.at_, x.a.b, x.a.long, x.a.keep⟩) ∧ Below W.heap.size W w') := Lib.hid (fun W => bytes_any W ⟨x.a.kind, x.a.at_, x.a.b, x.a.long, x.a.keep⟩ x.K x.kc)
                  have HNl : Hid (nb < u0.heap.size ∧ sb < u0.heap.size ∧ cb < u0.heap.size) := Lib.hid ⟨HN0.out.lt, HSf0.out.lt, HC0.out.lt⟩
                  clear h12 hpl HEq q1
                  by_cases hc : b = true ∧ x.a.long = false
                  · obtain ⟨rfl, hlg⟩ := hc
                    have hbt := of_decide_eq_true HBt.out.symm
                    obtain ⟨t, hat⟩ := Int.eq_ofNat_of_zero_le hbt.1
                    have htN : t < N := by omega
                    have HNt := Lib.hid htN
                    have hcc : 0 ≤ x.a.at_ ∧ x.a.at_ < S.2.length ∧ x.a.long = false := ⟨hbt.1, by rw [HLS.out]; exact hbt.2, hlg⟩
                    have HWE : Hid (wrE x.a.at_ x.a.long S = 0) := Lib.hid (by unfold wrE; rw [if_pos hcc])
                    have HWS : Hid (S' = (S.1, S.2.set t (some (wrote x.a.b)))) := Lib.hid (by rw [HSE.out]; unfold wrS; rw [if_pos hcc, hat]; rfl)
                    have HBr : Hid (∀ W : World, Calls Try.prog 25 #[.agg #[.int .i64 x.a.kind, .int .i64 x.a.at_, .int .u8 (x.a.b.toNat : Int), .bool x.a.long, .slice x.K x.a.keep.length x.kc]] W fun e w' => e = .returned (.slice (some ⟨W.heap.size + 1, 0, none⟩) 256 256) ∧ Row w' (W.heap.size + 1) (wrote x.a.b) ∧ Below W.heap.size W w') := Lib.hid (fun W => by
                      rw [hlg]
                      exact bytes_row W x.a.kind x.a.at_ x.a.b x.a.keep x.K x.kc)
                    have HQt : Hid (∀ W : World, Kp (fun k => k = s ∨ k = m ∨ k = nb ∨ k = sb ∨ k = cb ∨ u0.heap.size ≤ k) u0 W → W.cell? ⟨bx, 1, none⟩ = some (.int .i64 (t : Int))) := Lib.hid (by rw [← hat]; exact HQ1.out)
                    have HQl : Hid (∀ W : World, Kp (fun k => k = s ∨ k = m ∨ k = nb ∨ k = sb ∨ k = cb ∨ u0.heap.size ≤ k) u0 W → W.cell? ⟨bx, 3, none⟩ = some (.bool false)) := Lib.hid (by rw [← hlg]; exact HQ3.out)
                    have htz : (t : Int) < (N : Int) := by omega
                    clear hbt hat htN hlg hcc
                    go_wp2_with fail
                    have hR := Kp.stays (fun k => k = s ∨ k = m)
                    refine reg_start (Kp (fun k => k = s ∨ k = m)) follows_mixed ?_
                    -- region 20 of f6: 7 operations, draws: true
                    refine reg_take (v := ?_) hR 0 rfl (by kernel_rfl) (by kernel_rfl) (by kernel_rfl) (fun _ _ _ h => h) (by rfl) ?_ ?_
                    rotate_left
                    · intro W hW; go_simp; try with_reducible rfl
                    try simp only [Act.put, List.getElem_toArray, List.getElem_cons_succ, List.getElem_cons_zero, List.setIfInBounds_toArray, List.set_cons_zero, List.set_cons_succ]
                    refine reg_take (v := ?_) hR 1 rfl (by kernel_rfl) (by kernel_rfl) (by kernel_rfl) (fun _ _ _ h => h) (by rfl) ?_ ?_
                    rotate_left
                    · intro W hW; go_simp; try with_reducible rfl
                    try simp only [Act.put, List.getElem_toArray, List.getElem_cons_succ, List.getElem_cons_zero, List.setIfInBounds_toArray, List.set_cons_zero, List.set_cons_succ]
                    refine reg_take (v := .int .i64 x.a.at_) hR 2 rfl (by kernel_rfl) (by kernel_rfl) (by kernel_rfl) (fun _ _ _ h => h) (by rfl) ?_ ?_
                    · intro W hW; have q1 := HQ1.out W (hW.undrew.mono (fun k hk => by rcases hk with h | h; exact .inl h; exact .inr (.inl h))); go_simp
                    try simp only [Act.put, List.getElem_toArray, List.getElem_cons_succ, List.getElem_cons_zero, List.setIfInBounds_toArray, List.set_cons_zero, List.set_cons_succ]
                    refine reg_take (v := .agg #[.int .i64 x.a.kind, .int .i64 x.a.at_, .int .u8 (x.a.b.toNat : Int), .bool x.a.long, .slice x.K x.a.keep.length x.kc]) hR 3 rfl (by kernel_rfl) (by kernel_rfl) (by kernel_rfl) (fun _ _ _ h => h) (by rfl) ?_ ?_
                    · intro W hW; have q0 := HQ0.out W (hW.undrew.mono (fun k hk => by rcases hk with h | h; exact .inl h; exact .inr (.inl h))); have q1 := HQ1.out W (hW.undrew.mono (fun k hk => by rcases hk with h | h; exact .inl h; exact .inr (.inl h))); have q2 := HQ2.out W (hW.undrew.mono (fun k hk => by rcases hk with h | h; exact .inl h; exact .inr (.inl h))); have q3 := HQ3.out W (hW.undrew.mono (fun k hk => by rcases hk with h | h; exact .inl h; exact .inr (.inl h))); have q4 := HQ4.out W (hW.undrew.mono (fun k hk => by rcases hk with h | h; exact .inl h; exact .inr (.inl h))); go_simp
                    try simp only [Act.put, List.getElem_toArray, List.getElem_cons_succ, List.getElem_cons_zero, List.setIfInBounds_toArray, List.set_cons_zero, List.set_cons_succ]
                    -- STEP 4: Op.call { callee := Callee.value (Operand.func 25), args := #[t83], argTypes := #[46] }
                    refine reg_step hR 4 (by kernel_rfl) rfl fun K hK => ?_
                    try simp only [Act.put, List.getElem_toArray, List.getElem_cons_succ, List.getElem_cons_zero, List.setIfInBounds_toArray, List.set_cons_zero, List.set_cons_succ]
                    go_simp
                    refine (HBy.out _).mono ?_; rintro e u3 ⟨A3, c3, rfl, hr3, hb3⟩
                    have HB3 := Lib.hid (undrewN hb3); have HR3 := Lib.hid hr3; clear hr3 hb3
                    refine hK.out _ _ ?_ ?_
                    · exact Kp.old (redrewN HB3.out)
                    clear hK K
                    try simp only [Act.put, List.getElem_toArray, List.getElem_cons_succ, List.getElem_cons_zero, List.setIfInBounds_toArray, List.set_cons_zero, List.set_cons_succ]
                    -- STEP 5: Op.call { callee := Callee.value (Operand.func 12), args := #[t80, t82, t84], argTypes := #[22, 3, 27] }
                    refine reg_step hR 5 (by kernel_rfl) rfl fun K hK => ?_
                    try simp only [Act.put, List.getElem_toArray, List.getElem_cons_succ, List.getElem_cons_zero, List.setIfInBounds_toArray, List.set_cons_zero, List.set_cons_succ]
                    go_simp
                    refine (write_any (S := S) (HD0.out.old HB3.out) x.a.kind x.a.at_ x.a.b x.a.long x.a.keep HR3.out).mono ?_; rintro e u4 ⟨rfl, hd4, hk4⟩
                    rw [HWE.out]
                    have HD4 := Lib.hid hd4; have HK4 := Lib.hid hk4; clear hd4 hk4
                    refine hK.out _ _ ?_ ?_
                    · exact HK4.out
                    clear hK K
                    try simp only [Act.put, List.getElem_toArray, List.getElem_cons_succ, List.getElem_cons_zero, List.setIfInBounds_toArray, List.set_cons_zero, List.set_cons_succ]
                    refine reg_take (v := ?_) hR 6 rfl (by kernel_rfl) (by kernel_rfl) (by kernel_rfl) (fun _ _ _ h => h) (by rfl) ?_ ?_
                    rotate_left
                    · intro W hW; go_simp; try with_reducible rfl
                    try simp only [Act.put, List.getElem_toArray, List.getElem_cons_succ, List.getElem_cons_zero, List.setIfInBounds_toArray, List.set_cons_zero, List.set_cons_succ]
                    refine reg_done (by kernel_rfl) ?_ _

                    have HK04 : Hid (Kp (fun k => k = s ∨ k = m) u0 u4) := Lib.hid ((Kp.old HB3.out).trans HK4.out)
                    have HN4 := Lib.hid (HN0.out.kp HK04.out (by have := HLP.out; have := HLow.out; omega))
                    have HSf4 := Lib.hid (HSf0.out.kp HK04.out (by have := HLP.out; have := HLow.out; omega))
                    have HC4 := Lib.hid (HC0.out.kp HK04.out (by have := HLP.out; have := HDc.out; omega))

                    have q3 := HQl.out u4 (HK04.out.mono (fun k hk => by rcases hk with h | h; exact .inl h; exact .inr (.inl h)))
                    go_wp2_with fail
                    clear q3
                    have hR := Kp.stays (fun k => k = nb ∨ k = cb)
                    refine reg_start (Kp (fun k => k = nb ∨ k = cb)) follows_mixed ?_
                  -- region 24 of f6: 13 operations, draws: true
                    refine reg_take (v := ?_) hR 0 rfl (by kernel_rfl) (by kernel_rfl) (by kernel_rfl) (fun _ _ _ h => h) (by rfl) ?_ ?_
                    rotate_left
                    · intro W hW; go_simp; try with_reducible rfl
                    try simp only [Act.put, List.getElem_toArray, List.getElem_cons_succ, List.getElem_cons_zero, List.setIfInBounds_toArray, List.set_cons_zero, List.set_cons_succ]
                    refine reg_take (v := ?_) hR 1 rfl (by kernel_rfl) (by kernel_rfl) (by kernel_rfl) (fun _ _ _ h => h) (by rfl) ?_ ?_
                    rotate_left
                    · intro W hW; go_simp; try with_reducible rfl
                    try simp only [Act.put, List.getElem_toArray, List.getElem_cons_succ, List.getElem_cons_zero, List.setIfInBounds_toArray, List.set_cons_zero, List.set_cons_succ]
                    refine reg_take (v := .int .i64 (t : Int)) hR 2 rfl (by kernel_rfl) (by kernel_rfl) (by kernel_rfl) (fun _ _ _ h => h) (by rfl) ?_ ?_
                    · intro W hW; have q1 := HQt.out W ((HK04.out.mono (fun k hk => by rcases hk with h | h; exact .inl h; exact .inr (.inl h))).trans (hW.undrew.mono (fun k hk => by rcases hk with h | h; exact .inr (.inr (.inl h)); exact .inr (.inr (.inr (.inr (.inl h))))))); go_simp
                    try simp only [Act.put, List.getElem_toArray, List.getElem_cons_succ, List.getElem_cons_zero, List.setIfInBounds_toArray, List.set_cons_zero, List.set_cons_succ]
                    refine reg_take (v := ?_) hR 3 rfl (by kernel_rfl) (by kernel_rfl) (by kernel_rfl) (fun _ _ _ h => h) (by rfl) ?_ ?_
                    rotate_left
                    · intro W hW; go_simp; try with_reducible rfl
                    try simp only [Act.put, List.getElem_toArray, List.getElem_cons_succ, List.getElem_cons_zero, List.setIfInBounds_toArray, List.set_cons_zero, List.set_cons_succ]
                    refine reg_take (v := ?_) hR 4 rfl (by kernel_rfl) (by kernel_rfl) (by kernel_rfl) (fun _ _ _ h => h) (by rfl) ?_ ?_
                    rotate_left
                    · intro W hW; go_simp; try with_reducible rfl
                    try simp only [Act.put, List.getElem_toArray, List.getElem_cons_succ, List.getElem_cons_zero, List.setIfInBounds_toArray, List.set_cons_zero, List.set_cons_succ]
                    refine reg_take (v := .int .i64 (t : Int)) hR 5 rfl (by kernel_rfl) (by kernel_rfl) (by kernel_rfl) (fun _ _ _ h => h) (by rfl) ?_ ?_
                    · intro W hW; have q1 := HQt.out W ((HK04.out.mono (fun k hk => by rcases hk with h | h; exact .inl h; exact .inr (.inl h))).trans (hW.undrew.mono (fun k hk => by rcases hk with h | h; exact .inr (.inr (.inl h)); exact .inr (.inr (.inr (.inr (.inl h))))))); go_simp
                    try simp only [Act.put, List.getElem_toArray, List.getElem_cons_succ, List.getElem_cons_zero, List.setIfInBounds_toArray, List.set_cons_zero, List.set_cons_succ]
                    refine reg_take (v := .agg #[.int .i64 x.a.kind, .int .i64 x.a.at_, .int .u8 (x.a.b.toNat : Int), .bool x.a.long, .slice x.K x.a.keep.length x.kc]) hR 6 rfl (by kernel_rfl) (by kernel_rfl) (by kernel_rfl) (fun _ _ _ h => h) (by rfl) ?_ ?_
                    · intro W hW; have q0 := HQ0.out W ((HK04.out.mono (fun k hk => by rcases hk with h | h; exact .inl h; exact .inr (.inl h))).trans (hW.undrew.mono (fun k hk => by rcases hk with h | h; exact .inr (.inr (.inl h)); exact .inr (.inr (.inr (.inr (.inl h))))))); have q1 := HQ1.out W ((HK04.out.mono (fun k hk => by rcases hk with h | h; exact .inl h; exact .inr (.inl h))).trans (hW.undrew.mono (fun k hk => by rcases hk with h | h; exact .inr (.inr (.inl h)); exact .inr (.inr (.inr (.inr (.inl h))))))); have q2 := HQ2.out W ((HK04.out.mono (fun k hk => by rcases hk with h | h; exact .inl h; exact .inr (.inl h))).trans (hW.undrew.mono (fun k hk => by rcases hk with h | h; exact .inr (.inr (.inl h)); exact .inr (.inr (.inr (.inr (.inl h))))))); have q3 := HQ3.out W ((HK04.out.mono (fun k hk => by rcases hk with h | h; exact .inl h; exact .inr (.inl h))).trans (hW.undrew.mono (fun k hk => by rcases hk with h | h; exact .inr (.inr (.inl h)); exact .inr (.inr (.inr (.inr (.inl h))))))); have q4 := HQ4.out W ((HK04.out.mono (fun k hk => by rcases hk with h | h; exact .inl h; exact .inr (.inl h))).trans (hW.undrew.mono (fun k hk => by rcases hk with h | h; exact .inr (.inr (.inl h)); exact .inr (.inr (.inr (.inr (.inl h))))))); go_simp
                    try simp only [Act.put, List.getElem_toArray, List.getElem_cons_succ, List.getElem_cons_zero, List.setIfInBounds_toArray, List.set_cons_zero, List.set_cons_succ]
                    -- STEP 7: Op.call { callee := Callee.value (Operand.func 25), args := #[t103], argTypes := #[46] }
                    refine reg_step hR 7 (by kernel_rfl) rfl fun K hK => ?_
                    try simp only [Act.put, List.getElem_toArray, List.getElem_cons_succ, List.getElem_cons_zero, List.setIfInBounds_toArray, List.set_cons_zero, List.set_cons_succ]
                    go_simp
                    refine (HBr.out _).mono ?_; rintro e u5 ⟨rfl, hr5, hb5⟩
                    have HB5 := Lib.hid (undrewN hb5); have HR5 : Hid (Row u5 (u4.heap.size + 1) (wrote x.a.b)) := Lib.hid hr5; have HN5 : Hid (¬ (u4.heap.size + 1 = nb ∨ u4.heap.size + 1 = cb)) := Lib.hid (by have := HNl.out; have := HK04.out.size; omega); clear hr5 hb5
                    refine hK.out _ _ ?_ ?_
                    · exact Kp.old (redrewN HB5.out)
                    clear hK K
                    try simp only [Act.put, List.getElem_toArray, List.getElem_cons_succ, List.getElem_cons_zero, List.setIfInBounds_toArray, List.set_cons_zero, List.set_cons_succ]
                    refine reg_take (v := .string (str (wrote x.a.b))) hR 8 rfl (by kernel_rfl) (by kernel_rfl) (by kernel_rfl) (fun _ _ _ h => h) (by rfl) ?_ ?_
                    · intro W hW; have := run_strZ (wrote_len x.a.b) (HR5.out.of (hW.block _ HR5.out.lt HN5.out)); go_simp
                    try simp only [Act.put, List.getElem_toArray, List.getElem_cons_succ, List.getElem_cons_zero, List.setIfInBounds_toArray, List.set_cons_zero, List.set_cons_succ]
                    refine reg_take (v := .pointer (some ⟨nb, t, none⟩)) hR 9 rfl (by kernel_rfl) (by kernel_rfl) (by kernel_rfl) (fun _ _ _ h => h) (by rfl) ?_ ?_
                    · intro W hW; go_simp
                    try simp only [Act.put, List.getElem_toArray, List.getElem_cons_succ, List.getElem_cons_zero, List.setIfInBounds_toArray, List.set_cons_zero, List.set_cons_succ]
                    -- STEP 10: Op.store 9 (t106) (t105)
                    refine reg_step hR 10 (by kernel_rfl) rfl fun K hK => ?_
                    try simp only [Act.put, List.getElem_toArray, List.getElem_cons_succ, List.getElem_cons_zero, List.setIfInBounds_toArray, List.set_cons_zero, List.set_cons_succ]
                    have HU5 := Lib.hid (HN4.out.old HB5.out)
                    rw [if_pos (by rfl)]
                    refine wp_store_str _ _ rfl HU5.out (by rw [nowL_len, HLS.out]; exact HNt.out) rfl rfl ?_
                    have hk9 := kp_set u5 nb t (.string (str (wrote x.a.b))); have hs9 := HU5.out.set t (wrote x.a.b)
                    generalize u5.setCell ⟨nb, t, none⟩ (.string (str (wrote x.a.b))) = u6 at hk9 hs9 ⊢
                    have HK9 := Lib.hid hk9; have HS9 := Lib.hid hs9; clear hk9 hs9 HU5
                    refine hK.out _ _ ?_ ?_
                    · exact HK9.out.mono (fun k h => .inl h)
                    clear hK K
                    try simp only [Act.put, List.getElem_toArray, List.getElem_cons_succ, List.getElem_cons_zero, List.setIfInBounds_toArray, List.set_cons_zero, List.set_cons_succ]
                    refine reg_take (v := .pointer (some ⟨cb, t, none⟩)) hR 11 rfl (by kernel_rfl) (by kernel_rfl) (by kernel_rfl) (fun _ _ _ h => h) (by rfl) ?_ ?_
                    · intro W hW; go_simp
                    try simp only [Act.put, List.getElem_toArray, List.getElem_cons_succ, List.getElem_cons_zero, List.setIfInBounds_toArray, List.set_cons_zero, List.set_cons_succ]
                    -- STEP 12: Op.store 4 (t107) (Operand.const (Value.bool true))
                    refine reg_step hR 12 (by kernel_rfl) rfl fun K hK => ?_
                    try simp only [Act.put, List.getElem_toArray, List.getElem_cons_succ, List.getElem_cons_zero, List.setIfInBounds_toArray, List.set_cons_zero, List.set_cons_succ]
                    have HU6 := Lib.hid ((HC4.out.old HB5.out).kp HK9.out (fun h => HDc.out.2.1 h.symm))
                    rw [if_pos (by rfl)]
                    refine wp_store_bool _ _ rfl HU6.out (by rw [cachL, List.length_map, HLS.out]; exact HNt.out) rfl rfl ?_
                    have hk9 := kp_set u6 cb t (.bool true); have hs9 := HU6.out.set t true
                    generalize u6.setCell ⟨cb, t, none⟩ (.bool true) = u7 at hk9 hs9 ⊢
                    have HK10 := Lib.hid hk9; have HS10 := Lib.hid hs9; clear hk9 hs9 HU6
                    refine hK.out _ _ ?_ ?_
                    · exact HK10.out.mono (fun k h => .inr h)
                    clear hK K
                    try simp only [Act.put, List.getElem_toArray, List.getElem_cons_succ, List.getElem_cons_zero, List.setIfInBounds_toArray, List.set_cons_zero, List.set_cons_succ]
                    refine reg_done (by kernel_rfl) ?_ _

                    go_wp2_with fail
                    go_meet
                    case rel =>
                      have z1 := HB5.out.size
                      have z2 := HK9.out.size
                      have z3 := HK10.out.size
                      have z5 := HK04.out.size
                      exact ⟨cb, rfl, Lib.hid (by rw [HSE.out]; exact ((HD4.out.old HB5.out).kp HK9.out (by have := HLP.out; have := HLow.out; omega) (by have := HLP.out; have := HLow.out; omega) (by have := HLP.out; have := HLow.out; omega)).kp HK10.out (by have := HLP.out; have := HDc.out; omega) (by have := HLP.out; have := HDc.out; omega) (by have := HLP.out; have := HDc.out; omega)), Lib.hid (by rw [HWS.out, nowL_write _ (by rw [HLS.out]; exact HNt.out)]; exact HS9.out.kp HK10.out HDc.out.2.1), Lib.hid (by rw [HWS.out, safeL_write]; exact ((HSf4.out.old HB5.out).kp HK9.out (fun h => HDis.out h.symm)).kp HK10.out HDc.out.2.2), Lib.hid (by rw [HWS.out, cachL_write]; exact HS10.out), HDc, Lib.hid ((((HB0.out.trans (HK04.out.below HB0.out.size (fun k h => by have := HH.out; unfold Hi at this; omega))).trans (HB5.out.mono (Nat.le_trans HB0.out.size z5))).trans (HK9.out.below (by have := HB0.out.size; omega) (fun k h => by have := HLow.out; have := HWL.out; omega))).trans (HK10.out.below (by have := HB0.out.size; omega) (fun k h => by have := HDc.out; have := HWL.out; omega))), Lib.hid (by have := HT0.out; omega)⟩
                  · have hcc : ¬ (0 ≤ x.a.at_ ∧ x.a.at_ < S.2.length ∧ x.a.long = false) := fun h => hc ⟨by rw [HBt.out]; exact decide_eq_true ⟨h.1, by have := h.2.1; rw [HLS.out] at this; exact this⟩, h.2.2⟩
                    have HWE : Hid (wrE x.a.at_ x.a.long S = 2) := Lib.hid (by unfold wrE; rw [if_neg hcc])
                    have HWS : Hid (S' = S) := Lib.hid (by rw [HSE.out]; unfold wrS; rw [if_neg hcc])
                    clear hcc
                    cases b with
                    | false =>
                      clear hc
                      go_wp2_with fail
                      have hR := Kp.stays (fun k => k = s ∨ k = m)
                      refine reg_start (Kp (fun k => k = s ∨ k = m)) follows_mixed ?_
                      -- region 20 of f6: 7 operations, draws: true
                      refine reg_take (v := ?_) hR 0 rfl (by kernel_rfl) (by kernel_rfl) (by kernel_rfl) (fun _ _ _ h => h) (by rfl) ?_ ?_
                      rotate_left
                      · intro W hW; go_simp; try with_reducible rfl
                      try simp only [Act.put, List.getElem_toArray, List.getElem_cons_succ, List.getElem_cons_zero, List.setIfInBounds_toArray, List.set_cons_zero, List.set_cons_succ]
                      refine reg_take (v := ?_) hR 1 rfl (by kernel_rfl) (by kernel_rfl) (by kernel_rfl) (fun _ _ _ h => h) (by rfl) ?_ ?_
                      rotate_left
                      · intro W hW; go_simp; try with_reducible rfl
                      try simp only [Act.put, List.getElem_toArray, List.getElem_cons_succ, List.getElem_cons_zero, List.setIfInBounds_toArray, List.set_cons_zero, List.set_cons_succ]
                      refine reg_take (v := .int .i64 x.a.at_) hR 2 rfl (by kernel_rfl) (by kernel_rfl) (by kernel_rfl) (fun _ _ _ h => h) (by rfl) ?_ ?_
                      · intro W hW; have q1 := HQ1.out W (hW.undrew.mono (fun k hk => by rcases hk with h | h; exact .inl h; exact .inr (.inl h))); go_simp
                      try simp only [Act.put, List.getElem_toArray, List.getElem_cons_succ, List.getElem_cons_zero, List.setIfInBounds_toArray, List.set_cons_zero, List.set_cons_succ]
                      refine reg_take (v := .agg #[.int .i64 x.a.kind, .int .i64 x.a.at_, .int .u8 (x.a.b.toNat : Int), .bool x.a.long, .slice x.K x.a.keep.length x.kc]) hR 3 rfl (by kernel_rfl) (by kernel_rfl) (by kernel_rfl) (fun _ _ _ h => h) (by rfl) ?_ ?_
                      · intro W hW; have q0 := HQ0.out W (hW.undrew.mono (fun k hk => by rcases hk with h | h; exact .inl h; exact .inr (.inl h))); have q1 := HQ1.out W (hW.undrew.mono (fun k hk => by rcases hk with h | h; exact .inl h; exact .inr (.inl h))); have q2 := HQ2.out W (hW.undrew.mono (fun k hk => by rcases hk with h | h; exact .inl h; exact .inr (.inl h))); have q3 := HQ3.out W (hW.undrew.mono (fun k hk => by rcases hk with h | h; exact .inl h; exact .inr (.inl h))); have q4 := HQ4.out W (hW.undrew.mono (fun k hk => by rcases hk with h | h; exact .inl h; exact .inr (.inl h))); go_simp
                      try simp only [Act.put, List.getElem_toArray, List.getElem_cons_succ, List.getElem_cons_zero, List.setIfInBounds_toArray, List.set_cons_zero, List.set_cons_succ]
                      -- STEP 4: Op.call { callee := Callee.value (Operand.func 25), args := #[t83], argTypes := #[46] }
                      refine reg_step hR 4 (by kernel_rfl) rfl fun K hK => ?_
                      try simp only [Act.put, List.getElem_toArray, List.getElem_cons_succ, List.getElem_cons_zero, List.setIfInBounds_toArray, List.set_cons_zero, List.set_cons_succ]
                      go_simp
                      refine (HBy.out _).mono ?_; rintro e u3 ⟨A3, c3, rfl, hr3, hb3⟩
                      have HB3 := Lib.hid (undrewN hb3); have HR3 := Lib.hid hr3; clear hr3 hb3
                      refine hK.out _ _ ?_ ?_
                      · exact Kp.old (redrewN HB3.out)
                      clear hK K
                      try simp only [Act.put, List.getElem_toArray, List.getElem_cons_succ, List.getElem_cons_zero, List.setIfInBounds_toArray, List.set_cons_zero, List.set_cons_succ]
                      -- STEP 5: Op.call { callee := Callee.value (Operand.func 12), args := #[t80, t82, t84], argTypes := #[22, 3, 27] }
                      refine reg_step hR 5 (by kernel_rfl) rfl fun K hK => ?_
                      try simp only [Act.put, List.getElem_toArray, List.getElem_cons_succ, List.getElem_cons_zero, List.setIfInBounds_toArray, List.set_cons_zero, List.set_cons_succ]
                      go_simp
                      refine (write_any (S := S) (HD0.out.old HB3.out) x.a.kind x.a.at_ x.a.b x.a.long x.a.keep HR3.out).mono ?_; rintro e u4 ⟨rfl, hd4, hk4⟩
                      rw [HWE.out]
                      have HD4 := Lib.hid hd4; have HK4 := Lib.hid hk4; clear hd4 hk4
                      refine hK.out _ _ ?_ ?_
                      · exact HK4.out
                      clear hK K
                      try simp only [Act.put, List.getElem_toArray, List.getElem_cons_succ, List.getElem_cons_zero, List.setIfInBounds_toArray, List.set_cons_zero, List.set_cons_succ]
                      refine reg_take (v := ?_) hR 6 rfl (by kernel_rfl) (by kernel_rfl) (by kernel_rfl) (fun _ _ _ h => h) (by rfl) ?_ ?_
                      rotate_left
                      · intro W hW; go_simp; try with_reducible rfl
                      try simp only [Act.put, List.getElem_toArray, List.getElem_cons_succ, List.getElem_cons_zero, List.setIfInBounds_toArray, List.set_cons_zero, List.set_cons_succ]
                      refine reg_done (by kernel_rfl) ?_ _

                      have HK04 : Hid (Kp (fun k => k = s ∨ k = m) u0 u4) := Lib.hid ((Kp.old HB3.out).trans HK4.out)
                      have HN4 := Lib.hid (HN0.out.kp HK04.out (by have := HLP.out; have := HLow.out; omega))
                      have HSf4 := Lib.hid (HSf0.out.kp HK04.out (by have := HLP.out; have := HLow.out; omega))
                      have HC4 := Lib.hid (HC0.out.kp HK04.out (by have := HLP.out; have := HDc.out; omega))

                      go_wp2_with fail
                      go_meet
                      case rel => exact ⟨cb, rfl, Lib.hid (by rw [HSE.out]; exact HD4.out), Lib.hid (by rw [HWS.out]; exact HN4.out), Lib.hid (by rw [HWS.out]; exact HSf4.out), Lib.hid (by rw [HWS.out]; exact HC4.out), HDc, Lib.hid (HB0.out.trans (HK04.out.below HB0.out.size (fun k h => by have := HH.out; unfold Hi at this; omega))), Lib.hid (Nat.le_trans HT0.out HK04.out.size)⟩
                    | true =>
                      have hlg : x.a.long = true := by
                        cases hl : x.a.long with
                        | true => rfl
                        | false => exact absurd ⟨rfl, hl⟩ hc
                      have HQl : Hid (∀ W : World, Kp (fun k => k = s ∨ k = m ∨ k = nb ∨ k = sb ∨ k = cb ∨ u0.heap.size ≤ k) u0 W → W.cell? ⟨bx, 3, none⟩ = some (.bool true)) := Lib.hid (by rw [← hlg]; exact HQ3.out)
                      clear hc hlg
                      go_wp2_with fail
                      have hR := Kp.stays (fun k => k = s ∨ k = m)
                      refine reg_start (Kp (fun k => k = s ∨ k = m)) follows_mixed ?_
                      -- region 20 of f6: 7 operations, draws: true
                      refine reg_take (v := ?_) hR 0 rfl (by kernel_rfl) (by kernel_rfl) (by kernel_rfl) (fun _ _ _ h => h) (by rfl) ?_ ?_
                      rotate_left
                      · intro W hW; go_simp; try with_reducible rfl
                      try simp only [Act.put, List.getElem_toArray, List.getElem_cons_succ, List.getElem_cons_zero, List.setIfInBounds_toArray, List.set_cons_zero, List.set_cons_succ]
                      refine reg_take (v := ?_) hR 1 rfl (by kernel_rfl) (by kernel_rfl) (by kernel_rfl) (fun _ _ _ h => h) (by rfl) ?_ ?_
                      rotate_left
                      · intro W hW; go_simp; try with_reducible rfl
                      try simp only [Act.put, List.getElem_toArray, List.getElem_cons_succ, List.getElem_cons_zero, List.setIfInBounds_toArray, List.set_cons_zero, List.set_cons_succ]
                      refine reg_take (v := .int .i64 x.a.at_) hR 2 rfl (by kernel_rfl) (by kernel_rfl) (by kernel_rfl) (fun _ _ _ h => h) (by rfl) ?_ ?_
                      · intro W hW; have q1 := HQ1.out W (hW.undrew.mono (fun k hk => by rcases hk with h | h; exact .inl h; exact .inr (.inl h))); go_simp
                      try simp only [Act.put, List.getElem_toArray, List.getElem_cons_succ, List.getElem_cons_zero, List.setIfInBounds_toArray, List.set_cons_zero, List.set_cons_succ]
                      refine reg_take (v := .agg #[.int .i64 x.a.kind, .int .i64 x.a.at_, .int .u8 (x.a.b.toNat : Int), .bool x.a.long, .slice x.K x.a.keep.length x.kc]) hR 3 rfl (by kernel_rfl) (by kernel_rfl) (by kernel_rfl) (fun _ _ _ h => h) (by rfl) ?_ ?_
                      · intro W hW; have q0 := HQ0.out W (hW.undrew.mono (fun k hk => by rcases hk with h | h; exact .inl h; exact .inr (.inl h))); have q1 := HQ1.out W (hW.undrew.mono (fun k hk => by rcases hk with h | h; exact .inl h; exact .inr (.inl h))); have q2 := HQ2.out W (hW.undrew.mono (fun k hk => by rcases hk with h | h; exact .inl h; exact .inr (.inl h))); have q3 := HQ3.out W (hW.undrew.mono (fun k hk => by rcases hk with h | h; exact .inl h; exact .inr (.inl h))); have q4 := HQ4.out W (hW.undrew.mono (fun k hk => by rcases hk with h | h; exact .inl h; exact .inr (.inl h))); go_simp
                      try simp only [Act.put, List.getElem_toArray, List.getElem_cons_succ, List.getElem_cons_zero, List.setIfInBounds_toArray, List.set_cons_zero, List.set_cons_succ]
                      -- STEP 4: Op.call { callee := Callee.value (Operand.func 25), args := #[t83], argTypes := #[46] }
                      refine reg_step hR 4 (by kernel_rfl) rfl fun K hK => ?_
                      try simp only [Act.put, List.getElem_toArray, List.getElem_cons_succ, List.getElem_cons_zero, List.setIfInBounds_toArray, List.set_cons_zero, List.set_cons_succ]
                      go_simp
                      refine (HBy.out _).mono ?_; rintro e u3 ⟨A3, c3, rfl, hr3, hb3⟩
                      have HB3 := Lib.hid (undrewN hb3); have HR3 := Lib.hid hr3; clear hr3 hb3
                      refine hK.out _ _ ?_ ?_
                      · exact Kp.old (redrewN HB3.out)
                      clear hK K
                      try simp only [Act.put, List.getElem_toArray, List.getElem_cons_succ, List.getElem_cons_zero, List.setIfInBounds_toArray, List.set_cons_zero, List.set_cons_succ]
                      -- STEP 5: Op.call { callee := Callee.value (Operand.func 12), args := #[t80, t82, t84], argTypes := #[22, 3, 27] }
                      refine reg_step hR 5 (by kernel_rfl) rfl fun K hK => ?_
                      try simp only [Act.put, List.getElem_toArray, List.getElem_cons_succ, List.getElem_cons_zero, List.setIfInBounds_toArray, List.set_cons_zero, List.set_cons_succ]
                      go_simp
                      refine (write_any (S := S) (HD0.out.old HB3.out) x.a.kind x.a.at_ x.a.b x.a.long x.a.keep HR3.out).mono ?_; rintro e u4 ⟨rfl, hd4, hk4⟩
                      rw [HWE.out]
                      have HD4 := Lib.hid hd4; have HK4 := Lib.hid hk4; clear hd4 hk4
                      refine hK.out _ _ ?_ ?_
                      · exact HK4.out
                      clear hK K
                      try simp only [Act.put, List.getElem_toArray, List.getElem_cons_succ, List.getElem_cons_zero, List.setIfInBounds_toArray, List.set_cons_zero, List.set_cons_succ]
                      refine reg_take (v := ?_) hR 6 rfl (by kernel_rfl) (by kernel_rfl) (by kernel_rfl) (fun _ _ _ h => h) (by rfl) ?_ ?_
                      rotate_left
                      · intro W hW; go_simp; try with_reducible rfl
                      try simp only [Act.put, List.getElem_toArray, List.getElem_cons_succ, List.getElem_cons_zero, List.setIfInBounds_toArray, List.set_cons_zero, List.set_cons_succ]
                      refine reg_done (by kernel_rfl) ?_ _

                      have HK04 : Hid (Kp (fun k => k = s ∨ k = m) u0 u4) := Lib.hid ((Kp.old HB3.out).trans HK4.out)
                      have HN4 := Lib.hid (HN0.out.kp HK04.out (by have := HLP.out; have := HLow.out; omega))
                      have HSf4 := Lib.hid (HSf0.out.kp HK04.out (by have := HLP.out; have := HLow.out; omega))
                      have HC4 := Lib.hid (HC0.out.kp HK04.out (by have := HLP.out; have := HDc.out; omega))

                      have q3 := HQl.out u4 (HK04.out.mono (fun k hk => by rcases hk with h | h; exact .inl h; exact .inr (.inl h)))
                      go_wp2_with fail
                      go_meet
                      case rel => exact ⟨cb, rfl, Lib.hid (by rw [HSE.out]; exact HD4.out), Lib.hid (by rw [HWS.out]; exact HN4.out), Lib.hid (by rw [HWS.out]; exact HSf4.out), Lib.hid (by rw [HWS.out]; exact HC4.out), HDc, Lib.hid (HB0.out.trans (HK04.out.below HB0.out.size (fun k h => by have := HH.out; unfold Hi at this; omega))), Lib.hid (Nat.le_trans HT0.out HK04.out.size)⟩


            case rest =>
              as_aux_lemma =>
                obtain ⟨cb, rfl, HD, HN, HSf, HC, HDc, HB, HT⟩ := hcut
                have HDl : Hid (S'.1.length = 256 * N) := Lib.hid (by rw [HD.out.hB, HLS'.out])
                go_wp2_with fail
                go_loopw [20, 21] (fun vs v wx => ∃ j : Nat, j ≤ N ∧ v = .int .i64 (j : Int) ∧ vs = .string (str (S'.1.take (256 * j))) ∧ wc = wx) (fun _ v _ => N - (RowKit.intOf v).toNat)
                case atStart => exact ⟨0, by omega, rfl, by rw [Nat.mul_zero, List.take_zero]; rfl, rfl⟩
                case round =>
                  obtain ⟨j, hj, rfl, rfl, rfl⟩ := hrel
                  by_cases hlj : j < N
                  · have hsc := HSf.out.cell (safeL_get S' (i := j) (by rw [HLS'.out]; exact hlj))
                    have hj2 : (j : Int) < (N : Int) := by omega
                    have hsz : ¬ 9223372036854775807 < (str (S'.1.take (256 * j))).size + (str (sect S'.1 j)).size := by
                      have h1 : (S'.1.take (256 * j)).length ≤ 256 * j := by rw [List.length_take]; omega
                      have h2 : (sect S'.1 j).length ≤ 256 := by unfold sect; rw [List.length_take]; omega
                      have h3 : (str (S'.1.take (256 * j))).size = (S'.1.take (256 * j)).length := rfl
                      have h4 : (str (sect S'.1 j)).size = (sect S'.1 j).length := rfl
                      omega
                    have hta : str (S'.1.take (256 * j)) ++ str (sect S'.1 j) = str (S'.1.take (256 * (j + 1))) := by rw [str_append, take_sect]
                    have HTA := Lib.hid hta
                    clear hta
                    go_wp2
                    go_roundw
                    case rel => exact ⟨j + 1, by omega, by go_num, by rw [HTA.out], trivial⟩
                    case measure => simp [RowKit.intOf]; omega
                  · obtain rfl : N = j := by omega
                    rw [List.take_of_length_le (show S'.1.length ≤ 256 * N by rw [HDl.out]; exact Nat.le_refl _)]
                    clear hlj hj
                    go_wp2_with fail
                    refine (image_any HD.out).mono ?_
                    rintro e v1 ⟨vi, rfl, hov, hbv⟩
                    obtain ⟨Ai, ci, rfl, hri⟩ := hov.rd
                    have hs1 := run_str hri
                    have HV := Lib.hid hbv
                    clear hov hri hbv
                    go_wp2
                    go_roundw
                    case rel => exact ⟨i + 1, cb, by omega, by go_num, rfl, Lib.hid (by rw [← HSe.out]; exact HD.out.old HV.out), Lib.hid (by rw [← HSe.out]; exact HN.out.old HV.out), Lib.hid (by rw [← HSe.out]; exact HSf.out.old HV.out), Lib.hid (by rw [← HSe.out]; exact HC.out.old HV.out), HDc, Lib.hid (bl_call HB.out HV.out), Lib.hid (Nat.le_trans HT.out HV.out.size)⟩
                    case measure => simp [RowKit.intOf]; omega

        · go_wp2
          go_ret
          exact ⟨rfl, HB.out⟩

end Go.Proofs.Ytphifbhgocjhcaa
