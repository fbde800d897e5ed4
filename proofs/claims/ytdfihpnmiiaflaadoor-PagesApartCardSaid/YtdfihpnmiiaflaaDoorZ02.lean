/- A piece's words, and all that are made from them: spread. -/
import Derived.Test.YtdfihpnmiiaflaaDoorZ01
set_option linter.unusedSimpArgs false
set_option linter.unusedVariables false
namespace Go.Proofs.YtdfihpnmiiaflaaDoor
set_option maxRecDepth 8192
open Go.RowKit

theorem sch_length (p : List UInt8) : ∀ t, (sch p t).length = t
  | 0 => rfl
  | t + 1 => by simp [sch, sch_length p t]

/-- The first t words made, the rest noughts. -/
def schZ (p : List UInt8) (t : Nat) : List Value := cs64 (sch p t ++ List.replicate (80 - t) 0)
theorem schZ_length (p : List UInt8) (t : Nat) (ht : t ≤ 80) : (schZ p t).length = 80 := by simp [schZ, cs64_length, sch_length]; omega
theorem schZ_set (p : List UInt8) (t : Nat) (ht : t < 80) : (schZ p t).set t (B64 (nextW p t (sch p t))) = schZ p (t + 1) := by
  have h := sch_length p t
  unfold schZ cs64
  have e := List.set_append_right (s := sch p t) (t := List.replicate (80 - t) 0) (i := t) (x := nextW p t (sch p t)) (by omega)
  rw [sch, ← List.map_set, e, h, Nat.sub_self, show 80 - t = (80 - (t + 1)) + 1 from by omega, List.replicate_succ, List.set_cons_zero, List.append_assoc]
  rfl
theorem schZ_at (p : List UInt8) (t k : Nat) (hk : 1 ≤ k) (hkt : k ≤ t) : (schZ p t)[t - k]? = some (B64 ((sch p t).getD (t - k) 0)) := by
  have h := sch_length p t
  unfold schZ cs64
  rw [List.getElem?_map, List.getElem?_append_left (by omega), List.getD_eq_getElem?_getD, List.getElem?_eq_getElem (by omega)]
  rfl
theorem wrapI_sub (t k : Nat) (K : Int) (hK : K = k) (h : k ≤ t) (ht : t ≤ 80) : IntKind.i64.wrap ((t : Int) - K) = ((t - k : Nat) : Int) := by
  subst hK
  rw [IntKind.wrap_i64]
  omega

theorem piece_cells {w : World} {g : Nat} {p : List UInt8} (h : Bk w g (cs8 p)) (t : Nat) : ∀ j v, (cs8 ((p.drop (8 * t)).take 8))[j]? = some v → w.cell? ((⟨g, 8 * t, none⟩ : Addr).add j) = some v := by
  intro j v hv
  rw [Addr.add_mid]
  refine h.cell ?_
  rw [cs8, List.getElem?_map, List.getElem?_take] at hv
  split at hv
  · rw [List.getElem?_drop] at hv
    rw [cs8, List.getElem?_map]
    exact hv
  · cases hv

set_option maxHeartbeats 800000 in
theorem spread_any (p : List UInt8) (hp : p.length = 128) (w : World) : Calls Tryd.prog 96 #[.agg (cs8 p).toArray] w fun e w' => e = .returned (.agg (cs64 (sch p 80)).toArray) ∧ Below w.heap.size w w' := by
  have HP := Lib.hid (show (cs8 p).length = 128 by rw [cs8_length, hp])
  go_enter Tryd.func96, Tryd.ntmps96
  go_wp2_with (refine wpList_alloc_z rfl 97 rfl z47 zero47 ?_)
  go_loopw [5] (fun vi wr => ∃ t : Nat, t ≤ 80 ∧ vi = .int .i64 (t : Int) ∧ Bk wr w.heap.size (cs8 p) ∧ Bk wr (w.heap.size + 1) z47 ∧ Bk wr (w.heap.size + 1 + 1) (schZ p t) ∧ Below w.heap.size w wr) (fun vi _ => 80 - (intOf vi).toNat)
  case atStart =>
    refine ⟨0, by omega, rfl, ?_, ?_, ?_, ?_⟩
    · exact ((Bk.new w (cs8 p) 130).old _).old _
    · simpa using (Bk.new (w.alloc (.cells (cs8 p).toArray 130)) z47 97).old _
    · have := Bk.new ((w.alloc (.cells (cs8 p).toArray 130)).alloc (.cells z47.toArray 97)) z47 97
      simpa [schZ, sch, z47] using this
    · exact bl_alloc (bl_alloc (bl_alloc (bl0 w) _) _) _
  case round =>
    obtain ⟨t, ht, rfl, hk0, hk1, hk2, hb⟩ := hrel
    have HB0 := Lib.hid hk0
    have HB1 := Lib.hid hk1
    have HK := Lib.hid hk2
    have HX := Lib.hid (schZ_set p t)
    have HLn := Lib.hid (schZ_length p t ht)
    clear hk0 hk1 hk2
    by_cases hlt : t < 80
    · by_cases h16 : t < 16
      · have hsl := run_slice_lo (g := w.heap.size) Tryd.underlying130 (show 8 * t < 128 by omega) (8 * (t : Int)) (by simp)
        have hld : Hid (∀ j v, (cs8 ((p.drop (8 * t)).take 8))[j]? = some v → wr.cell? ((⟨w.heap.size, 8 * t, none⟩ : Addr).add j) = some v) := Lib.hid (piece_cells HB0.out t)
        have hl8 : ((p.drop (8 * t)).take 8).length = 8 := by rw [List.length_take, List.length_drop]; omega
        have HL8 := Lib.hid (show (cs8 ((p.drop (8 * t)).take 8)).length = 8 by rw [cs8_length, hl8])
        have HN := Lib.hid (show nextW p t (sch p t) = wordOf ((p.drop (8 * t)).take 8) from by rw [nextW, if_pos h16])
        generalize (p.drop (8 * t)).take 8 = P8 at hld hl8 HL8 HN
        go_wp2_with (first | (refine wpList_arrayAt rfl 143 _ rfl rfl Tryd.underlying143 (by omega) ?_) | (refine wpList_load_at rfl 143 _ rfl _ rfl (cs8 P8) _ hld.out Tryd.underlying143 rfl (by rw [HL8.out]; exact info69) ?_))
        refine (Word_any P8 hl8 _).mono ?_; rintro e w2 ⟨rfl, hb2⟩
        have hk2 := HK.out.keep hb2
        have hc2 := hk2.cell (k := t) (List.getElem?_eq_getElem (by rw [HLn.out]; exact hlt))
        have hf2 := hk2.frozen t
        have HK2 := Lib.hid hk2
        have hB2 := bl_call hb hb2
        have hk0 := Lib.hid (HB0.out.keep hb2)
        have hk1 := Lib.hid (HB1.out.keep hb2)
        clear hk2 hb2
        go_wp2
        go_roundw
        case rel =>
          refine ⟨t + 1, by omega, by go_num, hk0.out.setCell_ne (by omega) _ _, hk1.out.setCell_ne (by omega) _ _, ?_, bl_setCell hB2 (by omega) _ _⟩
          rw [← HX.out hlt, HN.out]
          exact HK2.out.setCell _ _
        case measure => simp [intOf]; omega
      · have e16 := Lib.hid (wrapI_sub t 16 16 rfl (by omega) ht)
        have e15 := Lib.hid (wrapI_sub t 15 15 rfl (by omega) ht)
        have e7 := Lib.hid (wrapI_sub t 7 7 rfl (by omega) ht)
        have e2 := Lib.hid (wrapI_sub t 2 2 rfl (by omega) ht)
        have HL := Lib.hid (schZ_at p t)
        have HN := Lib.hid (show nextW p t (sch p t) = (sch p t).getD (t - 16) 0 + shf3 1 8 7 ((sch p t).getD (t - 15) 0) + (sch p t).getD (t - 7) 0 + shf3 19 61 6 ((sch p t).getD (t - 2) 0) from by rw [nextW, if_neg h16])
        have HL16 := Lib.hid (HL.out 16 (by omega) (by omega))
        have HL15 := Lib.hid (HL.out 15 (by omega) (by omega))
        have HL7 := Lib.hid (HL.out 7 (by omega) (by omega))
        have HL2 := Lib.hid (HL.out 2 (by omega) (by omega))
        clear HL
        generalize hx16 : (sch p t).getD (t - 16) 0 = X16 at HL16 HN
        generalize hx15 : (sch p t).getD (t - 15) 0 = X15 at HL15 HN
        generalize hx7 : (sch p t).getD (t - 7) 0 = X7 at HL7 HN
        generalize hx2 : (sch p t).getD (t - 2) 0 = X2 at HL2 HN
        clear hx16 hx15 hx7 hx2
        obtain ⟨S1, hS1⟩ : ∃ S, Hid (X16 + shf3 1 8 7 X15 = S) := ⟨_, Lib.hid rfl⟩
        obtain ⟨S2, hS2⟩ : ∃ S, Hid (S1 + X7 = S) := ⟨_, Lib.hid rfl⟩
        obtain ⟨S3, hS3⟩ : ∃ S, Hid (S2 + shf3 19 61 6 X2 = S) := ⟨_, Lib.hid rfl⟩
        go_wp2_with fail
        have hR := Kc.stays (w.heap.size + 1 + 1) t
        refine reg_start (Kc (w.heap.size + 1 + 1) t) follows_mixed ?_
-- region 7 of f29: 24 operations, draws: true
        refine reg_take (v := ?_) hR 0 rfl (by kernel_rfl) (by kernel_rfl) (by kernel_rfl) (fun _ _ _ h => h) (by rfl) ?_ ?_
        rotate_left
        · intro W hW; go_simp; try with_reducible rfl
        try simp only [Act.put, List.getElem_toArray, List.getElem_cons_succ, List.getElem_cons_zero, List.setIfInBounds_toArray, List.set_cons_zero, List.set_cons_succ]
        refine reg_take (v := ?_) hR 1 rfl (by kernel_rfl) (by kernel_rfl) (by kernel_rfl) (fun _ _ _ h => h) (by rfl) ?_ ?_
        rotate_left
        · intro W hW; go_simp; try with_reducible rfl
        try simp only [Act.put, List.getElem_toArray, List.getElem_cons_succ, List.getElem_cons_zero, List.setIfInBounds_toArray, List.set_cons_zero, List.set_cons_succ]
        refine reg_take (v := .int .i64 ((t - 16 : Nat) : Int)) hR 2 rfl (by kernel_rfl) (by kernel_rfl) (by kernel_rfl) (fun _ _ _ h => h) (by rfl) ?_ ?_
        · intro W hW; go_simp; simp only [e16.out]
        try simp only [Act.put, List.getElem_toArray, List.getElem_cons_succ, List.getElem_cons_zero, List.setIfInBounds_toArray, List.set_cons_zero, List.set_cons_succ]
        refine reg_take (v := .pointer (some ⟨w.heap.size + 1 + 1, t - 16, none⟩)) hR 3 rfl (by kernel_rfl) (by kernel_rfl) (by kernel_rfl) (fun _ _ _ h => h) (by rfl) ?_ ?_
        · intro W hW; exact exec_at64 97 _ _ rfl Tryd.underlying97 rfl rfl (by omega)
        try simp only [Act.put, List.getElem_toArray, List.getElem_cons_succ, List.getElem_cons_zero, List.setIfInBounds_toArray, List.set_cons_zero, List.set_cons_succ]
        refine reg_take (v := .int .u64 (X16.toNat : Int)) hR 4 rfl (by kernel_rfl) (by kernel_rfl) (by kernel_rfl) (fun _ _ _ h => h) (by rfl) ?_ ?_
        · intro W hW; exact exec_load_cell 78 _ rfl Tryd.isAgg78 rfl (hW.read HK.out (by omega) HL16.out)
        try simp only [Act.put, List.getElem_toArray, List.getElem_cons_succ, List.getElem_cons_zero, List.setIfInBounds_toArray, List.set_cons_zero, List.set_cons_succ]
        refine reg_take (v := ?_) hR 5 rfl (by kernel_rfl) (by kernel_rfl) (by kernel_rfl) (fun _ _ _ h => h) (by rfl) ?_ ?_
        rotate_left
        · intro W hW; go_simp; try with_reducible rfl
        try simp only [Act.put, List.getElem_toArray, List.getElem_cons_succ, List.getElem_cons_zero, List.setIfInBounds_toArray, List.set_cons_zero, List.set_cons_succ]
        refine reg_take (v := .int .i64 ((t - 15 : Nat) : Int)) hR 6 rfl (by kernel_rfl) (by kernel_rfl) (by kernel_rfl) (fun _ _ _ h => h) (by rfl) ?_ ?_
        · intro W hW; go_simp; simp only [e15.out]
        try simp only [Act.put, List.getElem_toArray, List.getElem_cons_succ, List.getElem_cons_zero, List.setIfInBounds_toArray, List.set_cons_zero, List.set_cons_succ]
        refine reg_take (v := .pointer (some ⟨w.heap.size + 1 + 1, t - 15, none⟩)) hR 7 rfl (by kernel_rfl) (by kernel_rfl) (by kernel_rfl) (fun _ _ _ h => h) (by rfl) ?_ ?_
        · intro W hW; exact exec_at64 97 _ _ rfl Tryd.underlying97 rfl rfl (by omega)
        try simp only [Act.put, List.getElem_toArray, List.getElem_cons_succ, List.getElem_cons_zero, List.setIfInBounds_toArray, List.set_cons_zero, List.set_cons_succ]
        refine reg_take (v := .int .u64 (X15.toNat : Int)) hR 8 rfl (by kernel_rfl) (by kernel_rfl) (by kernel_rfl) (fun _ _ _ h => h) (by rfl) ?_ ?_
        · intro W hW; exact exec_load_cell 78 _ rfl Tryd.isAgg78 rfl (hW.read HK.out (by omega) HL15.out)
        try simp only [Act.put, List.getElem_toArray, List.getElem_cons_succ, List.getElem_cons_zero, List.setIfInBounds_toArray, List.set_cons_zero, List.set_cons_succ]
        refine reg_take (v := ?_) hR 11 rfl (by kernel_rfl) (by kernel_rfl) (by kernel_rfl) (fun _ _ _ h => h) (by rfl) ?_ ?_
        rotate_left
        · intro W hW; go_simp; try with_reducible rfl
        try simp only [Act.put, List.getElem_toArray, List.getElem_cons_succ, List.getElem_cons_zero, List.setIfInBounds_toArray, List.set_cons_zero, List.set_cons_succ]
        refine reg_take (v := .int .i64 ((t - 7 : Nat) : Int)) hR 12 rfl (by kernel_rfl) (by kernel_rfl) (by kernel_rfl) (fun _ _ _ h => h) (by rfl) ?_ ?_
        · intro W hW; go_simp; simp only [e7.out]
        try simp only [Act.put, List.getElem_toArray, List.getElem_cons_succ, List.getElem_cons_zero, List.setIfInBounds_toArray, List.set_cons_zero, List.set_cons_succ]
        refine reg_take (v := .pointer (some ⟨w.heap.size + 1 + 1, t - 7, none⟩)) hR 13 rfl (by kernel_rfl) (by kernel_rfl) (by kernel_rfl) (fun _ _ _ h => h) (by rfl) ?_ ?_
        · intro W hW; exact exec_at64 97 _ _ rfl Tryd.underlying97 rfl rfl (by omega)
        try simp only [Act.put, List.getElem_toArray, List.getElem_cons_succ, List.getElem_cons_zero, List.setIfInBounds_toArray, List.set_cons_zero, List.set_cons_succ]
        refine reg_take (v := .int .u64 (X7.toNat : Int)) hR 14 rfl (by kernel_rfl) (by kernel_rfl) (by kernel_rfl) (fun _ _ _ h => h) (by rfl) ?_ ?_
        · intro W hW; exact exec_load_cell 78 _ rfl Tryd.isAgg78 rfl (hW.read HK.out (by omega) HL7.out)
        try simp only [Act.put, List.getElem_toArray, List.getElem_cons_succ, List.getElem_cons_zero, List.setIfInBounds_toArray, List.set_cons_zero, List.set_cons_succ]
        refine reg_take (v := ?_) hR 16 rfl (by kernel_rfl) (by kernel_rfl) (by kernel_rfl) (fun _ _ _ h => h) (by rfl) ?_ ?_
        rotate_left
        · intro W hW; go_simp; try with_reducible rfl
        try simp only [Act.put, List.getElem_toArray, List.getElem_cons_succ, List.getElem_cons_zero, List.setIfInBounds_toArray, List.set_cons_zero, List.set_cons_succ]
        refine reg_take (v := .int .i64 ((t - 2 : Nat) : Int)) hR 17 rfl (by kernel_rfl) (by kernel_rfl) (by kernel_rfl) (fun _ _ _ h => h) (by rfl) ?_ ?_
        · intro W hW; go_simp; simp only [e2.out]
        try simp only [Act.put, List.getElem_toArray, List.getElem_cons_succ, List.getElem_cons_zero, List.setIfInBounds_toArray, List.set_cons_zero, List.set_cons_succ]
        refine reg_take (v := .pointer (some ⟨w.heap.size + 1 + 1, t - 2, none⟩)) hR 18 rfl (by kernel_rfl) (by kernel_rfl) (by kernel_rfl) (fun _ _ _ h => h) (by rfl) ?_ ?_
        · intro W hW; exact exec_at64 97 _ _ rfl Tryd.underlying97 rfl rfl (by omega)
        try simp only [Act.put, List.getElem_toArray, List.getElem_cons_succ, List.getElem_cons_zero, List.setIfInBounds_toArray, List.set_cons_zero, List.set_cons_succ]
        refine reg_take (v := .int .u64 (X2.toNat : Int)) hR 19 rfl (by kernel_rfl) (by kernel_rfl) (by kernel_rfl) (fun _ _ _ h => h) (by rfl) ?_ ?_
        · intro W hW; exact exec_load_cell 78 _ rfl Tryd.isAgg78 rfl (hW.read HK.out (by omega) HL2.out)
        try simp only [Act.put, List.getElem_toArray, List.getElem_cons_succ, List.getElem_cons_zero, List.setIfInBounds_toArray, List.set_cons_zero, List.set_cons_succ]
        -- STEP 9: Op.call { callee := Callee.value (Operand.func 100), args := #[t26, Operand.const (Value.int IntKind.i64 1), Op
        refine reg_step hR 9 (by kernel_rfl) rfl fun K hK => ?_
        try simp only [Act.put, List.getElem_toArray, List.getElem_cons_succ, List.getElem_cons_zero, List.setIfInBounds_toArray, List.set_cons_zero, List.set_cons_succ]
        go_simp
        refine (shf3_any X15 1 8 7 (by decide) (by decide) (by decide) _).mono ?_; rintro e w2 ⟨rfl, hb2⟩
        refine hK.out _ _ ?_ ?_
        · exact Kc.of_old hb2
        have hB2 := Lib.hid (bl_call hb.drew hb2)
        have HK2 := Lib.hid (HK.out.drew.keep hb2)
        have H02 := Lib.hid (HB0.out.drew.keep hb2)
        have H12 := Lib.hid (HB1.out.drew.keep hb2)
        clear hb2
        clear hK K
        try simp only [Act.put, List.getElem_toArray, List.getElem_cons_succ, List.getElem_cons_zero, List.setIfInBounds_toArray, List.set_cons_zero, List.set_cons_succ]
        refine reg_take (v := .int .u64 (S1.toNat : Int)) hR 10 rfl (by kernel_rfl) (by kernel_rfl) (by kernel_rfl) (fun _ _ _ h => h) (by rfl) ?_ ?_
        · intro W hW; exact exec_add64 _ _ rfl hS1.out rfl rfl
        try simp only [Act.put, List.getElem_toArray, List.getElem_cons_succ, List.getElem_cons_zero, List.setIfInBounds_toArray, List.set_cons_zero, List.set_cons_succ]
        refine reg_take (v := .int .u64 (S2.toNat : Int)) hR 15 rfl (by kernel_rfl) (by kernel_rfl) (by kernel_rfl) (fun _ _ _ h => h) (by rfl) ?_ ?_
        · intro W hW; exact exec_add64 _ _ rfl hS2.out rfl rfl
        try simp only [Act.put, List.getElem_toArray, List.getElem_cons_succ, List.getElem_cons_zero, List.setIfInBounds_toArray, List.set_cons_zero, List.set_cons_succ]
        -- STEP 20: Op.call { callee := Callee.value (Operand.func 100), args := #[t37, Operand.const (Value.int IntKind.i64 19), O
        refine reg_step hR 20 (by kernel_rfl) rfl fun K hK => ?_
        try simp only [Act.put, List.getElem_toArray, List.getElem_cons_succ, List.getElem_cons_zero, List.setIfInBounds_toArray, List.set_cons_zero, List.set_cons_succ]
        go_simp
        refine (shf3_any X2 19 61 6 (by decide) (by decide) (by decide) _).mono ?_; rintro e w3 ⟨rfl, hb3⟩
        refine hK.out _ _ ?_ ?_
        · exact Kc.of_old hb3
        have hB3 := Lib.hid (bl_call hB2.out hb3)
        have HK3 := Lib.hid (HK2.out.keep hb3)
        have H03 := Lib.hid (H02.out.keep hb3)
        have H13 := Lib.hid (H12.out.keep hb3)
        clear hb3
        clear hK K
        try simp only [Act.put, List.getElem_toArray, List.getElem_cons_succ, List.getElem_cons_zero, List.setIfInBounds_toArray, List.set_cons_zero, List.set_cons_succ]
        refine reg_take (v := .int .u64 (S3.toNat : Int)) hR 21 rfl (by kernel_rfl) (by kernel_rfl) (by kernel_rfl) (fun _ _ _ h => h) (by rfl) ?_ ?_
        · intro W hW; exact exec_add64 _ _ rfl hS3.out rfl rfl
        try simp only [Act.put, List.getElem_toArray, List.getElem_cons_succ, List.getElem_cons_zero, List.setIfInBounds_toArray, List.set_cons_zero, List.set_cons_succ]
        refine reg_take (v := .pointer (some ⟨w.heap.size + 1 + 1, t, none⟩)) hR 22 rfl (by kernel_rfl) (by kernel_rfl) (by kernel_rfl) (fun _ _ _ h => h) (by rfl) ?_ ?_
        · intro W hW; exact exec_at64 97 _ _ rfl Tryd.underlying97 rfl rfl (by omega)
        try simp only [Act.put, List.getElem_toArray, List.getElem_cons_succ, List.getElem_cons_zero, List.setIfInBounds_toArray, List.set_cons_zero, List.set_cons_succ]
        -- STEP 23: Op.store 78 (t40) (t39)
        refine reg_step hR 23 (by kernel_rfl) rfl fun K hK => ?_
        try simp only [Act.put, List.getElem_toArray, List.getElem_cons_succ, List.getElem_cons_zero, List.setIfInBounds_toArray, List.set_cons_zero, List.set_cons_succ]
        rw [if_pos (by rfl)]
        refine wp_store_cell _ _ rfl rfl rfl HK3.out (by rw [HLn.out]; exact hlt) ?_
        refine hK.out _ _ ?_ ?_
        · exact Kc.of_set _ _
        clear hK K
        try simp only [Act.put, List.getElem_toArray, List.getElem_cons_succ, List.getElem_cons_zero, List.setIfInBounds_toArray, List.set_cons_zero, List.set_cons_succ]
        refine reg_done (by kernel_rfl) ?_ _


        go_wp2
        go_roundw
        case rel =>
          refine ⟨t + 1, by omega, by go_num, H03.out.setCell_ne (by omega) _ _, H13.out.setCell_ne (by omega) _ _, ?_, bl_setCell hB3.out (by omega) _ _⟩
          rw [← HX.out hlt, HN.out, hS1.out, hS2.out, hS3.out]
          exact HK3.out.setCell _ _
        case measure => simp [intOf]; omega
    · obtain rfl : t = 80 := by omega
      have HS := Lib.hid (show (cs64 (sch p 80)).length = 80 by rw [cs64_length, sch_length])
      have HK2 : Hid (Bk wr (w.heap.size + 1 + 1) (cs64 (sch p 80))) := Lib.hid (by have := HK.out; simpa [schZ] using this)
      go_wp2_with (first | (refine wpList_load_at rfl 97 _ rfl _ rfl (cs64 (sch p 80)) _ (HK2.out.at_) Tryd.underlying97 rfl (by rw [HS.out]; exact info47) ?_) | (refine wpList_store_bk rfl 97 _ _ rfl (w.heap.size + 1) rfl (cs64 (sch p 80)) z47 rfl HB1.out (by rw [HS.out]; exact info47) (by rw [HS.out]; exact len_z47) (cs64_one _) ?_))
      exact ret_bk rfl (w.heap.size + 1) _ _ rfl rfl (HB1.out.setRow _) Tryd.underlying97 rfl (by rw [HS.out]; exact info47) ⟨rfl, bl_setRow hb (by omega) _⟩
end Go.Proofs.YtdfihpnmiiaflaaDoor
