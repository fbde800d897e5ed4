/- Texts of this claim, one behind the other: Pu3, Pu4, Sg, Pd. -/
import Derived.Test.YtdfihpnmiiaflaaDoorZ04
import Derived.Test.YtdfihpnmiiaflaaDoorZ01
import Derived.Laws.OwnMore
set_option linter.unusedSimpArgs false
set_option linter.unusedVariables false
section
/- Bytes put into a sum that is under way, which has a part of a piece: put, walked. -/
namespace Go.Proofs.YtdfihpnmiiaflaaDoor
set_option maxRecDepth 8192
open Go.RowKit

theorem Run.drew {w : World} {base g gk : Nat} {KA st : List UInt64} {part : List UInt8} {v : Value} (h : Run w base g gk KA st part v) : Run w.drew base g gk KA st part v :=
  ⟨h.bk.drew, World.ownsRow.drew h.row, h.ne, h.hg, h.kb.drew, h.hgk, h.len, h.kl⟩
theorem eat_part (KA st : List UInt64) (X r : List UInt8) (h : X.length = 128) (S : List UInt64) (hS : eat KA ((X ++ r).length / 128) st (X ++ r) = S) : eat KA (r.length / 128) (mix KA st X) r = S := by
  have := eat_next KA st (X ++ r) (by simp; omega) S hS
  rwa [List.take_left' h, List.drop_left' h] at this
theorem left_part (X r : List UInt8) (h : X.length = 128) (S : List UInt8) (hS : left (X ++ r) = S) : left r = S := by
  have := left_next (X ++ r) (by simp; omega) S hS
  rwa [List.drop_left' h] at this

set_option maxHeartbeats 1600000 in
set_option maxRecDepth 8192 in
theorem put_small {A : Option Addr} {n c Pl : Nat} {l part : List UInt8} {KA st : List UInt64} {v : Value} {base g gk : Nat} (w : World) (hR : Run w base g gk KA st part v) (hpl : part.length = Pl) (hp0 : 0 < Pl) (hp : Pl < 128) (hr : Rd w w.heap.size A n c l) (hn : n ≤ 4294967296)
    (hA : ∀ ad, A = some ad → ad.block ≠ g ∧ v.ownBlock ≠ some ad.block) (SF : List UInt64) (PF : List UInt8) (hE : eat KA ((part ++ l).length / 128) st (part ++ l) = SF) (hL : left (part ++ l) = PF) (hs : Pl + n < 128) :
    Calls Tryd.prog 67 #[.pointer (some ⟨g, 0, none⟩), .slice A n c] w fun e w' => e = .returned (.tuple #[]) ∧ Put w base g gk KA SF PF v w' := by
  have hlen := hr.len
  have hcap := hr.cap
  obtain ⟨Av, cv, rfl, hrv⟩ := hR.row.rdN (n := Pl) hpl
  obtain ⟨adv, rfl, _, _⟩ := hrv.2.2 hp0
  obtain ⟨M, hMd⟩ : ∃ M, M = n := ⟨_, rfl⟩
  have hM : min (128 - (Pl : Int)) (n : Int) = (M : Int) := by omega
  have hMn : M ≤ n := by omega
  have hMc : M ≤ c := by omega
  have hs2 : Pl + M < 128 := by omega
  have HMd := Lib.hid hMd
  have hc9 := hR.bk.cell (k := 9) (rn_nine _ _ _ hR.len)
  have HC9 : Hid (w.drew.cell? ⟨g, 9, none⟩ = some (.slice (some adv) Pl cv)) := Lib.hid hc9
  have HR := Lib.hid hR.drew
  have HOW : Hid (Ow w.drew base (.slice (some adv) Pl cv) part) := Lib.hid hR.drew.row
  have HRD := Lib.hid (hr.below (Below.refl _ w).drew)
  have HRW := Lib.hid hr
  have HA := Lib.hid hA
  have HEL := Lib.hid hE
  have HLL := Lib.hid hL
  have HB0 : Hid (base ≤ w.drew.heap.size) := Lib.hid (Nat.le_trans hR.hg (Nat.le_of_lt hR.bk.lt))
  clear hR hr hA hE hL hrv
  go_enter Tryd.func67, Tryd.ntmps67
  go_wp2_with fail
  have hRk := Kp.stays (may g (.slice (some adv) Pl cv))
  refine reg_start (Kp (may g (.slice (some adv) Pl cv))) follows_mixed ?_
-- region 2 of f26: 12 operations, draws: true
  refine reg_take (v := ?_) hRk 0 rfl (by kernel_rfl) (by kernel_rfl) (by kernel_rfl) (fun _ _ _ h => h) (by rfl) ?_ ?_
  rotate_left
  · intro W hW; go_simp; try with_reducible rfl
  try simp only [Act.put, List.getElem_toArray, List.getElem_cons_succ, List.getElem_cons_zero, List.setIfInBounds_toArray, List.set_cons_zero, List.set_cons_succ]
  refine reg_take (v := ?_) hRk 1 rfl (by kernel_rfl) (by kernel_rfl) (by kernel_rfl) (fun _ _ _ h => h) (by rfl) ?_ ?_
  rotate_left
  · intro W hW; go_simp; try with_reducible rfl
  try simp only [Act.put, List.getElem_toArray, List.getElem_cons_succ, List.getElem_cons_zero, List.setIfInBounds_toArray, List.set_cons_zero, List.set_cons_succ]
  refine reg_take (v := ?_) hRk 2 rfl (by kernel_rfl) (by kernel_rfl) (by kernel_rfl) (fun _ _ _ h => h) (by rfl) ?_ ?_
  rotate_left
  · intro W hW; go_simp; try with_reducible rfl
  try simp only [Act.put, List.getElem_toArray, List.getElem_cons_succ, List.getElem_cons_zero, List.setIfInBounds_toArray, List.set_cons_zero, List.set_cons_succ]
  refine reg_take (v := .pointer (some ⟨g, 9, none⟩)) hRk 3 rfl (by kernel_rfl) (by kernel_rfl) (by kernel_rfl) (fun _ _ _ h => h) (by rfl) ?_ ?_
  · intro W hW; go_simp
  try simp only [Act.put, List.getElem_toArray, List.getElem_cons_succ, List.getElem_cons_zero, List.setIfInBounds_toArray, List.set_cons_zero, List.set_cons_succ]
  refine reg_take (v := ?_) hRk 5 rfl (by kernel_rfl) (by kernel_rfl) (by kernel_rfl) (fun _ _ _ h => h) (by rfl) ?_ ?_
  rotate_left
  · intro W hW; go_simp; try with_reducible rfl
  try simp only [Act.put, List.getElem_toArray, List.getElem_cons_succ, List.getElem_cons_zero, List.setIfInBounds_toArray, List.set_cons_zero, List.set_cons_succ]
  refine reg_take (v := ?_) hRk 6 rfl (by kernel_rfl) (by kernel_rfl) (by kernel_rfl) (fun _ _ _ h => h) (by rfl) ?_ ?_
  rotate_left
  · intro W hW; go_simp; try with_reducible rfl
  try simp only [Act.put, List.getElem_toArray, List.getElem_cons_succ, List.getElem_cons_zero, List.setIfInBounds_toArray, List.set_cons_zero, List.set_cons_succ]
  refine reg_take (v := .slice A M c) hRk 7 rfl (by kernel_rfl) (by kernel_rfl) (by kernel_rfl) (fun _ _ _ h => h) (by rfl) ?_ ?_
  · intro W hW; exact exec_slice31_hi _ _ rfl rfl rfl hMc (by omega)
  try simp only [Act.put, List.getElem_toArray, List.getElem_cons_succ, List.getElem_cons_zero, List.setIfInBounds_toArray, List.set_cons_zero, List.set_cons_succ]
  -- STEP 4: Op.load 30 (t23)
  refine reg_step hRk 4 (by kernel_rfl) rfl fun K hK => ?_
  try simp only [Act.put, List.getElem_toArray, List.getElem_cons_succ, List.getElem_cons_zero, List.setIfInBounds_toArray, List.set_cons_zero, List.set_cons_succ]
  rw [if_pos (by rfl)]
  refine wp_load_cell 30 _ rfl Tryd.isAgg30 rfl HC9.out ?_
  refine hK.out _ _ ?_ ?_
  · exact (Kp.stays _).refl _
  clear hK K
  try simp only [Act.put, List.getElem_toArray, List.getElem_cons_succ, List.getElem_cons_zero, List.setIfInBounds_toArray, List.set_cons_zero, List.set_cons_succ]
  -- STEP 8: Op.call { callee := Callee.builtin Builtin.append, args := #[t24, t27], argTypes := #[30, 30] }
  refine reg_step hRk 8 (by kernel_rfl) rfl fun K hK => ?_
  try simp only [Act.put, List.getElem_toArray, List.getElem_cons_succ, List.getElem_cons_zero, List.setIfInBounds_toArray, List.set_cons_zero, List.set_cons_succ]
  rw [if_pos (by rfl)]
  refine wp_app2 (.tmp 24) (.tmp 27) rfl rfl HOW.out rfl (HRD.out.take_ hMn) (by omega) HB0.out ?_
  intro v2 w2 ho2 hg2 hv2
  obtain ⟨A2, c2, rfl, hr2⟩ := ho2.rdN (n := Pl + M) (by simp [hpl, hlen]; omega)
  obtain ⟨ad2, rfl, _, _⟩ := hr2.2.2 (by omega)
  refine hK.out _ _ ?_ ?_
  · exact Kp.of_grown hg2
  have HO2 := Lib.hid ho2
  have HG2 : Hid (w.drew.grownBy w2 (Value.slice (some adv) Pl cv).ownBlock) := Lib.hid hg2
  have HV2 : Hid ((Value.slice (some ad2) (Pl + M) c2).ownBlock = (Value.slice (some adv) Pl cv).ownBlock ∨ (Value.slice (some ad2) (Pl + M) c2).ownBlock = some w.drew.heap.size) := Lib.hid hv2
  clear ho2 hg2 hv2
  clear hK K
  try simp only [Act.put, List.getElem_toArray, List.getElem_cons_succ, List.getElem_cons_zero, List.setIfInBounds_toArray, List.set_cons_zero, List.set_cons_succ]
  refine reg_take (v := ?_) hRk 9 rfl (by kernel_rfl) (by kernel_rfl) (by kernel_rfl) (fun _ _ _ h => h) (by rfl) ?_ ?_
  rotate_left
  · intro W hW; go_simp; try with_reducible rfl
  try simp only [Act.put, List.getElem_toArray, List.getElem_cons_succ, List.getElem_cons_zero, List.setIfInBounds_toArray, List.set_cons_zero, List.set_cons_succ]
  refine reg_take (v := .pointer (some ⟨g, 9, none⟩)) hRk 10 rfl (by kernel_rfl) (by kernel_rfl) (by kernel_rfl) (fun _ _ _ h => h) (by rfl) ?_ ?_
  · intro W hW; go_simp
  try simp only [Act.put, List.getElem_toArray, List.getElem_cons_succ, List.getElem_cons_zero, List.setIfInBounds_toArray, List.set_cons_zero, List.set_cons_succ]
  -- STEP 11: Op.store 30 (t30) (t28)
  refine reg_step hRk 11 (by kernel_rfl) rfl fun K hK => ?_
  try simp only [Act.put, List.getElem_toArray, List.getElem_cons_succ, List.getElem_cons_zero, List.setIfInBounds_toArray, List.set_cons_zero, List.set_cons_succ]
  rw [if_pos (by rfl)]
  refine wp_store_any _ _ rfl rfl rfl (HR.out.bk.grown HG2.out HR.out.ne) (by rw [rn_length _ _ _ HR.out.len]; omega) ?_
  refine hK.out _ _ ?_ ?_
  · exact Kp.of_cell _ _
  clear hK K
  try simp only [Act.put, List.getElem_toArray, List.getElem_cons_succ, List.getElem_cons_zero, List.setIfInBounds_toArray, List.set_cons_zero, List.set_cons_succ]
  refine reg_done (by kernel_rfl) ?_ _

  have HR3 := Lib.hid (HR.out.stored HG2.out HO2.out HV2.out)
  have HK3 : Hid (Kp (may g (.slice (some adv) Pl cv)) w (w2.setCell ⟨g, 9, none⟩ (.slice (some ad2) (Pl + M) c2))) := Lib.hid ((Kp.stays _).trans (Kp.of_old (Below.refl _ w).drew) ((Kp.stays _).trans (Kp.of_grown (g := g) HG2.out) (Kp.of_cell 9 _)))
  have hc93 := HR3.out.bk.cell (k := 9) (rn_nine _ _ _ HR3.out.len)
  have HF3 : Hid (Fresh w (.slice (some adv) Pl cv) (.slice (some ad2) (Pl + M) c2)) := Lib.hid (HV2.out.imp id (fun e => ⟨_, e, Nat.le_refl _⟩))
  clear HG2 HO2 HV2
  generalize w2.setCell ⟨g, 9, none⟩ (.slice (some ad2) (Pl + M) c2) = w3 at HR3 HK3 hc93 ⊢
  have hX : part ++ l.take M = part ++ l := by rw [HMd.out, List.take_of_length_le (by omega)]
  go_wp2
  all_goals
    refine bodyPost_ret (results_none rfl _ _ _) rfl ⟨rfl, _, ?_, HK3.out, HF3.out⟩
    rw [← HEL.out, ← HLL.out, left, Nat.div_eq_of_lt (by simp; omega), eat, Nat.mul_zero, List.drop_zero, ← hX]
    exact HR3.out

set_option maxHeartbeats 1600000 in
set_option maxRecDepth 8192 in
theorem put_big {A : Option Addr} {n c Pl : Nat} {l part : List UInt8} {KA st : List UInt64} {v : Value} {base g gk : Nat} (w : World) (hR : Run w base g gk KA st part v) (hpl : part.length = Pl) (hp0 : 0 < Pl) (hp : Pl < 128) (hr : Rd w w.heap.size A n c l) (hn : n ≤ 4294967296)
    (hA : ∀ ad, A = some ad → ad.block ≠ g ∧ v.ownBlock ≠ some ad.block) (SF : List UInt64) (PF : List UInt8) (hE : eat KA ((part ++ l).length / 128) st (part ++ l) = SF) (hL : left (part ++ l) = PF) (hs : 128 ≤ Pl + n) :
    Calls Tryd.prog 67 #[.pointer (some ⟨g, 0, none⟩), .slice A n c] w fun e w' => e = .returned (.tuple #[]) ∧ Put w base g gk KA SF PF v w' := by
  have hlen := hr.len
  have hcap := hr.cap
  obtain ⟨Av, cv, rfl, hrv⟩ := hR.row.rdN (n := Pl) hpl
  obtain ⟨adv, rfl, _, _⟩ := hrv.2.2 hp0
  obtain ⟨M, hMd⟩ : ∃ M, M = 128 - Pl := ⟨_, rfl⟩
  have hM : min (128 - (Pl : Int)) (n : Int) = (M : Int) := by omega
  have hMn : M ≤ n := by omega
  have hMc : M ≤ c := by omega
  have hs2 : (128 : Int) - (Pl : Int) ≤ (c : Int) := by omega
  have hs3 : (128 : Int) - (Pl : Int) ≤ (n : Int) := by omega
  subst hMd
  have hc9 := hR.bk.cell (k := 9) (rn_nine _ _ _ hR.len)
  have HC9 : Hid (w.drew.cell? ⟨g, 9, none⟩ = some (.slice (some adv) Pl cv)) := Lib.hid hc9
  have HR := Lib.hid hR.drew
  have HOW : Hid (Ow w.drew base (.slice (some adv) Pl cv) part) := Lib.hid hR.drew.row
  have HRD := Lib.hid (hr.below (Below.refl _ w).drew)
  have HRW := Lib.hid hr
  have HA := Lib.hid hA
  have HEL := Lib.hid hE
  have HLL := Lib.hid hL
  have HB0 : Hid (base ≤ w.drew.heap.size) := Lib.hid (Nat.le_trans hR.hg (Nat.le_of_lt hR.bk.lt))
  clear hR hr hA hE hL hrv
  go_enter Tryd.func67, Tryd.ntmps67
  go_wp2_with fail
  have hRk := Kp.stays (may g (.slice (some adv) Pl cv))
  refine reg_start (Kp (may g (.slice (some adv) Pl cv))) follows_mixed ?_
-- region 2 of f26: 12 operations, draws: true
  refine reg_take (v := ?_) hRk 0 rfl (by kernel_rfl) (by kernel_rfl) (by kernel_rfl) (fun _ _ _ h => h) (by rfl) ?_ ?_
  rotate_left
  · intro W hW; go_simp; try with_reducible rfl
  try simp only [Act.put, List.getElem_toArray, List.getElem_cons_succ, List.getElem_cons_zero, List.setIfInBounds_toArray, List.set_cons_zero, List.set_cons_succ]
  refine reg_take (v := ?_) hRk 1 rfl (by kernel_rfl) (by kernel_rfl) (by kernel_rfl) (fun _ _ _ h => h) (by rfl) ?_ ?_
  rotate_left
  · intro W hW; go_simp; try with_reducible rfl
  try simp only [Act.put, List.getElem_toArray, List.getElem_cons_succ, List.getElem_cons_zero, List.setIfInBounds_toArray, List.set_cons_zero, List.set_cons_succ]
  refine reg_take (v := ?_) hRk 2 rfl (by kernel_rfl) (by kernel_rfl) (by kernel_rfl) (fun _ _ _ h => h) (by rfl) ?_ ?_
  rotate_left
  · intro W hW; go_simp; try with_reducible rfl
  try simp only [Act.put, List.getElem_toArray, List.getElem_cons_succ, List.getElem_cons_zero, List.setIfInBounds_toArray, List.set_cons_zero, List.set_cons_succ]
  refine reg_take (v := .pointer (some ⟨g, 9, none⟩)) hRk 3 rfl (by kernel_rfl) (by kernel_rfl) (by kernel_rfl) (fun _ _ _ h => h) (by rfl) ?_ ?_
  · intro W hW; go_simp
  try simp only [Act.put, List.getElem_toArray, List.getElem_cons_succ, List.getElem_cons_zero, List.setIfInBounds_toArray, List.set_cons_zero, List.set_cons_succ]
  refine reg_take (v := ?_) hRk 5 rfl (by kernel_rfl) (by kernel_rfl) (by kernel_rfl) (fun _ _ _ h => h) (by rfl) ?_ ?_
  rotate_left
  · intro W hW; go_simp; try with_reducible rfl
  try simp only [Act.put, List.getElem_toArray, List.getElem_cons_succ, List.getElem_cons_zero, List.setIfInBounds_toArray, List.set_cons_zero, List.set_cons_succ]
  refine reg_take (v := ?_) hRk 6 rfl (by kernel_rfl) (by kernel_rfl) (by kernel_rfl) (fun _ _ _ h => h) (by rfl) ?_ ?_
  rotate_left
  · intro W hW; go_simp; try with_reducible rfl
  try simp only [Act.put, List.getElem_toArray, List.getElem_cons_succ, List.getElem_cons_zero, List.setIfInBounds_toArray, List.set_cons_zero, List.set_cons_succ]
  refine reg_take (v := .slice A (128 - Pl) c) hRk 7 rfl (by kernel_rfl) (by kernel_rfl) (by kernel_rfl) (fun _ _ _ h => h) (by rfl) ?_ ?_
  · intro W hW; exact exec_slice31_hi _ _ rfl rfl rfl hMc (by omega)
  try simp only [Act.put, List.getElem_toArray, List.getElem_cons_succ, List.getElem_cons_zero, List.setIfInBounds_toArray, List.set_cons_zero, List.set_cons_succ]
  -- STEP 4: Op.load 30 (t23)
  refine reg_step hRk 4 (by kernel_rfl) rfl fun K hK => ?_
  try simp only [Act.put, List.getElem_toArray, List.getElem_cons_succ, List.getElem_cons_zero, List.setIfInBounds_toArray, List.set_cons_zero, List.set_cons_succ]
  rw [if_pos (by rfl)]
  refine wp_load_cell 30 _ rfl Tryd.isAgg30 rfl HC9.out ?_
  refine hK.out _ _ ?_ ?_
  · exact (Kp.stays _).refl _
  clear hK K
  try simp only [Act.put, List.getElem_toArray, List.getElem_cons_succ, List.getElem_cons_zero, List.setIfInBounds_toArray, List.set_cons_zero, List.set_cons_succ]
  -- STEP 8: Op.call { callee := Callee.builtin Builtin.append, args := #[t24, t27], argTypes := #[30, 30] }
  refine reg_step hRk 8 (by kernel_rfl) rfl fun K hK => ?_
  try simp only [Act.put, List.getElem_toArray, List.getElem_cons_succ, List.getElem_cons_zero, List.setIfInBounds_toArray, List.set_cons_zero, List.set_cons_succ]
  rw [if_pos (by rfl)]
  refine wp_app2 (.tmp 24) (.tmp 27) rfl rfl HOW.out rfl (HRD.out.take_ hMn) (by omega) HB0.out ?_
  intro v2 w2 ho2 hg2 hv2
  obtain ⟨A2, c2, rfl, hr2⟩ := ho2.rdN (n := 128) (by simp [hpl, hlen]; omega)
  obtain ⟨ad2, rfl, _, _⟩ := hr2.2.2 (by omega)
  refine hK.out _ _ ?_ ?_
  · exact Kp.of_grown hg2
  have HO2 := Lib.hid ho2
  have HG2 : Hid (w.drew.grownBy w2 (Value.slice (some adv) Pl cv).ownBlock) := Lib.hid hg2
  have HV2 : Hid ((Value.slice (some ad2) (128) c2).ownBlock = (Value.slice (some adv) Pl cv).ownBlock ∨ (Value.slice (some ad2) (128) c2).ownBlock = some w.drew.heap.size) := Lib.hid hv2
  clear ho2 hg2 hv2
  clear hK K
  try simp only [Act.put, List.getElem_toArray, List.getElem_cons_succ, List.getElem_cons_zero, List.setIfInBounds_toArray, List.set_cons_zero, List.set_cons_succ]
  refine reg_take (v := ?_) hRk 9 rfl (by kernel_rfl) (by kernel_rfl) (by kernel_rfl) (fun _ _ _ h => h) (by rfl) ?_ ?_
  rotate_left
  · intro W hW; go_simp; try with_reducible rfl
  try simp only [Act.put, List.getElem_toArray, List.getElem_cons_succ, List.getElem_cons_zero, List.setIfInBounds_toArray, List.set_cons_zero, List.set_cons_succ]
  refine reg_take (v := .pointer (some ⟨g, 9, none⟩)) hRk 10 rfl (by kernel_rfl) (by kernel_rfl) (by kernel_rfl) (fun _ _ _ h => h) (by rfl) ?_ ?_
  · intro W hW; go_simp
  try simp only [Act.put, List.getElem_toArray, List.getElem_cons_succ, List.getElem_cons_zero, List.setIfInBounds_toArray, List.set_cons_zero, List.set_cons_succ]
  -- STEP 11: Op.store 30 (t30) (t28)
  refine reg_step hRk 11 (by kernel_rfl) rfl fun K hK => ?_
  try simp only [Act.put, List.getElem_toArray, List.getElem_cons_succ, List.getElem_cons_zero, List.setIfInBounds_toArray, List.set_cons_zero, List.set_cons_succ]
  rw [if_pos (by rfl)]
  refine wp_store_any _ _ rfl rfl rfl (HR.out.bk.grown HG2.out HR.out.ne) (by rw [rn_length _ _ _ HR.out.len]; omega) ?_
  refine hK.out _ _ ?_ ?_
  · exact Kp.of_cell _ _
  clear hK K
  try simp only [Act.put, List.getElem_toArray, List.getElem_cons_succ, List.getElem_cons_zero, List.setIfInBounds_toArray, List.set_cons_zero, List.set_cons_succ]
  refine reg_done (by kernel_rfl) ?_ _

  have HR3 := Lib.hid (HR.out.stored HG2.out HO2.out HV2.out)
  have HK3 : Hid (Kp (may g (.slice (some adv) Pl cv)) w (w2.setCell ⟨g, 9, none⟩ (.slice (some ad2) (128) c2))) := Lib.hid ((Kp.stays _).trans (Kp.of_old (Below.refl _ w).drew) ((Kp.stays _).trans (Kp.of_grown (g := g) HG2.out) (Kp.of_cell 9 _)))
  have hc93 := HR3.out.bk.cell (k := 9) (rn_nine _ _ _ HR3.out.len)
  have HF3 : Hid (Fresh w (.slice (some adv) Pl cv) (.slice (some ad2) (128) c2)) := Lib.hid (HV2.out.imp id (fun e => ⟨_, e, Nat.le_refl _⟩))
  clear HG2 HO2 HV2
  generalize w2.setCell ⟨g, 9, none⟩ (.slice (some ad2) (128) c2) = w3 at HR3 HK3 hc93 ⊢
  have hX : (part ++ l.take (128 - Pl)).length = 128 := by rw [List.length_append, List.length_take, hpl]; omega
  have hsplit : part ++ l = (part ++ l.take (128 - Pl)) ++ l.drop (128 - Pl) := by rw [List.append_assoc, List.take_append_drop]
  have HE := Lib.hid (eat_part KA st (part ++ l.take (128 - Pl)) (l.drop (128 - Pl)) hX SF (by rw [← hsplit]; exact HEL.out))
  have HLft := Lib.hid (left_part (part ++ l.take (128 - Pl)) (l.drop (128 - Pl)) hX PF (by rw [← hsplit]; exact HLL.out))
  obtain ⟨A9, c9, e9, hr9⟩ := HR3.out.row.rdN hX
  injection e9 with e91 e92 e93
  subst e91 e93
  have HR9 := Lib.hid hr9
  have HN9 : Hid (ad2.block ≠ g) := Lib.hid (fun e => HR3.out.ne (by rw [← e]; rfl))
  clear hr9 HEL HLL hsplit
  go_wp2_with fail
  all_goals
    refine (step_any w3 HR3.out HR9.out (Nat.le_refl _) (fun ad h => by injection h with h; subst h; exact HN9.out)).mono ?_; rintro e w4 ⟨rfl, hR4, hK4⟩
    rw [List.take_of_length_le (Nat.le_of_eq hX)] at hR4
    have hc94 := hR4.bk.cell (k := 9) (rn_nine _ _ _ hR4.len)
    have hf94 := hR4.bk.frozen 9
    have HRun := Lib.hid (hR4.stored (World.grownBy.refl w4 _) (Ow.cut hR4.row) (Or.inl rfl))
    have HKP := Lib.hid ((HK3.out.via hK4 (fun k _ h => Or.inl h)).via (Kp.of_cell (g := g) (v := .slice (some ad2) 128 c2) 9 (.slice (some ad2) 0 c2)) (may_via HF3.out))
    have HOB : Hid (Fresh w (.slice (some adv) Pl cv) (.slice (some ad2) 0 c2)) := Lib.hid HF3.out
    have HNE0 : Hid (∀ ad, A = some ad → ad.block ≠ g) := Lib.hid (fun ad h => (HA.out ad h).1)
    have HRd0 : Hid (Rd (w4.setCell ⟨g, 9, none⟩ (.slice (some ad2) 0 c2)) w.heap.size A n c l) := Lib.hid (HRW.out.kpNe HKP.out (Nat.le_refl _) (fun ad h => by
      rintro (e | e)
      · exact (HA.out ad h).1 e
      · exact (HA.out ad h).2 e))
    have HRd := Lib.hid (HRd0.out.drop_ hMn)
    have HNE := Lib.hid (ne_drop (c := c) (k := (128 - Pl)) HNE0.out)
    first
    | (have hcM : c = (128 - Pl) := by assumption
       rw [if_pos hcM, hcM, Nat.sub_self] at HRd
       rw [if_pos hcM] at HNE)
    | (have hcM : ¬ c = (128 - Pl) := by assumption
       rw [if_neg hcM] at HRd HNE)
    clear hR4 hK4 HR3 HR9 HN9 HK3 hc93 HNE0 HRd0 HRW HRD HR HOW HC9 HB0 hc9 HA HF3
    obtain ⟨nr, hnr⟩ : ∃ nr, nr = n - (128 - Pl) := ⟨_, rfl⟩
    have hnr3 : nr ≤ 4294967296 := by omega
    generalize part ++ l.take (128 - Pl) = X at hX HRun HE HLft
    generalize mix KA st X = st2 at HRun HE
    go_wp2_with fail
    generalize w4.setCell ⟨g, 9, none⟩ (.slice (some ad2) 0 c2) = w5 at HRun HKP HRd ⊢

    have HOW := Lib.hid HRun.out.row
    go_loopw [1] (fun v1 wr => ∃ (A' : Option Addr) (n' c' : Nat) (l' : List UInt8) (st' : List UInt64), v1 = .slice A' n' c' ∧ n' ≤ nr ∧ Hid (Run wr base g gk KA st' [] (.slice (some ad2) 0 c2)) ∧ Hid (Rd wr w.heap.size A' n' c' l') ∧ Hid (∀ ad, A' = some ad → ad.block ≠ g) ∧ Hid (Kp (may g (.slice (some adv) Pl cv)) w wr) ∧ Hid (eat KA (l'.length / 128) st' l' = SF) ∧ Hid (left l' = PF)) (fun v1 _ => lenOf v1)
    case atStart => exact ⟨_, _, _, _, _, rfl, Nat.le_of_eq hnr.symm, HRun, HRd, HNE, HKP, HE, HLft⟩
    case round =>
      clear HRun HRd HNE HKP HE HLft
      obtain ⟨A', n', c', l', st', rfl, hnr', HRun, HRd, HNE, HKP, HE, HLft⟩ := hrel
      have hlen := HRd.out.len
      have hcap := HRd.out.cap
      by_cases hbig : 128 ≤ n'
      · try (exfalso; omega)
        all_goals
          go_wp2_with fail
          refine (step_any wr HRun.out ((HRd.out.take_ (k := 128) hbig).more HKP.out.size) (Nat.le_refl _) (fun ad h => HNE.out ad h)).mono ?_; rintro e w6 ⟨rfl, hR6, hK6⟩
          have HR6 := Lib.hid hR6
          have HK6 := Lib.hid hK6
          have HRd6 := Lib.hid ((HRd.out.kpNe hK6 HKP.out.size (fun ad h => HNE.out ad h)).drop_ hbig)
          have hE6 := Lib.hid (eat_next KA st' l' (by omega) SF HE.out)
          have hL6 := Lib.hid (left_next l' (by omega) PF HLft.out)
          rw [List.take_take, Nat.min_self] at HR6
          clear hR6 hK6
          go_wp2
          go_roundw
          case rel => exact ⟨_, n' - 128, c' - 128, l'.drop 128, _, rfl, by omega, HR6, HRd6, Lib.hid (ne_drop HNE.out), Lib.hid (HKP.out.via HK6.out (fun k _ h => Or.inl h)), hE6, hL6⟩
          case measure => simp [lenOf]; omega
      · have hE0 := eat_small KA st' l' (by omega) SF HE.out
        have hL0 := left_small l' (by omega) PF HLft.out
        have HR6 := Lib.hid HRun.out
        have hc9 := HRun.out.bk.cell (k := 9) (rn_nine _ _ _ HRun.out.len)
        have hB6 : base ≤ wr.heap.size := Nat.le_trans HRun.out.hg (Nat.le_of_lt HRun.out.bk.lt)
        go_wp2_with (at_builtin; refine wpList_app rfl _ _ rfl rfl HR6.out.row rfl (HRd.out.more HKP.out.size) (by simp; omega) hB6 ?_; intro v7 w7 ho7 hg7 hv7; obtain ⟨A7, c7, rfl, _⟩ := ho7.rdN (n := n') (by simpa using hlen); have HO7 := Lib.hid ho7; have HG7 := Lib.hid hg7; have HV7 := Lib.hid hv7; clear ho7 hg7 hv7; have hc97 := (HR6.out.bk.grown HG7.out HR6.out.ne).cell (k := 9) (rn_nine _ _ _ HR6.out.len); have hf97 := (HR6.out.bk.grown HG7.out HR6.out.ne).frozen 9)
        refine bodyPost_end (results_none rfl _ _ _) rfl ⟨rfl, .slice A7 n' c7, ?_, ?_, ?_⟩
        · rw [hE0, hL0]
          exact HR6.out.stored HG7.out (by simpa using HO7.out) HV7.out
        · exact HKP.out.via ((Kp.stays _).trans (Kp.of_grown (g := g) HG7.out) (Kp.of_cell 9 _)) (may_via HOB.out)
        · rcases HV7.out with e | e
          · rcases HOB.out with k | ⟨j, k, hj⟩
            · exact Or.inl (e.trans k)
            · exact Or.inr ⟨j, e.trans k, hj⟩
          · exact Or.inr ⟨_, e, HKP.out.size⟩
    

end Go.Proofs.YtdfihpnmiiaflaaDoor
end
section
/- Bytes put into a sum that is under way, whatever part of a piece it has. -/
namespace Go.Proofs.YtdfihpnmiiaflaaDoor
set_option maxRecDepth 8192
open Go.RowKit

theorem put_any {A : Option Addr} {n c : Nat} {l part : List UInt8} {KA st : List UInt64} {v : Value} {base g gk : Nat} (w : World) (hR : Run w base g gk KA st part v) (hp : part.length < 128) (hr : Rd w w.heap.size A n c l) (hn : n ≤ 4294967296)
    (hA : ∀ ad, A = some ad → ad.block ≠ g ∧ v.ownBlock ≠ some ad.block) :
    Calls Tryd.prog 67 #[.pointer (some ⟨g, 0, none⟩), .slice A n c] w fun e w' => e = .returned (.tuple #[]) ∧ Put w base g gk KA (eat KA ((part ++ l).length / 128) st (part ++ l)) (left (part ++ l)) v w' := by
  by_cases h0 : part.length = 0
  · obtain rfl := List.eq_nil_of_length_eq_zero h0
    exact put_nil w hR hr hn (fun ad h => (hA ad h).1) _ _ rfl rfl
  · by_cases hs : part.length + n < 128
    · exact put_small w hR rfl (by omega) hp hr hn hA _ _ rfl rfl hs
    · exact put_big w hR rfl (by omega) hp hr hn hA _ _ rfl rfl (by omega)

theorem left_length (l : List UInt8) : (left l).length < 128 := by
  rw [left, List.length_drop]
  omega
theorem eat_more (KA : List UInt64) (l : List UInt8) : ∀ (n : Nat) (X : List UInt8) (st : List UInt64), X.length / 128 = n →
    eat KA ((left X ++ l).length / 128) (eat KA n st X) (left X ++ l) = eat KA ((X ++ l).length / 128) st (X ++ l) ∧ left (left X ++ l) = left (X ++ l)
  | 0, X, st, h => by
    have e : left X = X := by rw [left, h]; rfl
    rw [e]
    exact ⟨rfl, rfl⟩
  | n + 1, X, st, h => by
    have h1 : 128 ≤ X.length := by omega
    have ih := eat_more KA l n (X.drop 128) (mix KA st (X.take 128)) (by rw [List.length_drop]; omega)
    have hl : left (X.drop 128) = left X := left_next X h1 _ rfl
    have hx : (X.take 128).length = 128 := by rw [List.length_take]; omega
    have hsp : X ++ l = X.take 128 ++ (X.drop 128 ++ l) := by rw [← List.append_assoc, List.take_append_drop]
    have e1 := eat_part KA st (X.take 128) (X.drop 128 ++ l) hx _ rfl
    have e2 := left_part (X.take 128) (X.drop 128 ++ l) hx _ rfl
    rw [← hsp] at e1 e2
    rw [hl, e1, e2] at ih
    rw [eat]
    exact ih
end Go.Proofs.YtdfihpnmiiaflaaDoor
end
section
/- Eight words put as bytes: signs. -/
namespace Go.Proofs.YtdfihpnmiiaflaaDoor
open Go.RowKit

theorem signs_take (st : List UInt64) (t : Nat) (h : t < st.length) : signsOf (st.take (t + 1)) = signsOf (st.take t) ++ wordB 8 st[t] := by
  rw [List.take_succ_eq_append_getElem h, signsOf, List.flatMap_append]; simp [signsOf]
theorem signs_length : ∀ st : List UInt64, (signsOf st).length = 8 * st.length
  | [] => rfl
  | n :: st => by
    have := signs_length st
    simp only [signsOf, List.flatMap_cons, List.length_append, wordB_length, List.length_cons] at this ⊢
    omega

set_option maxHeartbeats 400000 in
theorem signs_any (st : List UInt64) (hs : st.length = 8) (w : World) : Calls Tryd.prog 69 #[.agg (cs64 st).toArray] w fun e w' => e = .returned (.agg (cs8 (signsOf st)).toArray) ∧ Below w.heap.size w w' := by
  have HL := Lib.hid (show (cs64 st).length = 8 by rw [cs64_length, hs])
  go_enter Tryd.func69, Tryd.ntmps69
  go_wp2_with (first | (refine wpList_alloc_z rfl 85 rfl z33 zero33 ?_) | (at_make; refine wpList_make (base := w.heap.size + 2) rfl _ _ rfl _ rfl rfl (by omega) (by omega) (by simp) ?_; intro v1 w1 ho1 hb1 hz1) | (refine wpList_load_at rfl 87 _ rfl _ rfl (cs64 st) _ ((((Bk.new w (cs64 st) 87).old _).keep hb1).at_) Tryd.underlying87 rfl (by rw [HL.out]; exact info38) ?_))
  have hk1 : Bk w1 (w.heap.size + 1) z33 := by
    have := (Bk.new (w.alloc (.cells (cs64 st).toArray 87)) z33 85).keep hb1
    simpa using this
  have hB1 : Below w.heap.size w w1 := ((bl_alloc (bl_alloc (bl0 w) _) _).trans (hb1.mono (by simp; omega)))
  have hs1 : w.heap.size + 2 ≤ w1.heap.size := by have := hb1.size; simp at this; omega
  clear hb1 hz1
  go_loopw [3, 8] (fun v i wr => ∃ t : Nat, t ≤ 8 ∧ i = .int .i64 (t : Int) ∧ Ow wr (w.heap.size + 2) v (signsOf (st.take t)) ∧ w.heap.size + 2 ≤ wr.heap.size ∧ Bk wr (w.heap.size + 1) z33 ∧ Below w.heap.size w wr) (fun _ i _ => 8 - (intOf i).toNat)
  case atStart => exact ⟨0, by omega, rfl, by simpa [signsOf] using ho1, hs1, hk1, hB1⟩
  case round =>
    obtain ⟨t, ht, rfl, ho, hsz, hk, hb⟩ := hrel
    by_cases hlt : t < 8
    · have hc : (cs64 st).toArray[t]? = some (.int .u64 ((st[t]'(by omega)).toNat : Int)) := by simp [cs64, hs, hlt, B64]
      have hx := run_index64 Tryd.underlying87 hlt hc
      have HN := Lib.hid (signs_take st t (by omega))
      have hlen : (signsOf (st.take t)).length ≤ 64 := by rw [signs_length, List.length_take]; omega
      generalize st[t]'(by omega) = n at hc hx HN
      generalize signsOf (st.take t) = X at ho HN hlen ⊢
      have hnn : n.toNat < 18446744073709551616 := n.toNat_lt
      clear hc
      go_wp2_with fail
      refine (putWord_any _ n _ (w.heap.size + 2) _ ho hsz (by omega)).mono ?_; rintro e w2 ⟨v2, rfl, ho2, hb2⟩
      go_wp2
      go_roundw
      case rel => exact ⟨t + 1, by omega, by go_num, by rw [HN.out]; exact ho2, by have := hb2.size; omega, hk.below hb2 (by omega), hb.trans (hb2.mono (by omega))⟩
      case measure => simp [intOf]; omega
    · obtain rfl : t = 8 := by omega
      rw [List.take_of_length_le (by omega)] at ho
      have hl64 : (signsOf st).length = 64 := by rw [signs_length, hs]
      obtain ⟨A, c, rfl, hr⟩ := ho.rdN hl64
      obtain ⟨ad, rfl, _, _⟩ := hr.2.2 (by omega)
      have HC := Lib.hid (hr.cells (by omega))
      have HS := Lib.hid (show (cs8 (signsOf st)).length = 64 by rw [cs8_length, hl64])
      have HK := Lib.hid hk
      clear hr ho hk ho1 hk1
      have hAA := run_arrayAt (n := 64) (c := c) (A := some ad) Tryd.underlying85 (Nat.le_refl 64)
      go_wp2_with (first | (refine wpList_load_at rfl 85 _ rfl ad rfl (cs8 (signsOf st)) _ HC.out Tryd.underlying85 rfl (by rw [HS.out]; exact info33) ?_) | (refine wpList_store_bk rfl 85 _ _ rfl (w.heap.size + 1) rfl (cs8 (signsOf st)) z33 rfl HK.out (by rw [HS.out]; exact info33) (by rw [HS.out]; exact len_z33) (cs8_all _) ?_))
      exact ret_bk rfl (w.heap.size + 1) _ _ rfl rfl (HK.out.setRow _) Tryd.underlying85 rfl (by rw [HS.out]; exact info33) ⟨rfl, bl_setRow hb (by omega) _⟩
end Go.Proofs.YtdfihpnmiiaflaaDoor
end
section
/- What stands behind the bytes: padding. -/
namespace Go.Proofs.YtdfihpnmiiaflaaDoor
open Go.RowKit

/-- make([]byte, L, C). -/
theorem wpList_makeN {w : World} {ops : Array Oper} {rest : List Oper} {o : Oper} {a : Act} {Q : Exit → Act → World → Prop} (hgd : o.guard = none) (l c : Operand)
    (ho : o.op = Op.makeSlice 30 l c) {kl kc : IntKind} (L C : Nat) (hl : a.eval l = .int kl (L : Int)) (hc : a.eval c = .int kc (C : Int)) (h0 : L ≤ C) (h1 : C ≤ 140737488355328)
    (hL : 0 < L) (h : ∀ w', Ow (w'.setCell ⟨w.heap.size, 0, none⟩ (.int .u8 128)) w.heap.size (.slice (some ⟨w.heap.size, 0, none⟩) L C) (128 :: List.replicate (L - 1) 0) → Below w.heap.size w (w'.setCell ⟨w.heap.size, 0, none⟩ (.int .u8 128)) →
      w'.cell? ⟨w.heap.size, 0, none⟩ = some (.int .u8 0) → w'.frozen? ⟨w.heap.size, 0, none⟩ = false → wpList Tryd.prog ops Q rest (a.put o.dst (.slice (some ⟨w.heap.size, 0, none⟩) L C)) w') : wpList Tryd.prog ops Q (o :: rest) a w := by
  obtain ⟨i, hi, hz0, hz1, hz2⟩ := info_parts info_u8
  refine wpList_plain hgd fun K hK => ?_
  have hm : (maxLen : Int) = 9223372036854775807 := by simp [maxLen]
  have hr := run_make (P := Tryd.prog) w 30 5 i (.int .u8 0) Tryd.underlying30 hi hz0 kl kc L C (by omega) (by omega) (by rw [hz2]; omega) (by omega)
  rw [Int.toNat_natCast, Int.toNat_natCast] at hr
  unfold Oper.wp execOp
  simp only [ho, hl, hc, hr, Sem.run_bind, Result.andThen_ok, Sem.run_pure]
  have hO : (w.alloc (.cells (madeCells (Value.int .u8 0).cells (C * i.size)) 5)).ownsRow w.heap.size 5 1 (.slice (some ⟨w.heap.size, 0, none⟩) L C) L (cs8 (List.replicate L 0)) := by
    refine ⟨by simp [cs8], .inr ⟨w.heap.size, C, _, rfl, Nat.le_refl _, heap_alloc_new w _, h0, by simp only [maxLen]; omega, by rw [size_madeCells, hz1], ?_⟩⟩
    rw [hz1]
    simp only [Value.cells, Nat.mul_one, toList_madeCells_one, cs8, List.map_replicate]
    rw [List.take_replicate, Nat.min_eq_left h0]
    rfl
  have hB : Below w.heap.size w (w.alloc (.cells (madeCells (Value.int .u8 0).cells (C * i.size)) 5)) := (Below.refl _ _).alloc (Nat.le_refl _) _
  generalize w.alloc (.cells (madeCells (Value.int .u8 0).cells (C * i.size)) 5) = W at hO hB ⊢
  refine hK _ _ (h _ ?_ ?_ ?_ (World.ownsRow.frozenAt hO 0))
  · have := (World.ownsRow.stored hO 0 (B8 128)).1
    obtain ⟨M, rfl⟩ : ∃ M, L = M + 1 := ⟨L - 1, by omega⟩
    unfold Ow
    rw [show Value.int .u8 128 = B8 128 from rfl]
    simpa [cs8, List.replicate_succ] using this
  · exact hB.trans ((Below.refl _ _).grown (World.ownsRow.stored hO 0 (B8 128)).2 hB.size (fun g hg => by injection hg with hg; omega))
  · rw [World.ownsRow.cellAt hO 0 (by omega)]
    obtain ⟨M, rfl⟩ : ∃ M, L = M + 1 := ⟨L - 1, by omega⟩
    simp [cs8, List.replicate_succ, B8]

theorem noughts_of (size : Nat) : (IntKind.u64.wrap (111 - (size : Int))).tmod 128 = (((239 - size % 128) % 128 : Nat) : Int) := by
  rw [wrapU, Int.tmod_eq_emod_of_nonneg (Int.emod_nonneg _ (by omega))]
  omega

set_option maxHeartbeats 400000 in
theorem padding_any (size : Nat) (h : size < 18446744073709551616) (w : World) : Calls Tryd.prog 68 #[.int .u64 (size : Int)] w (Gives w (padB size)) := by
  have hn := noughts_of size
  have hq : (239 - size % 128) % 128 < 128 := Nat.mod_lt _ (by omega)
  have HP := Lib.hid (show padB size = 128 :: List.replicate ((239 - size % 128) % 128) 0 ++ wordB 8 (UInt64.ofNat (size * 8 / 18446744073709551616)) ++ wordB 8 (UInt64.ofNat (size * 8 % 18446744073709551616)) from rfl)
  generalize (239 - size % 128) % 128 = q at hn hq HP
  go_enter Tryd.func68, Tryd.ntmps68
  go_wp2_with (at_make; refine wpList_makeN rfl _ _ rfl (1 + q) (1 + q + 16) rfl rfl (by omega) (by omega) (by omega) ?_; intro w1 ho1 hb1 hc1 hf1; have ho1 := Lib.hid ho1; have hb1 := Lib.hid hb1)
  have ho1 := ho1.out
  have hb1 := hb1.out
  refine (Tryd.bits_Mul64 size 8 h (by omega) _).mono ?_; rintro e w2 ⟨rfl, rfl⟩
  have hh : size * 8 / 18446744073709551616 < 18446744073709551616 := by omega
  have hl : size * 8 % 18446744073709551616 < 18446744073709551616 := by omega
  have th := toNat_of hh
  have tl := toNat_of hl
  generalize UInt64.ofNat (size * 8 / 18446744073709551616) = H at th HP
  generalize UInt64.ofNat (size * 8 % 18446744073709551616) = L at tl HP
  rw [← th, ← tl]
  have hH : H.toNat < 18446744073709551616 := H.toNat_lt
  have hLn : L.toNat < 18446744073709551616 := L.toNat_lt
  clear th tl hh hl
  go_wp2_with fail
  refine (putWord_any _ H _ w.heap.size _ ho1 hb1.size (by simp; omega)).mono ?_; rintro e w2 ⟨v2, rfl, ho2, hb2⟩
  go_wp2_with fail
  refine (putWord_any _ L _ w.heap.size _ ho2 (Nat.le_trans hb1.size hb2.size) (by simp [wordB_length]; omega)).mono ?_; rintro e w3 ⟨v3, rfl, ho3, hb3⟩
  go_wp2
  go_ret
  rw [HP.out]
  refine Gives.mk ?_ ((hb1.trans hb2).trans hb3)
  simpa using ho3

theorem padB_length (n : Nat) : (padB n).length = 17 + (239 - n % 128) % 128 := by
  simp [padB, wordB_length]; omega

set_option maxHeartbeats 400000 in
theorem Own_any {A : Option Addr} {k c : Nat} {l : List UInt8} (w : World) (hr : Rd w w.heap.size A k c l) (hk : k ≤ 4294967296) :
    Calls Tryd.prog 18 #[.slice A k c] w (Gives w l) := by
  have hl := hr.len
  go_enter Tryd.func18, Tryd.ntmps18
  go_wp2_with (at_builtin; refine wpList_app rfl _ _ rfl rfl (Ow.lit w #[] [] rfl (by simp)) rfl (hr.below ((Below.refl _ _).alloc (Nat.le_refl _) _)) (by simp; omega) (by simp) ?_; intro v2 w2 ho2 hg2 hv2)
  go_ret
  exact Gives.mk ho2 (((Below.refl _ _).alloc (Nat.le_refl _) _).grown hg2 (by simp) (fun g hg => (World.ownsRow.lt (Ow.lit w #[] [] rfl (by simp)) g hg).1))
end Go.Proofs.YtdfihpnmiiaflaaDoor
end
