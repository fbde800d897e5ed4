/- Texts of this claim, one behind the other: JLe, JSy. -/
import Derived.Test.YtgpfognglpfmoaaGreatDoorZ22
set_option linter.unusedSimpArgs false
set_option linter.unusedVariables false
section
/- A journal in memory; Left, Sync. -/
namespace Go.Proofs.YtgpfognglpfmoaaGreatDoor
set_option maxRecDepth 8192
set_option linter.unusedSimpArgs false
set_option linter.unusedVariables false
open Go.RowKit

/-- THE OBJECT AT J IS A JOURNAL: its disk at p, its log at L; its area has its records, and noughts behind them. -/
structure Jd (w : World) (J p s m L : Nat) (v : Value) (area E : Nat) (rs : List (UInt8 × List UInt8)) (syn : Nat) (B : List UInt8) (C : Ca) : Prop where
  hj : Bk w J (jc p area L syn)
  hl : Lg w 0 L E rs v
  hd : Dk w p s m B C
  hE : E ≤ 4294967296
  a1 : 1 ≤ area
  a2 : area ≤ 256
  hs : 2 + 2 * area ≤ C.length
  hA : rdS B C (2 + E % 2 * area) area = pad (area * 256) (recsB (fstC E) rs)
  hf : (recsB (fstC E) rs).length ≤ area * 256
  hv : Vrs rs
  dJ : J ≠ p ∧ J ≠ s ∧ J ≠ m
  dL : ∀ k, k = J ∨ k = p ∨ k = s ∨ k = m → k ≠ L ∧ v.ownBlock ≠ some k
/-- Its blocks. -/
def jF (J p s m L : Nat) (v : Value) (k : Nat) : Prop := (k = J ∨ k = p ∨ k = s ∨ k = m) ∨ k = L ∨ v.ownBlock = some k
/-- What changed lay in F; what lies in F' lay in F, or is new. -/
def Stp (F F' : Nat → Prop) (w w' : World) : Prop := Kp F w w' ∧ ∀ k, F' k → F k ∨ w.heap.size ≤ k
theorem Stp.trans {F F' F'' : Nat → Prop} {w w1 w2 : World} (h : Stp F F' w w1) (k : Stp F' F'' w1 w2) : Stp F F'' w w2 :=
  ⟨h.1.via k.1 (fun j hj e => by rcases h.2 j e with h1 | h1; exact h1; omega), fun j hj => by
    rcases k.2 j hj with h1 | h1
    · exact h.2 j h1
    · exact .inr (by have := h.1.size; omega)⟩
theorem Stp.old {F : Nat → Prop} {w w' : World} (h : Below w.heap.size w w') : Stp F F w w' := ⟨Kp.of_old h, fun _ => .inl⟩
section
variable {w w' : World} {J p s m L area E syn : Nat} {v : Value} {rs : List (UInt8 × List UInt8)} {B : List UInt8} {C : Ca}
theorem Jd.fs (h : Jd w J p s m L v area E rs syn B C) : 2 + E % 2 * area + area ≤ C.length := by
  have := h.hs
  have h2 : E % 2 * area ≤ 1 * area := Nat.mul_le_mul_right _ (by omega)
  omega
theorem Jd.kp {may : Nat → Prop} (h : Jd w J p s m L v area E rs syn B C) (hk : Kp may w w') (hm : ∀ k, may k → ¬ jF J p s m L v k) : Jd w' J p s m L v area E rs syn B C :=
  { h with
    hj := h.hj.kp hk (fun e => hm _ e (.inl (.inl rfl)))
    hl := h.hl.kp hk (fun e => hm _ e (.inr (.inl rfl))) (fun k hk e => hm _ e (.inr (.inr hk)))
    hd := h.hd.kp hk (fun e => hm _ e (.inl (.inr (.inl rfl)))) (fun e => hm _ e (.inl (.inr (.inr (.inl rfl))))) (fun e => hm _ e (.inl (.inr (.inr (.inr rfl))))) }
theorem Jd.old (h : Jd w J p s m L v area E rs syn B C) (hb : Below w.heap.size w w') : Jd w' J p s m L v area E rs syn B C := h.kp (may := fun _ => False) (Kp.of_old hb) (fun _ e => e.elim)
theorem Jd.has (h : Jd w J p s m L v area E rs syn B C) : Has (rdS B C (2 + E % 2 * area) area) E rs := by rw [h.hA]; exact Has_pad _ _ _
/-- The journal behind another log of the same records. -/
theorem Jd.same1 (h : Jd w J p s m L v area E rs syn B C) {v' : Value} (hs : Lg w' 0 L E rs v' ∧ (v'.ownBlock = v.ownBlock ∨ ∃ k, v'.ownBlock = some k ∧ w.heap.size ≤ k) ∧ Kp (may L v) w w') : Jd w' J p s m L v' area E rs syn B C ∧ Stp (jF J p s m L v) (jF J p s m L v') w w' := by
  obtain ⟨hl, hv, hk⟩ := hs
  have hm : ∀ k, k = J ∨ k = p ∨ k = s ∨ k = m → ¬ may L v k := fun k hk e => by
    rcases e with e | e
    · exact (h.dL k hk).1 e
    · exact (h.dL k hk).2 e
  refine ⟨{ h with
    hj := h.hj.kp hk (hm _ (.inl rfl))
    hl := hl
    hd := h.hd.kp hk (hm _ (.inr (.inl rfl))) (hm _ (.inr (.inr (.inl rfl)))) (hm _ (.inr (.inr (.inr rfl))))
    dL := fun k hk => ⟨(h.dL k hk).1, ?_⟩ }, ⟨hk.mono (fun k e => .inr e), fun k e => ?_⟩⟩
  · rcases hv with e | ⟨j, e, hj⟩
    · rw [e]; exact (h.dL k hk).2
    · rw [e]
      intro e2
      injection e2 with e2
      have hlt : k < w.heap.size := by
        rcases hk with rfl | rfl | rfl | rfl
        · exact h.hj.lt
        · exact h.hd.plt
        · exact h.hd.slt
        · exact h.hd.mlt
      omega
  · rcases e with e | e | e
    · exact .inl (.inl e)
    · exact .inl (.inr (.inl e))
    · rcases hv with e2 | ⟨j, e2, hj⟩
      · rw [e2] at e; exact .inl (.inr (.inr e))
      · rw [e2] at e; injection e with e; exact .inr (by omega)

/-- Records. -/
theorem Records_j (h : Jd w J p s m L v area E rs syn B C) : Calls Tryz.prog 14 #[pt0 J] w (RsMade w rs) := by
  obtain ⟨lr, hbk⟩ := h.hl.bk
  refine (Records_ex h.hj hbk h.hd (by have := h.hE; omega) h.a1 h.a2 h.fs).mono ?_
  rintro e w' ⟨rs', tail, h1, h2, h3, h4⟩
  rw [h.hA] at h1
  obtain ⟨rfl, _⟩ := recs_one rs rs' (fstC E) _ tail h.hv h2 h1 (noughts_err _ _) h3
  exact h4
theorem Epoch_j (h : Jd w J p s m L v area E rs syn B C) : Calls Tryz.prog 16 #[pt0 J] w fun e w' => e = .returned (.int .u64 (E : Int)) ∧ w' = w := by
  obtain ⟨lr, hbk⟩ := h.hl.bk
  exact epoch_j h.hj hbk
theorem look_jd (h : Jd w J p s m L v area E rs syn B C) : Calls Tryz.prog 47 #[pt0 J] w fun e w' => ∃ R v', e = .returned (.slice (some ⟨R, 0, none⟩) (area * 256) (area * 256)) ∧ w.heap.size ≤ R ∧ Row w' R (pad (area * 256) (recsB (fstC E) rs)) ∧ v'.ownBlock ≠ some R ∧
    Jd w' J p s m L v' area E rs syn B C ∧ Stp (jF J p s m L v) (jF J p s m L v') w w' := by
  refine (look_j h.hj h.hl h.hd (by have := h.hE; omega) h.a1 h.a2 h.fs h.has (Nat.zero_le _) (h.dL J (.inl rfl)).1 (h.dL J (.inl rfl)).2).mono ?_
  rintro e w' ⟨R, v', rfl, hR, hrow, hne, hsame⟩
  rw [h.hA] at hrow
  obtain ⟨h1, h2⟩ := h.same1 hsame
  exact ⟨R, v', rfl, hR, hrow, hne, h1, h2⟩

set_option maxHeartbeats 1600000 in
theorem Left_j (h : Jd w J p s m L v area E rs syn B C) : Calls Tryz.prog 33 #[pt0 J] w fun e w' => ∃ v', e = .returned (.int .i64 (((area * 256 - (recsB (fstC E) rs).length : Nat)) : Int)) ∧
    Jd w' J p s m L v' area E rs syn B C ∧ Stp (jF J p s m L v) (jF J p s m L v') w w' := by
  have HM := Lib.hid (made_j h.hj)
  have HLK := Lib.hid (look_jd h)
  have ha := h.a2
  have hf := h.hf
  have hrb : (recsB (fstC E) rs).length ≤ 1073741824 := by omega
  clear h
  go_enter Tryz.func33, Tryz.ntmps33
  go_wp2_with (go_at_call 45; refine HM.out.mono ?_; rintro e w' ⟨rfl, hw⟩; subst w')
  refine HLK.out.mono ?_
  rintro e w1 ⟨R, v1, rfl, -, -, -, hjd, hst⟩
  have HJD := Lib.hid hjd
  have HST := Lib.hid hst
  have HJ1 := Lib.hid hjd.hj
  have HL1 := Lib.hid hjd.hl
  clear hjd hst HLK HM
  have HEN := Lib.hid (fun W (h : Lg W 0 L E rs v1) => end_any h hrb)
  have HRM := Lib.hid (fun W (h : Bk W J (jc p area L syn)) => room_j h ha)
  have hk : area * 256 ≤ 65536 := by omega
  generalize hne : (recsB (fstC E) rs).length = n at *
  generalize hke : area * 256 = K at *
  have HNE := Lib.hid hne
  have HKE := Lib.hid hke
  clear hne hke
  go_wp2
  refine region_meetQ (fun a0 a' w' => a' = puts a0 [(8, pt0 J), (9, .int .i64 (K : Int)), (10, pt0 J), (11, pt0 J), (12, .pointer (some ⟨J, 2, none⟩)), (13, pt0 L), (14, .int .i64 (n : Int)), (15, .int .i64 ((K : Int) - (n : Int))), (2, .int .i64 ((K : Int) - (n : Int)))] ∧ Hid (Below w1.heap.size w1 w')) ?_ ?_
  · have hR := Kp.stays (fun _ => False)
    refine reg_start (Kp (fun _ => False)) follows_mixed ?_
    have HJ := Lib.hid HJ1.out.drew
    have HL : Hid (Lg w1.drew 0 L E rs v1) := Lib.hid (HL1.out.old (Below.refl w1.heap.size w1).drew)
    have HB : Hid (Below w1.heap.size w1 w1.drew) := Lib.hid (Below.refl w1.heap.size w1).drew
    clear HJ1 HL1
    generalize w1.drew = u0 at HJ HL HB ⊢
    refine reg_take (v := pt0 J) hR 0 rfl (by kernel_rfl) (by kernel_rfl) (by kernel_rfl) (fun _ _ _ h => by cases h.1) (by rfl) ?_ ?_
    · intro W hW; go_simp; try with_reducible rfl
    try simp only [Act.put, List.getElem_toArray, List.getElem_cons_succ, List.getElem_cons_zero, List.setIfInBounds_toArray, List.set_cons_zero, List.set_cons_succ]
    refine reg_take (v := pt0 J) hR 2 rfl (by kernel_rfl) (by kernel_rfl) (by kernel_rfl) (fun _ _ _ h => by cases h.1) (by rfl) ?_ ?_
    · intro W hW; go_simp; try with_reducible rfl
    try simp only [Act.put, List.getElem_toArray, List.getElem_cons_succ, List.getElem_cons_zero, List.setIfInBounds_toArray, List.set_cons_zero, List.set_cons_succ]
    refine reg_take (v := pt0 J) hR 3 rfl (by kernel_rfl) (by kernel_rfl) (by kernel_rfl) (fun _ _ _ h => by cases h.1) (by rfl) ?_ ?_
    · intro W hW; go_simp; try with_reducible rfl
    try simp only [Act.put, List.getElem_toArray, List.getElem_cons_succ, List.getElem_cons_zero, List.setIfInBounds_toArray, List.set_cons_zero, List.set_cons_succ]
    refine reg_take (v := .pointer (some ⟨J, 2, none⟩)) hR 4 rfl (by kernel_rfl) (by kernel_rfl) (by kernel_rfl) (fun _ _ _ h => by cases h.1) (by rfl) ?_ ?_
    · intro W hW; go_simp; try with_reducible rfl
    try simp only [Act.put, List.getElem_toArray, List.getElem_cons_succ, List.getElem_cons_zero, List.setIfInBounds_toArray, List.set_cons_zero, List.set_cons_succ]
    refine reg_take (v := pt0 L) hR 5 rfl (by kernel_rfl) (by kernel_rfl) (by kernel_rfl) (fun _ _ _ h => by cases h.1) (by rfl) ?_ ?_
    · intro W hW; exact exec_load_cell 81 _ rfl Tryz.isAgg81 rfl ((HJ.out.kp hW id).cell rfl)
    try simp only [Act.put, List.getElem_toArray, List.getElem_cons_succ, List.getElem_cons_zero, List.setIfInBounds_toArray, List.set_cons_zero, List.set_cons_succ]
    refine reg_step hR 1 (by kernel_rfl) rfl fun K hK => ?_
    try simp only [Act.put, List.getElem_toArray, List.getElem_cons_succ, List.getElem_cons_zero, List.setIfInBounds_toArray, List.set_cons_zero, List.set_cons_succ]
    rw [if_pos (by rfl)]
    go_simp
    refine (HRM.out _ HJ.out).mono ?_; rintro e u1 ⟨rfl, hu⟩; subst u1
    refine hK.out _ _ (Kp.refl (may := fun _ => False) _) ?_
    clear hK K
    try simp only [Act.put, List.getElem_toArray, List.getElem_cons_succ, List.getElem_cons_zero, List.setIfInBounds_toArray, List.set_cons_zero, List.set_cons_succ]
    refine reg_step hR 6 (by kernel_rfl) rfl fun K hK => ?_
    try simp only [Act.put, List.getElem_toArray, List.getElem_cons_succ, List.getElem_cons_zero, List.setIfInBounds_toArray, List.set_cons_zero, List.set_cons_succ]
    rw [if_pos (by rfl)]
    go_simp
    refine (HEN.out _ HL.out).mono ?_; rintro e u1 ⟨rfl, kk, hkk⟩
    have hb : Below u0.heap.size u0 u1 := by rw [hkk]; exact bl_drewN _ _
    clear hkk
    refine hK.out _ _ (show Kp (fun _ => False) _ _ from Kp.of_old hb) ?_
    clear hK K
    try simp only [Act.put, List.getElem_toArray, List.getElem_cons_succ, List.getElem_cons_zero, List.setIfInBounds_toArray, List.set_cons_zero, List.set_cons_succ]
    refine reg_take (v := .int .i64 ((K : Int) - (n : Int))) hR 7 rfl (by kernel_rfl) (by kernel_rfl) (by kernel_rfl) (fun _ _ _ h => by cases h.1) (by rfl) ?_ ?_
    · intro W hW; go_simp; try rw [IntWalk.i64_in _ (by omega)]
    try simp only [Act.put, List.getElem_toArray, List.getElem_cons_succ, List.getElem_cons_zero, List.setIfInBounds_toArray, List.set_cons_zero, List.set_cons_succ]
    refine reg_take (v := .int .i64 ((K : Int) - (n : Int))) hR 8 rfl (by kernel_rfl) (by kernel_rfl) (by kernel_rfl) (fun _ _ _ h => by cases h.1) (by rfl) ?_ ?_
    · intro W hW; go_simp; try with_reducible rfl
    try simp only [Act.put, List.getElem_toArray, List.getElem_cons_succ, List.getElem_cons_zero, List.setIfInBounds_toArray, List.set_cons_zero, List.set_cons_succ]
    refine reg_done (by kernel_rfl) ?_ _
    refine ⟨rfl, ?_, Lib.hid (HB.out.trans (hb.mono HB.out.size))⟩
    simp only [puts, List.foldl_cons, List.foldl_nil, Act.put, List.getElem_toArray, List.getElem_cons_succ, List.getElem_cons_zero, List.setIfInBounds_toArray, List.set_cons_zero, List.set_cons_succ]
  · rintro a' w4 ⟨rfl, HB4⟩
    simp only [puts, List.foldl_cons, List.foldl_nil, Act.put, List.getElem_toArray, List.getElem_cons_succ, List.getElem_cons_zero, List.setIfInBounds_toArray, List.set_cons_zero, List.set_cons_succ]
    go_wp2
    go_ret
    refine ⟨v1, ?_, HJD.out.old HB4.out, HST.out.trans (Stp.old HB4.out)⟩
    rw [HNE.out, HKE.out]
    exact Oret_int (by omega)
end
end Go.Proofs.YtgpfognglpfmoaaGreatDoor
end
section
/- A journal: Sync. -/
namespace Go.Proofs.YtgpfognglpfmoaaGreatDoor
set_option maxRecDepth 8192
set_option linter.unusedSimpArgs false
set_option linter.unusedVariables false
open Go.RowKit

section
variable {w w' : World} {J p s m L area E syn : Nat} {v : Value} {rs : List (UInt8 × List UInt8)} {B B' : List UInt8} {C C' : Ca}
/-- The journal behind a change of its disk. -/
theorem Jd.dk {may : Nat → Prop} (h : Jd w J p s m L v area E rs syn B C) (hd : Dk w' p s m B' C') (hk : Kp may w w') (hm : ∀ k, may k → k = s ∨ k = m) (hl : C'.length = C.length)
    (hr : ∀ k, k < area → look B' C' (2 + E % 2 * area + k) = look B C (2 + E % 2 * area + k)) : Jd w' J p s m L v area E rs syn B' C' :=
  { h with
    hj := h.hj.kp hk (fun e => by rcases hm _ e with e | e; exact h.dJ.2.1 e; exact h.dJ.2.2 e)
    hl := h.hl.kp hk (fun e => by rcases hm _ e with e | e; exact (h.dL s (by simp)).1 e.symm; exact (h.dL m (by simp)).1 e.symm) (fun k hv e => by rcases hm _ e with e | e; exact (h.dL s (by simp)).2 (e ▸ hv); exact (h.dL m (by simp)).2 (e ▸ hv))
    hd := hd
    hs := by rw [hl]; exact h.hs
    hA := by rw [rdS_ext area hr]; exact h.hA }
theorem Jd.flush (h : Jd w J p s m L v area E rs syn B C) (hd : Dk w' p s m (settle C (idx 0 C) B) (noC C.length)) (hk : Kp (fun k => k = s ∨ k = m) w w') :
    Jd w' J p s m L v area E rs syn (settle C (idx 0 C) B) (noC C.length) :=
  h.dk hd hk (fun k e => e) (by simp [noC]) (fun k hka => look_flush h.hd.hC h.hd.hB (by have := h.fs; omega))
/-- The journal behind a store of how many were synced. -/
theorem Jd.put_syn (h : Jd w J p s m L v area E rs syn B C) (n : Nat) : Jd (w.setCell ⟨J, 3, none⟩ (.int .i64 (n : Int))) J p s m L v area E rs n B C := by
  have hk : Kp (· = J) w (w.setCell ⟨J, 3, none⟩ (.int .i64 (n : Int))) := Kp.of_only (Only.set w 3 (.int .i64 (n : Int)))
  exact { h with
    hj := h.hj.setCell 3 (.int .i64 (n : Int))
    hl := h.hl.kp hk (fun e => (h.dL J (by simp)).1 e.symm) (fun k hv e => (h.dL J (by simp)).2 (e ▸ hv))
    hd := h.hd.kp hk (fun e => h.dJ.1 e.symm) (fun e => h.dJ.2.1 e.symm) (fun e => h.dJ.2.2 e.symm) }

set_option maxHeartbeats 1600000 in
theorem Sync_j (h : Jd w J p s m L v area E rs syn B C) : Calls Tryz.prog 12 #[pt0 J] w fun e w' => ∃ v', e = .returned (.int .i64 0) ∧
    Jd w' J p s m L v' area E rs rs.length (settle C (idx 0 C) B) (noC C.length) ∧ Stp (jF J p s m L v) (jF J p s m L v') w w' := by
  have HM := Lib.hid (made_j h.hj)
  have HFL := Lib.hid (flush_any h.hd)
  have HJ := Lib.hid h
  have c0 : w.cell? ⟨J, 0, none⟩ = some (ptr p) := h.hj.cell rfl
  clear h
  go_enter Tryz.func12, Tryz.ntmps12
  go_wp2_with (go_at_call 45; refine HM.out.mono ?_; rintro e w' ⟨rfl, hw⟩; subst w')
  refine HFL.out.mono ?_
  rintro e w1 ⟨rfl, hd1, hk1⟩
  have HJ1 := Lib.hid (HJ.out.flush hd1 hk1)
  have HS1 : Hid (Stp (jF J p s m L v) (jF J p s m L v) w w1) := Lib.hid ⟨hk1.mono (fun k e => .inl (by rcases e with e | e; exact .inr (.inr (.inl e)); exact .inr (.inr (.inr e)))), fun _ => .inl⟩
  clear hd1 hk1 HM HFL c0 HJ
  go_wp2_with fail
  refine (look_jd HJ1.out).mono ?_
  rintro e w2 ⟨R, v2, rfl, -, -, -, hj2, hs2⟩
  obtain ⟨lr, hbk⟩ := hj2.hl.bk
  have c2 : w2.cell? ⟨J, 2, none⟩ = some (pt0 L) := hj2.hj.cell rfl
  have c3 : w2.cell? ⟨L, 2, none⟩ = some (.int .i64 0) := hbk.cell rfl
  have c4 : w2.cell? ⟨L, 4, none⟩ = some (.int .i64 (rs.length : Int)) := hbk.cell rfl
  have f4 : w2.frozen? ⟨J, 3, none⟩ = false := hj2.hj.frozen 3
  have c5 : w2.cell? ⟨J, 3, none⟩ = some (.int .i64 (syn : Int)) := hj2.hj.cell rfl
  have HEND := Lib.hid (hj2.put_syn rs.length)
  have HST := Lib.hid (HS1.out.trans (hs2.trans (show Stp (jF J p s m L v2) (jF J p s m L v2) w2 (w2.setCell ⟨J, 3, none⟩ (.int .i64 (rs.length : Int))) from ⟨(Kp.of_only (Only.set w2 3 (.int .i64 (rs.length : Int)))).mono (fun k e => .inl (.inl e)), fun _ => .inl⟩)))
  clear hbk hj2 hs2 HS1 HJ1
  go_wp2
  go_ret
  exact ⟨v2, rfl, HEND.out, HST.out⟩
end
end Go.Proofs.YtgpfognglpfmoaaGreatDoor
end
