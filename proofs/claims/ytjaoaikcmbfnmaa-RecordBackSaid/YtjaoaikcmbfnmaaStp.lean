/- A sum that is under way: its block, its row, a step. -/
import Derived.Test.YtjaoaikcmbfnmaaMix
namespace Go.Proofs.Ytjaoaikcmbfnmaa
set_option maxRecDepth 8192
open Go.RowKit

/-- The cells of a sum under way. -/
def rn (gk : Nat) (st : List UInt64) (v : Value) : List Value := Value.pointer (some ⟨gk, 0, none⟩) :: (cs64 st ++ [v])
structure Run (w : World) (base g gk : Nat) (KA st : List UInt64) (part : List UInt8) (v : Value) : Prop where
  bk : Bk w g (rn gk st v)
  row : Ow w base v part
  ne : v.ownBlock ≠ some g
  hg : base ≤ g
  kb : Bk w gk (cs64 KA)
  hgk : gk < base
  len : st.length = 8
  kl : 80 ≤ KA.length

def sets (cs : List Value) : Nat → List Value → List Value
  | _, [] => cs
  | o, v :: r => sets (cs.set o v) (o + 1) r
theorem Bk.setCells {g : Nat} : ∀ (vs : List Value) {w : World} {cs : List Value} (o : Nat), Bk w g cs → Bk (w.setCells g o vs) g (sets cs o vs)
  | [], _, _, _, h => h
  | v :: r, _, _, o, h => Bk.setCells r (o + 1) (h.setCell o v)
theorem rn_sets (gk : Nat) (st st' : List UInt64) (v : Value) (h : st.length = 8) (h' : st'.length = 8) : sets (rn gk st v) 1 (cs64 st') = rn gk st' v := by
  obtain ⟨a, b, c, d, e, f, g, i, rfl⟩ := eight h
  obtain ⟨a', b', c', d', e', f', g', i', rfl⟩ := eight h'
  rfl
theorem setCells_kept (g : Nat) : ∀ (vs : List Value) (o : Nat) (w : World), (w.setCells g o vs).os = w.os ∧ (w.setCells g o vs).tape = w.tape ∧ (w.setCells g o vs).output = w.output ∧ (w.setCells g o vs).heap.size = w.heap.size ∧ ∀ k, k ≠ g → (w.setCells g o vs).heap[k]? = w.heap[k]?
  | [], _, _ => ⟨rfl, rfl, rfl, rfl, fun _ _ => rfl⟩
  | v :: r, o, w => by
    obtain ⟨h1, h2, h3, h4, h5⟩ := setCells_kept g r (o + 1) (w.setCell ⟨g, o, none⟩ v)
    rw [World.setCells]
    exact ⟨h1, h2, h3, h4.trans (by simp [World.setCell]), fun k hk => (h5 k hk).trans (heap_setCell_other w _ k v hk)⟩

/-- What stays while a sum's words are written: all other blocks, and its first cell. -/
def Kf (g : Nat) (w w' : World) : Prop := Kp (· = g) w w' ∧ (g < w.heap.size → w'.cell? ⟨g, 0, none⟩ = w.cell? ⟨g, 0, none⟩)
theorem Kf.stays {g : Nat} : Stays (Kf g) :=
  ⟨fun w => ⟨(Kp.stays _).refl w, fun _ => rfl⟩, fun h k => ⟨(Kp.stays _).trans h.1 k.1, fun hg => (k.2 (Nat.lt_of_lt_of_le hg h.1.size)).trans (h.2 hg)⟩⟩
theorem Kf.of_old {g : Nat} {w w' : World} (h : Below w.heap.size w w') : Kf g w w' := ⟨Kp.of_old h, fun hg => h.cell hg⟩
theorem Kf.of_set {g n : Nat} {w : World} {vs : List Value} (_ : w.there g 1 n) (_ : vs.length ≤ 8) : Kf g w (w.setCells g 1 vs) := by
  obtain ⟨h1, h2, h3, h4, h5⟩ := setCells_kept g vs 1 w
  exact ⟨⟨h1, h2, h3, Nat.le_of_eq h4.symm, fun k _ hk => h5 k hk⟩, fun _ => World.cell?_setCells_out g vs 1 w _ (fun _ _ => Or.inl Nat.zero_lt_one)⟩
theorem Bk.there {w : World} {g o n : Nat} {cs : List Value} (h : Bk w g cs) (hn : o + n ≤ cs.length) : w.there g o n := fun j hj =>
  ⟨by rw [h.cell (List.getElem?_eq_getElem (by omega : o + j < cs.length))]; rfl, h.frozen _⟩
theorem Bk.range {w : World} {g o : Nat} {cs vs : List Value} (h : Bk w g cs) (hv : ∀ j v, vs[j]? = some v → cs[o + j]? = some v) : ∀ j v, vs[j]? = some v → w.cell? ((⟨g, o, none⟩ : Addr).add j) = some v := by
  intro j v hj
  rw [Addr.add_mid]
  exact h.cell (hv j v hj)
theorem mix_length (KA st : List UInt64) (p : List UInt8) (h : st.length = 8) : (mix KA st p).length = 8 := by
  simp [mix, S8.list, h]
theorem rn_length (gk : Nat) (st : List UInt64) (v : Value) (h : st.length = 8) : (rn gk st v).length = 10 := by simp [rn, cs64_length, h]
theorem rn_words (gk : Nat) (st : List UInt64) (v : Value) : ∀ (j : Nat) (u : Value), (cs64 st)[j]? = some u → (rn gk st v)[1 + j]? = some u := by
  intro j u hj
  rw [rn, Nat.add_comm, List.getElem?_cons_succ, List.getElem?_append_left (List.getElem?_eq_some_iff.1 hj).1]
  exact hj

set_option maxHeartbeats 800000 in
theorem step_any {A : Option Addr} {n c : Nat} {l part : List UInt8} {KA st : List UInt64} {v : Value} {base g gk : Nat} (w : World) (hR : Run w base g gk KA st part v) (hr : Rd w w.heap.size A n c l) (hn : 128 ≤ n) (hne : ∀ ad, A = some ad → ad.block ≠ g) :
    Calls Try.prog 50 #[.pointer (some ⟨g, 0, none⟩), .slice A n c] w fun e w' => e = .returned (.tuple #[]) ∧ Run w' base g gk KA (mix KA st (l.take 128)) part v ∧ Kp (· = g) w w' := by
  obtain ⟨ad, rfl, hab, hcl⟩ := hr.2.2 (by omega)
  have hadg := hne ad rfl
  have hl2 : (l.take 128).length = 128 := by rw [List.length_take, hr.len]; omega
  have HL2 := Lib.hid (show (cs8 (l.take 128)).length = 128 by rw [cs8_length, hl2])
  have HL : Hid (∀ W, Kp (· = g) w.drew W → ∀ j u, (cs8 (l.take 128))[j]? = some u → W.cell? (ad.add j) = some u) := Lib.hid (by
    intro W hW j u hu
    have hrt := (hr.take_ (k := 128) hn)
    have := hrt.cells (by omega) j u hu
    rw [← this]
    exact hW.cell (w := w.drew) (by rw [add_block]; exact hab) (by rw [add_block]; exact hadg))
  have HR := Lib.hid hR
  have HG : Hid (g < w.drew.heap.size) := Lib.hid hR.bk.lt
  have HC0 : Hid (w.drew.cell? ⟨g, 0, none⟩ = some (.pointer (some ⟨gk, 0, none⟩))) := Lib.hid (hR.bk.cell rfl)
  have HS : Hid (∀ j u, (cs64 st)[j]? = some u → w.drew.cell? ((⟨g, 1, none⟩ : Addr).add j) = some u) := Lib.hid (hR.bk.drew.range (rn_words gk st v))
  have HSL := Lib.hid (show (cs64 st).length = 8 by rw [cs64_length, hR.len])
  have hml := mix_length KA st (l.take 128) hR.len
  have HT : Hid (∀ W, Below w.drew.heap.size w.drew W → W.there g 1 (cs64 (mix KA st (l.take 128))).toArray.size) := Lib.hid (fun W hW =>
    (hR.bk.drew.keep hW).there (by rw [rn_length gk st v hR.len]; simp [cs64_length, hml]))
  have HS2 := Lib.hid (show (Try.prog.info? 66).map (·.size) = some (cs64 (mix KA st (l.take 128))).length by rw [cs64_length, hml]; exact info38)
  have HF : Hid (∀ W, Below w.drew.heap.size w.drew W → Run (W.setCells g 1 (cs64 (mix KA st (l.take 128)))) base g gk KA (mix KA st (l.take 128)) part v) := Lib.hid (fun W hW => by
    have hK := setCells_kept g (cs64 (mix KA st (l.take 128))) 1 W
    have hbk := (hR.bk.drew.keep hW).setCells (cs64 (mix KA st (l.take 128))) 1
    rw [rn_sets gk st _ v hR.len hml] at hbk
    refine ⟨hbk, ?_, hR.ne, hR.hg, ?_, hR.hgk, hml, hR.kl⟩
    · have h1 : Ow W base v part := Ow.below (w := w.drew) (World.ownsRow.drew hR.row) hW
      exact World.ownsRow.kept h1 ⟨hK.1, hK.2.1, hK.2.2.1, Nat.le_of_eq hK.2.2.2.1.symm, fun k _ hk => hK.2.2.2.2 k (fun e => hk (by rw [e]))⟩ (Or.inr hR.ne)
    · obtain ⟨t, hk⟩ := hR.kb.drew.keep hW
      exact ⟨t, (hK.2.2.2.2 gk (by have := hR.hgk; have := hR.hg; omega)).trans hk⟩)
  have hm := mixed_any KA st (l.take 128) gk w.drew hR.len hl2 hR.kl hR.kb.drew
  clear hcl hR hr hne
  generalize mix KA st (l.take 128) = S2 at hml HT HS2 HF hm ⊢
  generalize l.take 128 = l2 at hl2 HL2 HL hm
  go_enter Try.func50, Try.ntmps50
  go_wp2_with fail
  have hR := Kf.stays (g := g)
  refine reg_start (Kf g) follows_mixed ?_
-- region 0 of f32: 16 operations, draws: true
  refine reg_take (v := ?_) hR 0 rfl (by kernel_rfl) (by kernel_rfl) (by kernel_rfl) (fun _ _ _ h => h) (by rfl) ?_ ?_
  rotate_left
  · intro W hW; go_simp; try with_reducible rfl
  try simp only [Act.put, List.getElem_toArray, List.getElem_cons_succ, List.getElem_cons_zero, List.setIfInBounds_toArray, List.set_cons_zero, List.set_cons_succ]
  refine reg_take (v := ?_) hR 1 rfl (by kernel_rfl) (by kernel_rfl) (by kernel_rfl) (fun _ _ _ h => h) (by rfl) ?_ ?_
  rotate_left
  · intro W hW; go_simp; try with_reducible rfl
  try simp only [Act.put, List.getElem_toArray, List.getElem_cons_succ, List.getElem_cons_zero, List.setIfInBounds_toArray, List.set_cons_zero, List.set_cons_succ]
  refine reg_take (v := ?_) hR 2 rfl (by kernel_rfl) (by kernel_rfl) (by kernel_rfl) (fun _ _ _ h => h) (by rfl) ?_ ?_
  rotate_left
  · intro W hW; go_simp; try with_reducible rfl
  try simp only [Act.put, List.getElem_toArray, List.getElem_cons_succ, List.getElem_cons_zero, List.setIfInBounds_toArray, List.set_cons_zero, List.set_cons_succ]
  refine reg_take (v := .pointer (some ⟨g, 0, none⟩)) hR 3 rfl (by kernel_rfl) (by kernel_rfl) (by kernel_rfl) (fun _ _ _ h => h) (by rfl) ?_ ?_
  · intro W hW; go_simp
  try simp only [Act.put, List.getElem_toArray, List.getElem_cons_succ, List.getElem_cons_zero, List.setIfInBounds_toArray, List.set_cons_zero, List.set_cons_succ]
  refine reg_take (v := .pointer (some ⟨gk, 0, none⟩)) hR 4 rfl (by kernel_rfl) (by kernel_rfl) (by kernel_rfl) (fun _ _ _ h => h) (by rfl) ?_ ?_
  · intro W hW; exact exec_load_cell 72 _ rfl Try.isAgg72 rfl ((hW.2 HG.out).trans HC0.out)
  try simp only [Act.put, List.getElem_toArray, List.getElem_cons_succ, List.getElem_cons_zero, List.setIfInBounds_toArray, List.set_cons_zero, List.set_cons_succ]
  refine reg_take (v := ?_) hR 5 rfl (by kernel_rfl) (by kernel_rfl) (by kernel_rfl) (fun _ _ _ h => h) (by rfl) ?_ ?_
  rotate_left
  · intro W hW; go_simp; try with_reducible rfl
  try simp only [Act.put, List.getElem_toArray, List.getElem_cons_succ, List.getElem_cons_zero, List.setIfInBounds_toArray, List.set_cons_zero, List.set_cons_succ]
  refine reg_take (v := ?_) hR 6 rfl (by kernel_rfl) (by kernel_rfl) (by kernel_rfl) (fun _ _ _ h => h) (by rfl) ?_ ?_
  rotate_left
  · intro W hW; go_simp; try with_reducible rfl
  try simp only [Act.put, List.getElem_toArray, List.getElem_cons_succ, List.getElem_cons_zero, List.setIfInBounds_toArray, List.set_cons_zero, List.set_cons_succ]
  refine reg_take (v := .pointer (some ⟨g, 1, none⟩)) hR 7 rfl (by kernel_rfl) (by kernel_rfl) (by kernel_rfl) (fun _ _ _ h => h) (by rfl) ?_ ?_
  · intro W hW; go_simp
  try simp only [Act.put, List.getElem_toArray, List.getElem_cons_succ, List.getElem_cons_zero, List.setIfInBounds_toArray, List.set_cons_zero, List.set_cons_succ]
  refine reg_take (v := ?_) hR 9 rfl (by kernel_rfl) (by kernel_rfl) (by kernel_rfl) (fun _ _ _ h => h) (by rfl) ?_ ?_
  rotate_left
  · intro W hW; go_simp; try with_reducible rfl
  try simp only [Act.put, List.getElem_toArray, List.getElem_cons_succ, List.getElem_cons_zero, List.setIfInBounds_toArray, List.set_cons_zero, List.set_cons_succ]
  refine reg_take (v := .pointer (some ad)) hR 10 rfl (by kernel_rfl) (by kernel_rfl) (by kernel_rfl) (fun _ _ _ h => h) (by rfl) ?_ ?_
  · intro W hW; exact exec_arrayAt 97 _ rfl rfl Try.underlying97 hn
  try simp only [Act.put, List.getElem_toArray, List.getElem_cons_succ, List.getElem_cons_zero, List.setIfInBounds_toArray, List.set_cons_zero, List.set_cons_succ]
  refine reg_take (v := .agg (cs8 l2).toArray) hR 11 rfl (by kernel_rfl) (by kernel_rfl) (by kernel_rfl) (fun _ _ _ h => h) (by rfl) ?_ ?_
  · intro W hW; exact exec_load_at 97 _ rfl ad rfl (cs8 l2) _ (HL.out W hW.1) Try.underlying97 rfl (by rw [HL2.out]; exact info41)
  try simp only [Act.put, List.getElem_toArray, List.getElem_cons_succ, List.getElem_cons_zero, List.setIfInBounds_toArray, List.set_cons_zero, List.set_cons_succ]
  -- STEP 8: Op.load 66 (t11)
  refine reg_step hR 8 (by kernel_rfl) rfl fun K hK => ?_
  try simp only [Act.put, List.getElem_toArray, List.getElem_cons_succ, List.getElem_cons_zero, List.setIfInBounds_toArray, List.set_cons_zero, List.set_cons_succ]
  rw [if_pos (by rfl)]
  refine wp_load_at 66 _ rfl ⟨g, 1, none⟩ rfl (cs64 st) _ HS.out Try.underlying66 rfl (by rw [HSL.out]; exact info38) ?_
  refine hK.out _ _ ?_ ?_
  · exact Kf.stays.refl _
  clear hK K
  try simp only [Act.put, List.getElem_toArray, List.getElem_cons_succ, List.getElem_cons_zero, List.setIfInBounds_toArray, List.set_cons_zero, List.set_cons_succ]
  -- STEP 12: Op.call { callee := Callee.value (Operand.func 54), args := #[t8, t12, t15], argTypes := #[72, 66, 97] }
  refine reg_step hR 12 (by kernel_rfl) rfl fun K hK => ?_
  try simp only [Act.put, List.getElem_toArray, List.getElem_cons_succ, List.getElem_cons_zero, List.setIfInBounds_toArray, List.set_cons_zero, List.set_cons_succ]
  go_simp
  refine hm.mono ?_; rintro e w2 ⟨rfl, hb2⟩
  refine hK.out _ _ ?_ ?_
  · exact Kf.of_old hb2
  have HB := Lib.hid hb2
  clear hb2
  clear hK K
  try simp only [Act.put, List.getElem_toArray, List.getElem_cons_succ, List.getElem_cons_zero, List.setIfInBounds_toArray, List.set_cons_zero, List.set_cons_succ]
  refine reg_take (v := ?_) hR 13 rfl (by kernel_rfl) (by kernel_rfl) (by kernel_rfl) (fun _ _ _ h => h) (by rfl) ?_ ?_
  rotate_left
  · intro W hW; go_simp; try with_reducible rfl
  try simp only [Act.put, List.getElem_toArray, List.getElem_cons_succ, List.getElem_cons_zero, List.setIfInBounds_toArray, List.set_cons_zero, List.set_cons_succ]
  refine reg_take (v := .pointer (some ⟨g, 1, none⟩)) hR 14 rfl (by kernel_rfl) (by kernel_rfl) (by kernel_rfl) (fun _ _ _ h => h) (by rfl) ?_ ?_
  · intro W hW; go_simp
  try simp only [Act.put, List.getElem_toArray, List.getElem_cons_succ, List.getElem_cons_zero, List.setIfInBounds_toArray, List.set_cons_zero, List.set_cons_succ]
  -- STEP 15: Op.store 66 (t18) (t16)
  refine reg_step hR 15 (by kernel_rfl) rfl fun K hK => ?_
  try simp only [Act.put, List.getElem_toArray, List.getElem_cons_succ, List.getElem_cons_zero, List.setIfInBounds_toArray, List.set_cons_zero, List.set_cons_succ]
  rw [if_pos (by rfl)]
  refine wp_store_mid 66 _ _ rfl g 1 (cs64 S2).toArray rfl rfl (HT.out w2 HB.out) (by have := HS2.out; simpa using this) (cs64_one _) ?_
  refine hK.out _ _ ?_ ?_
  · exact Kf.of_set (HT.out w2 HB.out) (by simp [cs64_length]; omega)
  clear hK K
  try simp only [Act.put, List.getElem_toArray, List.getElem_cons_succ, List.getElem_cons_zero, List.setIfInBounds_toArray, List.set_cons_zero, List.set_cons_succ]
  refine reg_done (by kernel_rfl) ?_ _

  go_wp2
  refine bodyPost_end (results_none rfl _ _ _) rfl ?_
  exact ⟨rfl, HF.out w2 HB.out, (Kp.stays _).trans (Kp.of_old (Below.refl _ w).drew) ((Kp.stays _).trans (Kp.of_old HB.out) (Kf.of_set (HT.out w2 HB.out) (by simp [cs64_length]; omega)).1)⟩
end Go.Proofs.Ytjaoaikcmbfnmaa
