/- ShaParts: a sum does not hang on how bytes are cut; it is its pieces', one behind the other. -/
import Derived.Test.YtgpgolegedfjfaaPf
import Derived.Test.YtgpgolegedfjfaaPb
namespace Go.Proofs.Ytgpgolegedfjfaa
set_option linter.unusedSimpArgs false
set_option linter.unusedVariables false
open Go.RowKit

theorem one_flat (l : List UInt8) : [l].flatten = l := by simp
theorem run_at8 {T : TypeId} {n : Nat} (hu : Try.prog.underlying T = some (.array n 5)) {g k : Nat} (hk : k < n) (w : World) :
    (Instr.indexAt T (.pointer (some ⟨g, 0, none⟩)) (.int .i64 (k : Int))).run Try.prog w = .ok (.pointer (some ⟨g, k, none⟩)) w := by
  simp [Instr.indexAt, Instr.sureAddr, run_underlying hu, asIntOf, hk, Try.sizeOf5, add_zero_mid, go_sem]
theorem exec_at8 {o : Oper} {a : Act} {w : World} (T : TypeId) (x y : Operand) (ho : o.op = .indexAddr T x y) {n : Nat} (hu : Try.prog.underlying T = some (.array n 5)) {g k : Nat}
    (hx : a.eval x = .pointer (some ⟨g, 0, none⟩)) (hy : a.eval y = .int .i64 (k : Int)) (hk : k < n) : (execOp a.eval o).run Try.prog w = .ok (.value (.pointer (some ⟨g, k, none⟩))) w := by
  unfold execOp
  simp only [ho, hx, hy, run_at8 hu hk, Sem.run_bind, Result.andThen_ok, Sem.run_pure]
/-- Two new variables, of sums. -/
theorem nv36_ex (u : World) (xs ys : List Value) : ∃ (u' : World) (p q : Nat), (((u.alloc (.cells z33.toArray 33)).alloc (.cells z36.toArray 36)).setRow u.heap.size xs.toArray).setRow (u.heap.size + 1) ys.toArray = u' ∧ u.heap.size = p ∧ u.heap.size + 1 = q ∧
    Bk u' p xs ∧ Bk u' q ys ∧ (∀ h cs, Bk u h cs → Bk u' h cs) ∧ Below u.heap.size u u' := by
  refine ⟨_, _, _, rfl, rfl, rfl, ?_, ?_, fun h cs hb => ?_, ?_⟩
  · exact (((Bk.new u z33 33).old _).setRow _).other (by omega) _
  · have := Bk.new (u.alloc (.cells z33.toArray 33)) z36 36
    have h2 : Bk ((u.alloc (.cells z33.toArray 33)).alloc (.cells z36.toArray 36)) (u.heap.size + 1) z36 := by simpa using this
    exact (h2.other (by omega) _).setRow _
  · have hlt := hb.lt
    exact (((hb.old _).old _).other (by omega) _).other (by omega) _
  · exact bl_setRow (bl_setRow (bl_alloc (bl_alloc (bl0 u) _) _) (Nat.le_refl _) _) (by omega) _
/-- A byte of a sum, out of its word. -/
theorem byte_in (X : List UInt64) (S : List UInt8) (j : Nat) (h : j < 8 * X.length) (hs : S[j]? = (signsOf X)[j]?) : ∃ x b : Nat, Hid ((cs64 X)[j / 8]? = some (.int .u64 (x : Int))) ∧ Hid ((cs8 S)[j]? = some (.int .u8 (b : Int))) ∧ Hid (x / 2 ^ (56 - 8 * (j % 8)) % 256 = b) := by
  have hl : j / 8 < X.length := by omega
  refine ⟨X[j / 8].toNat, _, Lib.hid (by simp [cs64, hl, B64]), Lib.hid ?_, Lib.hid rfl⟩
  rw [cs8, List.getElem?_map, hs, signs_at X j X[j / 8] (List.getElem?_eq_getElem hl)]
  simp [B8]
set_option maxHeartbeats 6400000 in
set_option maxRecDepth 8192 in
theorem ShaParts_walk {A : Option Addr} {n c : Nat} {la : List UInt8} (w : World) (hs : Sl w w.heap.size A n c la) (i0 k0 : Int) :
    Calls Try.prog 4 #[.slice A n c, .int .i64 i0, .int .i64 k0] w fun e w' => e = .returned (.bool true) ∧ Below w.heap.size w w' := by
  have hln := hs.rd.len
  have hcn := hs.rd.cap
  have HS := Lib.hid hs
  clear hs
  by_cases hn : n ≤ 2000
  · go_enter Try.func4, Try.ntmps4
    go_wp2_with fail
    refine (lives_any _).mono ?_; rintro e w1 ⟨rfl, hb1⟩
    have HB1 := Lib.hid hb1
    clear hb1
    go_wp2_with fail
    have hp := Pick_any i0 (n + 1) (by omega) (by omega) w1
    rw [show ((n + 1 : Nat) : Int) = (n : Int) + 1 from by omega] at hp
    refine hp.mono ?_; rintro e w2 ⟨⟨i, hi, rfl⟩, rfl⟩
    clear hp
    go_wp2_with fail
    have hp := Pick_any k0 (n - i + 1) (by omega) (by omega) w1
    rw [show ((n - i + 1 : Nat) : Int) = (n : Int) - (i : Int) + 1 from by omega] at hp
    refine hp.mono ?_; rintro e w2 ⟨⟨kd, hkd, rfl⟩, rfl⟩
    clear hp
    obtain ⟨k, hk⟩ : ∃ k, i + kd = k := ⟨_, rfl⟩
    go_wp2_with fail
    rw [show (i : Int) + (kd : Int) = (k : Int) from by omega]
    have hik : i ≤ k := by omega
    have hkn : k ≤ n := by omega
    have hin : i ≤ n := by omega
    clear hk hkd hi
    have HM : Hid (∀ {W : World} (top : Nat), Sl W top A n c la → Sl W top (restAt A c i) (k - i) (c - i) ((la.drop i).take (k - i))) := Lib.hid (fun _ h => (h.drop hin).take (by omega))
    refine region_meet w w.heap.size 34 29 63 (.bool false) ?_ ?_
    · refine reg_start (Sb w.heap.size) follows_mixed ?_
      have hR := Sb.stays w.heap.size
      have HBu0 := Lib.hid (HB1.out.drew)
      clear HB1
      generalize w1.drew = u0 at HBu0 ⊢
      refine reg_take (v := ?_) hR 0 rfl (by kernel_rfl) (by kernel_rfl) (by kernel_rfl) (fun _ _ _ h => by cases h.1) (by rfl) ?_ ?_
      rotate_left
      · intro W hW; go_simp; try with_reducible rfl
      try simp only [Act.put, List.getElem_toArray, List.getElem_cons_succ, List.getElem_cons_zero, List.setIfInBounds_toArray, List.set_cons_zero, List.set_cons_succ]
      refine reg_take (v := ?_) hR 3 rfl (by kernel_rfl) (by kernel_rfl) (by kernel_rfl) (fun _ _ _ h => by cases h.1) (by rfl) ?_ ?_
      rotate_left
      · intro W hW; go_simp; try with_reducible rfl
      try simp only [Act.put, List.getElem_toArray, List.getElem_cons_succ, List.getElem_cons_zero, List.setIfInBounds_toArray, List.set_cons_zero, List.set_cons_succ]
      refine reg_take (v := ?_) hR 4 rfl (by kernel_rfl) (by kernel_rfl) (by kernel_rfl) (fun _ _ _ h => by cases h.1) (by rfl) ?_ ?_
      rotate_left
      · intro W hW; go_simp; try with_reducible rfl
      try simp only [Act.put, List.getElem_toArray, List.getElem_cons_succ, List.getElem_cons_zero, List.setIfInBounds_toArray, List.set_cons_zero, List.set_cons_succ]
      refine reg_take (v := .slice A i c) hR 5 rfl (by kernel_rfl) (by kernel_rfl) (by kernel_rfl) (fun _ _ _ h => by cases h.1) (by rfl) ?_ ?_
      · intro W hW; exact exec_slice31_hi _ _ rfl rfl rfl (by omega) rfl
      try simp only [Act.put, List.getElem_toArray, List.getElem_cons_succ, List.getElem_cons_zero, List.setIfInBounds_toArray, List.set_cons_zero, List.set_cons_succ]
      refine reg_take (v := ?_) hR 6 rfl (by kernel_rfl) (by kernel_rfl) (by kernel_rfl) (fun _ _ _ h => by cases h.1) (by rfl) ?_ ?_
      rotate_left
      · intro W hW; go_simp; try with_reducible rfl
      try simp only [Act.put, List.getElem_toArray, List.getElem_cons_succ, List.getElem_cons_zero, List.setIfInBounds_toArray, List.set_cons_zero, List.set_cons_succ]
      refine reg_take (v := ?_) hR 7 rfl (by kernel_rfl) (by kernel_rfl) (by kernel_rfl) (fun _ _ _ h => by cases h.1) (by rfl) ?_ ?_
      rotate_left
      · intro W hW; go_simp; try with_reducible rfl
      try simp only [Act.put, List.getElem_toArray, List.getElem_cons_succ, List.getElem_cons_zero, List.setIfInBounds_toArray, List.set_cons_zero, List.set_cons_succ]
      refine reg_take (v := ?_) hR 8 rfl (by kernel_rfl) (by kernel_rfl) (by kernel_rfl) (fun _ _ _ h => by cases h.1) (by rfl) ?_ ?_
      rotate_left
      · intro W hW; go_simp; try with_reducible rfl
      try simp only [Act.put, List.getElem_toArray, List.getElem_cons_succ, List.getElem_cons_zero, List.setIfInBounds_toArray, List.set_cons_zero, List.set_cons_succ]
      refine reg_take (v := .slice (restAt A c i) (k - i) (c - i)) hR 9 rfl (by kernel_rfl) (by kernel_rfl) (by kernel_rfl) (fun _ _ _ h => by cases h.1) (by rfl) ?_ ?_
      · intro W hW; exact exec_slice31_mid _ _ _ rfl rfl rfl rfl (by omega) (by omega) rfl rfl
      try simp only [Act.put, List.getElem_toArray, List.getElem_cons_succ, List.getElem_cons_zero, List.setIfInBounds_toArray, List.set_cons_zero, List.set_cons_succ]
      refine reg_take (v := ?_) hR 10 rfl (by kernel_rfl) (by kernel_rfl) (by kernel_rfl) (fun _ _ _ h => by cases h.1) (by rfl) ?_ ?_
      rotate_left
      · intro W hW; go_simp; try with_reducible rfl
      try simp only [Act.put, List.getElem_toArray, List.getElem_cons_succ, List.getElem_cons_zero, List.setIfInBounds_toArray, List.set_cons_zero, List.set_cons_succ]
      refine reg_take (v := ?_) hR 11 rfl (by kernel_rfl) (by kernel_rfl) (by kernel_rfl) (fun _ _ _ h => by cases h.1) (by rfl) ?_ ?_
      rotate_left
      · intro W hW; go_simp; try with_reducible rfl
      try simp only [Act.put, List.getElem_toArray, List.getElem_cons_succ, List.getElem_cons_zero, List.setIfInBounds_toArray, List.set_cons_zero, List.set_cons_succ]
      refine reg_take (v := .slice (restAt A c k) (n - k) (c - k)) hR 12 rfl (by kernel_rfl) (by kernel_rfl) (by kernel_rfl) (fun _ _ _ h => by cases h.1) (by rfl) ?_ ?_
      · intro W hW; exact exec_slice31_lo _ _ rfl rfl rfl (by omega) rfl
      try simp only [Act.put, List.getElem_toArray, List.getElem_cons_succ, List.getElem_cons_zero, List.setIfInBounds_toArray, List.set_cons_zero, List.set_cons_succ]
      refine reg_branch hR 1 13 (by kernel_rfl) rfl rfl (fun K hK => ?_) (fun K hK => ?_)
      · try simp only [Act.put, List.getElem_toArray, List.getElem_cons_succ, List.getElem_cons_zero, List.setIfInBounds_toArray, List.set_cons_zero, List.set_cons_succ]
        rw [if_pos (by rfl)]
        go_simp
        refine hK.out _ _ ((Below.refl _ _).alloc (by have := HBu0.out.size; omega) _) ?_
        clear hK K
        have HBu1 := Lib.hid (bl_alloc HBu0.out (.cells #[.slice A n c] 31))
        have HLa := Lib.hid (Rl.one ((HS.out.below HBu0.out).more HBu0.out.size).rd ((HS.out.below HBu0.out).more HBu0.out.size).low 31)
        generalize hgu1 : u0.alloc (.cells #[.slice A n c] 31) = u1 at HBu1 HLa ⊢
        clear hgu1
        try simp only [Act.put, List.getElem_toArray, List.getElem_cons_succ, List.getElem_cons_zero, List.setIfInBounds_toArray, List.set_cons_zero, List.set_cons_succ]
        refine reg_branch hR 2 13 (by kernel_rfl) rfl rfl (fun K hK => ?_) (fun K hK => ?_)
        · try simp only [Act.put, List.getElem_toArray, List.getElem_cons_succ, List.getElem_cons_zero, List.setIfInBounds_toArray, List.set_cons_zero, List.set_cons_succ]
          rw [if_pos (by rfl)]
          go_simp
          have hc := Sum512_any (c := 1) u1 HLa.out (by omega) (by rw [one_flat]; omega)
          rw [one_flat] at hc
          refine hc.mono ?_; rintro e u2 ⟨rfl, hb⟩
          clear hc
          refine hK.out _ _ (hb.mono (by have := HBu1.out.size; omega)) ?_
          clear hK K
          have HBu2 := Lib.hid (bl_call HBu1.out hb)
          clear hb
          try simp only [Act.put, List.getElem_toArray, List.getElem_cons_succ, List.getElem_cons_zero, List.setIfInBounds_toArray, List.set_cons_zero, List.set_cons_succ]
          refine reg_step hR 13 (by kernel_rfl) rfl fun K hK => ?_
          try simp only [Act.put, List.getElem_toArray, List.getElem_cons_succ, List.getElem_cons_zero, List.setIfInBounds_toArray, List.set_cons_zero, List.set_cons_succ]
          rw [if_pos (by rfl)]
          go_simp
          refine hK.out _ _ ((Below.refl _ _).alloc (by have := HBu2.out.size; omega) _) ?_
          clear hK K
          have HBu3 := Lib.hid (bl_alloc HBu2.out (.cells #[.slice A i c, .slice (restAt A c i) (k - i) (c - i), .slice (restAt A c k) (n - k) (c - k)] 31))
          have HLb := Lib.hid (Rl.three (((HS.out.below HBu2.out).more HBu2.out.size).take (show i ≤ n by omega)) (HM.out _ ((HS.out.below HBu2.out).more HBu2.out.size)) (((HS.out.below HBu2.out).more HBu2.out.size).drop (show k ≤ n by omega)) 31)
          generalize hgu3 : u2.alloc (.cells #[.slice A i c, .slice (restAt A c i) (k - i) (c - i), .slice (restAt A c k) (n - k) (c - k)] 31) = u3 at HBu3 HLb ⊢
          clear hgu3
          try simp only [Act.put, List.getElem_toArray, List.getElem_cons_succ, List.getElem_cons_zero, List.setIfInBounds_toArray, List.set_cons_zero, List.set_cons_succ]
          refine reg_step hR 14 (by kernel_rfl) rfl fun K hK => ?_
          try simp only [Act.put, List.getElem_toArray, List.getElem_cons_succ, List.getElem_cons_zero, List.setIfInBounds_toArray, List.set_cons_zero, List.set_cons_succ]
          rw [if_pos (by rfl)]
          go_simp
          have hc := Sum512_any (c := 3) u3 HLb.out (by omega) (by rw [cut3 la i k hik]; omega)
          rw [cut3 la i k hik] at hc
          refine hc.mono ?_; rintro e u4 ⟨rfl, hb⟩
          clear hc
          refine hK.out _ _ (hb.mono (by have := HBu3.out.size; omega)) ?_
          clear hK K
          have HBu4 := Lib.hid (bl_call HBu3.out hb)
          clear hb
          try simp only [Act.put, List.getElem_toArray, List.getElem_cons_succ, List.getElem_cons_zero, List.setIfInBounds_toArray, List.set_cons_zero, List.set_cons_succ]
          refine reg_take (v := .bool false) hR 15 rfl (by kernel_rfl) (by kernel_rfl) (by kernel_rfl) (fun _ _ _ h => by cases h.1) (by rfl) ?_ ?_
          · intro W hW; exact exec_nearr 33 64 Try.underlying33 _ _ rfl (by kernel_rfl) (sumL_length _) rfl rfl
          try simp only [Act.put, List.getElem_toArray, List.getElem_cons_succ, List.getElem_cons_zero, List.setIfInBounds_toArray, List.set_cons_zero, List.set_cons_succ]
          refine reg_take (v := ?_) hR 16 rfl (by kernel_rfl) (by kernel_rfl) (by kernel_rfl) (fun _ _ _ h => by cases h.1) (by rfl) ?_ ?_
          rotate_left
          · intro W hW; go_simp; try with_reducible rfl
          try simp only [Act.put, List.getElem_toArray, List.getElem_cons_succ, List.getElem_cons_zero, List.setIfInBounds_toArray, List.set_cons_zero, List.set_cons_succ]
          refine reg_take (v := ?_) hR 17 rfl (by kernel_rfl) (by kernel_rfl) (by kernel_rfl) (fun _ _ _ h => by cases h.1) (by rfl) ?_ ?_
          rotate_left
          · intro W hW; go_simp; try with_reducible rfl
          try simp only [Act.put, List.getElem_toArray, List.getElem_cons_succ, List.getElem_cons_zero, List.setIfInBounds_toArray, List.set_cons_zero, List.set_cons_succ]
          refine reg_take (v := ?_) hR 20 rfl (by kernel_rfl) (by kernel_rfl) (by kernel_rfl) (fun _ _ _ h => by cases h.1) (by rfl) ?_ ?_
          rotate_left
          · intro W hW; go_simp; try with_reducible rfl
          try simp only [Act.put, List.getElem_toArray, List.getElem_cons_succ, List.getElem_cons_zero, List.setIfInBounds_toArray, List.set_cons_zero, List.set_cons_succ]
          refine reg_take (v := ?_) hR 21 rfl (by kernel_rfl) (by kernel_rfl) (by kernel_rfl) (fun _ _ _ h => by cases h.1) (by rfl) ?_ ?_
          rotate_left
          · intro W hW; go_simp; try with_reducible rfl
          try simp only [Act.put, List.getElem_toArray, List.getElem_cons_succ, List.getElem_cons_zero, List.setIfInBounds_toArray, List.set_cons_zero, List.set_cons_succ]
          refine reg_take (v := .slice A i c) hR 22 rfl (by kernel_rfl) (by kernel_rfl) (by kernel_rfl) (fun _ _ _ h => by cases h.1) (by rfl) ?_ ?_
          · intro W hW; exact exec_slice31_hi _ _ rfl rfl rfl (by omega) rfl
          try simp only [Act.put, List.getElem_toArray, List.getElem_cons_succ, List.getElem_cons_zero, List.setIfInBounds_toArray, List.set_cons_zero, List.set_cons_succ]
          refine reg_take (v := ?_) hR 23 rfl (by kernel_rfl) (by kernel_rfl) (by kernel_rfl) (fun _ _ _ h => by cases h.1) (by rfl) ?_ ?_
          rotate_left
          · intro W hW; go_simp; try with_reducible rfl
          try simp only [Act.put, List.getElem_toArray, List.getElem_cons_succ, List.getElem_cons_zero, List.setIfInBounds_toArray, List.set_cons_zero, List.set_cons_succ]
          refine reg_take (v := ?_) hR 24 rfl (by kernel_rfl) (by kernel_rfl) (by kernel_rfl) (fun _ _ _ h => by cases h.1) (by rfl) ?_ ?_
          rotate_left
          · intro W hW; go_simp; try with_reducible rfl
          try simp only [Act.put, List.getElem_toArray, List.getElem_cons_succ, List.getElem_cons_zero, List.setIfInBounds_toArray, List.set_cons_zero, List.set_cons_succ]
          refine reg_take (v := .slice (restAt A c i) (n - i) (c - i)) hR 25 rfl (by kernel_rfl) (by kernel_rfl) (by kernel_rfl) (fun _ _ _ h => by cases h.1) (by rfl) ?_ ?_
          · intro W hW; exact exec_slice31_lo _ _ rfl rfl rfl (by omega) rfl
          try simp only [Act.put, List.getElem_toArray, List.getElem_cons_succ, List.getElem_cons_zero, List.setIfInBounds_toArray, List.set_cons_zero, List.set_cons_succ]
          refine reg_branch hR 18 26 (by kernel_rfl) rfl rfl (fun K hK => ?_) (fun K hK => ?_)
          · try simp only [Act.put, List.getElem_toArray, List.getElem_cons_succ, List.getElem_cons_zero, List.setIfInBounds_toArray, List.set_cons_zero, List.set_cons_succ]
            rw [if_pos (by rfl)]
            go_simp
            refine hK.out _ _ ((Below.refl _ _).alloc (by have := HBu4.out.size; omega) _) ?_
            clear hK K
            have HBu5 := Lib.hid (bl_alloc HBu4.out (.cells #[.slice A n c] 31))
            have HLa := Lib.hid (Rl.one ((HS.out.below HBu4.out).more HBu4.out.size).rd ((HS.out.below HBu4.out).more HBu4.out.size).low 31)
            generalize hgu5 : u4.alloc (.cells #[.slice A n c] 31) = u5 at HBu5 HLa ⊢
            clear hgu5
            try simp only [Act.put, List.getElem_toArray, List.getElem_cons_succ, List.getElem_cons_zero, List.setIfInBounds_toArray, List.set_cons_zero, List.set_cons_succ]
            refine reg_branch hR 19 26 (by kernel_rfl) rfl rfl (fun K hK => ?_) (fun K hK => ?_)
            · try simp only [Act.put, List.getElem_toArray, List.getElem_cons_succ, List.getElem_cons_zero, List.setIfInBounds_toArray, List.set_cons_zero, List.set_cons_succ]
              rw [if_pos (by rfl)]
              go_simp
              have hc := Sum_any (c := 1) u5 HLa.out (by omega) (by rw [one_flat]; omega)
              rw [one_flat] at hc
              refine hc.mono ?_; rintro e u6 ⟨rfl, hb⟩
              clear hc
              refine hK.out _ _ (hb.mono (by have := HBu5.out.size; omega)) ?_
              clear hK K
              have HBu6 := Lib.hid (bl_call HBu5.out hb)
              clear hb
              try simp only [Act.put, List.getElem_toArray, List.getElem_cons_succ, List.getElem_cons_zero, List.setIfInBounds_toArray, List.set_cons_zero, List.set_cons_succ]
              refine reg_step hR 26 (by kernel_rfl) rfl fun K hK => ?_
              try simp only [Act.put, List.getElem_toArray, List.getElem_cons_succ, List.getElem_cons_zero, List.setIfInBounds_toArray, List.set_cons_zero, List.set_cons_succ]
              rw [if_pos (by rfl)]
              go_simp
              refine hK.out _ _ ((Below.refl _ _).alloc (by have := HBu6.out.size; omega) _) ?_
              clear hK K
              have HBu7 := Lib.hid (bl_alloc HBu6.out (.cells #[.slice A i c, .slice (restAt A c i) (n - i) (c - i)] 31))
              have HLb := Lib.hid (Rl.two (((HS.out.below HBu6.out).more HBu6.out.size).take (show i ≤ n by omega)) (((HS.out.below HBu6.out).more HBu6.out.size).drop (show i ≤ n by omega)) 31)
              generalize hgu7 : u6.alloc (.cells #[.slice A i c, .slice (restAt A c i) (n - i) (c - i)] 31) = u7 at HBu7 HLb ⊢
              clear hgu7
              try simp only [Act.put, List.getElem_toArray, List.getElem_cons_succ, List.getElem_cons_zero, List.setIfInBounds_toArray, List.set_cons_zero, List.set_cons_succ]
              refine reg_step hR 27 (by kernel_rfl) rfl fun K hK => ?_
              try simp only [Act.put, List.getElem_toArray, List.getElem_cons_succ, List.getElem_cons_zero, List.setIfInBounds_toArray, List.set_cons_zero, List.set_cons_succ]
              rw [if_pos (by rfl)]
              go_simp
              have hc := Sum_any (c := 2) u7 HLb.out (by omega) (by rw [cut2 la i]; omega)
              rw [cut2 la i] at hc
              refine hc.mono ?_; rintro e u8 ⟨rfl, hb⟩
              clear hc
              refine hK.out _ _ (hb.mono (by have := HBu7.out.size; omega)) ?_
              clear hK K
              have HBu8 := Lib.hid (bl_call HBu7.out hb)
              clear hb
              try simp only [Act.put, List.getElem_toArray, List.getElem_cons_succ, List.getElem_cons_zero, List.setIfInBounds_toArray, List.set_cons_zero, List.set_cons_succ]
              refine reg_take (v := .bool false) hR 28 rfl (by kernel_rfl) (by kernel_rfl) (by kernel_rfl) (fun _ _ _ h => by cases h.1) (by rfl) ?_ ?_
              · intro W hW; exact exec_nearr 36 32 Try.underlying36 _ _ rfl (by kernel_rfl) (sumS_length _) rfl rfl
              try simp only [Act.put, List.getElem_toArray, List.getElem_cons_succ, List.getElem_cons_zero, List.setIfInBounds_toArray, List.set_cons_zero, List.set_cons_succ]
              refine reg_take (v := .bool false) hR 29 rfl (by kernel_rfl) (by kernel_rfl) (by kernel_rfl) (fun _ _ _ h => by cases h.1) (by rfl) ?_ ?_
              · intro W hW; go_simp; try rfl
              try simp only [Act.put, List.getElem_toArray, List.getElem_cons_succ, List.getElem_cons_zero, List.setIfInBounds_toArray, List.set_cons_zero, List.set_cons_succ]
              refine reg_done (by kernel_rfl) ?_ _
              exact ⟨rfl, HBu8.out, slots_of (by kernel_rfl)⟩
            · try simp only [Act.put, List.getElem_toArray, List.getElem_cons_succ, List.getElem_cons_zero, List.setIfInBounds_toArray, List.set_cons_zero, List.set_cons_succ]
              rw [if_pos (by rfl)]
              go_simp
              refine hK.out _ _ ((Below.refl _ _).alloc (by have := HBu5.out.size; omega) _) ?_
              clear hK K
              have HBu9 := Lib.hid (bl_alloc HBu5.out (.cells #[.slice A i c, .slice (restAt A c i) (n - i) (c - i)] 31))
              have HLb := Lib.hid (Rl.two (((HS.out.below HBu5.out).more HBu5.out.size).take (show i ≤ n by omega)) (((HS.out.below HBu5.out).more HBu5.out.size).drop (show i ≤ n by omega)) 31)
              have HLa := Lib.hid ((HLa.out.below ((Below.refl _ _).alloc (Nat.le_refl _) (.cells #[.slice A i c, .slice (restAt A c i) (n - i) (c - i)] 31))).more ((Below.refl _ _).alloc (Nat.le_refl _) (.cells #[.slice A i c, .slice (restAt A c i) (n - i) (c - i)] 31) : Below _ _ (u5.alloc (.cells #[.slice A i c, .slice (restAt A c i) (n - i) (c - i)] 31))).size)
              generalize hgu9 : u5.alloc (.cells #[.slice A i c, .slice (restAt A c i) (n - i) (c - i)] 31) = u9 at HBu9 HLa HLb ⊢
              clear hgu9
              try simp only [Act.put, List.getElem_toArray, List.getElem_cons_succ, List.getElem_cons_zero, List.setIfInBounds_toArray, List.set_cons_zero, List.set_cons_succ]
              refine reg_step hR 19 (by kernel_rfl) rfl fun K hK => ?_
              try simp only [Act.put, List.getElem_toArray, List.getElem_cons_succ, List.getElem_cons_zero, List.setIfInBounds_toArray, List.set_cons_zero, List.set_cons_succ]
              rw [if_pos (by rfl)]
              go_simp
              have hc := Sum_any (c := 1) u9 HLa.out (by omega) (by rw [one_flat]; omega)
              rw [one_flat] at hc
              refine hc.mono ?_; rintro e u10 ⟨rfl, hb⟩
              clear hc
              refine hK.out _ _ (hb.mono (by have := HBu9.out.size; omega)) ?_
              clear hK K
              have HBu10 := Lib.hid (bl_call HBu9.out hb)
              have HLb := Lib.hid ((HLb.out.below hb).more hb.size)
              clear hb
              try simp only [Act.put, List.getElem_toArray, List.getElem_cons_succ, List.getElem_cons_zero, List.setIfInBounds_toArray, List.set_cons_zero, List.set_cons_succ]
              refine reg_step hR 27 (by kernel_rfl) rfl fun K hK => ?_
              try simp only [Act.put, List.getElem_toArray, List.getElem_cons_succ, List.getElem_cons_zero, List.setIfInBounds_toArray, List.set_cons_zero, List.set_cons_succ]
              rw [if_pos (by rfl)]
              go_simp
              have hc := Sum_any (c := 2) u10 HLb.out (by omega) (by rw [cut2 la i]; omega)
              rw [cut2 la i] at hc
              refine hc.mono ?_; rintro e u11 ⟨rfl, hb⟩
              clear hc
              refine hK.out _ _ (hb.mono (by have := HBu10.out.size; omega)) ?_
              clear hK K
              have HBu11 := Lib.hid (bl_call HBu10.out hb)
              clear hb
              try simp only [Act.put, List.getElem_toArray, List.getElem_cons_succ, List.getElem_cons_zero, List.setIfInBounds_toArray, List.set_cons_zero, List.set_cons_succ]
              refine reg_take (v := .bool false) hR 28 rfl (by kernel_rfl) (by kernel_rfl) (by kernel_rfl) (fun _ _ _ h => by cases h.1) (by rfl) ?_ ?_
              · intro W hW; exact exec_nearr 36 32 Try.underlying36 _ _ rfl (by kernel_rfl) (sumS_length _) rfl rfl
              try simp only [Act.put, List.getElem_toArray, List.getElem_cons_succ, List.getElem_cons_zero, List.setIfInBounds_toArray, List.set_cons_zero, List.set_cons_succ]
              refine reg_take (v := .bool false) hR 29 rfl (by kernel_rfl) (by kernel_rfl) (by kernel_rfl) (fun _ _ _ h => by cases h.1) (by rfl) ?_ ?_
              · intro W hW; go_simp; try rfl
              try simp only [Act.put, List.getElem_toArray, List.getElem_cons_succ, List.getElem_cons_zero, List.setIfInBounds_toArray, List.set_cons_zero, List.set_cons_succ]
              refine reg_done (by kernel_rfl) ?_ _
              exact ⟨rfl, HBu11.out, slots_of (by kernel_rfl)⟩
          · try simp only [Act.put, List.getElem_toArray, List.getElem_cons_succ, List.getElem_cons_zero, List.setIfInBounds_toArray, List.set_cons_zero, List.set_cons_succ]
            rw [if_pos (by rfl)]
            go_simp
            refine hK.out _ _ ((Below.refl _ _).alloc (by have := HBu4.out.size; omega) _) ?_
            clear hK K
            have HBu12 := Lib.hid (bl_alloc HBu4.out (.cells #[.slice A i c, .slice (restAt A c i) (n - i) (c - i)] 31))
            have HLb := Lib.hid (Rl.two (((HS.out.below HBu4.out).more HBu4.out.size).take (show i ≤ n by omega)) (((HS.out.below HBu4.out).more HBu4.out.size).drop (show i ≤ n by omega)) 31)
            generalize hgu12 : u4.alloc (.cells #[.slice A i c, .slice (restAt A c i) (n - i) (c - i)] 31) = u12 at HBu12 HLb ⊢
            clear hgu12
            try simp only [Act.put, List.getElem_toArray, List.getElem_cons_succ, List.getElem_cons_zero, List.setIfInBounds_toArray, List.set_cons_zero, List.set_cons_succ]
            refine reg_step hR 18 (by kernel_rfl) rfl fun K hK => ?_
            try simp only [Act.put, List.getElem_toArray, List.getElem_cons_succ, List.getElem_cons_zero, List.setIfInBounds_toArray, List.set_cons_zero, List.set_cons_succ]
            rw [if_pos (by rfl)]
            go_simp
            refine hK.out _ _ ((Below.refl _ _).alloc (by have := HBu12.out.size; omega) _) ?_
            clear hK K
            have HBu13 := Lib.hid (bl_alloc HBu12.out (.cells #[.slice A n c] 31))
            have HLa := Lib.hid (Rl.one ((HS.out.below HBu12.out).more HBu12.out.size).rd ((HS.out.below HBu12.out).more HBu12.out.size).low 31)
            have HLb := Lib.hid ((HLb.out.below ((Below.refl _ _).alloc (Nat.le_refl _) (.cells #[.slice A n c] 31))).more ((Below.refl _ _).alloc (Nat.le_refl _) (.cells #[.slice A n c] 31) : Below _ _ (u12.alloc (.cells #[.slice A n c] 31))).size)
            generalize hgu13 : u12.alloc (.cells #[.slice A n c] 31) = u13 at HBu13 HLb HLa ⊢
            clear hgu13
            try simp only [Act.put, List.getElem_toArray, List.getElem_cons_succ, List.getElem_cons_zero, List.setIfInBounds_toArray, List.set_cons_zero, List.set_cons_succ]
            refine reg_step hR 19 (by kernel_rfl) rfl fun K hK => ?_
            try simp only [Act.put, List.getElem_toArray, List.getElem_cons_succ, List.getElem_cons_zero, List.setIfInBounds_toArray, List.set_cons_zero, List.set_cons_succ]
            rw [if_pos (by rfl)]
            go_simp
            have hc := Sum_any (c := 1) u13 HLa.out (by omega) (by rw [one_flat]; omega)
            rw [one_flat] at hc
            refine hc.mono ?_; rintro e u14 ⟨rfl, hb⟩
            clear hc
            refine hK.out _ _ (hb.mono (by have := HBu13.out.size; omega)) ?_
            clear hK K
            have HBu14 := Lib.hid (bl_call HBu13.out hb)
            have HLb := Lib.hid ((HLb.out.below hb).more hb.size)
            clear hb
            try simp only [Act.put, List.getElem_toArray, List.getElem_cons_succ, List.getElem_cons_zero, List.setIfInBounds_toArray, List.set_cons_zero, List.set_cons_succ]
            refine reg_step hR 27 (by kernel_rfl) rfl fun K hK => ?_
            try simp only [Act.put, List.getElem_toArray, List.getElem_cons_succ, List.getElem_cons_zero, List.setIfInBounds_toArray, List.set_cons_zero, List.set_cons_succ]
            rw [if_pos (by rfl)]
            go_simp
            have hc := Sum_any (c := 2) u14 HLb.out (by omega) (by rw [cut2 la i]; omega)
            rw [cut2 la i] at hc
            refine hc.mono ?_; rintro e u15 ⟨rfl, hb⟩
            clear hc
            refine hK.out _ _ (hb.mono (by have := HBu14.out.size; omega)) ?_
            clear hK K
            have HBu15 := Lib.hid (bl_call HBu14.out hb)
            clear hb
            try simp only [Act.put, List.getElem_toArray, List.getElem_cons_succ, List.getElem_cons_zero, List.setIfInBounds_toArray, List.set_cons_zero, List.set_cons_succ]
            refine reg_take (v := .bool false) hR 28 rfl (by kernel_rfl) (by kernel_rfl) (by kernel_rfl) (fun _ _ _ h => by cases h.1) (by rfl) ?_ ?_
            · intro W hW; exact exec_nearr 36 32 Try.underlying36 _ _ rfl (by kernel_rfl) (sumS_length _) rfl rfl
            try simp only [Act.put, List.getElem_toArray, List.getElem_cons_succ, List.getElem_cons_zero, List.setIfInBounds_toArray, List.set_cons_zero, List.set_cons_succ]
            refine reg_take (v := .bool false) hR 29 rfl (by kernel_rfl) (by kernel_rfl) (by kernel_rfl) (fun _ _ _ h => by cases h.1) (by rfl) ?_ ?_
            · intro W hW; go_simp; try rfl
            try simp only [Act.put, List.getElem_toArray, List.getElem_cons_succ, List.getElem_cons_zero, List.setIfInBounds_toArray, List.set_cons_zero, List.set_cons_succ]
            refine reg_done (by kernel_rfl) ?_ _
            exact ⟨rfl, HBu15.out, slots_of (by kernel_rfl)⟩
        · try simp only [Act.put, List.getElem_toArray, List.getElem_cons_succ, List.getElem_cons_zero, List.setIfInBounds_toArray, List.set_cons_zero, List.set_cons_succ]
          rw [if_pos (by rfl)]
          go_simp
          refine hK.out _ _ ((Below.refl _ _).alloc (by have := HBu1.out.size; omega) _) ?_
          clear hK K
          have HBu16 := Lib.hid (bl_alloc HBu1.out (.cells #[.slice A i c, .slice (restAt A c i) (k - i) (c - i), .slice (restAt A c k) (n - k) (c - k)] 31))
          have HLb := Lib.hid (Rl.three (((HS.out.below HBu1.out).more HBu1.out.size).take (show i ≤ n by omega)) (HM.out _ ((HS.out.below HBu1.out).more HBu1.out.size)) (((HS.out.below HBu1.out).more HBu1.out.size).drop (show k ≤ n by omega)) 31)
          have HLa := Lib.hid ((HLa.out.below ((Below.refl _ _).alloc (Nat.le_refl _) (.cells #[.slice A i c, .slice (restAt A c i) (k - i) (c - i), .slice (restAt A c k) (n - k) (c - k)] 31))).more ((Below.refl _ _).alloc (Nat.le_refl _) (.cells #[.slice A i c, .slice (restAt A c i) (k - i) (c - i), .slice (restAt A c k) (n - k) (c - k)] 31) : Below _ _ (u1.alloc (.cells #[.slice A i c, .slice (restAt A c i) (k - i) (c - i), .slice (restAt A c k) (n - k) (c - k)] 31))).size)
          generalize hgu16 : u1.alloc (.cells #[.slice A i c, .slice (restAt A c i) (k - i) (c - i), .slice (restAt A c k) (n - k) (c - k)] 31) = u16 at HBu16 HLa HLb ⊢
          clear hgu16
          try simp only [Act.put, List.getElem_toArray, List.getElem_cons_succ, List.getElem_cons_zero, List.setIfInBounds_toArray, List.set_cons_zero, List.set_cons_succ]
          refine reg_step hR 2 (by kernel_rfl) rfl fun K hK => ?_
          try simp only [Act.put, List.getElem_toArray, List.getElem_cons_succ, List.getElem_cons_zero, List.setIfInBounds_toArray, List.set_cons_zero, List.set_cons_succ]
          rw [if_pos (by rfl)]
          go_simp
          have hc := Sum512_any (c := 1) u16 HLa.out (by omega) (by rw [one_flat]; omega)
          rw [one_flat] at hc
          refine hc.mono ?_; rintro e u17 ⟨rfl, hb⟩
          clear hc
          refine hK.out _ _ (hb.mono (by have := HBu16.out.size; omega)) ?_
          clear hK K
          have HBu17 := Lib.hid (bl_call HBu16.out hb)
          have HLb := Lib.hid ((HLb.out.below hb).more hb.size)
          clear hb
          try simp only [Act.put, List.getElem_toArray, List.getElem_cons_succ, List.getElem_cons_zero, List.setIfInBounds_toArray, List.set_cons_zero, List.set_cons_succ]
          refine reg_step hR 14 (by kernel_rfl) rfl fun K hK => ?_
          try simp only [Act.put, List.getElem_toArray, List.getElem_cons_succ, List.getElem_cons_zero, List.setIfInBounds_toArray, List.set_cons_zero, List.set_cons_succ]
          rw [if_pos (by rfl)]
          go_simp
          have hc := Sum512_any (c := 3) u17 HLb.out (by omega) (by rw [cut3 la i k hik]; omega)
          rw [cut3 la i k hik] at hc
          refine hc.mono ?_; rintro e u18 ⟨rfl, hb⟩
          clear hc
          refine hK.out _ _ (hb.mono (by have := HBu17.out.size; omega)) ?_
          clear hK K
          have HBu18 := Lib.hid (bl_call HBu17.out hb)
          clear hb
          try simp only [Act.put, List.getElem_toArray, List.getElem_cons_succ, List.getElem_cons_zero, List.setIfInBounds_toArray, List.set_cons_zero, List.set_cons_succ]
          refine reg_take (v := .bool false) hR 15 rfl (by kernel_rfl) (by kernel_rfl) (by kernel_rfl) (fun _ _ _ h => by cases h.1) (by rfl) ?_ ?_
          · intro W hW; exact exec_nearr 33 64 Try.underlying33 _ _ rfl (by kernel_rfl) (sumL_length _) rfl rfl
          try simp only [Act.put, List.getElem_toArray, List.getElem_cons_succ, List.getElem_cons_zero, List.setIfInBounds_toArray, List.set_cons_zero, List.set_cons_succ]
          refine reg_take (v := ?_) hR 16 rfl (by kernel_rfl) (by kernel_rfl) (by kernel_rfl) (fun _ _ _ h => by cases h.1) (by rfl) ?_ ?_
          rotate_left
          · intro W hW; go_simp; try with_reducible rfl
          try simp only [Act.put, List.getElem_toArray, List.getElem_cons_succ, List.getElem_cons_zero, List.setIfInBounds_toArray, List.set_cons_zero, List.set_cons_succ]
          refine reg_take (v := ?_) hR 17 rfl (by kernel_rfl) (by kernel_rfl) (by kernel_rfl) (fun _ _ _ h => by cases h.1) (by rfl) ?_ ?_
          rotate_left
          · intro W hW; go_simp; try with_reducible rfl
          try simp only [Act.put, List.getElem_toArray, List.getElem_cons_succ, List.getElem_cons_zero, List.setIfInBounds_toArray, List.set_cons_zero, List.set_cons_succ]
          refine reg_take (v := ?_) hR 20 rfl (by kernel_rfl) (by kernel_rfl) (by kernel_rfl) (fun _ _ _ h => by cases h.1) (by rfl) ?_ ?_
          rotate_left
          · intro W hW; go_simp; try with_reducible rfl
          try simp only [Act.put, List.getElem_toArray, List.getElem_cons_succ, List.getElem_cons_zero, List.setIfInBounds_toArray, List.set_cons_zero, List.set_cons_succ]
          refine reg_take (v := ?_) hR 21 rfl (by kernel_rfl) (by kernel_rfl) (by kernel_rfl) (fun _ _ _ h => by cases h.1) (by rfl) ?_ ?_
          rotate_left
          · intro W hW; go_simp; try with_reducible rfl
          try simp only [Act.put, List.getElem_toArray, List.getElem_cons_succ, List.getElem_cons_zero, List.setIfInBounds_toArray, List.set_cons_zero, List.set_cons_succ]
          refine reg_take (v := .slice A i c) hR 22 rfl (by kernel_rfl) (by kernel_rfl) (by kernel_rfl) (fun _ _ _ h => by cases h.1) (by rfl) ?_ ?_
          · intro W hW; exact exec_slice31_hi _ _ rfl rfl rfl (by omega) rfl
          try simp only [Act.put, List.getElem_toArray, List.getElem_cons_succ, List.getElem_cons_zero, List.setIfInBounds_toArray, List.set_cons_zero, List.set_cons_succ]
          refine reg_take (v := ?_) hR 23 rfl (by kernel_rfl) (by kernel_rfl) (by kernel_rfl) (fun _ _ _ h => by cases h.1) (by rfl) ?_ ?_
          rotate_left
          · intro W hW; go_simp; try with_reducible rfl
          try simp only [Act.put, List.getElem_toArray, List.getElem_cons_succ, List.getElem_cons_zero, List.setIfInBounds_toArray, List.set_cons_zero, List.set_cons_succ]
          refine reg_take (v := ?_) hR 24 rfl (by kernel_rfl) (by kernel_rfl) (by kernel_rfl) (fun _ _ _ h => by cases h.1) (by rfl) ?_ ?_
          rotate_left
          · intro W hW; go_simp; try with_reducible rfl
          try simp only [Act.put, List.getElem_toArray, List.getElem_cons_succ, List.getElem_cons_zero, List.setIfInBounds_toArray, List.set_cons_zero, List.set_cons_succ]
          refine reg_take (v := .slice (restAt A c i) (n - i) (c - i)) hR 25 rfl (by kernel_rfl) (by kernel_rfl) (by kernel_rfl) (fun _ _ _ h => by cases h.1) (by rfl) ?_ ?_
          · intro W hW; exact exec_slice31_lo _ _ rfl rfl rfl (by omega) rfl
          try simp only [Act.put, List.getElem_toArray, List.getElem_cons_succ, List.getElem_cons_zero, List.setIfInBounds_toArray, List.set_cons_zero, List.set_cons_succ]
          refine reg_branch hR 18 26 (by kernel_rfl) rfl rfl (fun K hK => ?_) (fun K hK => ?_)
          · try simp only [Act.put, List.getElem_toArray, List.getElem_cons_succ, List.getElem_cons_zero, List.setIfInBounds_toArray, List.set_cons_zero, List.set_cons_succ]
            rw [if_pos (by rfl)]
            go_simp
            refine hK.out _ _ ((Below.refl _ _).alloc (by have := HBu18.out.size; omega) _) ?_
            clear hK K
            have HBu19 := Lib.hid (bl_alloc HBu18.out (.cells #[.slice A n c] 31))
            have HLa := Lib.hid (Rl.one ((HS.out.below HBu18.out).more HBu18.out.size).rd ((HS.out.below HBu18.out).more HBu18.out.size).low 31)
            generalize hgu19 : u18.alloc (.cells #[.slice A n c] 31) = u19 at HBu19 HLa ⊢
            clear hgu19
            try simp only [Act.put, List.getElem_toArray, List.getElem_cons_succ, List.getElem_cons_zero, List.setIfInBounds_toArray, List.set_cons_zero, List.set_cons_succ]
            refine reg_branch hR 19 26 (by kernel_rfl) rfl rfl (fun K hK => ?_) (fun K hK => ?_)
            · try simp only [Act.put, List.getElem_toArray, List.getElem_cons_succ, List.getElem_cons_zero, List.setIfInBounds_toArray, List.set_cons_zero, List.set_cons_succ]
              rw [if_pos (by rfl)]
              go_simp
              have hc := Sum_any (c := 1) u19 HLa.out (by omega) (by rw [one_flat]; omega)
              rw [one_flat] at hc
              refine hc.mono ?_; rintro e u20 ⟨rfl, hb⟩
              clear hc
              refine hK.out _ _ (hb.mono (by have := HBu19.out.size; omega)) ?_
              clear hK K
              have HBu20 := Lib.hid (bl_call HBu19.out hb)
              clear hb
              try simp only [Act.put, List.getElem_toArray, List.getElem_cons_succ, List.getElem_cons_zero, List.setIfInBounds_toArray, List.set_cons_zero, List.set_cons_succ]
              refine reg_step hR 26 (by kernel_rfl) rfl fun K hK => ?_
              try simp only [Act.put, List.getElem_toArray, List.getElem_cons_succ, List.getElem_cons_zero, List.setIfInBounds_toArray, List.set_cons_zero, List.set_cons_succ]
              rw [if_pos (by rfl)]
              go_simp
              refine hK.out _ _ ((Below.refl _ _).alloc (by have := HBu20.out.size; omega) _) ?_
              clear hK K
              have HBu21 := Lib.hid (bl_alloc HBu20.out (.cells #[.slice A i c, .slice (restAt A c i) (n - i) (c - i)] 31))
              have HLb := Lib.hid (Rl.two (((HS.out.below HBu20.out).more HBu20.out.size).take (show i ≤ n by omega)) (((HS.out.below HBu20.out).more HBu20.out.size).drop (show i ≤ n by omega)) 31)
              generalize hgu21 : u20.alloc (.cells #[.slice A i c, .slice (restAt A c i) (n - i) (c - i)] 31) = u21 at HBu21 HLb ⊢
              clear hgu21
              try simp only [Act.put, List.getElem_toArray, List.getElem_cons_succ, List.getElem_cons_zero, List.setIfInBounds_toArray, List.set_cons_zero, List.set_cons_succ]
              refine reg_step hR 27 (by kernel_rfl) rfl fun K hK => ?_
              try simp only [Act.put, List.getElem_toArray, List.getElem_cons_succ, List.getElem_cons_zero, List.setIfInBounds_toArray, List.set_cons_zero, List.set_cons_succ]
              rw [if_pos (by rfl)]
              go_simp
              have hc := Sum_any (c := 2) u21 HLb.out (by omega) (by rw [cut2 la i]; omega)
              rw [cut2 la i] at hc
              refine hc.mono ?_; rintro e u22 ⟨rfl, hb⟩
              clear hc
              refine hK.out _ _ (hb.mono (by have := HBu21.out.size; omega)) ?_
              clear hK K
              have HBu22 := Lib.hid (bl_call HBu21.out hb)
              clear hb
              try simp only [Act.put, List.getElem_toArray, List.getElem_cons_succ, List.getElem_cons_zero, List.setIfInBounds_toArray, List.set_cons_zero, List.set_cons_succ]
              refine reg_take (v := .bool false) hR 28 rfl (by kernel_rfl) (by kernel_rfl) (by kernel_rfl) (fun _ _ _ h => by cases h.1) (by rfl) ?_ ?_
              · intro W hW; exact exec_nearr 36 32 Try.underlying36 _ _ rfl (by kernel_rfl) (sumS_length _) rfl rfl
              try simp only [Act.put, List.getElem_toArray, List.getElem_cons_succ, List.getElem_cons_zero, List.setIfInBounds_toArray, List.set_cons_zero, List.set_cons_succ]
              refine reg_take (v := .bool false) hR 29 rfl (by kernel_rfl) (by kernel_rfl) (by kernel_rfl) (fun _ _ _ h => by cases h.1) (by rfl) ?_ ?_
              · intro W hW; go_simp; try rfl
              try simp only [Act.put, List.getElem_toArray, List.getElem_cons_succ, List.getElem_cons_zero, List.setIfInBounds_toArray, List.set_cons_zero, List.set_cons_succ]
              refine reg_done (by kernel_rfl) ?_ _
              exact ⟨rfl, HBu22.out, slots_of (by kernel_rfl)⟩
            · try simp only [Act.put, List.getElem_toArray, List.getElem_cons_succ, List.getElem_cons_zero, List.setIfInBounds_toArray, List.set_cons_zero, List.set_cons_succ]
              rw [if_pos (by rfl)]
              go_simp
              refine hK.out _ _ ((Below.refl _ _).alloc (by have := HBu19.out.size; omega) _) ?_
              clear hK K
              have HBu23 := Lib.hid (bl_alloc HBu19.out (.cells #[.slice A i c, .slice (restAt A c i) (n - i) (c - i)] 31))
              have HLb := Lib.hid (Rl.two (((HS.out.below HBu19.out).more HBu19.out.size).take (show i ≤ n by omega)) (((HS.out.below HBu19.out).more HBu19.out.size).drop (show i ≤ n by omega)) 31)
              have HLa := Lib.hid ((HLa.out.below ((Below.refl _ _).alloc (Nat.le_refl _) (.cells #[.slice A i c, .slice (restAt A c i) (n - i) (c - i)] 31))).more ((Below.refl _ _).alloc (Nat.le_refl _) (.cells #[.slice A i c, .slice (restAt A c i) (n - i) (c - i)] 31) : Below _ _ (u19.alloc (.cells #[.slice A i c, .slice (restAt A c i) (n - i) (c - i)] 31))).size)
              generalize hgu23 : u19.alloc (.cells #[.slice A i c, .slice (restAt A c i) (n - i) (c - i)] 31) = u23 at HBu23 HLa HLb ⊢
              clear hgu23
              try simp only [Act.put, List.getElem_toArray, List.getElem_cons_succ, List.getElem_cons_zero, List.setIfInBounds_toArray, List.set_cons_zero, List.set_cons_succ]
              refine reg_step hR 19 (by kernel_rfl) rfl fun K hK => ?_
              try simp only [Act.put, List.getElem_toArray, List.getElem_cons_succ, List.getElem_cons_zero, List.setIfInBounds_toArray, List.set_cons_zero, List.set_cons_succ]
              rw [if_pos (by rfl)]
              go_simp
              have hc := Sum_any (c := 1) u23 HLa.out (by omega) (by rw [one_flat]; omega)
              rw [one_flat] at hc
              refine hc.mono ?_; rintro e u24 ⟨rfl, hb⟩
              clear hc
              refine hK.out _ _ (hb.mono (by have := HBu23.out.size; omega)) ?_
              clear hK K
              have HBu24 := Lib.hid (bl_call HBu23.out hb)
              have HLb := Lib.hid ((HLb.out.below hb).more hb.size)
              clear hb
              try simp only [Act.put, List.getElem_toArray, List.getElem_cons_succ, List.getElem_cons_zero, List.setIfInBounds_toArray, List.set_cons_zero, List.set_cons_succ]
              refine reg_step hR 27 (by kernel_rfl) rfl fun K hK => ?_
              try simp only [Act.put, List.getElem_toArray, List.getElem_cons_succ, List.getElem_cons_zero, List.setIfInBounds_toArray, List.set_cons_zero, List.set_cons_succ]
              rw [if_pos (by rfl)]
              go_simp
              have hc := Sum_any (c := 2) u24 HLb.out (by omega) (by rw [cut2 la i]; omega)
              rw [cut2 la i] at hc
              refine hc.mono ?_; rintro e u25 ⟨rfl, hb⟩
              clear hc
              refine hK.out _ _ (hb.mono (by have := HBu24.out.size; omega)) ?_
              clear hK K
              have HBu25 := Lib.hid (bl_call HBu24.out hb)
              clear hb
              try simp only [Act.put, List.getElem_toArray, List.getElem_cons_succ, List.getElem_cons_zero, List.setIfInBounds_toArray, List.set_cons_zero, List.set_cons_succ]
              refine reg_take (v := .bool false) hR 28 rfl (by kernel_rfl) (by kernel_rfl) (by kernel_rfl) (fun _ _ _ h => by cases h.1) (by rfl) ?_ ?_
              · intro W hW; exact exec_nearr 36 32 Try.underlying36 _ _ rfl (by kernel_rfl) (sumS_length _) rfl rfl
              try simp only [Act.put, List.getElem_toArray, List.getElem_cons_succ, List.getElem_cons_zero, List.setIfInBounds_toArray, List.set_cons_zero, List.set_cons_succ]
              refine reg_take (v := .bool false) hR 29 rfl (by kernel_rfl) (by kernel_rfl) (by kernel_rfl) (fun _ _ _ h => by cases h.1) (by rfl) ?_ ?_
              · intro W hW; go_simp; try rfl
              try simp only [Act.put, List.getElem_toArray, List.getElem_cons_succ, List.getElem_cons_zero, List.setIfInBounds_toArray, List.set_cons_zero, List.set_cons_succ]
              refine reg_done (by kernel_rfl) ?_ _
              exact ⟨rfl, HBu25.out, slots_of (by kernel_rfl)⟩
          · try simp only [Act.put, List.getElem_toArray, List.getElem_cons_succ, List.getElem_cons_zero, List.setIfInBounds_toArray, List.set_cons_zero, List.set_cons_succ]
            rw [if_pos (by rfl)]
            go_simp
            refine hK.out _ _ ((Below.refl _ _).alloc (by have := HBu18.out.size; omega) _) ?_
            clear hK K
            have HBu26 := Lib.hid (bl_alloc HBu18.out (.cells #[.slice A i c, .slice (restAt A c i) (n - i) (c - i)] 31))
            have HLb := Lib.hid (Rl.two (((HS.out.below HBu18.out).more HBu18.out.size).take (show i ≤ n by omega)) (((HS.out.below HBu18.out).more HBu18.out.size).drop (show i ≤ n by omega)) 31)
            generalize hgu26 : u18.alloc (.cells #[.slice A i c, .slice (restAt A c i) (n - i) (c - i)] 31) = u26 at HBu26 HLb ⊢
            clear hgu26
            try simp only [Act.put, List.getElem_toArray, List.getElem_cons_succ, List.getElem_cons_zero, List.setIfInBounds_toArray, List.set_cons_zero, List.set_cons_succ]
            refine reg_step hR 18 (by kernel_rfl) rfl fun K hK => ?_
            try simp only [Act.put, List.getElem_toArray, List.getElem_cons_succ, List.getElem_cons_zero, List.setIfInBounds_toArray, List.set_cons_zero, List.set_cons_succ]
            rw [if_pos (by rfl)]
            go_simp
            refine hK.out _ _ ((Below.refl _ _).alloc (by have := HBu26.out.size; omega) _) ?_
            clear hK K
            have HBu27 := Lib.hid (bl_alloc HBu26.out (.cells #[.slice A n c] 31))
            have HLa := Lib.hid (Rl.one ((HS.out.below HBu26.out).more HBu26.out.size).rd ((HS.out.below HBu26.out).more HBu26.out.size).low 31)
            have HLb := Lib.hid ((HLb.out.below ((Below.refl _ _).alloc (Nat.le_refl _) (.cells #[.slice A n c] 31))).more ((Below.refl _ _).alloc (Nat.le_refl _) (.cells #[.slice A n c] 31) : Below _ _ (u26.alloc (.cells #[.slice A n c] 31))).size)
            generalize hgu27 : u26.alloc (.cells #[.slice A n c] 31) = u27 at HBu27 HLb HLa ⊢
            clear hgu27
            try simp only [Act.put, List.getElem_toArray, List.getElem_cons_succ, List.getElem_cons_zero, List.setIfInBounds_toArray, List.set_cons_zero, List.set_cons_succ]
            refine reg_step hR 19 (by kernel_rfl) rfl fun K hK => ?_
            try simp only [Act.put, List.getElem_toArray, List.getElem_cons_succ, List.getElem_cons_zero, List.setIfInBounds_toArray, List.set_cons_zero, List.set_cons_succ]
            rw [if_pos (by rfl)]
            go_simp
            have hc := Sum_any (c := 1) u27 HLa.out (by omega) (by rw [one_flat]; omega)
            rw [one_flat] at hc
            refine hc.mono ?_; rintro e u28 ⟨rfl, hb⟩
            clear hc
            refine hK.out _ _ (hb.mono (by have := HBu27.out.size; omega)) ?_
            clear hK K
            have HBu28 := Lib.hid (bl_call HBu27.out hb)
            have HLb := Lib.hid ((HLb.out.below hb).more hb.size)
            clear hb
            try simp only [Act.put, List.getElem_toArray, List.getElem_cons_succ, List.getElem_cons_zero, List.setIfInBounds_toArray, List.set_cons_zero, List.set_cons_succ]
            refine reg_step hR 27 (by kernel_rfl) rfl fun K hK => ?_
            try simp only [Act.put, List.getElem_toArray, List.getElem_cons_succ, List.getElem_cons_zero, List.setIfInBounds_toArray, List.set_cons_zero, List.set_cons_succ]
            rw [if_pos (by rfl)]
            go_simp
            have hc := Sum_any (c := 2) u28 HLb.out (by omega) (by rw [cut2 la i]; omega)
            rw [cut2 la i] at hc
            refine hc.mono ?_; rintro e u29 ⟨rfl, hb⟩
            clear hc
            refine hK.out _ _ (hb.mono (by have := HBu28.out.size; omega)) ?_
            clear hK K
            have HBu29 := Lib.hid (bl_call HBu28.out hb)
            clear hb
            try simp only [Act.put, List.getElem_toArray, List.getElem_cons_succ, List.getElem_cons_zero, List.setIfInBounds_toArray, List.set_cons_zero, List.set_cons_succ]
            refine reg_take (v := .bool false) hR 28 rfl (by kernel_rfl) (by kernel_rfl) (by kernel_rfl) (fun _ _ _ h => by cases h.1) (by rfl) ?_ ?_
            · intro W hW; exact exec_nearr 36 32 Try.underlying36 _ _ rfl (by kernel_rfl) (sumS_length _) rfl rfl
            try simp only [Act.put, List.getElem_toArray, List.getElem_cons_succ, List.getElem_cons_zero, List.setIfInBounds_toArray, List.set_cons_zero, List.set_cons_succ]
            refine reg_take (v := .bool false) hR 29 rfl (by kernel_rfl) (by kernel_rfl) (by kernel_rfl) (fun _ _ _ h => by cases h.1) (by rfl) ?_ ?_
            · intro W hW; go_simp; try rfl
            try simp only [Act.put, List.getElem_toArray, List.getElem_cons_succ, List.getElem_cons_zero, List.setIfInBounds_toArray, List.set_cons_zero, List.set_cons_succ]
            refine reg_done (by kernel_rfl) ?_ _
            exact ⟨rfl, HBu29.out, slots_of (by kernel_rfl)⟩
      · try simp only [Act.put, List.getElem_toArray, List.getElem_cons_succ, List.getElem_cons_zero, List.setIfInBounds_toArray, List.set_cons_zero, List.set_cons_succ]
        rw [if_pos (by rfl)]
        go_simp
        refine hK.out _ _ ((Below.refl _ _).alloc (by have := HBu0.out.size; omega) _) ?_
        clear hK K
        have HBu30 := Lib.hid (bl_alloc HBu0.out (.cells #[.slice A i c, .slice (restAt A c i) (k - i) (c - i), .slice (restAt A c k) (n - k) (c - k)] 31))
        have HLb := Lib.hid (Rl.three (((HS.out.below HBu0.out).more HBu0.out.size).take (show i ≤ n by omega)) (HM.out _ ((HS.out.below HBu0.out).more HBu0.out.size)) (((HS.out.below HBu0.out).more HBu0.out.size).drop (show k ≤ n by omega)) 31)
        generalize hgu30 : u0.alloc (.cells #[.slice A i c, .slice (restAt A c i) (k - i) (c - i), .slice (restAt A c k) (n - k) (c - k)] 31) = u30 at HBu30 HLb ⊢
        clear hgu30
        try simp only [Act.put, List.getElem_toArray, List.getElem_cons_succ, List.getElem_cons_zero, List.setIfInBounds_toArray, List.set_cons_zero, List.set_cons_succ]
        refine reg_step hR 1 (by kernel_rfl) rfl fun K hK => ?_
        try simp only [Act.put, List.getElem_toArray, List.getElem_cons_succ, List.getElem_cons_zero, List.setIfInBounds_toArray, List.set_cons_zero, List.set_cons_succ]
        rw [if_pos (by rfl)]
        go_simp
        refine hK.out _ _ ((Below.refl _ _).alloc (by have := HBu30.out.size; omega) _) ?_
        clear hK K
        have HBu31 := Lib.hid (bl_alloc HBu30.out (.cells #[.slice A n c] 31))
        have HLa := Lib.hid (Rl.one ((HS.out.below HBu30.out).more HBu30.out.size).rd ((HS.out.below HBu30.out).more HBu30.out.size).low 31)
        have HLb := Lib.hid ((HLb.out.below ((Below.refl _ _).alloc (Nat.le_refl _) (.cells #[.slice A n c] 31))).more ((Below.refl _ _).alloc (Nat.le_refl _) (.cells #[.slice A n c] 31) : Below _ _ (u30.alloc (.cells #[.slice A n c] 31))).size)
        generalize hgu31 : u30.alloc (.cells #[.slice A n c] 31) = u31 at HBu31 HLb HLa ⊢
        clear hgu31
        try simp only [Act.put, List.getElem_toArray, List.getElem_cons_succ, List.getElem_cons_zero, List.setIfInBounds_toArray, List.set_cons_zero, List.set_cons_succ]
        refine reg_step hR 2 (by kernel_rfl) rfl fun K hK => ?_
        try simp only [Act.put, List.getElem_toArray, List.getElem_cons_succ, List.getElem_cons_zero, List.setIfInBounds_toArray, List.set_cons_zero, List.set_cons_succ]
        rw [if_pos (by rfl)]
        go_simp
        have hc := Sum512_any (c := 1) u31 HLa.out (by omega) (by rw [one_flat]; omega)
        rw [one_flat] at hc
        refine hc.mono ?_; rintro e u32 ⟨rfl, hb⟩
        clear hc
        refine hK.out _ _ (hb.mono (by have := HBu31.out.size; omega)) ?_
        clear hK K
        have HBu32 := Lib.hid (bl_call HBu31.out hb)
        have HLb := Lib.hid ((HLb.out.below hb).more hb.size)
        clear hb
        try simp only [Act.put, List.getElem_toArray, List.getElem_cons_succ, List.getElem_cons_zero, List.setIfInBounds_toArray, List.set_cons_zero, List.set_cons_succ]
        refine reg_step hR 14 (by kernel_rfl) rfl fun K hK => ?_
        try simp only [Act.put, List.getElem_toArray, List.getElem_cons_succ, List.getElem_cons_zero, List.setIfInBounds_toArray, List.set_cons_zero, List.set_cons_succ]
        rw [if_pos (by rfl)]
        go_simp
        have hc := Sum512_any (c := 3) u32 HLb.out (by omega) (by rw [cut3 la i k hik]; omega)
        rw [cut3 la i k hik] at hc
        refine hc.mono ?_; rintro e u33 ⟨rfl, hb⟩
        clear hc
        refine hK.out _ _ (hb.mono (by have := HBu32.out.size; omega)) ?_
        clear hK K
        have HBu33 := Lib.hid (bl_call HBu32.out hb)
        clear hb
        try simp only [Act.put, List.getElem_toArray, List.getElem_cons_succ, List.getElem_cons_zero, List.setIfInBounds_toArray, List.set_cons_zero, List.set_cons_succ]
        refine reg_take (v := .bool false) hR 15 rfl (by kernel_rfl) (by kernel_rfl) (by kernel_rfl) (fun _ _ _ h => by cases h.1) (by rfl) ?_ ?_
        · intro W hW; exact exec_nearr 33 64 Try.underlying33 _ _ rfl (by kernel_rfl) (sumL_length _) rfl rfl
        try simp only [Act.put, List.getElem_toArray, List.getElem_cons_succ, List.getElem_cons_zero, List.setIfInBounds_toArray, List.set_cons_zero, List.set_cons_succ]
        refine reg_take (v := ?_) hR 16 rfl (by kernel_rfl) (by kernel_rfl) (by kernel_rfl) (fun _ _ _ h => by cases h.1) (by rfl) ?_ ?_
        rotate_left
        · intro W hW; go_simp; try with_reducible rfl
        try simp only [Act.put, List.getElem_toArray, List.getElem_cons_succ, List.getElem_cons_zero, List.setIfInBounds_toArray, List.set_cons_zero, List.set_cons_succ]
        refine reg_take (v := ?_) hR 17 rfl (by kernel_rfl) (by kernel_rfl) (by kernel_rfl) (fun _ _ _ h => by cases h.1) (by rfl) ?_ ?_
        rotate_left
        · intro W hW; go_simp; try with_reducible rfl
        try simp only [Act.put, List.getElem_toArray, List.getElem_cons_succ, List.getElem_cons_zero, List.setIfInBounds_toArray, List.set_cons_zero, List.set_cons_succ]
        refine reg_take (v := ?_) hR 20 rfl (by kernel_rfl) (by kernel_rfl) (by kernel_rfl) (fun _ _ _ h => by cases h.1) (by rfl) ?_ ?_
        rotate_left
        · intro W hW; go_simp; try with_reducible rfl
        try simp only [Act.put, List.getElem_toArray, List.getElem_cons_succ, List.getElem_cons_zero, List.setIfInBounds_toArray, List.set_cons_zero, List.set_cons_succ]
        refine reg_take (v := ?_) hR 21 rfl (by kernel_rfl) (by kernel_rfl) (by kernel_rfl) (fun _ _ _ h => by cases h.1) (by rfl) ?_ ?_
        rotate_left
        · intro W hW; go_simp; try with_reducible rfl
        try simp only [Act.put, List.getElem_toArray, List.getElem_cons_succ, List.getElem_cons_zero, List.setIfInBounds_toArray, List.set_cons_zero, List.set_cons_succ]
        refine reg_take (v := .slice A i c) hR 22 rfl (by kernel_rfl) (by kernel_rfl) (by kernel_rfl) (fun _ _ _ h => by cases h.1) (by rfl) ?_ ?_
        · intro W hW; exact exec_slice31_hi _ _ rfl rfl rfl (by omega) rfl
        try simp only [Act.put, List.getElem_toArray, List.getElem_cons_succ, List.getElem_cons_zero, List.setIfInBounds_toArray, List.set_cons_zero, List.set_cons_succ]
        refine reg_take (v := ?_) hR 23 rfl (by kernel_rfl) (by kernel_rfl) (by kernel_rfl) (fun _ _ _ h => by cases h.1) (by rfl) ?_ ?_
        rotate_left
        · intro W hW; go_simp; try with_reducible rfl
        try simp only [Act.put, List.getElem_toArray, List.getElem_cons_succ, List.getElem_cons_zero, List.setIfInBounds_toArray, List.set_cons_zero, List.set_cons_succ]
        refine reg_take (v := ?_) hR 24 rfl (by kernel_rfl) (by kernel_rfl) (by kernel_rfl) (fun _ _ _ h => by cases h.1) (by rfl) ?_ ?_
        rotate_left
        · intro W hW; go_simp; try with_reducible rfl
        try simp only [Act.put, List.getElem_toArray, List.getElem_cons_succ, List.getElem_cons_zero, List.setIfInBounds_toArray, List.set_cons_zero, List.set_cons_succ]
        refine reg_take (v := .slice (restAt A c i) (n - i) (c - i)) hR 25 rfl (by kernel_rfl) (by kernel_rfl) (by kernel_rfl) (fun _ _ _ h => by cases h.1) (by rfl) ?_ ?_
        · intro W hW; exact exec_slice31_lo _ _ rfl rfl rfl (by omega) rfl
        try simp only [Act.put, List.getElem_toArray, List.getElem_cons_succ, List.getElem_cons_zero, List.setIfInBounds_toArray, List.set_cons_zero, List.set_cons_succ]
        refine reg_branch hR 18 26 (by kernel_rfl) rfl rfl (fun K hK => ?_) (fun K hK => ?_)
        · try simp only [Act.put, List.getElem_toArray, List.getElem_cons_succ, List.getElem_cons_zero, List.setIfInBounds_toArray, List.set_cons_zero, List.set_cons_succ]
          rw [if_pos (by rfl)]
          go_simp
          refine hK.out _ _ ((Below.refl _ _).alloc (by have := HBu33.out.size; omega) _) ?_
          clear hK K
          have HBu34 := Lib.hid (bl_alloc HBu33.out (.cells #[.slice A n c] 31))
          have HLa := Lib.hid (Rl.one ((HS.out.below HBu33.out).more HBu33.out.size).rd ((HS.out.below HBu33.out).more HBu33.out.size).low 31)
          generalize hgu34 : u33.alloc (.cells #[.slice A n c] 31) = u34 at HBu34 HLa ⊢
          clear hgu34
          try simp only [Act.put, List.getElem_toArray, List.getElem_cons_succ, List.getElem_cons_zero, List.setIfInBounds_toArray, List.set_cons_zero, List.set_cons_succ]
          refine reg_branch hR 19 26 (by kernel_rfl) rfl rfl (fun K hK => ?_) (fun K hK => ?_)
          · try simp only [Act.put, List.getElem_toArray, List.getElem_cons_succ, List.getElem_cons_zero, List.setIfInBounds_toArray, List.set_cons_zero, List.set_cons_succ]
            rw [if_pos (by rfl)]
            go_simp
            have hc := Sum_any (c := 1) u34 HLa.out (by omega) (by rw [one_flat]; omega)
            rw [one_flat] at hc
            refine hc.mono ?_; rintro e u35 ⟨rfl, hb⟩
            clear hc
            refine hK.out _ _ (hb.mono (by have := HBu34.out.size; omega)) ?_
            clear hK K
            have HBu35 := Lib.hid (bl_call HBu34.out hb)
            clear hb
            try simp only [Act.put, List.getElem_toArray, List.getElem_cons_succ, List.getElem_cons_zero, List.setIfInBounds_toArray, List.set_cons_zero, List.set_cons_succ]
            refine reg_step hR 26 (by kernel_rfl) rfl fun K hK => ?_
            try simp only [Act.put, List.getElem_toArray, List.getElem_cons_succ, List.getElem_cons_zero, List.setIfInBounds_toArray, List.set_cons_zero, List.set_cons_succ]
            rw [if_pos (by rfl)]
            go_simp
            refine hK.out _ _ ((Below.refl _ _).alloc (by have := HBu35.out.size; omega) _) ?_
            clear hK K
            have HBu36 := Lib.hid (bl_alloc HBu35.out (.cells #[.slice A i c, .slice (restAt A c i) (n - i) (c - i)] 31))
            have HLb := Lib.hid (Rl.two (((HS.out.below HBu35.out).more HBu35.out.size).take (show i ≤ n by omega)) (((HS.out.below HBu35.out).more HBu35.out.size).drop (show i ≤ n by omega)) 31)
            generalize hgu36 : u35.alloc (.cells #[.slice A i c, .slice (restAt A c i) (n - i) (c - i)] 31) = u36 at HBu36 HLb ⊢
            clear hgu36
            try simp only [Act.put, List.getElem_toArray, List.getElem_cons_succ, List.getElem_cons_zero, List.setIfInBounds_toArray, List.set_cons_zero, List.set_cons_succ]
            refine reg_step hR 27 (by kernel_rfl) rfl fun K hK => ?_
            try simp only [Act.put, List.getElem_toArray, List.getElem_cons_succ, List.getElem_cons_zero, List.setIfInBounds_toArray, List.set_cons_zero, List.set_cons_succ]
            rw [if_pos (by rfl)]
            go_simp
            have hc := Sum_any (c := 2) u36 HLb.out (by omega) (by rw [cut2 la i]; omega)
            rw [cut2 la i] at hc
            refine hc.mono ?_; rintro e u37 ⟨rfl, hb⟩
            clear hc
            refine hK.out _ _ (hb.mono (by have := HBu36.out.size; omega)) ?_
            clear hK K
            have HBu37 := Lib.hid (bl_call HBu36.out hb)
            clear hb
            try simp only [Act.put, List.getElem_toArray, List.getElem_cons_succ, List.getElem_cons_zero, List.setIfInBounds_toArray, List.set_cons_zero, List.set_cons_succ]
            refine reg_take (v := .bool false) hR 28 rfl (by kernel_rfl) (by kernel_rfl) (by kernel_rfl) (fun _ _ _ h => by cases h.1) (by rfl) ?_ ?_
            · intro W hW; exact exec_nearr 36 32 Try.underlying36 _ _ rfl (by kernel_rfl) (sumS_length _) rfl rfl
            try simp only [Act.put, List.getElem_toArray, List.getElem_cons_succ, List.getElem_cons_zero, List.setIfInBounds_toArray, List.set_cons_zero, List.set_cons_succ]
            refine reg_take (v := .bool false) hR 29 rfl (by kernel_rfl) (by kernel_rfl) (by kernel_rfl) (fun _ _ _ h => by cases h.1) (by rfl) ?_ ?_
            · intro W hW; go_simp; try rfl
            try simp only [Act.put, List.getElem_toArray, List.getElem_cons_succ, List.getElem_cons_zero, List.setIfInBounds_toArray, List.set_cons_zero, List.set_cons_succ]
            refine reg_done (by kernel_rfl) ?_ _
            exact ⟨rfl, HBu37.out, slots_of (by kernel_rfl)⟩
          · try simp only [Act.put, List.getElem_toArray, List.getElem_cons_succ, List.getElem_cons_zero, List.setIfInBounds_toArray, List.set_cons_zero, List.set_cons_succ]
            rw [if_pos (by rfl)]
            go_simp
            refine hK.out _ _ ((Below.refl _ _).alloc (by have := HBu34.out.size; omega) _) ?_
            clear hK K
            have HBu38 := Lib.hid (bl_alloc HBu34.out (.cells #[.slice A i c, .slice (restAt A c i) (n - i) (c - i)] 31))
            have HLb := Lib.hid (Rl.two (((HS.out.below HBu34.out).more HBu34.out.size).take (show i ≤ n by omega)) (((HS.out.below HBu34.out).more HBu34.out.size).drop (show i ≤ n by omega)) 31)
            have HLa := Lib.hid ((HLa.out.below ((Below.refl _ _).alloc (Nat.le_refl _) (.cells #[.slice A i c, .slice (restAt A c i) (n - i) (c - i)] 31))).more ((Below.refl _ _).alloc (Nat.le_refl _) (.cells #[.slice A i c, .slice (restAt A c i) (n - i) (c - i)] 31) : Below _ _ (u34.alloc (.cells #[.slice A i c, .slice (restAt A c i) (n - i) (c - i)] 31))).size)
            generalize hgu38 : u34.alloc (.cells #[.slice A i c, .slice (restAt A c i) (n - i) (c - i)] 31) = u38 at HBu38 HLa HLb ⊢
            clear hgu38
            try simp only [Act.put, List.getElem_toArray, List.getElem_cons_succ, List.getElem_cons_zero, List.setIfInBounds_toArray, List.set_cons_zero, List.set_cons_succ]
            refine reg_step hR 19 (by kernel_rfl) rfl fun K hK => ?_
            try simp only [Act.put, List.getElem_toArray, List.getElem_cons_succ, List.getElem_cons_zero, List.setIfInBounds_toArray, List.set_cons_zero, List.set_cons_succ]
            rw [if_pos (by rfl)]
            go_simp
            have hc := Sum_any (c := 1) u38 HLa.out (by omega) (by rw [one_flat]; omega)
            rw [one_flat] at hc
            refine hc.mono ?_; rintro e u39 ⟨rfl, hb⟩
            clear hc
            refine hK.out _ _ (hb.mono (by have := HBu38.out.size; omega)) ?_
            clear hK K
            have HBu39 := Lib.hid (bl_call HBu38.out hb)
            have HLb := Lib.hid ((HLb.out.below hb).more hb.size)
            clear hb
            try simp only [Act.put, List.getElem_toArray, List.getElem_cons_succ, List.getElem_cons_zero, List.setIfInBounds_toArray, List.set_cons_zero, List.set_cons_succ]
            refine reg_step hR 27 (by kernel_rfl) rfl fun K hK => ?_
            try simp only [Act.put, List.getElem_toArray, List.getElem_cons_succ, List.getElem_cons_zero, List.setIfInBounds_toArray, List.set_cons_zero, List.set_cons_succ]
            rw [if_pos (by rfl)]
            go_simp
            have hc := Sum_any (c := 2) u39 HLb.out (by omega) (by rw [cut2 la i]; omega)
            rw [cut2 la i] at hc
            refine hc.mono ?_; rintro e u40 ⟨rfl, hb⟩
            clear hc
            refine hK.out _ _ (hb.mono (by have := HBu39.out.size; omega)) ?_
            clear hK K
            have HBu40 := Lib.hid (bl_call HBu39.out hb)
            clear hb
            try simp only [Act.put, List.getElem_toArray, List.getElem_cons_succ, List.getElem_cons_zero, List.setIfInBounds_toArray, List.set_cons_zero, List.set_cons_succ]
            refine reg_take (v := .bool false) hR 28 rfl (by kernel_rfl) (by kernel_rfl) (by kernel_rfl) (fun _ _ _ h => by cases h.1) (by rfl) ?_ ?_
            · intro W hW; exact exec_nearr 36 32 Try.underlying36 _ _ rfl (by kernel_rfl) (sumS_length _) rfl rfl
            try simp only [Act.put, List.getElem_toArray, List.getElem_cons_succ, List.getElem_cons_zero, List.setIfInBounds_toArray, List.set_cons_zero, List.set_cons_succ]
            refine reg_take (v := .bool false) hR 29 rfl (by kernel_rfl) (by kernel_rfl) (by kernel_rfl) (fun _ _ _ h => by cases h.1) (by rfl) ?_ ?_
            · intro W hW; go_simp; try rfl
            try simp only [Act.put, List.getElem_toArray, List.getElem_cons_succ, List.getElem_cons_zero, List.setIfInBounds_toArray, List.set_cons_zero, List.set_cons_succ]
            refine reg_done (by kernel_rfl) ?_ _
            exact ⟨rfl, HBu40.out, slots_of (by kernel_rfl)⟩
        · try simp only [Act.put, List.getElem_toArray, List.getElem_cons_succ, List.getElem_cons_zero, List.setIfInBounds_toArray, List.set_cons_zero, List.set_cons_succ]
          rw [if_pos (by rfl)]
          go_simp
          refine hK.out _ _ ((Below.refl _ _).alloc (by have := HBu33.out.size; omega) _) ?_
          clear hK K
          have HBu41 := Lib.hid (bl_alloc HBu33.out (.cells #[.slice A i c, .slice (restAt A c i) (n - i) (c - i)] 31))
          have HLb := Lib.hid (Rl.two (((HS.out.below HBu33.out).more HBu33.out.size).take (show i ≤ n by omega)) (((HS.out.below HBu33.out).more HBu33.out.size).drop (show i ≤ n by omega)) 31)
          generalize hgu41 : u33.alloc (.cells #[.slice A i c, .slice (restAt A c i) (n - i) (c - i)] 31) = u41 at HBu41 HLb ⊢
          clear hgu41
          try simp only [Act.put, List.getElem_toArray, List.getElem_cons_succ, List.getElem_cons_zero, List.setIfInBounds_toArray, List.set_cons_zero, List.set_cons_succ]
          refine reg_step hR 18 (by kernel_rfl) rfl fun K hK => ?_
          try simp only [Act.put, List.getElem_toArray, List.getElem_cons_succ, List.getElem_cons_zero, List.setIfInBounds_toArray, List.set_cons_zero, List.set_cons_succ]
          rw [if_pos (by rfl)]
          go_simp
          refine hK.out _ _ ((Below.refl _ _).alloc (by have := HBu41.out.size; omega) _) ?_
          clear hK K
          have HBu42 := Lib.hid (bl_alloc HBu41.out (.cells #[.slice A n c] 31))
          have HLa := Lib.hid (Rl.one ((HS.out.below HBu41.out).more HBu41.out.size).rd ((HS.out.below HBu41.out).more HBu41.out.size).low 31)
          have HLb := Lib.hid ((HLb.out.below ((Below.refl _ _).alloc (Nat.le_refl _) (.cells #[.slice A n c] 31))).more ((Below.refl _ _).alloc (Nat.le_refl _) (.cells #[.slice A n c] 31) : Below _ _ (u41.alloc (.cells #[.slice A n c] 31))).size)
          generalize hgu42 : u41.alloc (.cells #[.slice A n c] 31) = u42 at HBu42 HLb HLa ⊢
          clear hgu42
          try simp only [Act.put, List.getElem_toArray, List.getElem_cons_succ, List.getElem_cons_zero, List.setIfInBounds_toArray, List.set_cons_zero, List.set_cons_succ]
          refine reg_step hR 19 (by kernel_rfl) rfl fun K hK => ?_
          try simp only [Act.put, List.getElem_toArray, List.getElem_cons_succ, List.getElem_cons_zero, List.setIfInBounds_toArray, List.set_cons_zero, List.set_cons_succ]
          rw [if_pos (by rfl)]
          go_simp
          have hc := Sum_any (c := 1) u42 HLa.out (by omega) (by rw [one_flat]; omega)
          rw [one_flat] at hc
          refine hc.mono ?_; rintro e u43 ⟨rfl, hb⟩
          clear hc
          refine hK.out _ _ (hb.mono (by have := HBu42.out.size; omega)) ?_
          clear hK K
          have HBu43 := Lib.hid (bl_call HBu42.out hb)
          have HLb := Lib.hid ((HLb.out.below hb).more hb.size)
          clear hb
          try simp only [Act.put, List.getElem_toArray, List.getElem_cons_succ, List.getElem_cons_zero, List.setIfInBounds_toArray, List.set_cons_zero, List.set_cons_succ]
          refine reg_step hR 27 (by kernel_rfl) rfl fun K hK => ?_
          try simp only [Act.put, List.getElem_toArray, List.getElem_cons_succ, List.getElem_cons_zero, List.setIfInBounds_toArray, List.set_cons_zero, List.set_cons_succ]
          rw [if_pos (by rfl)]
          go_simp
          have hc := Sum_any (c := 2) u43 HLb.out (by omega) (by rw [cut2 la i]; omega)
          rw [cut2 la i] at hc
          refine hc.mono ?_; rintro e u44 ⟨rfl, hb⟩
          clear hc
          refine hK.out _ _ (hb.mono (by have := HBu43.out.size; omega)) ?_
          clear hK K
          have HBu44 := Lib.hid (bl_call HBu43.out hb)
          clear hb
          try simp only [Act.put, List.getElem_toArray, List.getElem_cons_succ, List.getElem_cons_zero, List.setIfInBounds_toArray, List.set_cons_zero, List.set_cons_succ]
          refine reg_take (v := .bool false) hR 28 rfl (by kernel_rfl) (by kernel_rfl) (by kernel_rfl) (fun _ _ _ h => by cases h.1) (by rfl) ?_ ?_
          · intro W hW; exact exec_nearr 36 32 Try.underlying36 _ _ rfl (by kernel_rfl) (sumS_length _) rfl rfl
          try simp only [Act.put, List.getElem_toArray, List.getElem_cons_succ, List.getElem_cons_zero, List.setIfInBounds_toArray, List.set_cons_zero, List.set_cons_succ]
          refine reg_take (v := .bool false) hR 29 rfl (by kernel_rfl) (by kernel_rfl) (by kernel_rfl) (fun _ _ _ h => by cases h.1) (by rfl) ?_ ?_
          · intro W hW; go_simp; try rfl
          try simp only [Act.put, List.getElem_toArray, List.getElem_cons_succ, List.getElem_cons_zero, List.setIfInBounds_toArray, List.set_cons_zero, List.set_cons_succ]
          refine reg_done (by kernel_rfl) ?_ _
          exact ⟨rfl, HBu44.out, slots_of (by kernel_rfl)⟩
    · intro vs w2 hb2
      have HB2 := Lib.hid hb2
      clear hb2
      simp only [slots, Act.put, List.getElem_toArray, List.getElem_cons_succ, List.getElem_cons_zero, List.setIfInBounds_toArray, List.set_cons_zero, List.set_cons_succ, Nat.reduceAdd]
      go_wp2_with fail
      refine (Start_any w2).mono ?_; rintro e w3 ⟨rfl, hb3⟩
      have HB3 := Lib.hid (bl_call HB2.out hb3)
      clear hb3
      go_wp2_with fail
      refine (StartShort_any w3).mono ?_; rintro e w4 ⟨rfl, hb4⟩
      have HB4 := Lib.hid (bl_call HB3.out hb4)
      clear hb4
      have hs4 := HB4.out.size
      have HB4x := HB4.out.size
      have hsz : (w4.alloc (.cells z38.toArray 38)).heap.size = w4.heap.size + 1 := by simp
      have HLL := Lib.hid (show (cs64 startL).length = 8 by rw [cs64_length, startL_length])
      have HLS := Lib.hid (show (cs64 startS).length = 8 by rw [cs64_length, startS_length])
      have H7 := Lib.hid ((Bk.new w4 z38 38).old (.cells z38.toArray 38))
      have H8 : Hid (Bk ((w4.alloc (.cells z38.toArray 38)).alloc (.cells z38.toArray 38)) (w4.heap.size + 1) z38) := Lib.hid (by
        have := Bk.new (w4.alloc (.cells z38.toArray 38)) z38 38
        simpa using this)
      have H8b := Lib.hid (H8.out.other (show w4.heap.size + 1 ≠ w4.heap.size by omega) (cs64 startL).toArray)
      have H7b := Lib.hid ((H7.out.setRow (cs64 startL)).other (show w4.heap.size ≠ w4.heap.size + 1 by omega) (cs64 startS).toArray)
      have H8c := Lib.hid (H8b.out.setRow (cs64 startS))
      have HB5 := Lib.hid (bl_setRow (bl_setRow (bl_alloc (bl_alloc HB4.out (.cells z38.toArray 38)) (.cells z38.toArray 38)) (show w.heap.size ≤ w4.heap.size by omega) (cs64 startL).toArray) (show w.heap.size ≤ w4.heap.size + 1 by omega) (cs64 startS).toArray)
      go_wp2_with (first | (refine wpList_alloc_z rfl 38 rfl z38 zero38 ?_) | (refine wpList_store_bk rfl 38 _ _ rfl w4.heap.size rfl (cs64 startL) z38 rfl H7.out (by rw [HLL.out]; exact info38) (by rw [HLL.out]; exact len_z38) (cs64_one _) ?_) | (refine wpList_store_bk rfl 38 _ _ rfl (w4.alloc (.cells z38.toArray 38)).heap.size rfl (cs64 startS) z38 rfl (by rw [hsz]; exact H8b.out) (by rw [HLS.out]; exact info38) (by rw [HLS.out]; exact len_z38) (cs64_one _) ?_))
      generalize (((w4.alloc (.cells z38.toArray 38)).alloc (.cells z38.toArray 38)).setRow w4.heap.size (cs64 startL).toArray).setRow (w4.heap.size + 1) (cs64 startS).toArray = w5 at H7b H8c HB5 ⊢
      clear H7 H8 H8b
      refine (Own_any w5 ((HS.out.rd.below HB5.out).more HB5.out.size) (by omega)).mono ?_; rintro e w6 ⟨v6, rfl, ho6, hb6⟩
      obtain ⟨A6, c6, rfl, hr6⟩ := ho6.rdN hln
      have HB6 := Lib.hid (bl_call HB5.out hb6)
      have H76 := Lib.hid (H7b.out.keep hb6)
      have H86 := Lib.hid (H8c.out.keep hb6)
      have hl7 := H76.out.lt
      have hl8 := H86.out.lt
      clear ho6 hb6 H7b H8c
      go_wp2_with fail
      obtain ⟨P, hP⟩ : ∃ P, la ++ padB n = P := ⟨_, rfl⟩
      obtain ⟨Pn, hPn⟩ : ∃ Pn, P.length = Pn := ⟨_, rfl⟩
      refine (Pad_any w6 hr6 (by omega)).mono ?_; rintro e w7 ⟨v7, rfl, ho7, hb7⟩
      rw [hP] at ho7
      obtain ⟨Ap, cp, rfl, hrp, hap⟩ := ho7.rdTop
      rw [hPn] at hrp ⊢
      have HB7 := Lib.hid (bl_call HB6.out hb7)
      have H77 := Lib.hid (H76.out.keep hb7)
      have H87 := Lib.hid (H86.out.keep hb7)
      have HRP := Lib.hid hrp
      have HAP : Hid (∀ ad, Ap = some ad → ad.block ≠ w4.heap.size ∧ ad.block ≠ w4.heap.size + 1) := Lib.hid (fun ad h => by have := hap ad h; omega)
      clear ho7 hb7 hrp hap hr6 H76 H86
      have hpl := padB_length n
      have hLP : P.length = n + (padB n).length := by rw [← hP, List.length_append, hln]
      rw [hPn] at hLP
      have hq128 : Pn % 128 = 0 := by omega
      have hPg1 : n + 17 ≤ Pn := by omega
      have hPg2 : Pn ≤ n + 144 := by omega
      have htake : P.take n = la := by rw [← hP]; exact List.take_left' hln
      have hcp := HRP.out.cap
      have hncp : n ≤ cp := by omega
      have hP128 : Hid ((Pn : Int).tmod 128 = 0) := Lib.hid (by rw [Int.tmod_eq_emod_of_nonneg (by omega)]; omega)
      have hX := Lib.hid (HRP.out.drew_)
      have hXa : Hid (Rd w7.drew w7.heap.size Ap n cp la) := Lib.hid (by have := hX.out.take_ (k := n) (by omega); rwa [htake] at this)
      have hla : Hid (Rd w7.drew w.heap.size A n c la) := Lib.hid ((HS.out.rd.below HB7.out).drew_)
      clear hLP htake hpl
      go_wp2_with fail
      have hR := Sm.stays
      refine reg_start Sm follows_mixed ?_
      refine reg_take (v := ?_) hR 0 rfl (by kernel_rfl) (by kernel_rfl) (by kernel_rfl) (fun _ _ _ h => h) (by rfl) ?_ ?_
      rotate_left
      · intro W hW; go_simp; try with_reducible rfl
      try simp only [Act.put, List.getElem_toArray, List.getElem_cons_succ, List.getElem_cons_zero, List.setIfInBounds_toArray, List.set_cons_zero, List.set_cons_succ]
      refine reg_take (v := ?_) hR 1 rfl (by kernel_rfl) (by kernel_rfl) (by kernel_rfl) (fun _ _ _ h => h) (by rfl) ?_ ?_
      rotate_left
      · intro W hW; go_simp; try with_reducible rfl
      try simp only [Act.put, List.getElem_toArray, List.getElem_cons_succ, List.getElem_cons_zero, List.setIfInBounds_toArray, List.set_cons_zero, List.set_cons_succ]
      refine reg_take (v := .int .i64 0) hR 2 rfl (by kernel_rfl) (by kernel_rfl) (by kernel_rfl) (fun _ _ _ h => h) (by rfl) ?_ ?_
      · intro W hW; cases hW; go_simp; first | exact hP128.out | (rw [hP128.out])
      try simp only [Act.put, List.getElem_toArray, List.getElem_cons_succ, List.getElem_cons_zero, List.setIfInBounds_toArray, List.set_cons_zero, List.set_cons_succ]
      refine reg_take (v := .bool false) hR 3 rfl (by kernel_rfl) (by kernel_rfl) (by kernel_rfl) (fun _ _ _ h => h) (by rfl) ?_ ?_
      · intro W hW; cases hW; go_simp; try rfl
      try simp only [Act.put, List.getElem_toArray, List.getElem_cons_succ, List.getElem_cons_zero, List.setIfInBounds_toArray, List.set_cons_zero, List.set_cons_succ]
      refine reg_take (v := ?_) hR 4 rfl (by kernel_rfl) (by kernel_rfl) (by kernel_rfl) (fun _ _ _ h => h) (by rfl) ?_ ?_
      rotate_left
      · intro W hW; go_simp; try with_reducible rfl
      try simp only [Act.put, List.getElem_toArray, List.getElem_cons_succ, List.getElem_cons_zero, List.setIfInBounds_toArray, List.set_cons_zero, List.set_cons_succ]
      refine reg_take (v := ?_) hR 5 rfl (by kernel_rfl) (by kernel_rfl) (by kernel_rfl) (fun _ _ _ h => h) (by rfl) ?_ ?_
      rotate_left
      · intro W hW; go_simp; try with_reducible rfl
      try simp only [Act.put, List.getElem_toArray, List.getElem_cons_succ, List.getElem_cons_zero, List.setIfInBounds_toArray, List.set_cons_zero, List.set_cons_succ]
      refine reg_take (v := ?_) hR 6 rfl (by kernel_rfl) (by kernel_rfl) (by kernel_rfl) (fun _ _ _ h => h) (by rfl) ?_ ?_
      rotate_left
      · intro W hW; go_simp; try with_reducible rfl
      try simp only [Act.put, List.getElem_toArray, List.getElem_cons_succ, List.getElem_cons_zero, List.setIfInBounds_toArray, List.set_cons_zero, List.set_cons_succ]
      refine reg_take (v := ?_) hR 7 rfl (by kernel_rfl) (by kernel_rfl) (by kernel_rfl) (fun _ _ _ h => h) (by rfl) ?_ ?_
      rotate_left
      · intro W hW; go_simp; try with_reducible rfl
      try simp only [Act.put, List.getElem_toArray, List.getElem_cons_succ, List.getElem_cons_zero, List.setIfInBounds_toArray, List.set_cons_zero, List.set_cons_succ]
      refine reg_take (v := .slice Ap n cp) hR 8 rfl (by kernel_rfl) (by kernel_rfl) (by kernel_rfl) (fun _ _ _ h => h) (by rfl) ?_ ?_
      · intro W hW; cases hW; exact exec_slice31_hi _ _ rfl rfl rfl hncp rfl
      try simp only [Act.put, List.getElem_toArray, List.getElem_cons_succ, List.getElem_cons_zero, List.setIfInBounds_toArray, List.set_cons_zero, List.set_cons_succ]
      refine reg_take (v := .string (str la)) hR 9 rfl (by kernel_rfl) (by kernel_rfl) (by kernel_rfl) (fun _ _ _ h => h) (by rfl) ?_ ?_
      · intro W hW; cases hW; exact exec_str _ rfl rfl hXa.out
      try simp only [Act.put, List.getElem_toArray, List.getElem_cons_succ, List.getElem_cons_zero, List.setIfInBounds_toArray, List.set_cons_zero, List.set_cons_succ]
      refine reg_take (v := ?_) hR 10 rfl (by kernel_rfl) (by kernel_rfl) (by kernel_rfl) (fun _ _ _ h => h) (by rfl) ?_ ?_
      rotate_left
      · intro W hW; go_simp; try with_reducible rfl
      try simp only [Act.put, List.getElem_toArray, List.getElem_cons_succ, List.getElem_cons_zero, List.setIfInBounds_toArray, List.set_cons_zero, List.set_cons_succ]
      refine reg_take (v := .string (str la)) hR 11 rfl (by kernel_rfl) (by kernel_rfl) (by kernel_rfl) (fun _ _ _ h => h) (by rfl) ?_ ?_
      · intro W hW; cases hW; exact exec_str _ rfl rfl hla.out
      try simp only [Act.put, List.getElem_toArray, List.getElem_cons_succ, List.getElem_cons_zero, List.setIfInBounds_toArray, List.set_cons_zero, List.set_cons_succ]
      refine reg_take (v := .bool false) hR 12 rfl (by kernel_rfl) (by kernel_rfl) (by kernel_rfl) (fun _ _ _ h => h) (by rfl) ?_ ?_
      · intro W hW; cases hW; exact exec_nestr _ _ rfl rfl rfl
      try simp only [Act.put, List.getElem_toArray, List.getElem_cons_succ, List.getElem_cons_zero, List.setIfInBounds_toArray, List.set_cons_zero, List.set_cons_succ]
      refine reg_take (v := .bool false) hR 13 rfl (by kernel_rfl) (by kernel_rfl) (by kernel_rfl) (fun _ _ _ h => h) (by rfl) ?_ ?_
      · intro W hW; cases hW; go_simp; try rfl
      try simp only [Act.put, List.getElem_toArray, List.getElem_cons_succ, List.getElem_cons_zero, List.setIfInBounds_toArray, List.set_cons_zero, List.set_cons_succ]
      refine reg_take (v := ?_) hR 14 rfl (by kernel_rfl) (by kernel_rfl) (by kernel_rfl) (fun _ _ _ h => h) (by rfl) ?_ ?_
      rotate_left
      · intro W hW; go_simp; try with_reducible rfl
      try simp only [Act.put, List.getElem_toArray, List.getElem_cons_succ, List.getElem_cons_zero, List.setIfInBounds_toArray, List.set_cons_zero, List.set_cons_succ]
      refine reg_take (v := ?_) hR 15 rfl (by kernel_rfl) (by kernel_rfl) (by kernel_rfl) (fun _ _ _ h => h) (by rfl) ?_ ?_
      rotate_left
      · intro W hW; go_simp; try with_reducible rfl
      try simp only [Act.put, List.getElem_toArray, List.getElem_cons_succ, List.getElem_cons_zero, List.setIfInBounds_toArray, List.set_cons_zero, List.set_cons_succ]
      refine reg_take (v := ?_) hR 16 rfl (by kernel_rfl) (by kernel_rfl) (by kernel_rfl) (fun _ _ _ h => h) (by rfl) ?_ ?_
      rotate_left
      · intro W hW; go_simp; try with_reducible rfl
      try simp only [Act.put, List.getElem_toArray, List.getElem_cons_succ, List.getElem_cons_zero, List.setIfInBounds_toArray, List.set_cons_zero, List.set_cons_succ]
      refine reg_take (v := ?_) hR 17 rfl (by kernel_rfl) (by kernel_rfl) (by kernel_rfl) (fun _ _ _ h => h) (by rfl) ?_ ?_
      rotate_left
      · intro W hW; go_simp; try with_reducible rfl
      try simp only [Act.put, List.getElem_toArray, List.getElem_cons_succ, List.getElem_cons_zero, List.setIfInBounds_toArray, List.set_cons_zero, List.set_cons_succ]
      refine reg_take (v := ?_) hR 18 rfl (by kernel_rfl) (by kernel_rfl) (by kernel_rfl) (fun _ _ _ h => h) (by rfl) ?_ ?_
      rotate_left
      · intro W hW; go_simp; try with_reducible rfl
      try simp only [Act.put, List.getElem_toArray, List.getElem_cons_succ, List.getElem_cons_zero, List.setIfInBounds_toArray, List.set_cons_zero, List.set_cons_succ]
      refine reg_take (v := ?_) hR 19 rfl (by kernel_rfl) (by kernel_rfl) (by kernel_rfl) (fun _ _ _ h => h) (by rfl) ?_ ?_
      rotate_left
      · intro W hW; go_simp; try with_reducible rfl
      try simp only [Act.put, List.getElem_toArray, List.getElem_cons_succ, List.getElem_cons_zero, List.setIfInBounds_toArray, List.set_cons_zero, List.set_cons_succ]
      refine reg_take (v := .bool false) hR 20 rfl (by kernel_rfl) (by kernel_rfl) (by kernel_rfl) (fun _ _ _ h => h) (by rfl) ?_ ?_
      · intro W hW; cases hW; go_simp; first | done | omega | (rw [IntKind.wrap_i64]; omega)
      try simp only [Act.put, List.getElem_toArray, List.getElem_cons_succ, List.getElem_cons_zero, List.setIfInBounds_toArray, List.set_cons_zero, List.set_cons_succ]
      refine reg_take (v := .bool false) hR 21 rfl (by kernel_rfl) (by kernel_rfl) (by kernel_rfl) (fun _ _ _ h => h) (by rfl) ?_ ?_
      · intro W hW; cases hW; go_simp; try rfl
      try simp only [Act.put, List.getElem_toArray, List.getElem_cons_succ, List.getElem_cons_zero, List.setIfInBounds_toArray, List.set_cons_zero, List.set_cons_succ]
      refine reg_take (v := ?_) hR 22 rfl (by kernel_rfl) (by kernel_rfl) (by kernel_rfl) (fun _ _ _ h => h) (by rfl) ?_ ?_
      rotate_left
      · intro W hW; go_simp; try with_reducible rfl
      try simp only [Act.put, List.getElem_toArray, List.getElem_cons_succ, List.getElem_cons_zero, List.setIfInBounds_toArray, List.set_cons_zero, List.set_cons_succ]
      refine reg_take (v := ?_) hR 23 rfl (by kernel_rfl) (by kernel_rfl) (by kernel_rfl) (fun _ _ _ h => h) (by rfl) ?_ ?_
      rotate_left
      · intro W hW; go_simp; try with_reducible rfl
      try simp only [Act.put, List.getElem_toArray, List.getElem_cons_succ, List.getElem_cons_zero, List.setIfInBounds_toArray, List.set_cons_zero, List.set_cons_succ]
      refine reg_take (v := ?_) hR 24 rfl (by kernel_rfl) (by kernel_rfl) (by kernel_rfl) (fun _ _ _ h => h) (by rfl) ?_ ?_
      rotate_left
      · intro W hW; go_simp; try with_reducible rfl
      try simp only [Act.put, List.getElem_toArray, List.getElem_cons_succ, List.getElem_cons_zero, List.setIfInBounds_toArray, List.set_cons_zero, List.set_cons_succ]
      refine reg_take (v := ?_) hR 25 rfl (by kernel_rfl) (by kernel_rfl) (by kernel_rfl) (fun _ _ _ h => h) (by rfl) ?_ ?_
      rotate_left
      · intro W hW; go_simp; try with_reducible rfl
      try simp only [Act.put, List.getElem_toArray, List.getElem_cons_succ, List.getElem_cons_zero, List.setIfInBounds_toArray, List.set_cons_zero, List.set_cons_succ]
      refine reg_take (v := ?_) hR 26 rfl (by kernel_rfl) (by kernel_rfl) (by kernel_rfl) (fun _ _ _ h => h) (by rfl) ?_ ?_
      rotate_left
      · intro W hW; go_simp; try with_reducible rfl
      try simp only [Act.put, List.getElem_toArray, List.getElem_cons_succ, List.getElem_cons_zero, List.setIfInBounds_toArray, List.set_cons_zero, List.set_cons_succ]
      refine reg_take (v := ?_) hR 27 rfl (by kernel_rfl) (by kernel_rfl) (by kernel_rfl) (fun _ _ _ h => h) (by rfl) ?_ ?_
      rotate_left
      · intro W hW; go_simp; try with_reducible rfl
      try simp only [Act.put, List.getElem_toArray, List.getElem_cons_succ, List.getElem_cons_zero, List.setIfInBounds_toArray, List.set_cons_zero, List.set_cons_succ]
      refine reg_take (v := .bool false) hR 28 rfl (by kernel_rfl) (by kernel_rfl) (by kernel_rfl) (fun _ _ _ h => h) (by rfl) ?_ ?_
      · intro W hW; cases hW; go_simp; first | done | omega | (rw [IntKind.wrap_i64]; omega)
      try simp only [Act.put, List.getElem_toArray, List.getElem_cons_succ, List.getElem_cons_zero, List.setIfInBounds_toArray, List.set_cons_zero, List.set_cons_succ]
      refine reg_take (v := .bool false) hR 29 rfl (by kernel_rfl) (by kernel_rfl) (by kernel_rfl) (fun _ _ _ h => h) (by rfl) ?_ ?_
      · intro W hW; cases hW; go_simp; try rfl
      try simp only [Act.put, List.getElem_toArray, List.getElem_cons_succ, List.getElem_cons_zero, List.setIfInBounds_toArray, List.set_cons_zero, List.set_cons_succ]
      refine reg_done (by kernel_rfl) ?_ _
      have HX8 := Lib.hid hX.out
      have HB8 : Hid (Below w.heap.size w w7.drew) := Lib.hid HB7.out.drew
      have H78 := Lib.hid H77.out.drew
      have H88 := Lib.hid H87.out.drew
      have hz8 : w7.heap.size = w7.drew.heap.size := rfl
      rw [hz8] at HX8
      obtain ⟨adp, rfl, _, _⟩ := HX8.out.2.2 (by omega)
      clear hX hXa hla hP128 HB7 H77 H87 HRP HB2 HB3 HB4 HB5 HB6 HB1 hz8 hs4
      have hwg : w.heap.size ≤ w4.heap.size := HB4x
      generalize w7.drew = w8 at HX8 HB8 H78 H88 ⊢
      go_wp2_with fail
      generalize w4.heap.size = g at H78 H88 HAP hwg ⊢
      go_loopw [10] (fun v10 wr => ∃ t : Nat, 128 * t ≤ Pn ∧ v10 = .int .i64 ((128 * t : Nat) : Int) ∧ Hid (Bk wr g (cs64 (eat ALL t startL P))) ∧ Hid (Bk wr (g + 1) (cs64 (eat ALL t startS P))) ∧ Hid (Kp (mayp g) w8 wr)) (fun v10 _ => Pn - (intOf v10).toNat)
      case atStart => exact ⟨0, by omega, rfl, H78, H88, Lib.hid ((Kp.stays _).refl _)⟩
      case round =>
        obtain ⟨t, ht, rfl, HLo, HSo, HK⟩ := hrel
        by_cases hlt : 128 * t < Pn
        · have hle : 128 * t + 128 ≤ Pn := by omega
          have hrd := HX8.out.kpNe HK.out (Nat.le_refl _) (fun ad h => by have := HAP.out ad h; unfold mayp; omega)
          have hcut := Lib.hid (piece_cut (t := t) hrd (by omega))
          have hpl : ((P.drop (128 * t)).take 128).length = 128 := by rw [List.length_take, List.length_drop, hPn]; omega
          have HEL := Lib.hid (eat_behind ALL t startL P)
          have HES := Lib.hid (eat_behind ALL t startS P)
          have hl1 := eat_length ALL t startL P startL_length
          have hl2 := eat_length ALL t startS P startS_length
          generalize (P.drop (128 * t)).take 128 = pc at hcut hpl HEL HES
          generalize eat ALL t startL P = L1 at HLo HEL hl1
          generalize eat ALL t startS P = S1 at HSo HES hl2
          have HPC := Lib.hid (show (cs8 pc).length = 128 by rw [cs8_length, hpl])
          have HC1 := Lib.hid (show (cs64 L1).length = 8 by rw [cs64_length, hl1])
          have HC2 := Lib.hid (show (cs64 S1).length = 8 by rw [cs64_length, hl2])
          have hgr1 := HLo.out.lt
          have hgr2 := HSo.out.lt
          have HZ := Lib.hid (Bk.new wr z41 41)
          have HLb := Lib.hid ((HLo.out.old (.cells z41.toArray 41)).other (show g ≠ wr.heap.size by omega) (cs8 pc).toArray)
          have HSb := Lib.hid ((HSo.out.old (.cells z41.toArray 41)).other (show g + 1 ≠ wr.heap.size by omega) (cs8 pc).toArray)
          have HPb := Lib.hid (HZ.out.setRow (cs8 pc))
          have hob : Only wr.heap.size wr ((wr.alloc (.cells z41.toArray 41)).setRow wr.heap.size (cs8 pc).toArray) := Only.of_below (below_setRow ((Below.refl wr.heap.size wr).alloc (Nat.le_refl _) _) (Nat.le_refl _) _)
          have HKb : Hid (Kp (mayp g) w8 ((wr.alloc (.cells z41.toArray 41)).setRow wr.heap.size (cs8 pc).toArray)) := Lib.hid ((Kp.stays _).trans HK.out (Kp.of_old (below_setRow ((Below.refl wr.heap.size wr).alloc (Nat.le_refl _) _) (Nat.le_refl _) _)))
          clear hob hrd HLo HSo HK
          go_wp2_with (first | (refine wpList_arrayAt rfl 41 _ rfl rfl Try.underlying41 (by omega) ?_) | (refine wpList_load_at rfl 41 _ rfl _ rfl (cs8 pc) _ hcut.out Try.underlying41 rfl (by rw [HPC.out]; exact info41) ?_) | (refine wpList_alloc_z rfl 41 rfl z41 zero41 ?_) | (refine wpList_store_bk rfl 41 _ _ rfl wr.heap.size rfl (cs8 pc) z41 rfl HZ.out (by rw [HPC.out]; exact info41) (by rw [HPC.out]; exact len_z41) (cs8_all _) ?_))
          generalize (wr.alloc (.cells z41.toArray 41)).setRow wr.heap.size (cs8 pc).toArray = wb at HLb HSb HPb HKb ⊢
          have hne : ¬ mayp g wr.heap.size := by unfold mayp; omega
          generalize wr.heap.size = gp at HPb hne ⊢
          clear HZ hcut
          generalize hq : 128 * t = q at ⊢
          have hq2 : q + 128 ≤ Pn := by omega
          have hq3 : q < Pn := by omega
          have hd3 : decide (128 * (t : Int) < (Pn : Int)) = true := by simp; omega
          have h128 : q + 128 - q = 128 := by omega
          try simp only [hd3, h128]
          refine region_meetP (fun W => Hid (Bk W g (cs64 (mix ALL L1 pc))) ∧ Hid (Bk W (g + 1) (cs64 (mix ALL S1 pc))) ∧ Hid (Kp (mayp g) wb W)) 112 5 117 (.agg (cs64 (mix ALL S1 pc)).toArray) ?_ ?_
          · have hR := Kp.stays (mayp g)
            refine reg_start (Kp (mayp g)) follows_mixed ?_
            have HLu0 := Lib.hid HLb.out.drew
            have HSu0 := Lib.hid HSb.out.drew
            have HPu0 := Lib.hid HPb.out.drew
            have HKu0 := Lib.hid (kp_drew (may := mayp g) wb)
            have hm1 := mix_length ALL L1 pc hl1
            have hm2 := mix_length ALL S1 pc hl2
            have HM1 := Lib.hid (show (cs64 (mix ALL L1 pc)).length = 8 by rw [cs64_length, hm1])
            have HM2 := Lib.hid (show (cs64 (mix ALL S1 pc)).length = 8 by rw [cs64_length, hm2])
            have HPI1 := Lib.hid (fun W => Piece_any L1 pc W hl1 hpl)
            have HPI2 := Lib.hid (fun W => Piece_any S1 pc W hl2 hpl)
            generalize mix ALL L1 pc = M1 at HM1 HPI1 ⊢
            generalize mix ALL S1 pc = M2 at HM2 HPI2 ⊢
            clear HLb HSb HPb hm1 hm2
            generalize wb.drew = u0 at HLu0 HSu0 HPu0 HKu0 ⊢
            refine reg_take (v := .agg (cs8 pc).toArray) hR 1 rfl (by kernel_rfl) (by kernel_rfl) (by kernel_rfl) (fun _ _ _ h => by cases h.1) (by rfl) ?_ ?_
            · intro W hW; exact exec_load_at 41 _ rfl ⟨gp, 0, none⟩ rfl (cs8 pc) _ ((HPu0.out.kp hW hne).at_) Try.underlying41 rfl (by rw [HPC.out]; exact info41)
            try simp only [Act.put, List.getElem_toArray, List.getElem_cons_succ, List.getElem_cons_zero, List.setIfInBounds_toArray, List.set_cons_zero, List.set_cons_succ]
            refine reg_take (v := .agg (cs8 pc).toArray) hR 4 rfl (by kernel_rfl) (by kernel_rfl) (by kernel_rfl) (fun _ _ _ h => by cases h.1) (by rfl) ?_ ?_
            · intro W hW; exact exec_load_at 41 _ rfl ⟨gp, 0, none⟩ rfl (cs8 pc) _ ((HPu0.out.kp hW hne).at_) Try.underlying41 rfl (by rw [HPC.out]; exact info41)
            try simp only [Act.put, List.getElem_toArray, List.getElem_cons_succ, List.getElem_cons_zero, List.setIfInBounds_toArray, List.set_cons_zero, List.set_cons_succ]
            refine reg_branch hR 0 3 (by kernel_rfl) rfl rfl (fun K hK => ?_) (fun K hK => ?_)
            · try simp only [Act.put, List.getElem_toArray, List.getElem_cons_succ, List.getElem_cons_zero, List.setIfInBounds_toArray, List.set_cons_zero, List.set_cons_succ]
              rw [if_pos (by rfl)]
              refine wp_val (.agg (cs64 L1).toArray) (exec_load_at 38 _ rfl ⟨g, 0, none⟩ rfl (cs64 L1) _ (HLu0.out.at_) Try.underlying38 rfl (by rw [HC1.out]; exact info38)) ?_
              refine hK.out _ _ ((Kp.stays _).refl _) ?_
              clear hK K
              try simp only [Act.put, List.getElem_toArray, List.getElem_cons_succ, List.getElem_cons_zero, List.setIfInBounds_toArray, List.set_cons_zero, List.set_cons_succ]
              refine reg_branch hR 2 3 (by kernel_rfl) rfl rfl (fun K hK => ?_) (fun K hK => ?_)
              · try simp only [Act.put, List.getElem_toArray, List.getElem_cons_succ, List.getElem_cons_zero, List.setIfInBounds_toArray, List.set_cons_zero, List.set_cons_succ]
                rw [if_pos (by rfl)]
                go_simp
                refine (HPI1.out u0).mono ?_; rintro e u45 ⟨rfl, hb⟩
                refine hK.out _ _ (Kp.of_old hb) ?_
                clear hK K
                have HLu45 := Lib.hid (HLu0.out.keep hb)
                have HSu45 := Lib.hid (HSu0.out.keep hb)
                have HKu45 := Lib.hid ((Kp.stays _).trans HKu0.out (Kp.of_old hb))
                clear hb
                try simp only [Act.put, List.getElem_toArray, List.getElem_cons_succ, List.getElem_cons_zero, List.setIfInBounds_toArray, List.set_cons_zero, List.set_cons_succ]
                refine reg_step hR 3 (by kernel_rfl) rfl fun K hK => ?_
                try simp only [Act.put, List.getElem_toArray, List.getElem_cons_succ, List.getElem_cons_zero, List.setIfInBounds_toArray, List.set_cons_zero, List.set_cons_succ]
                rw [if_pos (by rfl)]
                refine wp_val (.agg (cs64 S1).toArray) (exec_load_at 38 _ rfl ⟨(g + 1), 0, none⟩ rfl (cs64 S1) _ (HSu45.out.at_) Try.underlying38 rfl (by rw [HC2.out]; exact info38)) ?_
                refine hK.out _ _ ((Kp.stays _).refl _) ?_
                clear hK K
                try simp only [Act.put, List.getElem_toArray, List.getElem_cons_succ, List.getElem_cons_zero, List.setIfInBounds_toArray, List.set_cons_zero, List.set_cons_succ]
                refine reg_step hR 5 (by kernel_rfl) rfl fun K hK => ?_
                try simp only [Act.put, List.getElem_toArray, List.getElem_cons_succ, List.getElem_cons_zero, List.setIfInBounds_toArray, List.set_cons_zero, List.set_cons_succ]
                rw [if_pos (by rfl)]
                go_simp
                refine (HPI2.out u45).mono ?_; rintro e u46 ⟨rfl, hb⟩
                refine hK.out _ _ (Kp.of_old hb) ?_
                clear hK K
                have HLu46 := Lib.hid (HLu45.out.keep hb)
                have HSu46 := Lib.hid (HSu45.out.keep hb)
                have HKu46 := Lib.hid ((Kp.stays _).trans HKu45.out (Kp.of_old hb))
                clear hb
                try simp only [Act.put, List.getElem_toArray, List.getElem_cons_succ, List.getElem_cons_zero, List.setIfInBounds_toArray, List.set_cons_zero, List.set_cons_succ]
                refine reg_step hR 6 (by kernel_rfl) rfl fun K hK => ?_
                try simp only [Act.put, List.getElem_toArray, List.getElem_cons_succ, List.getElem_cons_zero, List.setIfInBounds_toArray, List.set_cons_zero, List.set_cons_succ]
                rw [if_pos (by rfl)]
                refine wp_store_bk 38 _ _ rfl g rfl (cs64 M1) (cs64 L1) rfl HLu46.out (by rw [HM1.out]; exact info38) (by rw [HC1.out, HM1.out]) (cs64_one _) ?_
                refine hK.out _ _ (kp_setRow _ _ _ (Or.inl rfl)) ?_
                clear hK K
                have HLu47 := Lib.hid (HLu46.out.setRow (cs64 M1))
                have HSu47 := Lib.hid (HSu46.out.other (show g + 1 ≠ g by omega) (cs64 M1).toArray)
                have HKu47 := Lib.hid ((Kp.stays _).trans HKu46.out (kp_setRow (may := mayp g) u46 g (cs64 M1).toArray (Or.inl rfl)))
                generalize u46.setRow g (cs64 M1).toArray = u47 at HLu47 HSu47 HKu47 ⊢
                try simp only [Act.put, List.getElem_toArray, List.getElem_cons_succ, List.getElem_cons_zero, List.setIfInBounds_toArray, List.set_cons_zero, List.set_cons_succ]
                refine reg_step hR 7 (by kernel_rfl) rfl fun K hK => ?_
                try simp only [Act.put, List.getElem_toArray, List.getElem_cons_succ, List.getElem_cons_zero, List.setIfInBounds_toArray, List.set_cons_zero, List.set_cons_succ]
                rw [if_pos (by rfl)]
                refine wp_store_bk 38 _ _ rfl (g + 1) rfl (cs64 M2) (cs64 S1) rfl HSu47.out (by rw [HM2.out]; exact info38) (by rw [HC2.out, HM2.out]) (cs64_one _) ?_
                refine hK.out _ _ (kp_setRow _ _ _ (Or.inr rfl)) ?_
                clear hK K
                have HSu48 := Lib.hid (HSu47.out.setRow (cs64 M2))
                have HLu48 := Lib.hid (HLu47.out.other (show g ≠ g + 1 by omega) (cs64 M2).toArray)
                have HKu48 := Lib.hid ((Kp.stays _).trans HKu47.out (kp_setRow (may := mayp g) u47 (g + 1) (cs64 M2).toArray (Or.inr rfl)))
                generalize u47.setRow (g + 1) (cs64 M2).toArray = u48 at HLu48 HSu48 HKu48 ⊢
                try simp only [Act.put, List.getElem_toArray, List.getElem_cons_succ, List.getElem_cons_zero, List.setIfInBounds_toArray, List.set_cons_zero, List.set_cons_succ]
                refine reg_done (by kernel_rfl) ?_ _
                exact ⟨rfl, ⟨HLu48, HSu48, HKu48⟩, slots_of (by kernel_rfl)⟩
              · try simp only [Act.put, List.getElem_toArray, List.getElem_cons_succ, List.getElem_cons_zero, List.setIfInBounds_toArray, List.set_cons_zero, List.set_cons_succ]
                rw [if_pos (by rfl)]
                refine wp_val (.agg (cs64 S1).toArray) (exec_load_at 38 _ rfl ⟨(g + 1), 0, none⟩ rfl (cs64 S1) _ (HSu0.out.at_) Try.underlying38 rfl (by rw [HC2.out]; exact info38)) ?_
                refine hK.out _ _ ((Kp.stays _).refl _) ?_
                clear hK K
                try simp only [Act.put, List.getElem_toArray, List.getElem_cons_succ, List.getElem_cons_zero, List.setIfInBounds_toArray, List.set_cons_zero, List.set_cons_succ]
                refine reg_step hR 2 (by kernel_rfl) rfl fun K hK => ?_
                try simp only [Act.put, List.getElem_toArray, List.getElem_cons_succ, List.getElem_cons_zero, List.setIfInBounds_toArray, List.set_cons_zero, List.set_cons_succ]
                rw [if_pos (by rfl)]
                go_simp
                refine (HPI1.out u0).mono ?_; rintro e u49 ⟨rfl, hb⟩
                refine hK.out _ _ (Kp.of_old hb) ?_
                clear hK K
                have HLu49 := Lib.hid (HLu0.out.keep hb)
                have HSu49 := Lib.hid (HSu0.out.keep hb)
                have HKu49 := Lib.hid ((Kp.stays _).trans HKu0.out (Kp.of_old hb))
                clear hb
                try simp only [Act.put, List.getElem_toArray, List.getElem_cons_succ, List.getElem_cons_zero, List.setIfInBounds_toArray, List.set_cons_zero, List.set_cons_succ]
                refine reg_step hR 5 (by kernel_rfl) rfl fun K hK => ?_
                try simp only [Act.put, List.getElem_toArray, List.getElem_cons_succ, List.getElem_cons_zero, List.setIfInBounds_toArray, List.set_cons_zero, List.set_cons_succ]
                rw [if_pos (by rfl)]
                go_simp
                refine (HPI2.out u49).mono ?_; rintro e u50 ⟨rfl, hb⟩
                refine hK.out _ _ (Kp.of_old hb) ?_
                clear hK K
                have HLu50 := Lib.hid (HLu49.out.keep hb)
                have HSu50 := Lib.hid (HSu49.out.keep hb)
                have HKu50 := Lib.hid ((Kp.stays _).trans HKu49.out (Kp.of_old hb))
                clear hb
                try simp only [Act.put, List.getElem_toArray, List.getElem_cons_succ, List.getElem_cons_zero, List.setIfInBounds_toArray, List.set_cons_zero, List.set_cons_succ]
                refine reg_step hR 6 (by kernel_rfl) rfl fun K hK => ?_
                try simp only [Act.put, List.getElem_toArray, List.getElem_cons_succ, List.getElem_cons_zero, List.setIfInBounds_toArray, List.set_cons_zero, List.set_cons_succ]
                rw [if_pos (by rfl)]
                refine wp_store_bk 38 _ _ rfl g rfl (cs64 M1) (cs64 L1) rfl HLu50.out (by rw [HM1.out]; exact info38) (by rw [HC1.out, HM1.out]) (cs64_one _) ?_
                refine hK.out _ _ (kp_setRow _ _ _ (Or.inl rfl)) ?_
                clear hK K
                have HLu51 := Lib.hid (HLu50.out.setRow (cs64 M1))
                have HSu51 := Lib.hid (HSu50.out.other (show g + 1 ≠ g by omega) (cs64 M1).toArray)
                have HKu51 := Lib.hid ((Kp.stays _).trans HKu50.out (kp_setRow (may := mayp g) u50 g (cs64 M1).toArray (Or.inl rfl)))
                generalize u50.setRow g (cs64 M1).toArray = u51 at HLu51 HSu51 HKu51 ⊢
                try simp only [Act.put, List.getElem_toArray, List.getElem_cons_succ, List.getElem_cons_zero, List.setIfInBounds_toArray, List.set_cons_zero, List.set_cons_succ]
                refine reg_step hR 7 (by kernel_rfl) rfl fun K hK => ?_
                try simp only [Act.put, List.getElem_toArray, List.getElem_cons_succ, List.getElem_cons_zero, List.setIfInBounds_toArray, List.set_cons_zero, List.set_cons_succ]
                rw [if_pos (by rfl)]
                refine wp_store_bk 38 _ _ rfl (g + 1) rfl (cs64 M2) (cs64 S1) rfl HSu51.out (by rw [HM2.out]; exact info38) (by rw [HC2.out, HM2.out]) (cs64_one _) ?_
                refine hK.out _ _ (kp_setRow _ _ _ (Or.inr rfl)) ?_
                clear hK K
                have HSu52 := Lib.hid (HSu51.out.setRow (cs64 M2))
                have HLu52 := Lib.hid (HLu51.out.other (show g ≠ g + 1 by omega) (cs64 M2).toArray)
                have HKu52 := Lib.hid ((Kp.stays _).trans HKu51.out (kp_setRow (may := mayp g) u51 (g + 1) (cs64 M2).toArray (Or.inr rfl)))
                generalize u51.setRow (g + 1) (cs64 M2).toArray = u52 at HLu52 HSu52 HKu52 ⊢
                try simp only [Act.put, List.getElem_toArray, List.getElem_cons_succ, List.getElem_cons_zero, List.setIfInBounds_toArray, List.set_cons_zero, List.set_cons_succ]
                refine reg_done (by kernel_rfl) ?_ _
                exact ⟨rfl, ⟨HLu52, HSu52, HKu52⟩, slots_of (by kernel_rfl)⟩
            · try simp only [Act.put, List.getElem_toArray, List.getElem_cons_succ, List.getElem_cons_zero, List.setIfInBounds_toArray, List.set_cons_zero, List.set_cons_succ]
              rw [if_pos (by rfl)]
              refine wp_val (.agg (cs64 S1).toArray) (exec_load_at 38 _ rfl ⟨(g + 1), 0, none⟩ rfl (cs64 S1) _ (HSu0.out.at_) Try.underlying38 rfl (by rw [HC2.out]; exact info38)) ?_
              refine hK.out _ _ ((Kp.stays _).refl _) ?_
              clear hK K
              try simp only [Act.put, List.getElem_toArray, List.getElem_cons_succ, List.getElem_cons_zero, List.setIfInBounds_toArray, List.set_cons_zero, List.set_cons_succ]
              refine reg_step hR 0 (by kernel_rfl) rfl fun K hK => ?_
              try simp only [Act.put, List.getElem_toArray, List.getElem_cons_succ, List.getElem_cons_zero, List.setIfInBounds_toArray, List.set_cons_zero, List.set_cons_succ]
              rw [if_pos (by rfl)]
              refine wp_val (.agg (cs64 L1).toArray) (exec_load_at 38 _ rfl ⟨g, 0, none⟩ rfl (cs64 L1) _ (HLu0.out.at_) Try.underlying38 rfl (by rw [HC1.out]; exact info38)) ?_
              refine hK.out _ _ ((Kp.stays _).refl _) ?_
              clear hK K
              try simp only [Act.put, List.getElem_toArray, List.getElem_cons_succ, List.getElem_cons_zero, List.setIfInBounds_toArray, List.set_cons_zero, List.set_cons_succ]
              refine reg_step hR 2 (by kernel_rfl) rfl fun K hK => ?_
              try simp only [Act.put, List.getElem_toArray, List.getElem_cons_succ, List.getElem_cons_zero, List.setIfInBounds_toArray, List.set_cons_zero, List.set_cons_succ]
              rw [if_pos (by rfl)]
              go_simp
              refine (HPI1.out u0).mono ?_; rintro e u53 ⟨rfl, hb⟩
              refine hK.out _ _ (Kp.of_old hb) ?_
              clear hK K
              have HLu53 := Lib.hid (HLu0.out.keep hb)
              have HSu53 := Lib.hid (HSu0.out.keep hb)
              have HKu53 := Lib.hid ((Kp.stays _).trans HKu0.out (Kp.of_old hb))
              clear hb
              try simp only [Act.put, List.getElem_toArray, List.getElem_cons_succ, List.getElem_cons_zero, List.setIfInBounds_toArray, List.set_cons_zero, List.set_cons_succ]
              refine reg_step hR 5 (by kernel_rfl) rfl fun K hK => ?_
              try simp only [Act.put, List.getElem_toArray, List.getElem_cons_succ, List.getElem_cons_zero, List.setIfInBounds_toArray, List.set_cons_zero, List.set_cons_succ]
              rw [if_pos (by rfl)]
              go_simp
              refine (HPI2.out u53).mono ?_; rintro e u54 ⟨rfl, hb⟩
              refine hK.out _ _ (Kp.of_old hb) ?_
              clear hK K
              have HLu54 := Lib.hid (HLu53.out.keep hb)
              have HSu54 := Lib.hid (HSu53.out.keep hb)
              have HKu54 := Lib.hid ((Kp.stays _).trans HKu53.out (Kp.of_old hb))
              clear hb
              try simp only [Act.put, List.getElem_toArray, List.getElem_cons_succ, List.getElem_cons_zero, List.setIfInBounds_toArray, List.set_cons_zero, List.set_cons_succ]
              refine reg_step hR 6 (by kernel_rfl) rfl fun K hK => ?_
              try simp only [Act.put, List.getElem_toArray, List.getElem_cons_succ, List.getElem_cons_zero, List.setIfInBounds_toArray, List.set_cons_zero, List.set_cons_succ]
              rw [if_pos (by rfl)]
              refine wp_store_bk 38 _ _ rfl g rfl (cs64 M1) (cs64 L1) rfl HLu54.out (by rw [HM1.out]; exact info38) (by rw [HC1.out, HM1.out]) (cs64_one _) ?_
              refine hK.out _ _ (kp_setRow _ _ _ (Or.inl rfl)) ?_
              clear hK K
              have HLu55 := Lib.hid (HLu54.out.setRow (cs64 M1))
              have HSu55 := Lib.hid (HSu54.out.other (show g + 1 ≠ g by omega) (cs64 M1).toArray)
              have HKu55 := Lib.hid ((Kp.stays _).trans HKu54.out (kp_setRow (may := mayp g) u54 g (cs64 M1).toArray (Or.inl rfl)))
              generalize u54.setRow g (cs64 M1).toArray = u55 at HLu55 HSu55 HKu55 ⊢
              try simp only [Act.put, List.getElem_toArray, List.getElem_cons_succ, List.getElem_cons_zero, List.setIfInBounds_toArray, List.set_cons_zero, List.set_cons_succ]
              refine reg_step hR 7 (by kernel_rfl) rfl fun K hK => ?_
              try simp only [Act.put, List.getElem_toArray, List.getElem_cons_succ, List.getElem_cons_zero, List.setIfInBounds_toArray, List.set_cons_zero, List.set_cons_succ]
              rw [if_pos (by rfl)]
              refine wp_store_bk 38 _ _ rfl (g + 1) rfl (cs64 M2) (cs64 S1) rfl HSu55.out (by rw [HM2.out]; exact info38) (by rw [HC2.out, HM2.out]) (cs64_one _) ?_
              refine hK.out _ _ (kp_setRow _ _ _ (Or.inr rfl)) ?_
              clear hK K
              have HSu56 := Lib.hid (HSu55.out.setRow (cs64 M2))
              have HLu56 := Lib.hid (HLu55.out.other (show g ≠ g + 1 by omega) (cs64 M2).toArray)
              have HKu56 := Lib.hid ((Kp.stays _).trans HKu55.out (kp_setRow (may := mayp g) u55 (g + 1) (cs64 M2).toArray (Or.inr rfl)))
              generalize u55.setRow (g + 1) (cs64 M2).toArray = u56 at HLu56 HSu56 HKu56 ⊢
              try simp only [Act.put, List.getElem_toArray, List.getElem_cons_succ, List.getElem_cons_zero, List.setIfInBounds_toArray, List.set_cons_zero, List.set_cons_succ]
              refine reg_done (by kernel_rfl) ?_ _
              exact ⟨rfl, ⟨HLu56, HSu56, HKu56⟩, slots_of (by kernel_rfl)⟩
          · rintro vs2 w9 ⟨HL9, HS9, HK9⟩
            simp only [slots, Act.put, List.getElem_toArray, List.getElem_cons_succ, List.getElem_cons_zero, List.setIfInBounds_toArray, List.set_cons_zero, List.set_cons_succ, Nat.reduceAdd]
            go_wp2
            go_roundw
            case rel => exact ⟨t + 1, by omega, val_int (by omega), by rw [HEL.out]; exact HL9, by rw [HES.out]; exact HS9, Lib.hid ((Kp.stays _).trans HKb.out HK9.out)⟩
            case measure => simp [intOf]; omega
        · obtain rfl : 128 * t = Pn := by omega
          have HBW := Lib.hid (bl_kp HB8.out HK.out (by intro k hk; unfold mayp at hk; omega))
          have HSL := Lib.hid (show sumL la = signsOf (eat ALL t startL P) by rw [sumL, eat_whole, hln, hP, hPn, show 128 * t / 128 = t by omega])
          have HSS := Lib.hid (show sumS la = (signsOf (eat ALL t startS P)).take 32 by rw [sumS, eat_whole, hln, hP, hPn, show 128 * t / 128 = t by omega])
          have HLX := Lib.hid (eat_length ALL t startL P startL_length)
          have HLY := Lib.hid (eat_length ALL t startS P startS_length)
          generalize eat ALL t startL P = X at HLo HSL HLX
          generalize eat ALL t startS P = Y at HSo HSS HLY
          have HSLL := Lib.hid (sumL_length la)
          have HSSL := Lib.hid (sumS_length la)
          clear HK HX8 HB8 H78 H88 HAP
          go_wp2_with fail
          have hsl := (HS.out.below HBW.out).more HBW.out.size
          have hc := Sum512_any (c := 1) _ (Rl.one hsl.rd hsl.low 31) (by omega) (by rw [one_flat]; omega)
          rw [one_flat] at hc
          refine hc.mono ?_; rintro e u1 ⟨rfl, hb⟩
          have hba := bl_alloc (bl0 wr) (.cells #[.slice A n c] 31)
          have HLo := Lib.hid ((HLo.out.keep hba).keep hb)
          have HSo := Lib.hid ((HSo.out.keep hba).keep hb)
          have HB1 := Lib.hid (bl_call (bl_call HBW.out hba) hb)
          clear hc hb hba hsl HBW
          go_wp2_with fail
          have hsl := (HS.out.below HB1.out).more HB1.out.size
          have hc := Sum_any (c := 1) _ (Rl.one hsl.rd hsl.low 31) (by omega) (by rw [one_flat]; omega)
          rw [one_flat] at hc
          refine hc.mono ?_; rintro e u2 ⟨rfl, hb⟩
          have hba := bl_alloc (bl0 u1) (.cells #[.slice A n c] 31)
          have HLo := Lib.hid ((HLo.out.keep hba).keep hb)
          have HSo := Lib.hid ((HSo.out.keep hba).keep hb)
          have HB2 := Lib.hid (bl_call (bl_call HB1.out hba) hb)
          clear hc hb hba hsl HB1
          have HTA := Lib.hid ((Bk.new u2 z33 33).old (.cells z36.toArray 36))
          have hraw : (u2.alloc (.cells z33.toArray 33)).heap.size = u2.heap.size + 1 := by simp
          have HTB0 : Bk ((u2.alloc (.cells z33.toArray 33)).alloc (.cells z36.toArray 36)) (u2.alloc (.cells z33.toArray 33)).heap.size z36 := Bk.new (u2.alloc (.cells z33.toArray 33)) z36 36
          have HTB := Lib.hid (HTB0.other (show (u2.alloc (.cells z33.toArray 33)).heap.size ≠ u2.heap.size by omega) (cs8 (sumL la)).toArray)
          have HIL := Lib.hid (show (Try.prog.info? 33).map (·.size) = some (cs8 (sumL la)).length by rw [cs8_length, HSLL.out]; exact info33)
          have HIS := Lib.hid (show (Try.prog.info? 36).map (·.size) = some (cs8 (sumS la)).length by rw [cs8_length, HSSL.out]; exact info36)
          have HZL := Lib.hid (show z33.length = (cs8 (sumL la)).length by rw [cs8_length, HSLL.out, len_z33])
          have HZS := Lib.hid (show z36.length = (cs8 (sumS la)).length by rw [cs8_length, HSSL.out, len_z36])
          clear HTB0 hraw
          go_wp2_with (first | (refine wpList_alloc_z rfl 33 rfl z33 zero33 ?_) | (refine wpList_alloc_z rfl 36 rfl z36 zero36 ?_) | (refine wpList_store_bk rfl 33 _ _ rfl u2.heap.size rfl (cs8 (sumL la)) z33 rfl HTA.out HIL.out HZL.out (cs8_all _) ?_) | (refine wpList_store_bk rfl 36 _ _ rfl (u2.alloc (.cells z33.toArray 33)).heap.size rfl (cs8 (sumS la)) z36 rfl HTB.out HIS.out HZS.out (cs8_all _) ?_) | fail)
          clear HTA HTB HIL HIS HZL HZS
          obtain ⟨u3, p, q, e1, e2, e3, hp, hq, hold, hbl⟩ := nv36_ex u2 (cs8 (sumL la)) (cs8 (sumS la))
          try rw [show (u2.alloc (.cells z33.toArray 33)).heap.size = u2.heap.size + 1 by simp]
          rw [e1, e3, e2]
          have HP := Lib.hid hp
          have HQ := Lib.hid hq
          have HLo := Lib.hid (hold _ _ HLo.out)
          have HSo := Lib.hid (hold _ _ HSo.out)
          have HB3 := Lib.hid (bl_call HB2.out hbl)
          clear e1 e2 e3 hp hq hold hbl HB2
          go_wp2_with fail
          go_loopw [14] (fun v14 wr => ∃ j : Nat, j ≤ 64 ∧ v14 = .int .i64 (j : Int) ∧ Hid (Bk wr p (cs8 (sumL la))) ∧ Hid (Bk wr q (cs8 (sumS la))) ∧ Hid (Bk wr g (cs64 X)) ∧ Hid (Bk wr (g + 1) (cs64 Y)) ∧ Hid (Below w.heap.size w wr)) (fun v14 _ => 64 - (intOf v14).toNat)
          case atStart => exact ⟨0, by omega, rfl, HP, HQ, HLo, HSo, HB3⟩
          case round =>
            clear HP HQ HLo HSo HB3
            obtain ⟨j, hj, rfl, HP, HQ, HLo, HSo, HB⟩ := hrel
            by_cases hjl : j < 64
            · obtain ⟨x, bl, HXJ, HPJ, HBL⟩ := byte_in X (sumL la) j (by rw [HLX.out]; exact hjl) (by rw [HSL.out])
              have hj8 : j / 8 < 8 := by omega
              by_cases hlo : j < 32
              · obtain ⟨y, bs, HYJ, HQJ, HBS⟩ := byte_in Y (sumS la) j (by rw [HLY.out]; exact hjl) (by rw [HSS.out, List.getElem?_take, if_pos hlo])
                go_wp2_with fail
                have hR := Sm.stays
                refine reg_start Sm follows_mixed ?_
                refine reg_take (v := ?_) hR 0 rfl (by kernel_rfl) (by kernel_rfl) (by kernel_rfl) (fun _ _ _ h => h) (by rfl) ?_ ?_
                rotate_left
                · intro W hW; go_simp; try with_reducible rfl
                try simp only [Act.put, List.getElem_toArray, List.getElem_cons_succ, List.getElem_cons_zero, List.setIfInBounds_toArray, List.set_cons_zero, List.set_cons_succ]
                refine reg_take (v := .pointer (some ⟨p, j, none⟩)) hR 1 rfl (by kernel_rfl) (by kernel_rfl) (by kernel_rfl) (fun _ _ _ h => h) (by rfl) ?_ ?_
                · intro W hW; cases hW; exact exec_at8 33 _ _ rfl Try.underlying33 rfl rfl (by omega)
                try simp only [Act.put, List.getElem_toArray, List.getElem_cons_succ, List.getElem_cons_zero, List.setIfInBounds_toArray, List.set_cons_zero, List.set_cons_succ]
                refine reg_take (v := .int .u8 ((bl : Nat) : Int)) hR 2 rfl (by kernel_rfl) (by kernel_rfl) (by kernel_rfl) (fun _ _ _ h => h) (by rfl) ?_ ?_
                · intro W hW; cases hW; exact exec_load_cell 5 _ rfl Try.isAgg5 rfl (HP.out.drew.cell HPJ.out)
                try simp only [Act.put, List.getElem_toArray, List.getElem_cons_succ, List.getElem_cons_zero, List.setIfInBounds_toArray, List.set_cons_zero, List.set_cons_succ]
                refine reg_take (v := ?_) hR 3 rfl (by kernel_rfl) (by kernel_rfl) (by kernel_rfl) (fun _ _ _ h => h) (by rfl) ?_ ?_
                rotate_left
                · intro W hW; go_simp; try with_reducible rfl
                try simp only [Act.put, List.getElem_toArray, List.getElem_cons_succ, List.getElem_cons_zero, List.setIfInBounds_toArray, List.set_cons_zero, List.set_cons_succ]
                refine reg_take (v := .int .i64 ((j / 8 : Nat) : Int)) hR 4 rfl (by kernel_rfl) (by kernel_rfl) (by kernel_rfl) (fun _ _ _ h => h) (by rfl) ?_ ?_
                · intro W hW; cases hW; exact exec_quo8 _ rfl rfl hjl
                try simp only [Act.put, List.getElem_toArray, List.getElem_cons_succ, List.getElem_cons_zero, List.setIfInBounds_toArray, List.set_cons_zero, List.set_cons_succ]
                refine reg_take (v := .pointer (some ⟨g, j / 8, none⟩)) hR 5 rfl (by kernel_rfl) (by kernel_rfl) (by kernel_rfl) (fun _ _ _ h => h) (by rfl) ?_ ?_
                · intro W hW; cases hW; exact exec_at64 38 _ _ rfl Try.underlying38 rfl rfl hj8
                try simp only [Act.put, List.getElem_toArray, List.getElem_cons_succ, List.getElem_cons_zero, List.setIfInBounds_toArray, List.set_cons_zero, List.set_cons_succ]
                refine reg_take (v := .int .u64 ((x : Nat) : Int)) hR 6 rfl (by kernel_rfl) (by kernel_rfl) (by kernel_rfl) (fun _ _ _ h => h) (by rfl) ?_ ?_
                · intro W hW; cases hW; exact exec_load_cell 24 _ rfl Try.isAgg24 rfl (HLo.out.drew.cell HXJ.out)
                try simp only [Act.put, List.getElem_toArray, List.getElem_cons_succ, List.getElem_cons_zero, List.setIfInBounds_toArray, List.set_cons_zero, List.set_cons_succ]
                refine reg_take (v := ?_) hR 7 rfl (by kernel_rfl) (by kernel_rfl) (by kernel_rfl) (fun _ _ _ h => h) (by rfl) ?_ ?_
                rotate_left
                · intro W hW; go_simp; try with_reducible rfl
                try simp only [Act.put, List.getElem_toArray, List.getElem_cons_succ, List.getElem_cons_zero, List.setIfInBounds_toArray, List.set_cons_zero, List.set_cons_succ]
                refine reg_take (v := .int .i64 ((j % 8 : Nat) : Int)) hR 8 rfl (by kernel_rfl) (by kernel_rfl) (by kernel_rfl) (fun _ _ _ h => h) (by rfl) ?_ ?_
                · intro W hW; cases hW; exact exec_rem8 _ rfl rfl hjl
                try simp only [Act.put, List.getElem_toArray, List.getElem_cons_succ, List.getElem_cons_zero, List.setIfInBounds_toArray, List.set_cons_zero, List.set_cons_succ]
                refine reg_take (v := .int .i64 ((8 * (j % 8) : Nat) : Int)) hR 9 rfl (by kernel_rfl) (by kernel_rfl) (by kernel_rfl) (fun _ _ _ h => h) (by rfl) ?_ ?_
                · intro W hW; cases hW; exact exec_mul8 _ rfl rfl (by omega)
                try simp only [Act.put, List.getElem_toArray, List.getElem_cons_succ, List.getElem_cons_zero, List.setIfInBounds_toArray, List.set_cons_zero, List.set_cons_succ]
                refine reg_take (v := .int .i64 ((56 - 8 * (j % 8) : Nat) : Int)) hR 10 rfl (by kernel_rfl) (by kernel_rfl) (by kernel_rfl) (fun _ _ _ h => h) (by rfl) ?_ ?_
                · intro W hW; cases hW; exact exec_sub56 _ rfl rfl (by omega)
                try simp only [Act.put, List.getElem_toArray, List.getElem_cons_succ, List.getElem_cons_zero, List.setIfInBounds_toArray, List.set_cons_zero, List.set_cons_succ]
                refine reg_take (v := .int .u64 ((56 - 8 * (j % 8) : Nat) : Int)) hR 11 rfl (by kernel_rfl) (by kernel_rfl) (by kernel_rfl) (fun _ _ _ h => h) (by rfl) ?_ ?_
                · intro W hW; cases hW; exact exec_cvtu _ rfl rfl (by omega)
                try simp only [Act.put, List.getElem_toArray, List.getElem_cons_succ, List.getElem_cons_zero, List.setIfInBounds_toArray, List.set_cons_zero, List.set_cons_succ]
                refine reg_take (v := .int .u64 ((x / 2 ^ (56 - 8 * (j % 8)) : Nat) : Int)) hR 12 rfl (by kernel_rfl) (by kernel_rfl) (by kernel_rfl) (fun _ _ _ h => h) (by rfl) ?_ ?_
                · intro W hW; cases hW; exact exec_shr _ _ rfl rfl rfl (by omega)
                try simp only [Act.put, List.getElem_toArray, List.getElem_cons_succ, List.getElem_cons_zero, List.setIfInBounds_toArray, List.set_cons_zero, List.set_cons_succ]
                refine reg_take (v := .int .u8 ((bl : Nat) : Int)) hR 13 rfl (by kernel_rfl) (by kernel_rfl) (by kernel_rfl) (fun _ _ _ h => h) (by rfl) ?_ ?_
                · intro W hW; cases hW; exact exec_cvtb _ rfl rfl HBL.out
                try simp only [Act.put, List.getElem_toArray, List.getElem_cons_succ, List.getElem_cons_zero, List.setIfInBounds_toArray, List.set_cons_zero, List.set_cons_succ]
                refine reg_take (v := .bool false) hR 14 rfl (by kernel_rfl) (by kernel_rfl) (by kernel_rfl) (fun _ _ _ h => h) (by rfl) ?_ ?_
                · intro W hW; cases hW; exact exec_neb _ _ rfl rfl rfl
                try simp only [Act.put, List.getElem_toArray, List.getElem_cons_succ, List.getElem_cons_zero, List.setIfInBounds_toArray, List.set_cons_zero, List.set_cons_succ]
                refine reg_take (v := ?_) hR 15 rfl (by kernel_rfl) (by kernel_rfl) (by kernel_rfl) (fun _ _ _ h => h) (by rfl) ?_ ?_
                rotate_left
                · intro W hW; go_simp; try with_reducible rfl
                try simp only [Act.put, List.getElem_toArray, List.getElem_cons_succ, List.getElem_cons_zero, List.setIfInBounds_toArray, List.set_cons_zero, List.set_cons_succ]
                refine reg_take (v := ?_) hR 16 rfl (by kernel_rfl) (by kernel_rfl) (by kernel_rfl) (fun _ _ _ h => h) (by rfl) ?_ ?_
                rotate_left
                · intro W hW; go_simp; try with_reducible rfl
                try simp only [Act.put, List.getElem_toArray, List.getElem_cons_succ, List.getElem_cons_zero, List.setIfInBounds_toArray, List.set_cons_zero, List.set_cons_succ]
                refine reg_take (v := .bool true) hR 17 rfl (by kernel_rfl) (by kernel_rfl) (by kernel_rfl) (fun _ _ _ h => h) (by rfl) ?_ ?_
                · intro W hW; cases hW; rw [exec_lt32 _ rfl (j := j) rfl]; simp only [hlo, decide_true]
                try simp only [Act.put, List.getElem_toArray, List.getElem_cons_succ, List.getElem_cons_zero, List.setIfInBounds_toArray, List.set_cons_zero, List.set_cons_succ]
                refine reg_take (v := ?_) hR 18 rfl (by kernel_rfl) (by kernel_rfl) (by kernel_rfl) (fun _ _ _ h => h) (by rfl) ?_ ?_
                rotate_left
                · intro W hW; go_simp; try with_reducible rfl
                try simp only [Act.put, List.getElem_toArray, List.getElem_cons_succ, List.getElem_cons_zero, List.setIfInBounds_toArray, List.set_cons_zero, List.set_cons_succ]
                refine reg_take (v := ?_) hR 19 rfl (by kernel_rfl) (by kernel_rfl) (by kernel_rfl) (fun _ _ _ h => h) (by rfl) ?_ ?_
                rotate_left
                · intro W hW; go_simp; try with_reducible rfl
                try simp only [Act.put, List.getElem_toArray, List.getElem_cons_succ, List.getElem_cons_zero, List.setIfInBounds_toArray, List.set_cons_zero, List.set_cons_succ]
                refine reg_take (v := .pointer (some ⟨q, j, none⟩)) hR 20 rfl (by kernel_rfl) (by kernel_rfl) (by kernel_rfl) (fun _ _ _ h => h) (by rfl) ?_ ?_
                · intro W hW; cases hW; exact exec_at8 36 _ _ rfl Try.underlying36 rfl rfl (by omega)
                try simp only [Act.put, List.getElem_toArray, List.getElem_cons_succ, List.getElem_cons_zero, List.setIfInBounds_toArray, List.set_cons_zero, List.set_cons_succ]
                refine reg_take (v := .int .u8 ((bs : Nat) : Int)) hR 21 rfl (by kernel_rfl) (by kernel_rfl) (by kernel_rfl) (fun _ _ _ h => h) (by rfl) ?_ ?_
                · intro W hW; cases hW; exact exec_load_cell 5 _ rfl Try.isAgg5 rfl (HQ.out.drew.cell HQJ.out)
                try simp only [Act.put, List.getElem_toArray, List.getElem_cons_succ, List.getElem_cons_zero, List.setIfInBounds_toArray, List.set_cons_zero, List.set_cons_succ]
                refine reg_take (v := ?_) hR 22 rfl (by kernel_rfl) (by kernel_rfl) (by kernel_rfl) (fun _ _ _ h => h) (by rfl) ?_ ?_
                rotate_left
                · intro W hW; go_simp; try with_reducible rfl
                try simp only [Act.put, List.getElem_toArray, List.getElem_cons_succ, List.getElem_cons_zero, List.setIfInBounds_toArray, List.set_cons_zero, List.set_cons_succ]
                refine reg_take (v := .int .i64 ((j / 8 : Nat) : Int)) hR 23 rfl (by kernel_rfl) (by kernel_rfl) (by kernel_rfl) (fun _ _ _ h => h) (by rfl) ?_ ?_
                · intro W hW; cases hW; exact exec_quo8 _ rfl rfl hjl
                try simp only [Act.put, List.getElem_toArray, List.getElem_cons_succ, List.getElem_cons_zero, List.setIfInBounds_toArray, List.set_cons_zero, List.set_cons_succ]
                refine reg_take (v := .pointer (some ⟨g + 1, j / 8, none⟩)) hR 24 rfl (by kernel_rfl) (by kernel_rfl) (by kernel_rfl) (fun _ _ _ h => h) (by rfl) ?_ ?_
                · intro W hW; cases hW; exact exec_at64 38 _ _ rfl Try.underlying38 rfl rfl hj8
                try simp only [Act.put, List.getElem_toArray, List.getElem_cons_succ, List.getElem_cons_zero, List.setIfInBounds_toArray, List.set_cons_zero, List.set_cons_succ]
                refine reg_take (v := .int .u64 ((y : Nat) : Int)) hR 25 rfl (by kernel_rfl) (by kernel_rfl) (by kernel_rfl) (fun _ _ _ h => h) (by rfl) ?_ ?_
                · intro W hW; cases hW; exact exec_load_cell 24 _ rfl Try.isAgg24 rfl (HSo.out.drew.cell HYJ.out)
                try simp only [Act.put, List.getElem_toArray, List.getElem_cons_succ, List.getElem_cons_zero, List.setIfInBounds_toArray, List.set_cons_zero, List.set_cons_succ]
                refine reg_take (v := ?_) hR 26 rfl (by kernel_rfl) (by kernel_rfl) (by kernel_rfl) (fun _ _ _ h => h) (by rfl) ?_ ?_
                rotate_left
                · intro W hW; go_simp; try with_reducible rfl
                try simp only [Act.put, List.getElem_toArray, List.getElem_cons_succ, List.getElem_cons_zero, List.setIfInBounds_toArray, List.set_cons_zero, List.set_cons_succ]
                refine reg_take (v := .int .i64 ((j % 8 : Nat) : Int)) hR 27 rfl (by kernel_rfl) (by kernel_rfl) (by kernel_rfl) (fun _ _ _ h => h) (by rfl) ?_ ?_
                · intro W hW; cases hW; exact exec_rem8 _ rfl rfl hjl
                try simp only [Act.put, List.getElem_toArray, List.getElem_cons_succ, List.getElem_cons_zero, List.setIfInBounds_toArray, List.set_cons_zero, List.set_cons_succ]
                refine reg_take (v := .int .i64 ((8 * (j % 8) : Nat) : Int)) hR 28 rfl (by kernel_rfl) (by kernel_rfl) (by kernel_rfl) (fun _ _ _ h => h) (by rfl) ?_ ?_
                · intro W hW; cases hW; exact exec_mul8 _ rfl rfl (by omega)
                try simp only [Act.put, List.getElem_toArray, List.getElem_cons_succ, List.getElem_cons_zero, List.setIfInBounds_toArray, List.set_cons_zero, List.set_cons_succ]
                refine reg_take (v := .int .i64 ((56 - 8 * (j % 8) : Nat) : Int)) hR 29 rfl (by kernel_rfl) (by kernel_rfl) (by kernel_rfl) (fun _ _ _ h => h) (by rfl) ?_ ?_
                · intro W hW; cases hW; exact exec_sub56 _ rfl rfl (by omega)
                try simp only [Act.put, List.getElem_toArray, List.getElem_cons_succ, List.getElem_cons_zero, List.setIfInBounds_toArray, List.set_cons_zero, List.set_cons_succ]
                refine reg_take (v := .int .u64 ((56 - 8 * (j % 8) : Nat) : Int)) hR 30 rfl (by kernel_rfl) (by kernel_rfl) (by kernel_rfl) (fun _ _ _ h => h) (by rfl) ?_ ?_
                · intro W hW; cases hW; exact exec_cvtu _ rfl rfl (by omega)
                try simp only [Act.put, List.getElem_toArray, List.getElem_cons_succ, List.getElem_cons_zero, List.setIfInBounds_toArray, List.set_cons_zero, List.set_cons_succ]
                refine reg_take (v := .int .u64 ((y / 2 ^ (56 - 8 * (j % 8)) : Nat) : Int)) hR 31 rfl (by kernel_rfl) (by kernel_rfl) (by kernel_rfl) (fun _ _ _ h => h) (by rfl) ?_ ?_
                · intro W hW; cases hW; exact exec_shr _ _ rfl rfl rfl (by omega)
                try simp only [Act.put, List.getElem_toArray, List.getElem_cons_succ, List.getElem_cons_zero, List.setIfInBounds_toArray, List.set_cons_zero, List.set_cons_succ]
                refine reg_take (v := .int .u8 ((bs : Nat) : Int)) hR 32 rfl (by kernel_rfl) (by kernel_rfl) (by kernel_rfl) (fun _ _ _ h => h) (by rfl) ?_ ?_
                · intro W hW; cases hW; exact exec_cvtb _ rfl rfl HBS.out
                try simp only [Act.put, List.getElem_toArray, List.getElem_cons_succ, List.getElem_cons_zero, List.setIfInBounds_toArray, List.set_cons_zero, List.set_cons_succ]
                refine reg_take (v := .bool false) hR 33 rfl (by kernel_rfl) (by kernel_rfl) (by kernel_rfl) (fun _ _ _ h => h) (by rfl) ?_ ?_
                · intro W hW; cases hW; exact exec_neb _ _ rfl rfl rfl
                try simp only [Act.put, List.getElem_toArray, List.getElem_cons_succ, List.getElem_cons_zero, List.setIfInBounds_toArray, List.set_cons_zero, List.set_cons_succ]
                refine reg_take (v := .bool false) hR 34 rfl (by kernel_rfl) (by kernel_rfl) (by kernel_rfl) (fun _ _ _ h => h) (by rfl) ?_ ?_
                · intro W hW; cases hW; go_simp; try rfl
                try simp only [Act.put, List.getElem_toArray, List.getElem_cons_succ, List.getElem_cons_zero, List.setIfInBounds_toArray, List.set_cons_zero, List.set_cons_succ]
                refine reg_take (v := .bool false) hR 35 rfl (by kernel_rfl) (by kernel_rfl) (by kernel_rfl) (fun _ _ _ h => h) (by rfl) ?_ ?_
                · intro W hW; cases hW; go_simp; try rfl
                try simp only [Act.put, List.getElem_toArray, List.getElem_cons_succ, List.getElem_cons_zero, List.setIfInBounds_toArray, List.set_cons_zero, List.set_cons_succ]
                refine reg_done (by kernel_rfl) ?_ _
                go_wp2
                go_roundw
                case rel => exact ⟨j + 1, by omega, by go_num, Lib.hid HP.out.drew, Lib.hid HQ.out.drew, Lib.hid HLo.out.drew, Lib.hid HSo.out.drew, Lib.hid HB.out.drew⟩
                case measure => simp [intOf]; omega
              · go_wp2_with fail
                have hR := Sm.stays
                refine reg_start Sm follows_mixed ?_
                refine reg_take (v := ?_) hR 0 rfl (by kernel_rfl) (by kernel_rfl) (by kernel_rfl) (fun _ _ _ h => h) (by rfl) ?_ ?_
                rotate_left
                · intro W hW; go_simp; try with_reducible rfl
                try simp only [Act.put, List.getElem_toArray, List.getElem_cons_succ, List.getElem_cons_zero, List.setIfInBounds_toArray, List.set_cons_zero, List.set_cons_succ]
                refine reg_take (v := .pointer (some ⟨p, j, none⟩)) hR 1 rfl (by kernel_rfl) (by kernel_rfl) (by kernel_rfl) (fun _ _ _ h => h) (by rfl) ?_ ?_
                · intro W hW; cases hW; exact exec_at8 33 _ _ rfl Try.underlying33 rfl rfl (by omega)
                try simp only [Act.put, List.getElem_toArray, List.getElem_cons_succ, List.getElem_cons_zero, List.setIfInBounds_toArray, List.set_cons_zero, List.set_cons_succ]
                refine reg_take (v := .int .u8 ((bl : Nat) : Int)) hR 2 rfl (by kernel_rfl) (by kernel_rfl) (by kernel_rfl) (fun _ _ _ h => h) (by rfl) ?_ ?_
                · intro W hW; cases hW; exact exec_load_cell 5 _ rfl Try.isAgg5 rfl (HP.out.drew.cell HPJ.out)
                try simp only [Act.put, List.getElem_toArray, List.getElem_cons_succ, List.getElem_cons_zero, List.setIfInBounds_toArray, List.set_cons_zero, List.set_cons_succ]
                refine reg_take (v := ?_) hR 3 rfl (by kernel_rfl) (by kernel_rfl) (by kernel_rfl) (fun _ _ _ h => h) (by rfl) ?_ ?_
                rotate_left
                · intro W hW; go_simp; try with_reducible rfl
                try simp only [Act.put, List.getElem_toArray, List.getElem_cons_succ, List.getElem_cons_zero, List.setIfInBounds_toArray, List.set_cons_zero, List.set_cons_succ]
                refine reg_take (v := .int .i64 ((j / 8 : Nat) : Int)) hR 4 rfl (by kernel_rfl) (by kernel_rfl) (by kernel_rfl) (fun _ _ _ h => h) (by rfl) ?_ ?_
                · intro W hW; cases hW; exact exec_quo8 _ rfl rfl hjl
                try simp only [Act.put, List.getElem_toArray, List.getElem_cons_succ, List.getElem_cons_zero, List.setIfInBounds_toArray, List.set_cons_zero, List.set_cons_succ]
                refine reg_take (v := .pointer (some ⟨g, j / 8, none⟩)) hR 5 rfl (by kernel_rfl) (by kernel_rfl) (by kernel_rfl) (fun _ _ _ h => h) (by rfl) ?_ ?_
                · intro W hW; cases hW; exact exec_at64 38 _ _ rfl Try.underlying38 rfl rfl hj8
                try simp only [Act.put, List.getElem_toArray, List.getElem_cons_succ, List.getElem_cons_zero, List.setIfInBounds_toArray, List.set_cons_zero, List.set_cons_succ]
                refine reg_take (v := .int .u64 ((x : Nat) : Int)) hR 6 rfl (by kernel_rfl) (by kernel_rfl) (by kernel_rfl) (fun _ _ _ h => h) (by rfl) ?_ ?_
                · intro W hW; cases hW; exact exec_load_cell 24 _ rfl Try.isAgg24 rfl (HLo.out.drew.cell HXJ.out)
                try simp only [Act.put, List.getElem_toArray, List.getElem_cons_succ, List.getElem_cons_zero, List.setIfInBounds_toArray, List.set_cons_zero, List.set_cons_succ]
                refine reg_take (v := ?_) hR 7 rfl (by kernel_rfl) (by kernel_rfl) (by kernel_rfl) (fun _ _ _ h => h) (by rfl) ?_ ?_
                rotate_left
                · intro W hW; go_simp; try with_reducible rfl
                try simp only [Act.put, List.getElem_toArray, List.getElem_cons_succ, List.getElem_cons_zero, List.setIfInBounds_toArray, List.set_cons_zero, List.set_cons_succ]
                refine reg_take (v := .int .i64 ((j % 8 : Nat) : Int)) hR 8 rfl (by kernel_rfl) (by kernel_rfl) (by kernel_rfl) (fun _ _ _ h => h) (by rfl) ?_ ?_
                · intro W hW; cases hW; exact exec_rem8 _ rfl rfl hjl
                try simp only [Act.put, List.getElem_toArray, List.getElem_cons_succ, List.getElem_cons_zero, List.setIfInBounds_toArray, List.set_cons_zero, List.set_cons_succ]
                refine reg_take (v := .int .i64 ((8 * (j % 8) : Nat) : Int)) hR 9 rfl (by kernel_rfl) (by kernel_rfl) (by kernel_rfl) (fun _ _ _ h => h) (by rfl) ?_ ?_
                · intro W hW; cases hW; exact exec_mul8 _ rfl rfl (by omega)
                try simp only [Act.put, List.getElem_toArray, List.getElem_cons_succ, List.getElem_cons_zero, List.setIfInBounds_toArray, List.set_cons_zero, List.set_cons_succ]
                refine reg_take (v := .int .i64 ((56 - 8 * (j % 8) : Nat) : Int)) hR 10 rfl (by kernel_rfl) (by kernel_rfl) (by kernel_rfl) (fun _ _ _ h => h) (by rfl) ?_ ?_
                · intro W hW; cases hW; exact exec_sub56 _ rfl rfl (by omega)
                try simp only [Act.put, List.getElem_toArray, List.getElem_cons_succ, List.getElem_cons_zero, List.setIfInBounds_toArray, List.set_cons_zero, List.set_cons_succ]
                refine reg_take (v := .int .u64 ((56 - 8 * (j % 8) : Nat) : Int)) hR 11 rfl (by kernel_rfl) (by kernel_rfl) (by kernel_rfl) (fun _ _ _ h => h) (by rfl) ?_ ?_
                · intro W hW; cases hW; exact exec_cvtu _ rfl rfl (by omega)
                try simp only [Act.put, List.getElem_toArray, List.getElem_cons_succ, List.getElem_cons_zero, List.setIfInBounds_toArray, List.set_cons_zero, List.set_cons_succ]
                refine reg_take (v := .int .u64 ((x / 2 ^ (56 - 8 * (j % 8)) : Nat) : Int)) hR 12 rfl (by kernel_rfl) (by kernel_rfl) (by kernel_rfl) (fun _ _ _ h => h) (by rfl) ?_ ?_
                · intro W hW; cases hW; exact exec_shr _ _ rfl rfl rfl (by omega)
                try simp only [Act.put, List.getElem_toArray, List.getElem_cons_succ, List.getElem_cons_zero, List.setIfInBounds_toArray, List.set_cons_zero, List.set_cons_succ]
                refine reg_take (v := .int .u8 ((bl : Nat) : Int)) hR 13 rfl (by kernel_rfl) (by kernel_rfl) (by kernel_rfl) (fun _ _ _ h => h) (by rfl) ?_ ?_
                · intro W hW; cases hW; exact exec_cvtb _ rfl rfl HBL.out
                try simp only [Act.put, List.getElem_toArray, List.getElem_cons_succ, List.getElem_cons_zero, List.setIfInBounds_toArray, List.set_cons_zero, List.set_cons_succ]
                refine reg_take (v := .bool false) hR 14 rfl (by kernel_rfl) (by kernel_rfl) (by kernel_rfl) (fun _ _ _ h => h) (by rfl) ?_ ?_
                · intro W hW; cases hW; exact exec_neb _ _ rfl rfl rfl
                try simp only [Act.put, List.getElem_toArray, List.getElem_cons_succ, List.getElem_cons_zero, List.setIfInBounds_toArray, List.set_cons_zero, List.set_cons_succ]
                refine reg_take (v := ?_) hR 15 rfl (by kernel_rfl) (by kernel_rfl) (by kernel_rfl) (fun _ _ _ h => h) (by rfl) ?_ ?_
                rotate_left
                · intro W hW; go_simp; try with_reducible rfl
                try simp only [Act.put, List.getElem_toArray, List.getElem_cons_succ, List.getElem_cons_zero, List.setIfInBounds_toArray, List.set_cons_zero, List.set_cons_succ]
                refine reg_take (v := ?_) hR 16 rfl (by kernel_rfl) (by kernel_rfl) (by kernel_rfl) (fun _ _ _ h => h) (by rfl) ?_ ?_
                rotate_left
                · intro W hW; go_simp; try with_reducible rfl
                try simp only [Act.put, List.getElem_toArray, List.getElem_cons_succ, List.getElem_cons_zero, List.setIfInBounds_toArray, List.set_cons_zero, List.set_cons_succ]
                refine reg_take (v := .bool false) hR 17 rfl (by kernel_rfl) (by kernel_rfl) (by kernel_rfl) (fun _ _ _ h => h) (by rfl) ?_ ?_
                · intro W hW; cases hW; rw [exec_lt32 _ rfl (j := j) rfl]; simp only [hlo, decide_false]
                try simp only [Act.put, List.getElem_toArray, List.getElem_cons_succ, List.getElem_cons_zero, List.setIfInBounds_toArray, List.set_cons_zero, List.set_cons_succ]
                refine reg_take (v := ?_) hR 18 rfl (by kernel_rfl) (by kernel_rfl) (by kernel_rfl) (fun _ _ _ h => h) (by rfl) ?_ ?_
                rotate_left
                · intro W hW; go_simp; try with_reducible rfl
                try simp only [Act.put, List.getElem_toArray, List.getElem_cons_succ, List.getElem_cons_zero, List.setIfInBounds_toArray, List.set_cons_zero, List.set_cons_succ]
                refine reg_skip hR 19 rfl (by kernel_rfl) (by kernel_rfl) (by kernel_rfl) (fun _ _ _ h => h) (by rfl) ?_
                try simp only [Act.put, List.getElem_toArray, List.getElem_cons_succ, List.getElem_cons_zero, List.setIfInBounds_toArray, List.set_cons_zero, List.set_cons_succ]
                refine reg_skip hR 20 rfl (by kernel_rfl) (by kernel_rfl) (by kernel_rfl) (fun _ _ _ h => h) (by rfl) ?_
                try simp only [Act.put, List.getElem_toArray, List.getElem_cons_succ, List.getElem_cons_zero, List.setIfInBounds_toArray, List.set_cons_zero, List.set_cons_succ]
                refine reg_skip hR 21 rfl (by kernel_rfl) (by kernel_rfl) (by kernel_rfl) (fun _ _ _ h => h) (by rfl) ?_
                try simp only [Act.put, List.getElem_toArray, List.getElem_cons_succ, List.getElem_cons_zero, List.setIfInBounds_toArray, List.set_cons_zero, List.set_cons_succ]
                refine reg_skip hR 22 rfl (by kernel_rfl) (by kernel_rfl) (by kernel_rfl) (fun _ _ _ h => h) (by rfl) ?_
                try simp only [Act.put, List.getElem_toArray, List.getElem_cons_succ, List.getElem_cons_zero, List.setIfInBounds_toArray, List.set_cons_zero, List.set_cons_succ]
                refine reg_skip hR 23 rfl (by kernel_rfl) (by kernel_rfl) (by kernel_rfl) (fun _ _ _ h => h) (by rfl) ?_
                try simp only [Act.put, List.getElem_toArray, List.getElem_cons_succ, List.getElem_cons_zero, List.setIfInBounds_toArray, List.set_cons_zero, List.set_cons_succ]
                refine reg_skip hR 24 rfl (by kernel_rfl) (by kernel_rfl) (by kernel_rfl) (fun _ _ _ h => h) (by rfl) ?_
                try simp only [Act.put, List.getElem_toArray, List.getElem_cons_succ, List.getElem_cons_zero, List.setIfInBounds_toArray, List.set_cons_zero, List.set_cons_succ]
                refine reg_skip hR 25 rfl (by kernel_rfl) (by kernel_rfl) (by kernel_rfl) (fun _ _ _ h => h) (by rfl) ?_
                try simp only [Act.put, List.getElem_toArray, List.getElem_cons_succ, List.getElem_cons_zero, List.setIfInBounds_toArray, List.set_cons_zero, List.set_cons_succ]
                refine reg_skip hR 26 rfl (by kernel_rfl) (by kernel_rfl) (by kernel_rfl) (fun _ _ _ h => h) (by rfl) ?_
                try simp only [Act.put, List.getElem_toArray, List.getElem_cons_succ, List.getElem_cons_zero, List.setIfInBounds_toArray, List.set_cons_zero, List.set_cons_succ]
                refine reg_skip hR 27 rfl (by kernel_rfl) (by kernel_rfl) (by kernel_rfl) (fun _ _ _ h => h) (by rfl) ?_
                try simp only [Act.put, List.getElem_toArray, List.getElem_cons_succ, List.getElem_cons_zero, List.setIfInBounds_toArray, List.set_cons_zero, List.set_cons_succ]
                refine reg_skip hR 28 rfl (by kernel_rfl) (by kernel_rfl) (by kernel_rfl) (fun _ _ _ h => h) (by rfl) ?_
                try simp only [Act.put, List.getElem_toArray, List.getElem_cons_succ, List.getElem_cons_zero, List.setIfInBounds_toArray, List.set_cons_zero, List.set_cons_succ]
                refine reg_skip hR 29 rfl (by kernel_rfl) (by kernel_rfl) (by kernel_rfl) (fun _ _ _ h => h) (by rfl) ?_
                try simp only [Act.put, List.getElem_toArray, List.getElem_cons_succ, List.getElem_cons_zero, List.setIfInBounds_toArray, List.set_cons_zero, List.set_cons_succ]
                refine reg_skip hR 30 rfl (by kernel_rfl) (by kernel_rfl) (by kernel_rfl) (fun _ _ _ h => h) (by rfl) ?_
                try simp only [Act.put, List.getElem_toArray, List.getElem_cons_succ, List.getElem_cons_zero, List.setIfInBounds_toArray, List.set_cons_zero, List.set_cons_succ]
                refine reg_skip hR 31 rfl (by kernel_rfl) (by kernel_rfl) (by kernel_rfl) (fun _ _ _ h => h) (by rfl) ?_
                try simp only [Act.put, List.getElem_toArray, List.getElem_cons_succ, List.getElem_cons_zero, List.setIfInBounds_toArray, List.set_cons_zero, List.set_cons_succ]
                refine reg_skip hR 32 rfl (by kernel_rfl) (by kernel_rfl) (by kernel_rfl) (fun _ _ _ h => h) (by rfl) ?_
                try simp only [Act.put, List.getElem_toArray, List.getElem_cons_succ, List.getElem_cons_zero, List.setIfInBounds_toArray, List.set_cons_zero, List.set_cons_succ]
                refine reg_skip hR 33 rfl (by kernel_rfl) (by kernel_rfl) (by kernel_rfl) (fun _ _ _ h => h) (by rfl) ?_
                try simp only [Act.put, List.getElem_toArray, List.getElem_cons_succ, List.getElem_cons_zero, List.setIfInBounds_toArray, List.set_cons_zero, List.set_cons_succ]
                refine reg_take (v := .bool false) hR 34 rfl (by kernel_rfl) (by kernel_rfl) (by kernel_rfl) (fun _ _ _ h => h) (by rfl) ?_ ?_
                · intro W hW; cases hW; go_simp; try rfl
                try simp only [Act.put, List.getElem_toArray, List.getElem_cons_succ, List.getElem_cons_zero, List.setIfInBounds_toArray, List.set_cons_zero, List.set_cons_succ]
                refine reg_take (v := .bool false) hR 35 rfl (by kernel_rfl) (by kernel_rfl) (by kernel_rfl) (fun _ _ _ h => h) (by rfl) ?_ ?_
                · intro W hW; cases hW; go_simp; try rfl
                try simp only [Act.put, List.getElem_toArray, List.getElem_cons_succ, List.getElem_cons_zero, List.setIfInBounds_toArray, List.set_cons_zero, List.set_cons_succ]
                refine reg_done (by kernel_rfl) ?_ _
                go_wp2
                go_roundw
                case rel => exact ⟨j + 1, by omega, by go_num, Lib.hid HP.out.drew, Lib.hid HQ.out.drew, Lib.hid HLo.out.drew, Lib.hid HSo.out.drew, Lib.hid HB.out.drew⟩
                case measure => simp [intOf]; omega
            · go_wp2
              go_ret
              exact ⟨rfl, HB.out⟩
  · go_enter Try.func4, Try.ntmps4
    go_wp2_with fail
    refine (lives_any _).mono ?_; rintro e w1 ⟨rfl, hb1⟩
    have hn2 : 2000 < n := by omega
    go_wp2
    go_ret
    exact ⟨rfl, hb1⟩
end Go.Proofs.Ytgpgolegedfjfaa
