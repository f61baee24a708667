package pair_test

import (
	"fmt"
	"testing"

	"herald/api"
)

// many is a world in which /a pushes eight pages, with bodies of so many bytes.
func many(bytes int, change func(*api.World)) api.World {
	return busy(1, bytes, func(w *api.World) {
		w.Conf = usual()
		change(w)
	})
}

// TestBounds is T4: entries, bytes and promises under way are within Conf behind each
// single move.
func TestBounds(t *testing.T) {
	for _, entries := range []int64{0, 1, 2, 8, 64} {
		for _, bytes := range []int64{0, 60, 149, 150, 400, 1 << 60} {
			for _, pending := range []int64{0, 1, 3, 64} {
				w := many(100, func(w *api.World) {
					w.Conf = api.Conf{Entries: entries, Bytes: bytes, Life: 10, Pending: pending}
				})
				x := newWitness(t, w, map[string]int{})
				x.do(ask(get("/page0")))
				for range 30 {
					for _, m := range oneRound() {
						x.do(m) // the witness looks at the limits
					}
				}
				x.ends()
				n, _ := x.p.Client().Held()
				if want := min(entries, bytes/149, 8); pending == 64 && int64(n) != want || pending == 0 && n != 0 {
					t.Errorf("T4: %d entries of %d bytes may be kept, %d be under way: %d are kept", entries, bytes, pending, n)
				}
			}
		}
	}
}

// TestLife is T4 at each tick around the arrival's end.
func TestLife(t *testing.T) {
	for _, life := range []int64{0, 1, 10, 1 << 60} {
		for _, came := range []int64{0, 5} {
			for late := range int64(3) {
				now := min(came+life+late-1, 1<<60)
				if now < came || came+life > 1<<60 {
					continue
				}
				b := begunWith(t, worldWith(func(w *api.World) { w.Conf.Life = life }))
				b.all(move(moveTick, came), ask(get("/a")))
				b.rounds(9)
				b.all(move(moveTick, now), ask(get("/b")))
				if is := len(b.last.Answers) == 2; is != (now <= came+life) {
					t.Errorf("T4: what came at %d and lives for %d is served at %d: %v", came, life, now, is)
				}
			}
		}
	}
}

// TestResetOnce is T4: each promise that is refused or expires is reset once, at
// whichever moment; others never.
func TestResetOnce(t *testing.T) {
	all := func(code int64, streams ...int64) []api.Fault {
		var l []api.Fault
		for _, id := range streams {
			l = append(l, api.Fault{Code: code, Stream: id})
		}
		return l
	}
	b := begunWith(t, many(1, func(w *api.World) { w.Conf.Pending = 0 }))
	b.all(ask(get("/page0")))
	b.rounds(40)
	b.wantResets(all(refused, 2, 4, 6, 8, 10, 12, 14, 16)...)
	b = begunWith(t, many(1, func(w *api.World) { w.Origins = nil }))
	b.all(ask(get("/page0")))
	b.rounds(40)
	b.wantResets(all(protocol, 2, 4, 6, 8, 10, 12, 14, 16)...)
	b = begunWith(t, many(1, func(w *api.World) { w.Conf.Pending = 5 }))
	b.all(ask(get("/page0")))
	b.rounds(40)
	b.wantResets(all(refused, 12, 14, 16)...)
	b = begunWith(t, many(1, func(w *api.World) { w.Conf = api.Conf{Entries: 64, Bytes: 1000, Life: 10, Pending: 64} }))
	b.all(ask(get("/page0")))
	b.rounds(40)
	b.wantResets()
	b.all(ask(get("/page0"))) // all of it is held
	b.rounds(40)
	b.wantResets(all(cancel, 18, 20, 22, 24, 26, 28, 30, 32)...)
	b.all(move(moveTick, 11))
	b.rounds(2)
	b.wantResets(all(cancel, 18, 20, 22, 24, 26, 28, 30, 32)...) // what is kept and expires has no stream any more
}

// TestExpiredOnTheWay is T4: a promise expires at each moment of its coming; it is
// reset once, unless it was whole, and nothing that comes then is kept.
func TestExpiredOnTheWay(t *testing.T) {
	const rounds = 14
	for at := range rounds {
		for _, ticks := range [][]int64{{10}, {11}, {5, 11, 12, 40}} {
			b := begun(t)
			b.all(ask(get("/a")))
			expired := false
			for i := range rounds {
				if i == at {
					wasUnderWay := b.last.Pending
					for _, now := range ticks {
						b.all(move(moveTick, now))
					}
					expired = ticks[len(ticks)-1] > 10 && wasUnderWay == 1
					if expired && (b.last.Pending != 0 || b.last.Held != 0) {
						t.Fatalf("T4: %s: it is under way still", b.history())
					}
				}
				b.rounds(1)
			}
			b.wantStill(true)
			b.wantDead(0, 0)
			if expired {
				b.wantResets(api.Fault{Code: cancel, Stream: 2})
				b.wantHeld(0, 0, 0)
			} else {
				b.wantResets()
			}
			b.wantAnswers(answer(1, false, 1, "A"))
		}
	}
}

// TestCancelledPage: a page is given up at each moment of its coming; what was
// promised with it comes all the same, or is reset once.
func TestCancelledPage(t *testing.T) {
	tried := map[string]int{}
	for at := range 60 {
		w := many(50, func(w *api.World) {})
		x := newWitness(t, w, tried)
		x.do(ask(get("/page0")))
		for i := range 60 {
			if i == at {
				x.do(move(moveCancel, 1))
			}
			x.do(oneRound()[i%4])
		}
		took := x.ends()
		if took > 40 {
			t.Errorf("T5: it took %d rounds", took)
		}
	}
	for _, what := range []string{"promise on a cut stream", "cached false code 8", "cached false code 0", "kept"} {
		if tried[what] == 0 {
			t.Errorf("%s: never", what)
		}
	}
}

// TestClosedAlready is T4's exception: a connection that died sends no reset.
func TestClosedAlready(t *testing.T) {
	b := begunWith(t, worldWith(func(w *api.World) { w.Conf.Pending = 0 }))
	b.all(ask(get("/a")), move(moveClient, 0), move(moveToServer, -1), move(moveServer, 0))
	b.all(forge(0, b.last.ToClient+"xxxxxxxxx"), move(moveToClient, -1))
	b.wantDead(0, frameSize)
	n := len(b.last.UserTrace)
	b.rounds(5)
	sent := framesOf(b.last.UserTrace[n:], true)
	if len(sent) == 0 || sent[len(sent)-1].Type != goAway {
		t.Errorf("T4: a dead client sends %s", fmt.Sprint(sent))
	}
	b.wantHeld(0, 0, 0)
}
