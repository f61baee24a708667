package pair_test

import (
	"testing"

	"herald/api"
)

// The ten examples of the whole, by moves: a script says no more than they do.

func TestWholeMeeting(t *testing.T) {
	b := newBoth(t, world())
	b.wantStill(false)
	b.rounds(3)
	b.wantPipes(0, 0)
	b.wantStill(true)
}

// asked is the world behind GET /a and nine rounds.
func asked(t *testing.T, w api.World) *both {
	t.Helper()
	b := newBoth(t, w)
	b.all(ask(get("/a")))
	b.rounds(9)
	b.wantPipes(0, 0)
	return b
}

// second is the second example's.
func second(t *testing.T) *both {
	t.Helper()
	b := asked(t, world())
	b.wantAnswers(answer(1, false, 1, "A"))
	b.wantLog(api.Serve{Stream: 1, Version: 1}, api.Serve{Stream: 2, Version: 1, Push: true})
	b.wantHeld(1, 48, 0)
	return b
}

func TestWholePush(t *testing.T) { second(t) }

func TestWholeCached(t *testing.T) {
	b := second(t)
	b.all(ask(get("/b")))
	b.wantAnswers(answer(1, false, 1, "A"), answer(2, true, 2, "B"))
	b.all(ask(get("/b")))
	b.rounds(9)
	b.wantAnswers(answer(1, false, 1, "A"), answer(2, true, 2, "B"), answer(3, false, 3, "B"))
}

func TestWholePut(t *testing.T) {
	b := second(t)
	b.all(put(page("/b", "B2")))
	if b.last.Version != 2 {
		t.Errorf("P25.1: version %d", b.last.Version)
	}
	b.all(ask(get("/b")), ask(get("/b")))
	b.rounds(9)
	b.wantAnswers(answer(1, false, 1, "A"), answer(2, true, 2, "B"), answer(3, false, 3, "B2"))
	b.wantLog(api.Serve{Stream: 1, Version: 1}, api.Serve{Stream: 2, Version: 1, Push: true}, api.Serve{Stream: 3, Version: 2})
}

func TestWholeLife(t *testing.T) {
	b := second(t)
	b.all(move(moveTick, 10), ask(get("/b")))
	b.wantAnswers(answer(1, false, 1, "A"), answer(2, true, 2, "B"))
	b = second(t)
	b.all(move(moveTick, 11), ask(get("/b")))
	b.wantAnswers(answer(1, false, 1, "A"))
	if b.last.Waiting != 1 {
		t.Errorf("T4: %d wait", b.last.Waiting)
	}
	b.rounds(9)
	b.wantAnswers(answer(1, false, 1, "A"), answer(2, false, 3, "B"))
}

func TestWholeForeign(t *testing.T) {
	b := asked(t, worldWith(func(w *api.World) { w.Origins = []string{"https://y"} }))
	b.wantHeld(0, 0, 0)
	b.wantResets(api.Fault{Code: protocol, Stream: 2})
	b.wantAnswers(answer(1, false, 1, "A"))
}

func TestWholeConf(t *testing.T) {
	b := asked(t, worldWith(func(w *api.World) { w.Conf.Pending = 0 }))
	b.wantHeld(0, 0, 0)
	b.wantResets(api.Fault{Code: refused, Stream: 2})
	b = asked(t, worldWith(func(w *api.World) { w.Conf.Entries = 0 }))
	b.wantHeld(0, 0, 0)
	b.wantResets()
	isWhole := false
	for _, e := range b.last.UserTrace {
		isWhole = isWhole || !e.Sent && e.F.Type == data && e.F.Stream == 2 && e.F.Data == "B" && e.F.Flags == 1
	}
	if !isWhole {
		t.Error("P25.1: what was promised didn't come whole")
	}
}

func TestWholePieces(t *testing.T) {
	b := newBoth(t, world())
	b.all(move(moveClient, 0))
	b.wantPipes(33, 0)
	b.all(move(moveToServer, 10))
	b.wantPipes(23, 0)
	b.all(move(moveToServer, -1))
	b.wantPipes(0, 0)
}

func TestWholeForged(t *testing.T) {
	b := newBoth(t, world())
	b.rounds(3)
	b.all(ask(get("/a")), move(moveClient, 0), forge(0, "\x00\x00\x00\x05\x00\x00\x00\x00\x01"), move(moveToClient, -1))
	b.wantDead(0, frameSize)
	b.wantAnswers(failed(1, frameSize))
}

func TestWholePushOff(t *testing.T) {
	b := asked(t, worldWith(func(w *api.World) { w.Client.Push = 0 }))
	b.wantLog(api.Serve{Stream: 1, Version: 1})
	b.wantAnswers(answer(1, false, 1, "A"))
	b.wantHeld(0, 0, 0)
}
