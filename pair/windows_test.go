package pair_test

import (
	"fmt"
	"testing"

	"herald/api"
)

// wantWindows is T8: at each place of both logs what may be sent is what was there,
// less what was sent, more what was given, and never below 0; in the end it is back.
func wantWindows(t *testing.T, name string, x ends) {
	t.Helper()
	for i, l := range [][]api.Entry{x.Server().Trace(), x.Client().Trace()} {
		for n := range l {
			if out, in := connWindows(l[:n+1]); out < 0 || in < 0 || out > 65535 || in > 65535 {
				t.Fatalf("T8: %s: behind entry %d of log %d the windows are %d and %d", name, n, i, out, in)
			}
		}
		if out, in := connWindows(l); out != 65535 || in != 65535 {
			t.Fatalf("T8: %s: in the end the windows of log %d are %d and %d", name, i, out, in)
		}
	}
}

// TestWindowsComeBack: behind pushes that are refused, foreign, held, not kept, that
// expire, and whose page is given up, while their bodies are on the way.
func TestWindowsComeBack(t *testing.T) {
	for name, change := range map[string]func(*api.World){
		"taken":      func(w *api.World) { w.Conf = api.Conf{Entries: 64, Bytes: 1 << 30, Life: 10, Pending: 64} },
		"refused":    func(w *api.World) { w.Conf.Pending = 0 },
		"foreign":    func(w *api.World) { w.Origins = nil },
		"not kept":   func(w *api.World) { w.Conf.Entries = 0 },
		"one kept":   func(w *api.World) { w.Conf.Entries = 1 },
		"small":      func(w *api.World) { w.Client.Window = 100 },
		"one by one": func(w *api.World) { w.Client.Streams = 1 },
	} {
		for _, bytes := range []int{1, 3000, 20000} {
			if name == "small" {
				bytes = min(bytes, 3000)
			}
			for at := range 5 {
				b := newBoth(t, many(bytes, change))
				b.p.Rounds(3)
				b.p.Do(ask(get("/page0")))
				for i := range 12 * 4 { // much is on the way when it comes
					b.p.Do(oneRound()[i%4])
					if i%4 == 2 { // more of the server's, each of another stream
						b.p.Do(move(moveServer, int64(i)))
						b.p.Do(move(moveServer, int64(i+1)))
					}
					if i != 12*at {
						continue
					}
					switch at {
					case 1:
						b.p.Do(move(moveTick, 11))
					case 2:
						b.p.Do(move(moveCancel, 1))
					case 3:
						b.p.Do(set(changed(func(s *api.Set) { s.Window = 7000 })))
					case 4:
						b.p.Do(set(changed(func(s *api.Set) { s.Push = 0 })))
					}
				}
				b.p.Rounds(1000)
				if !b.p.Still() {
					t.Fatalf("T5: %s: it isn't still", name)
				}
				wantWindows(t, fmt.Sprintf("%s, %d bytes, %d", name, bytes, at), b.p)
			}
		}
	}
}

// TestResetOnTheWay: bodies of streams that the client has reset lie in the pipe:
// they count for the connection, whatever becomes of their streams.
func TestResetOnTheWay(t *testing.T) {
	b := begunWith(t, many(30000, func(w *api.World) { w.Conf.Pending = 64 }))
	b.all(ask(get("/page0")), move(moveClient, 0), move(moveToServer, -1))
	for range 30 {
		b.all(move(moveServer, 1)) // promises and heads and bodies of several, till there is no room
	}
	if n := len(b.last.ToClient); n < 65535 {
		t.Fatalf("%d bytes are on their way", n)
	}
	b.all(move(moveToClient, 700), move(moveTick, 11)) // the promises have come, and expire
	if b.last.Pending != 0 || len(b.last.UserTrace) < 6 {
		t.Fatalf("%d promises are under way", b.last.Pending)
	}
	b.all(move(moveToClient, -1))
	_, in := connWindows(b.last.UserTrace)
	if in != 0 {
		t.Fatalf("T8: %d bytes may come still", in)
	}
	b.all(move(moveClient, 0))
	if _, in = connWindows(b.last.UserTrace); in != 65535 {
		t.Errorf("T8: what came on streams that were reset isn't given back: %d", in)
	}
	b.rounds(200)
	b.wantStill(true)
	wantWindows(t, "reset on the way", b.p)
	if len(b.last.Answers) != 1 || b.last.Answers[0].Response.Body != long(30000) {
		t.Errorf("T1: %s", shown(b.last.Answers))
	}
}
