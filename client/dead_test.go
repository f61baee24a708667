package client_test

import (
	"testing"

	"herald/api"
)

// death is bytes that a client dies of, and the code.
type death struct {
	name, text string
	code       int64
}

func deaths() []death {
	return []death{
		{"too long a frame", "\xff\xff\xff\x00\x00\x00\x00\x00\x01", api.FrameSizeError},
		{"DATA of stream 0", raw(0, 0, 0, "x"), protocol},
		{"a broken block", raw(1, 4, 1, "\x80"), api.CompressionError},
		{"CONTINUATION without a block", raw(9, 4, 1, ""), protocol},
		{"PING inside a block", raw(1, 0, 1, "") + bytes(pingFrame("12345678")), protocol},
		{"an Ack too many", bytes(ackFrame()), protocol},
		{"a wrong Window", bytes(settingsFrame(param(4, 1<<31))), api.FlowControlError},
		{"a Push of 1", bytes(settingsFrame(param(2, 1))), protocol},
		{"a promise that is too short", raw(5, 0, 1, ""), api.FrameSizeError},
		{"a promise of an odd stream", raw(5, 4, 1, "\x00\x00\x00\x63"), protocol},
		{"HEADERS of a stream that isn't asked", bytes(headersFrame(99, status("200"), true)), protocol},
		{"WINDOW_UPDATE of too much", bytes(windowFrame(0, top)), api.FlowControlError},
	}
}

// TestDead: those under way are answered with the code, those that wait with
// RefusedStream, in the order of their numbers; one GOAWAY is sent, and nothing more is
// taken. The cache lives on.
func TestDead(t *testing.T) {
	for _, death := range deaths() {
		b := busy(t)
		b.recv(bytes(pingFrame("12345678")))
		b.note("%s", death.name)
		b.recv(death.text + bytes(headersFrame(1, status("200"), true), dataFrame(4, "late", true)))
		if code, dead := b.c.Dead(); !dead || code != death.code {
			t.Fatalf("P23.1: %s: Dead() = %d, %v", b.history(), code, dead)
		}
		b.wantAnswers(failed(1, death.code), failed(2, death.code), failed(3, death.code), failed(4, refused), failed(5, refused))
		b.wantCounts(0, 0, 0)
		b.wantBusy()
		b.whole()
		b.wantStep(3, goneAway(4, death.code))
		b.wantIdle()
		wantDead(b, death.code)
		b.whole()
	}
}

// TestDeadUnsent: the same while the GOAWAY waits.
func TestDeadUnsent(t *testing.T) {
	b := busy(t)
	b.recv(raw(0, 0, 0, ""))
	b.seen = len(b.c.Answers())
	wantDead(b, protocol)
	b.wantStep(0, goneAway(4, protocol))
	b.wantIdle()
	b.whole()
}

// wantDead asks a dead client, behind busy, for everything.
func wantDead(b *both, code int64) {
	b.t.Helper()
	idle, trace := b.c.Idle(), len(b.c.Trace())
	b.recv(bytes(settingsFrame(param(api.SetWindow, 9)), headersFrame(1, status("200"), true), resetFrame(1, 0), goAwayFrame(0, 0), promiseFrame(1, 6, listOf(get("/z")))))
	b.recv("\xff\xff\xff\xff\xff\xff\xff\xff\xff\xff")
	if e := b.settings(standard()); e != deadError {
		b.t.Errorf("P23.1: %s: %d", b.history(), e)
	}
	if e := b.settings(api.Set{}); e != deadError {
		b.t.Errorf("P23.1: %s: %d", b.history(), e)
	}
	for n := range 7 {
		if e := b.cancel(n); e != noneError {
			b.t.Errorf("P23.1: %s: %d", b.history(), e)
		}
	}
	b.wantAnswers()
	wantRefusedAsks(b)
	b.wantCounts(0, 0, 0)
	b.wantHeld(0, 0)
	if e := b.tick(b.c.Now() + 5); e != api.OK {
		b.t.Errorf("P23.1: %s: %d", b.history(), e)
	}
	if e := b.tick(b.c.Now() - 1); e != argError {
		b.t.Errorf("P23.1: %s: %d", b.history(), e)
	}
	if got, dead := b.c.Dead(); !dead || got != code || b.c.Idle() != idle || len(b.c.Trace()) != trace {
		b.t.Errorf("P23.1: %s: a dead client changed", b.history())
	}
	for range mostWait + 9 { // none waits, so none is too many
		b.asks(get("/many"))
	}
	b.seen = len(b.c.Answers())
}

// TestDeadCacheExpires: what a dead client holds gets old as well.
func TestDeadCacheExpires(t *testing.T) {
	for _, late := range []int64{0, 1} {
		b := busy(t)
		b.recv(raw(0, 0, 0, ""))
		b.seen = len(b.c.Answers())
		b.tick(10 + late)
		b.asks(get("/b"))
		if late > 0 {
			b.wantAnswers(failed(6, refused))
		} else {
			b.wantAnswers(cached(6, 2, "B"))
		}
		b.whole()
	}
}

// TestDeadOfTheBeginning: it still sends its preface and SETTINGS.
func TestDeadOfTheBeginning(t *testing.T) {
	for _, text := range []string{"HTTP/1.1 400 Bad\r\n", bytes(pingFrame("12345678")), bytes(headersFrame(1, status("200"), true)), bytes(ackFrame()), bytes(goAwayFrame(0, 0))} {
		b := newBoth(t, standard(), usual(), "https://x")
		b.wantWaits(get("/a"))
		b.recv(text)
		b.recv(bytes(settingsFrame()))
		code, dead := b.c.Dead()
		if !dead {
			t.Fatalf("P23.1: %s: it lives", b.history())
		}
		b.wantAnswers(failed(1, refused))
		b.asks(get("/b"))
		b.wantAnswers(failed(2, refused))
		b.wantStep(0, settled(), goneAway(0, code))
		b.wantIdle()
		b.whole()
	}
}

// TestDeadBehindAnAnswer: what came ahead of the fault was taken.
func TestDeadBehindAnAnswer(t *testing.T) {
	b := flown(t)
	b.fly(get("/c"))
	b.recv(bytes(promiseFrame(1, 2, listOf(get("/b"))), headersFrame(2, status("200"), true), headersFrame(1, status("200"), true)) + raw(0, 0, 0, "") + bytes(headersFrame(3, status("200"), true)))
	b.wantAnswers(direct(1, 1, ""), failed(2, protocol))
	b.asks(get("/b"))
	b.wantAnswers(cached(3, 2, ""))
	b.wantStep(0, goneAway(2, protocol))
	b.whole()
}

// TestGoAwayThenDead: each request is answered once.
func TestGoAwayThenDead(t *testing.T) {
	b := busy(t)
	b.recv(bytes(goAwayFrame(3, 0)))
	b.wantAnswers(failed(3, refused), failed(4, refused), failed(5, refused))
	b.recv(raw(0, 0, 0, ""))
	b.wantAnswers(failed(1, protocol), failed(2, protocol))
	b.whole()
}
