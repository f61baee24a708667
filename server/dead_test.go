package server_test

import (
	"slices"
	"testing"

	"herald/api"
	"herald/lists"
)

// death is bytes that a server dies of, and the code.
type death struct {
	name, text string
	code       int64
}

func deaths() []death {
	return []death{
		{"too long a frame", "\xff\xff\xff\x00\x00\x00\x00\x00\x01", api.FrameSizeError},
		{"DATA of stream 0", raw(0, 0, 0, "x"), protocol},
		{"a broken block", raw(1, 4, 99, "\x80"), api.CompressionError},
		{"CONTINUATION without a block", raw(9, 4, 1, ""), protocol},
		{"PING inside a block", raw(1, 0, 99, "") + bytes(pingFrame("12345678")), protocol},
		{"an Ack too many", bytes(ackFrame()), protocol},
		{"a wrong Window", bytes(settingsFrame(param(4, 1<<31))), api.FlowControlError},
		{"a promise", raw(5, 4, 1, "\x00\x00\x00\x02"), protocol},
		{"WINDOW_UPDATE of too much", bytes(windowFrame(0, top)), api.FlowControlError},
	}
}

// TestDead: messages and works are gone, one GOAWAY is sent behind what waited, and
// nothing more is taken. The site lives on.
func TestDead(t *testing.T) {
	for _, death := range deaths() {
		for n := range len(storyUnits()) {
			b := story(t)
			goOn(b, 0, n)
			b.begin("POST", "/p") // in part
			b.recv(bytes(pingFrame("12345678")))
			log := b.s.Log()
			b.note("%s", death.name)
			b.recv(death.text + bytes(headersFrame(5, request("GET", "/p"), true), dataFrame(3, "late", true)))
			if code, dead := b.s.Dead(); !dead || code != death.code {
				t.Fatalf("P22.1: %s: Dead() = %d, %v", b.history(), code, dead)
			}
			b.wantReady()
			b.wantBusy()
			b.wantLog(log...)
			wantDead(b, death.code)
			b.wantStep(3, api.Event{Kind: api.EventGoAway, Stream: 3, Code: death.code})
			b.wantIdle()
			wantDead(b, death.code)
			b.wantLog(log...)
			b.whole()
		}
	}
}

// wantDead asks a dead server for everything.
func wantDead(b *both, code int64) {
	b.t.Helper()
	idle, trace, version := b.s.Idle(), len(b.s.Trace()), b.s.Version()
	b.recv(bytes(settingsFrame(param(api.SetWindow, 9)), headersFrame(7, request("GET", "/p"), true), resetFrame(1, 0), resetFrame(3, 0), goAwayFrame(0, 0)))
	b.recv("\xff\xff\xff\xff\xff\xff\xff\xff\xff\xff")
	b.recv(api.Preface)
	set := standard()
	if e := b.settings(set); e != deadError {
		b.t.Errorf("P22.1: %s: %d", b.history(), e)
	}
	set.Frame = 1
	if e := b.settings(set); e != deadError {
		b.t.Errorf("P22.1: %s: %d", b.history(), e)
	}
	set.Streams = 1
	if e := b.settings(set); e != argError {
		b.t.Errorf("P22.1: %s: %d", b.history(), e)
	}
	b.mustPut(page("/new", "new"))
	b.put(api.Page{})
	if a, e := b.s.Serve(version+1, api.Request{Method: "GET", Authority: "x", Path: "/new"}); e != api.OK || a.Body != "new" {
		b.t.Errorf("P22.1: %s: %s, %d", b.history(), lists.ShownResponse(a), e)
	}
	if got, dead := b.s.Dead(); !dead || got != code || b.s.Idle() != idle || len(b.s.Trace()) != trace || len(b.s.Ready()) != 0 || b.s.Version() != version+1 {
		b.t.Errorf("P22.1: %s: a dead server changed", b.history())
	}
}

// TestDeadOfTheBeginning: it still sends its SETTINGS.
func TestDeadOfTheBeginning(t *testing.T) {
	for _, text := range []string{"GET / HTTP/1.1\r\n", api.Preface + bytes(pingFrame("12345678")), api.Preface + bytes(headersFrame(1, request("GET", "/a"), true)), api.Preface + bytes(ackFrame())} {
		b := newBoth(t, standard(), abc(), abcRules())
		b.recv(text)
		b.recv(api.Preface + bytes(settingsFrame()))
		wantDead(b, protocol)
		b.wantStep(0, settled(), api.Event{Kind: api.EventGoAway, Code: protocol})
		b.wantIdle()
		b.wantLog()
		b.whole()
	}
}

// TestDeadBehindARequest: what came ahead of the fault was served, and is in the log.
func TestDeadBehindARequest(t *testing.T) {
	b := begun(t)
	b.recv(bytes(headersFrame(1, request("GET", "/a"), true), headersFrame(3, request("GET", "/c"), true)) + raw(0, 0, 0, "") + bytes(headersFrame(5, request("GET", "/c"), true)))
	b.wantLog(served(1, 1), served(3, 1))
	b.wantReady()
	b.wantStep(0, api.Event{Kind: api.EventGoAway, Stream: 3, Code: protocol})
	b.wantIdle()
	b.whole()
}

// TestHeadersOfAPromised: of a stream that was promised none may come: what that means
// hangs on how far it is.
func TestHeadersOfAPromised(t *testing.T) {
	for n := range len(storyUnits()) + 1 {
		b := story(t)
		goOn(b, 0, n)
		b.recv(bytes(headersFrame(2, request("GET", "/p"), true)))
		code, dead := b.s.Dead()
		switch {
		case n < 6: // idle, or promised alone
			if !dead || code != protocol {
				t.Errorf("P22.1: %s: Dead() = %d, %v", b.history(), code, dead)
			}
		case n < 8:
			if dead || slices.Contains(b.s.Ready(), 2) {
				t.Errorf("P22.1: %s: Dead() = %d, %v, Ready() = %v", b.history(), code, dead, b.s.Ready())
			}
			if events := b.step(0); !sameEvent(events[0], resetEvent(2, api.StreamClosed)) {
				t.Errorf("P22.1: %s: %s", b.history(), shownEvents(events))
			}
			finish(b)
		default:
			if !dead || code != api.StreamClosed {
				t.Errorf("P22.1: %s: Dead() = %d, %v", b.history(), code, dead)
			}
		}
		b.whole()
	}
}
