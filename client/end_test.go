package client_test

import (
	"fmt"
	"testing"

	"herald/api"
)

// busy is a client with three requests under way, on 1, 3 and 5, of which the third has
// a body left, and two that wait, and a promise under way, and /b held.
func busy(t *testing.T) *both {
	t.Helper()
	b := begun(t, param(api.SetStreams, 3), param(api.SetWindow, 2))
	b.fly(get("/1"))
	b.push(1, "/b", "B")
	b.promise(1, listOf(get("/p")))
	b.fly(get("/2"))
	b.fly(post("/3", "bodies"))
	b.wantStep(0, dataEvent(5, "bo", false))
	b.wantWaits(get("/4"))
	b.wantWaits(post("/5", "body"))
	b.wantCounts(2, 3, 1)
	b.wantHeld(1, 1)
	return b
}

// TestGoAway: with last 0, and with a last between streams.
func TestGoAway(t *testing.T) {
	for last := range int64(9) {
		for _, code := range []int64{0, 2, 11} {
			b := busy(t)
			b.recv(bytes(goAwayFrame(last, code)))
			var want []api.Answer
			for i := range 3 {
				if int64(2*i+1) > last {
					want = append(want, failed(i+1, refused))
				}
			}
			b.wantAnswers(append(want, failed(4, refused), failed(5, refused))...)
			b.wantCounts(0, 3-len(want), 1)
			b.wantStep(0)
			b.wantAlive()
			wantRefusedAsks(b)
			wantRest(b, last)
			b.whole()
		}
	}
}

// wantRefusedAsks wants new requests to be refused at once, unless the cache answers.
func wantRefusedAsks(b *both) {
	b.t.Helper()
	b.asks(get("/b"))
	b.wantAnswers(cached(6, 2, "B"))
	for i, r := range []api.Request{get("/b"), get("/p"), post("/b", "body")} {
		b.asks(r)
		b.wantAnswers(failed(7+i, refused))
	}
	wantRefused(b, api.Request{}, headError)
	wantRefused(b, sized(mostList+1), listError)
	for n := 4; n < 12; n++ {
		if e := b.cancel(n); e != noneError {
			b.t.Errorf("P23.1: %s: %d", b.history(), e)
		}
	}
}

// wantRest wants what is under way behind a GOAWAY to go on, and the rest to be nothing.
func wantRest(b *both, last int64) {
	b.t.Helper()
	b.recv(bytes(windowFrame(5, 100)))
	if last >= 5 {
		b.wantBusy()
		b.wantStep(0, dataEvent(5, "dies", true))
	}
	b.wantIdle()
	b.reply(4, "P")
	b.wantHeld(1, 1)
	for i, id := range []int64{1, 3, 5} {
		b.reply(id, fmt.Sprint(id))
		if id <= last {
			b.wantAnswers(direct(i+1, id, fmt.Sprint(id)))
		}
		b.wantAnswers()
	}
	b.wantCounts(0, 0, 0)
	b.asks(get("/p"))
	b.wantAnswers(cached(10, 4, "P"))
}

// TestGoAwayTwice: a second one may say less, or more.
func TestGoAwayTwice(t *testing.T) {
	b := busy(t)
	b.recv(bytes(goAwayFrame(top, 0)))
	b.wantAnswers(failed(4, refused), failed(5, refused))
	b.recv(bytes(goAwayFrame(3, 0)))
	b.wantAnswers(failed(3, refused))
	b.recv(bytes(goAwayFrame(7, 0)))
	b.wantAnswers()
	b.recv(bytes(goAwayFrame(0, 2)))
	b.wantAnswers(failed(1, refused), failed(2, refused))
	b.wantCounts(0, 0, 1)
	b.whole()
}

// TestGoAwayAtOnce: ahead of every request.
func TestGoAwayAtOnce(t *testing.T) {
	b := newBoth(t, standard(), usual(), "https://x")
	b.wantWaits(get("/a"))
	b.recv(bytes(settingsFrame(), goAwayFrame(0, 0)))
	b.wantAnswers(failed(1, refused))
	b.asks(get("/b"))
	b.wantAnswers(failed(2, refused))
	b.wantStep(0, settled(), acked())
	b.wantIdle()
	b.whole()
}

// TestCancel: of requests that wait, are under way, are answered, and of numbers that
// there are not.
func TestCancel(t *testing.T) {
	b := busy(t)
	for _, n := range []int{-1, 0, 6, 7, 1 << 40, -1 << 40} {
		if e := b.cancel(n); e != noneError {
			t.Errorf("P23.1: %s: %d", b.history(), e)
		}
	}
	b.wantAnswers()
	order := []int{4, 2, 3, 1, 5}
	streams := map[int]int64{2: 3, 3: 5, 1: 1}
	waiting, flying := 2, 3
	for _, n := range order {
		if e := b.cancel(n); e != api.OK {
			t.Errorf("P23.1: %s: %d", b.history(), e)
		}
		b.wantAnswers(failed(n, cancel))
		if id, flew := streams[n]; flew {
			flying--
			b.wantCounts(waiting, flying, 1)
			if events := b.step(0); len(events) == 0 || !sameEvent(events[0], resetEvent(id, cancel)) {
				t.Errorf("P23.1: %s: %s", b.history(), shownEvents(events))
			}
			// The stream that is closed leaves room for one that waits.
			flying, waiting = b.c.Flying(), b.c.Waiting()
		} else {
			waiting = b.c.Waiting()
		}
		if e := b.cancel(n); e != noneError {
			t.Errorf("P23.1: %s: %d", b.history(), e)
		}
		b.wantAnswers()
	}
	b.wantCounts(0, 0, 1)
	b.step(0)
	b.wantIdle()
	b.whole()
}

// TestCancelOfAnswered: whole, refused, cached and reset ones.
func TestCancelOfAnswered(t *testing.T) {
	b := busy(t)
	b.asks(get("/b"))
	b.reply(1, "A")
	b.recv(bytes(resetFrame(3, 0), headersFrame(5, nil, false)))
	for n := range 7 {
		e := b.cancel(n)
		if waits := n == 4 || n == 5; waits != (e == api.OK) || !waits && e != noneError {
			t.Errorf("P23.1: %s: %d", b.history(), e)
		}
	}
	b.wantCounts(0, 0, 1)
	b.wantStep(0, resetEvent(5, protocol))
	b.whole()
}

// TestCancelAheadOfSending: a request that was cancelled while it waited is never sent.
func TestCancelAheadOfSending(t *testing.T) {
	for n := 1; n <= 3; n++ {
		b := newBoth(t, standard(), usual(), "https://x")
		for i := range 3 {
			b.wantWaits(post(fmt.Sprint("/", i+1), "body"))
		}
		b.cancel(n)
		b.wantAnswers(failed(n, cancel))
		b.recv(bytes(settingsFrame()))
		b.wantCounts(2, 0, 0)
		for range 4 {
			b.step(0)
		}
		b.wantCounts(0, 2, 0)
		b.step(0)
		b.wantIdle()
		b.whole()
		b.recv(bytes(headersFrame(1, status("200"), true), headersFrame(3, status("200"), true)))
		left := []int{1, 2, 3}
		left = append(left[:n-1], left[n:]...)
		b.wantAnswers(direct(left[0], 1, ""), direct(left[1], 3, ""))
	}
}

// TestTick: back, standing still, on, and too far.
func TestTick(t *testing.T) {
	b := begun(t)
	want := func(now int64, e api.Errno, behind int64) {
		t.Helper()
		if got := b.tick(now); got != e || b.c.Now() != behind {
			t.Errorf("P23.1: %s: %d, Now() = %d", b.history(), got, b.c.Now())
		}
	}
	want(-1, argError, 0)
	want(least, argError, 0)
	want(0, api.OK, 0)
	want(5, api.OK, 5)
	want(5, api.OK, 5)
	want(4, argError, 5)
	want(0, argError, 5)
	want(lastTick+1, argError, 5)
	want(greatest, argError, 5)
	want(6, api.OK, 6)
	want(lastTick, api.OK, lastTick)
	want(lastTick, api.OK, lastTick)
	want(lastTick-1, argError, lastTick)
	want(lastTick+1, argError, lastTick)
	b.wantIdle()
	b.whole()
}

// TestTickOfPromises: those that came more than Life ticks ago are reset, by stream,
// whatever has come of them.
func TestTickOfPromises(t *testing.T) {
	b := flown(t)
	for i := range int64(4) { // they come at the ticks 0, 2, 4, 6
		b.tick(2 * i)
		wantPromise(b, 1, listOf(get(fmt.Sprint("/", i))), 0)
	}
	b.recv(bytes(headersFrame(2, status("200"), false), dataFrame(2, "part", false), headersFrame(6, status("200"), false)))
	b.step(0)
	for _, refusedTick := range []int64{5, -1, lastTick + 1} {
		b.tick(refusedTick)
		b.wantCounts(0, 1, 4)
	}
	b.tick(10)
	b.wantCounts(0, 1, 4)
	b.wantIdle()
	b.tick(11)
	b.wantCounts(0, 1, 3)
	b.wantStep(0, resetEvent(2, cancel))
	b.tick(12)
	b.wantIdle()
	b.recv(bytes(dataFrame(2, "late", true)))
	b.tick(16)
	b.wantCounts(0, 1, 1)
	b.wantStep(0, resetEvent(4, cancel), resetEvent(6, cancel))
	b.recv(bytes(headersFrame(4, status("200"), true), dataFrame(6, "late", true)))
	b.wantHeld(0, 0)
	b.reply(8, "8")
	b.wantHeld(1, 1)
	b.tick(17)
	b.step(0)
	b.wantIdle()
	b.wantCounts(0, 1, 0)
	b.wantHeld(1, 1)
	b.wantAnswers()
	b.whole()
}

// TestTickOfMany: all that are too old are reset in one Tick, in the order of their
// streams, ahead of what is wrong later.
func TestTickOfMany(t *testing.T) {
	conf := usual()
	conf.Pending, conf.Life = 64, 0
	b := begunWith(t, conf)
	b.fly(get("/a"))
	var want []api.Event
	for i := range 64 {
		id := b.promise(1, listOf(get(fmt.Sprint("/", i))))
		want = append(want, resetEvent(id, cancel))
	}
	b.tick(0)
	b.wantCounts(0, 1, 64)
	b.tick(lastTick)
	b.wantCounts(0, 1, 0)
	id := b.promise(1, at("https", "y", "/"))
	b.wantStep(0, append(want, resetEvent(id, protocol))...)
	b.wantIdle()
	b.whole()
}

// TestTickLeavesRequests: they have no time.
func TestTickLeavesRequests(t *testing.T) {
	b := busy(t)
	b.tick(lastTick)
	b.wantCounts(2, 3, 0)
	b.wantHeld(0, 0)
	b.wantAnswers()
	b.wantStep(0, resetEvent(4, cancel))
	b.reply(1, "A")
	b.wantAnswers(direct(1, 1, "A"))
	b.whole()
}

// TestCancelledPageKeepsItsPushes: what was promised on a stream goes on without it.
func TestCancelledPageKeepsItsPushes(t *testing.T) {
	b := flown(t)
	id := b.promise(1, listOf(get("/b")))
	b.cancel(1)
	b.wantCounts(0, 0, 1)
	b.wantStep(0, resetEvent(1, cancel))
	b.reply(id, "B")
	b.asks(get("/b"))
	b.wantAnswers(failed(1, cancel), cached(2, id, "B"))
	b.whole()
}
