package client_test

import (
	"fmt"
	"reflect"
	"testing"

	"herald/api"
	"herald/conn"
	"herald/state"
	"herald/streams"
)

// TestStepAheadOfSettings: control alone.
func TestStepAheadOfSettings(t *testing.T) {
	b := newBoth(t, standard(), usual(), "https://x")
	for i := range 5 {
		b.wantWaits(get(fmt.Sprint("/", i)))
	}
	b.wantWaits(sized(mostList))
	b.wantStep(3, settled())
	for pick := -3; pick < 9; pick++ {
		b.wantStep(pick)
		b.wantCounts(6, 0, 0)
		b.wantBusy()
	}
	b.recv(bytes(settingsFrame(param(api.SetList, 65535))))
	b.wantStep(-1, acked(), opened(1, get("/0")))
	for i := 1; i < 5; i++ {
		b.wantStep(i, opened(int64(2*i+1), get(fmt.Sprint("/", i))))
	}
	b.wantStep(0)
	b.wantAnswers(failed(6, refused))
	b.wantIdle()
	b.whole()
}

// TestTheirStreams: 0, 1 and more, raised and lowered.
func TestTheirStreams(t *testing.T) {
	for most := range 4 {
		b := begun(t, param(api.SetStreams, int64(most)))
		for i := range 8 {
			b.wantWaits(get(fmt.Sprint("/", i)))
		}
		next := 0
		opens := func(ahead ...api.Event) {
			t.Helper()
			b.wantStep(next, append(ahead, opened(int64(2*next+1), get(fmt.Sprint("/", next))))...)
			next++
		}
		for range most {
			opens()
		}
		b.wantStep(0)
		b.wantCounts(8-most, most, 0)
		b.wantBusy()
		if most > 0 {
			b.reply(1, "")
			opens()
			b.wantStep(0)
			b.cancel(next)
			opens(resetEvent(int64(2*next-1), cancel))
			b.wantStep(0)
		}
		b.recv(bytes(settingsFrame(param(api.SetStreams, 0))))
		b.wantStep(0, acked())
		b.cancel(next)
		b.step(0)
		b.wantCounts(b.c.Waiting(), max(most-1, 0), 0)
		b.wantStep(0)
		b.recv(bytes(settingsFrame(param(api.SetStreams, int64(most+1)))))
		opens(acked())
		b.whole()
	}
}

// TestStreamsThatStayOpen: one that is answered ahead of its body's end still counts.
func TestStreamsThatStayOpen(t *testing.T) {
	b := begun(t, param(api.SetStreams, 1), param(api.SetWindow, 0))
	b.fly(post("/p", "body"))
	b.wantWaits(get("/b"))
	b.reply(1, "early")
	b.wantAnswers(direct(1, 1, "early"))
	b.wantStep(0)
	b.wantStep(0)
	b.wantCounts(1, 0, 0)
	b.wantBusy()
	b.recv(bytes(resetFrame(1, 0)))
	b.wantStep(0, opened(3, get("/b")))
	b.wantIdle()
	b.whole()
}

// TestPicks: the opening is the first place, then the streams with body left, by number.
func TestPicks(t *testing.T) {
	for pick := -9; pick <= 9; pick++ {
		b := begun(t, param(api.SetWindow, 2))
		for range 3 {
			b.fly(post("/p", "bodies"))
		}
		b.fly(get("/none"))
		b.wantWaits(post("/w", "waits"))
		b.wantWaits(get("/w"))
		want := []api.Event{opened(9, post("/w", "waits")), dataEvent(1, "bo", false), dataEvent(3, "bo", false), dataEvent(5, "bo", false)}
		b.wantStep(pick, want[((pick%4)+4)%4])
		b.whole()
	}
	b := begun(t, param(api.SetWindow, 2))
	b.fly(post("/p", "bodies"))
	b.fly(post("/p", "bodies"))
	b.wantWaits(get("/a"))
	b.wantStep(1, dataEvent(1, "bo", false)) // 1 has no room now
	b.wantStep(1, dataEvent(3, "bo", false))
	b.recv(bytes(windowFrame(1, 1), windowFrame(3, 1)))
	b.wantStep(0, opened(5, get("/a")))
	b.wantStep(1, dataEvent(3, "d", false)) // there is no opening now
	b.wantStep(1, dataEvent(1, "d", false))
	b.wantStep(1)
	b.wantBusy()
	b.whole()

	b = begun(t)
	b.wantWaits(get("/a"))
	b.wantStep(-1<<63, opened(1, get("/a")))
	b.wantWaits(get("/b"))
	b.wantStep(1<<63-1, opened(3, get("/b")))
	b.wantIdle()
}

// TestOpenedInOrder: requests are opened in the order of their numbers, whatever is
// picked.
func TestOpenedInOrder(t *testing.T) {
	b := begun(t)
	for i := range 9 {
		b.wantWaits(post(fmt.Sprint("/", i), "body"))
	}
	for n := 0; !b.c.Idle(); n++ {
		b.step(n * 7)
		if n > 40 {
			t.Fatalf("P23.1: %s: it doesn't come to an end", b.history())
		}
	}
	b.wantCounts(0, 9, 0)
	b.whole()
}

// TestLongLists: those above theirs List are answered at the front alone, and only
// where one could be opened.
func TestLongLists(t *testing.T) {
	limit := sizeOf(listOf(get("/fits")))
	tooLong := get("/fits!")
	b := begun(t, param(api.SetList, limit), param(api.SetStreams, 2))
	b.wantWaits(tooLong)
	b.wantWaits(get("/fits"))
	b.wantWaits(tooLong)
	b.wantWaits(tooLong)
	b.wantWaits(post("/fit", "body"))
	b.wantWaits(tooLong)
	b.wantCounts(6, 0, 0)
	b.wantAnswers()
	b.wantStep(0, opened(1, get("/fits")))
	b.wantAnswers(failed(1, refused))
	b.wantCounts(4, 1, 0)
	b.wantStep(0, headEvent(3, listOf(post("/fit", "body")), false))
	b.wantAnswers(failed(3, refused), failed(4, refused))
	b.wantStep(0, dataEvent(3, "body", true)) // none could be opened: the sixth waits
	b.wantAnswers()
	b.wantCounts(1, 2, 0)
	b.wantBusy()
	b.wantStep(0)
	b.wantAnswers()
	b.reply(1, "")
	b.wantAnswers(direct(2, 1, ""))
	b.wantBusy()
	b.wantStep(0)
	b.wantAnswers(failed(6, refused))
	b.wantIdle()
	b.whole()
}

// TestLongListsBesideABody: they are answered also where the Step sends something else,
// and make no place.
func TestLongListsBesideABody(t *testing.T) {
	limit := sizeOf(listOf(get("/fits")))
	b := begun(t, param(api.SetList, limit), param(api.SetWindow, 1))
	id := b.fly(post("/p", "body"))
	b.wantWaits(get("/toolong"))
	b.wantWaits(get("/toolong"))
	b.wantStep(0, dataEvent(id, "b", false))
	b.wantAnswers(failed(2, refused), failed(3, refused))
	b.wantWaits(get("/toolong"))
	b.wantWaits(get("/fits"))
	b.recv(bytes(windowFrame(id, 1)))
	b.wantStep(1, dataEvent(id, "o", false))
	b.wantAnswers(failed(4, refused))
	b.wantCounts(1, 1, 0)
	b.wantStep(1, opened(3, get("/fits")))
	b.whole()
}

// TestListsLater: theirs List of the moment counts.
func TestListsLater(t *testing.T) {
	limit := sizeOf(listOf(get("/fits")))
	b := begun(t)
	b.wantWaits(get("/fits"))
	b.wantWaits(get("/fits"))
	b.wantStep(0, opened(1, get("/fits")))
	b.recv(bytes(settingsFrame(param(api.SetList, limit-1))))
	b.wantStep(0, acked())
	b.wantAnswers(failed(2, refused))
	b.wantWaits(get("/fits"))
	b.recv(bytes(settingsFrame(param(api.SetList, limit))))
	b.wantStep(0, acked(), opened(3, get("/fits")))
	b.wantAnswers()
	b.whole()
}

// TestNoWindow: a window of 0, opened later.
func TestNoWindow(t *testing.T) {
	b := begun(t, param(api.SetWindow, 0))
	id := b.fly(post("/p", "bodies"))
	for pick := range 3 {
		b.wantStep(pick)
		b.wantBusy()
	}
	b.recv(bytes(windowFrame(id, 1)))
	b.wantStep(0, dataEvent(id, "b", false))
	b.wantStep(0)
	b.wantBusy()
	b.recv(bytes(settingsFrame(param(api.SetWindow, 3))))
	b.wantStep(0, acked(), dataEvent(id, "odi", false))
	b.recv(bytes(settingsFrame(param(api.SetWindow, 0)))) // 3 below nothing
	b.wantStep(0, acked())
	b.recv(bytes(windowFrame(id, 3)))
	b.wantStep(0)
	b.recv(bytes(windowFrame(id, 1)))
	b.wantStep(0, dataEvent(id, "e", false))
	b.recv(bytes(windowFrame(id, 100)))
	b.wantStep(0, dataEvent(id, "s", true))
	b.wantIdle()
	b.whole()
}

// TestConnectionsWindow: used up it holds all streams, but no head.
func TestConnectionsWindow(t *testing.T) {
	b := begun(t, param(api.SetWindow, 100000), param(api.SetFrame, 65536))
	b.fly(post("/p", long(65536)))
	b.fly(post("/q", "q"))
	b.wantStep(0, dataEvent(1, long(65535), false))
	for pick := range 3 {
		b.wantStep(pick)
	}
	b.wantBusy()
	b.fly(post("/r", "r"))
	b.recv(bytes(windowFrame(0, 1)))
	b.wantStep(1, dataEvent(3, "q", true))
	b.wantStep(0)
	b.recv(bytes(windowFrame(0, 2)))
	b.wantStep(-1, dataEvent(5, "r", true))
	b.wantStep(0, dataEvent(1, long(65536)[65535:], true))
	b.wantIdle()
	b.whole()
}

// TestFrames: a DATA has at most theirs Frame.
func TestFrames(t *testing.T) {
	b := begun(t)
	b.fly(post("/p", long(40000)))
	b.wantStep(0, dataEvent(1, long(16384), false))
	b.recv(bytes(settingsFrame(param(api.SetFrame, 20000))))
	b.wantStep(0, acked(), dataEvent(1, long(40000)[16384:36384], false))
	b.wantStep(0, dataEvent(1, long(40000)[36384:], true))
	b.wantIdle()
	b.whole()
}

// TestBytesOneByOne: a body through a window of one byte.
func TestBytesOneByOne(t *testing.T) {
	b := begun(t, param(api.SetWindow, 1))
	body := long(40)
	b.fly(post("/p", body))
	for i := range body {
		b.wantStep(i, dataEvent(1, body[i:i+1], i == len(body)-1))
		if i < len(body)-1 {
			b.wantBusy()
			b.recv(bytes(windowFrame(1, 1)))
		}
	}
	b.wantIdle()
	b.whole()
}

// TestIdle: neither what comes nor what was answered is work.
func TestIdle(t *testing.T) {
	b := flown(t)
	b.recv(bytes(headersFrame(1, status("200"), false)))
	b.wantIdle()
	id := b.promise(1, listOf(get("/b")))
	b.wantIdle()
	b.recv(bytes(headersFrame(id, status("200"), false)))
	b.wantIdle()
	b.recv(bytes(pingFrame("12345678")))
	b.wantBusy()
	b.step(0)
	b.wantIdle()
	b.recv("\x00\x00")
	b.wantIdle()
	b.whole()
}

// bear lets a stream of ours be born as if all below it had been, which no test could
// wait for.
func bear(c *conn.Conn, id int64) {
	table := reflect.ValueOf(c).Elem().FieldByName("streams").UnsafePointer()
	(*streams.Table)(table).Do(id, state.Event{Kind: state.Headers})
	(*streams.Table)(table).Do(id, state.Event{Kind: state.Reset})
}

// TestNoNumberIsLeft: then nothing is opened any more, and no place is there for it; the
// rest goes on.
func TestNoNumberIsLeft(t *testing.T) {
	b := begun(t, param(api.SetWindow, 1), param(api.SetList, 200))
	b.fly(post("/p", "body"))
	bear(b.c.Conn(), top-4)
	bear(b.m.c, top-4)
	if id := b.fly(get("/a")); id != top-2 {
		t.Fatalf("P23.1: %s: %d", b.history(), id)
	}
	if id := b.fly(get("/a")); id != top {
		t.Fatalf("P23.1: %s: %d", b.history(), id)
	}
	n := b.wantWaits(get("/b", fields(9, 9)...))
	b.wantWaits(get("/c"))
	b.wantStep(0, dataEvent(1, "b", false))
	b.wantStep(0)
	b.wantCounts(2, 3, 0)
	b.wantBusy()
	b.reply(top, "last")
	b.wantAnswers(direct(3, top, "last"))
	b.wantStep(0)
	b.cancel(n)
	b.wantAnswers(failed(n, cancel))
	b.whole()
}
