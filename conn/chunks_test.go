package conn_test

import (
	"fmt"
	"math/rand"
	"strings"
	"testing"

	"herald/api"
	"herald/conn"
)

// text is bytes that come to an end.
type text struct {
	name   string
	client bool
	bytes  string
}

// texts are some in which much comes about, right and wrong ones.
func texts() []text {
	first := bytes(settingsFrame(param(4, 40), param(1, 0), param(1, 100)))
	piece := raw(1, 1, 5, "\x82\x86") + raw(9, 0, 5, "") + raw(9, 0, 5, "\x84\x40\x01") + raw(9, 4, 5, "a\x01b")
	toServer := api.Preface + first + bytes(headersFrame(1, requestBlock, false), ackFrame(), dataFrame(1, "body", false), headersFrame(3, requestBlock, true)) + piece +
		bytes(windowFrame(1, 9), windowFrame(3, 0), dataOf(1, 9, 4, true), pingFrame("12345678"), settingsFrame(param(4, 0)), goAwayFrame(2, 3), resetFrame(5, 8)) +
		raw(2, 0, 1, "1234") + raw(77, 1, 2, "what") + bytes(headersFrame(7, names, true))
	toClient := first + bytes(headersFrame(1, answerBlock, false), dataFrame(1, "one", false), ackFrame(), promiseFrame(1, 2, requestBlock)) +
		raw(5, 0, 3, "\x00\x00\x00\x04\x82") + raw(9, 4, 3, "\x86\x84"+adds) + bytes(headersFrame(2, names, false), dataFrame(2, "two", true), dataFrame(1, "", true)) +
		bytes(resetFrame(4, 7), windowFrame(0, 12), settingsFrame(param(4, 50)), headersFrame(3, names, true), pingFrame("abcdefgh"))
	var all []text
	for _, x := range []text{{"right", false, toServer}, {"right", true, toClient}} {
		all = append(all, x)
		for _, death := range deaths() {
			if len(death.text) < 1000 {
				all = append(all, text{death.name, x.client, x.bytes + death.text + "\x00\x00\x00\x04"})
			}
		}
	}
	return append(all, text{"no preface", false, api.Preface[:20] + "x" + first}, text{"not SETTINGS first", false, api.Preface + bytes(pingFrame("12345678")) + first})
}

// begun is an end that has sent its beginning; a client has two requests under way.
func (x text) begun() *conn.Conn {
	c, _ := conn.New(x.client, standard())
	if x.client {
		c.Recv(bytes(settingsFrame()))
		c.Open(request(), false)
		c.Open(request(), true)
	}
	c.Control()
	return c
}

// told is all that an end tells: the events of some bytes, and what it answers behind
// them.
func told(c *conn.Conn, events []api.Event) string {
	var b strings.Builder
	code, dead := c.Dead()
	fmt.Fprintln(&b, shownEvents(events), code, dead, c.Theirs(), c.Ours(), c.Met(), c.Waits(), c.Opened(true), c.Opened(false))
	for id := range int64(12) {
		fmt.Fprintln(&b, id, c.State(id), c.Window(id))
	}
	for _, x := range c.Log() {
		fmt.Fprintln(&b, x.Sent, shownFrame(x.F))
	}
	id, opened, e := c.Open(added(), false)
	fmt.Fprintf(&b, "%d %x %d\n", id, opened, e)
	for id := range int64(8) {
		head, e := c.Head(id, added(), false)
		promised, promise, f := c.Promise(id, request())
		n, data, g := c.Data(id, "data", id%3 == 0)
		fmt.Fprintf(&b, "%x %d, %d %x %d, %d %x %d\n", head, e, promised, promise, f, n, data, g)
	}
	fmt.Fprintf(&b, "%x %s %d", c.Control(), shownEvents(c.Recv(bytes(pingFrame("12345678")))), c.Reset(1, 0))
	return b.String()
}

// cutAt hands the bytes in in pieces that end at the cuts.
func cutAt(c *conn.Conn, bytes string, cuts ...int) []api.Event {
	var events []api.Event
	from := 0
	for _, to := range append(cuts, len(bytes)) {
		events = append(events, c.Recv(bytes[from:to])...)
		from = to
	}
	return events
}

// TestCutAnywhere: every text, in two pieces at each byte, byte by byte, and with
// empty pieces.
func TestCutAnywhere(t *testing.T) {
	for _, x := range texts() {
		c := x.begun()
		want := told(c, c.Recv(x.bytes))
		for at := range len(x.bytes) + 1 {
			c := x.begun()
			if got := told(c, cutAt(c, x.bytes, at, at)); got != want {
				t.Fatalf("P21.2: %s (client %v) cut at %d tells\n%s\nwant\n%s", x.name, x.client, at, got, want)
			}
		}
		c = x.begun()
		var events []api.Event
		for at := range len(x.bytes) {
			events = append(events, c.Recv(x.bytes[at:at+1])...)
		}
		if got := told(c, events); got != want {
			t.Errorf("P21.2: %s (client %v) byte by byte tells\n%s\nwant\n%s", x.name, x.client, got, want)
		}
	}
}

// TestCutThrice: the right texts at random cuts.
func TestCutThrice(t *testing.T) {
	r := rand.New(rand.NewSource(211))
	for _, x := range texts() {
		c := x.begun()
		want := told(c, c.Recv(x.bytes))
		for range 300 {
			cuts := []int{r.Intn(len(x.bytes) + 1), r.Intn(len(x.bytes) + 1), r.Intn(len(x.bytes) + 1)}
			for i := range cuts[1:] {
				cuts[i+1] = max(cuts[i], cuts[i+1])
			}
			c := x.begun()
			if got := told(c, cutAt(c, x.bytes, cuts...)); got != want {
				t.Fatalf("P21.2: %s (client %v) cut at %v tells\n%s\nwant\n%s", x.name, x.client, cuts, got, want)
			}
		}
	}
}

// TestPushAndNext: what is pushed is read later, one thing a time, and tells the same.
func TestPushAndNext(t *testing.T) {
	for _, x := range texts() {
		c := x.begun()
		want := told(c, c.Recv(x.bytes))
		for _, step := range []int{1, 7, len(x.bytes)} {
			c := x.begun()
			before := len(c.Log())
			for at := 0; at < len(x.bytes); at += step {
				c.Push(x.bytes[at:min(at+step, len(x.bytes))])
			}
			if len(c.Log()) != before || c.Waits() || c.Opened(false) != 0 {
				t.Fatalf("P21.1: %s (client %v): Push reads", x.name, x.client)
			}
			var events []api.Event
			for {
				log := len(c.Log())
				more, is := c.Next()
				if !is {
					if len(more) != 0 {
						t.Fatalf("P21.1: %s (client %v): %s though there is nothing", x.name, x.client, shownEvents(more))
					}
					break
				}
				if len(c.Log()) > log+1 {
					t.Fatalf("P21.1: %s (client %v): Next reads %d frames", x.name, x.client, len(c.Log())-log)
				}
				events = append(events, more...)
			}
			if got := told(c, events); got != want {
				t.Fatalf("P21.2: %s (client %v) by Push and Next tells\n%s\nwant\n%s", x.name, x.client, got, want)
			}
		}
	}
}

// TestTextsAgainstTheModel: the texts are what they are thought to be, and tell what
// the model tells.
func TestTextsAgainstTheModel(t *testing.T) {
	for _, x := range texts() {
		b := newBoth(t, x.client, standard())
		if x.client {
			b.recv(bytes(settingsFrame()))
			b.mustOpen(false)
			b.mustOpen(true)
		}
		b.control()
		b.note("%s", x.name)
		b.recv(x.bytes)
		if _, dead := b.c.Dead(); dead != (x.name != "right") {
			t.Errorf("%s: dead is %v", b.history(), dead)
		}
		b.control()
		b.whole()
	}
}

// TestAgainTheSame: the same calls on new conns have the same answers.
func TestAgainTheSame(t *testing.T) {
	for _, x := range texts() {
		c := x.begun()
		want := told(c, c.Recv(x.bytes))
		for range 10 {
			c := x.begun()
			if got := told(c, c.Recv(x.bytes)); got != want {
				t.Fatalf("R4: %s (client %v) tells once\n%s\nand once\n%s", x.name, x.client, want, got)
			}
		}
	}
}
