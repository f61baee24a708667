package client_test

import (
	"fmt"
	"strings"
	"testing"

	"herald/api"
	"herald/client"
)

// story is a client with a page under way, a request whose body has found no room yet,
// and one that waits; storyFrames are what the server sends then.
func story(t *testing.T) *both {
	t.Helper()
	b := begun(t, param(api.SetStreams, 2), param(api.SetWindow, 2))
	b.fly(get("/page"))
	b.fly(post("/post", "bodies"))
	b.wantWaits(get("/c"))
	return b
}

func storyFrames() []api.Frame {
	return []api.Frame{
		promiseFrame(1, 2, listOf(get("/b"))),
		headersFrame(2, status("200", length("2")), false),
		headersFrame(1, status("200"), false),
		dataFrame(2, "b", false),
		promiseFrame(1, 4, listOf(by("HEAD", get("/c")))),
		dataFrame(1, "page", false),
		dataFrame(2, "B", true),
		windowFrame(3, 1),
		dataFrame(1, "", true),
		headersFrame(4, status("200", length("9")), true),
		headersFrame(3, status("404"), true),
	}
}

// TestStory: what the other tests of the story break.
func TestStory(t *testing.T) {
	b := story(t)
	b.recv(bytes(storyFrames()...))
	page := direct(1, 1, "page")
	missing := direct(2, 3, "")
	missing.Response.Status = 404
	b.wantAnswers(page, missing)
	b.wantHeld(2, 2+2*47)
	b.wantStep(0, opened(5, get("/c")))
	b.wantIdle()
	b.asks(by("HEAD", get("/c")))
	b.asks(get("/b"))
	head, body := cached(4, 4, ""), cached(5, 2, "bB")
	head.Response.Fields, body.Response.Fields = []api.Field{length("9")}, []api.Field{length("2")}
	b.wantAnswers(head, body)
	b.whole()
}

// meddling is what may happen at any moment.
type meddling struct {
	name string
	do   func(b *both)
}

func meddlings() []meddling {
	all := []meddling{
		{"nothing", func(b *both) {}},
		{"step", func(b *both) { b.step(0) }},
		{"two steps", func(b *both) { b.step(1); b.step(1) }},
		{"tick", func(b *both) { b.tick(b.c.Now() + 6) }},
		{"a long time", func(b *both) { b.tick(b.c.Now() + 11) }},
		{"settings", func(b *both) { b.settings(standard()) }},
		{"room", func(b *both) { b.recv(bytes(settingsFrame(param(api.SetStreams, 9), param(api.SetWindow, 99)))) }},
		{"no room", func(b *both) { b.recv(bytes(settingsFrame(param(api.SetStreams, 0), param(api.SetWindow, 0)))) }},
		{"short lists", func(b *both) { b.recv(bytes(settingsFrame(param(api.SetList, 10)))) }},
		{"ask b", func(b *both) { b.ask(get("/b")) }},
		{"ask HEAD c", func(b *both) { b.ask(by("HEAD", get("/c"))) }},
		{"a wrong ask", func(b *both) { b.ask(api.Request{}) }},
		{"dead", func(b *both) { b.recv(raw(0, 0, 0, "")) }},
	}
	for n := 1; n <= 3; n++ {
		all = append(all, meddling{fmt.Sprint("cancel ", n), func(b *both) { b.cancel(n) }})
	}
	for _, last := range []int64{0, 1, 2, 3} {
		all = append(all, meddling{fmt.Sprint("GOAWAY ", last), func(b *both) { b.recv(bytes(goAwayFrame(last, 2))) }})
	}
	for _, id := range []int64{1, 2, 3, 4} {
		all = append(all,
			meddling{fmt.Sprint("reset of ", id), func(b *both) { b.recv(bytes(resetFrame(id, 5))) }},
			meddling{fmt.Sprint("a head on ", id), func(b *both) { b.recv(bytes(headersFrame(id, status("201"), false))) }},
			meddling{fmt.Sprint("an end on ", id), func(b *both) { b.recv(bytes(dataFrame(id, "", true))) }},
			meddling{fmt.Sprint("a fault of ", id), func(b *both) { b.recv(raw(2, 0, uint32(id), "")) }},
			meddling{fmt.Sprint("a promise on ", id), func(b *both) { b.recv(bytes(promiseFrame(id, 6, listOf(get("/b"))))) }},
		)
	}
	return all
}

// endStory lets all that is left go, and looks at everything.
func endStory(b *both) {
	b.t.Helper()
	for _, path := range []string{"/b", "/c"} {
		b.asks(get(path))
		b.asks(by("HEAD", get(path)))
	}
	b.tick(b.c.Now() + 20)
	b.wantHeld(0, 0)
	b.wantCounts(b.c.Waiting(), b.c.Flying(), 0)
	b.step(0)
	b.whole()
}

// TestMeddling: at each moment of the story each thing happens.
func TestMeddling(t *testing.T) {
	frames := storyFrames()
	for _, x := range meddlings() {
		for at := range len(frames) + 1 {
			b := story(t)
			for i, f := range frames {
				if i == at {
					b.note("%s at %d", x.name, at)
					x.do(b)
				}
				b.recv(bytes(f))
			}
			if at == len(frames) {
				x.do(b)
			}
			endStory(b)
		}
	}
}

// TestMeddlingTwice: two things, one behind the other, at each moment.
func TestMeddlingTwice(t *testing.T) {
	frames := storyFrames()
	for i, x := range meddlings() {
		for j, y := range meddlings() {
			for k := range 3 {
				at := (i + 5*j + 4*k) % (len(frames) + 1)
				b := story(t)
				for n := range len(frames) + 1 {
					if n == at {
						b.note("%s, %s at %d", x.name, y.name, at)
						x.do(b)
						y.do(b)
					}
					if n < len(frames) {
						b.recv(bytes(frames[n]))
					}
				}
				endStory(b)
			}
		}
	}
}

// told is all that a client tells: each look, and what it sends in so many steps.
func told(c *client.Client) string {
	var b strings.Builder
	for i := range 12 {
		code, dead := c.Dead()
		n, size := c.Held()
		fmt.Fprintln(&b, c.Waiting(), c.Flying(), c.Pending(), n, size, c.Now(), c.Idle(), code, dead, c.Theirs())
		fmt.Fprintf(&b, "%x\n", c.Step(i*i-3))
	}
	c.Ask(get("/b"))
	c.Ask(by("HEAD", get("/c")))
	fmt.Fprintln(&b, c.Answers())
	for _, x := range c.Trace() {
		fmt.Fprintln(&b, x)
	}
	return b.String()
}

// storyClient is the story's without a model.
func storyClient() *client.Client {
	c, _ := client.New(standard(), usual(), []string{"https://x"})
	c.Recv(bytes(settingsFrame(param(api.SetStreams, 2), param(api.SetWindow, 2))))
	for _, r := range []api.Request{get("/page"), post("/post", "bodies"), get("/c")} {
		c.Ask(r)
	}
	c.Step(0)
	c.Step(0)
	return c
}

// serverTexts are what a server sends to the story's client.
func serverTexts() []string {
	right := bytes(storyFrames()...)
	piece := blockOf(status("200", length("4")))
	long := raw(5, 0, 1, "\x00\x00\x00\x06"+blockOf(listOf(get("/d"))[:2])) + raw(9, 4, 1, blockOf(listOf(get("/d"))[2:])) + raw(1, 0, 6, piece[:5]) + raw(9, 4, 6, piece[5:]) + bytes(dataFrame(6, "four", true))
	first := bytes(storyFrames()[:5]...)
	return []string{
		right,
		first + long + bytes(storyFrames()[5:]...),
		first + bytes(promiseFrame(1, 6, at("https", "y", "/")), promiseFrame(1, 8, listOf(by("POST", get("/")))), headersFrame(4, nil, true), resetFrame(3, 0), pingFrame("12345678")),
		first + bytes(headersFrame(2, status("200"), false), headersFrame(1, nil, false), goAwayFrame(1, 0)),
		first + bytes(goAwayFrame(0, 0)) + bytes(storyFrames()[5:]...),
		first + raw(0, 0, 99, "dead") + right,
		first + "HTTP/1.1 400 Bad Request\r\n\r\n",
	}
}

// TestCutAnywhere: every text in two pieces at each byte, byte by byte, and with empty
// pieces.
func TestCutAnywhere(t *testing.T) {
	for i, text := range serverTexts() {
		c := storyClient()
		c.Recv(text)
		want := told(c)
		for at := range len(text) + 1 {
			c := storyClient()
			c.Recv(text[:at])
			c.Recv("")
			c.Recv(text[at:])
			if got := told(c); got != want {
				t.Fatalf("P23.1: text %d cut at %d tells\n%s\nwant\n%s", i, at, got, want)
			}
		}
		c = storyClient()
		for at := range len(text) {
			c.Recv(text[at : at+1])
		}
		if got := told(c); got != want {
			t.Errorf("P23.1: text %d byte by byte tells\n%s\nwant\n%s", i, got, want)
		}
	}
}

// TestTextsAgainstTheModel: the texts are told as the model tells them, and alike each
// time.
func TestTextsAgainstTheModel(t *testing.T) {
	for i, text := range serverTexts() {
		b := story(t)
		b.recv(text)
		for pick := range 9 {
			b.step(pick*pick - 3)
		}
		b.whole()
		if _, dead := b.c.Dead(); dead != (i > 4) {
			t.Errorf("text %d: dead is %v", i, dead)
		}
		c := storyClient()
		c.Recv(text)
		want := told(c)
		for range 5 {
			c := storyClient()
			c.Recv(text)
			if got := told(c); got != want {
				t.Fatalf("R4: text %d tells once\n%s\nand once\n%s", i, want, got)
			}
		}
	}
}

// TestLooksChangeNothing: asked again and again they are the same, and what is sent is.
func TestLooksChangeNothing(t *testing.T) {
	looks := func(c *client.Client) string {
		n, size := c.Held()
		return fmt.Sprint(c.Answers(), c.Waiting(), c.Flying(), c.Pending(), n, size, c.Now(), c.Idle(), c.Theirs(), len(c.Trace()))
	}
	for _, text := range serverTexts() {
		looked, quiet := storyClient(), storyClient()
		for at := 0; at < len(text); at += 9 {
			piece := text[at:min(at+9, len(text))]
			looked.Recv(piece)
			quiet.Recv(piece)
			first := looks(looked)
			for range 3 {
				looked.Dead()
				if again := looks(looked); again != first {
					t.Fatalf("P23.1: asked again: %s, was %s", again, first)
				}
			}
		}
		if a, b := told(looked), told(quiet); a != b {
			t.Fatalf("P23.1: with looks\n%s\nwithout\n%s", a, b)
		}
	}
}
