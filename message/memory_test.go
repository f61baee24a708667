package message_test

import (
	"strings"
	"testing"

	"herald/api"
	"herald/lists"
	"herald/message"
)

// someLists are right and wrong ones of both kinds.
func someLists() [][]api.Field {
	return [][]api.Field{
		nil, someRequest(), someRequest(declares("3")), someRequest(declares("3"), declares("3")), someRequest(p("A", "b")), someRequest()[1:],
		someResponse("200"), someResponse("200", declares("3"), never("cookie", "x")), someResponse("304", declares("3")), someResponse("100"), someResponse("200", declares("x")), someResponse("200", p("te", "x")),
		lists.Filled(someRequest(declares("3")), 64), lists.Filled(someResponse("200"), 64), lists.Filled(someResponse("200"), 65),
	}
}

// TestHandedInStays: neither a list nor its spare room is changed, by any call.
func TestHandedInStays(t *testing.T) {
	for _, l := range someLists() {
		for _, request := range []bool{true, false} {
			for _, method := range []string{"GET", "HEAD"} {
				x, unchanged := lists.Guarded(l)
				if m, e := message.New(request, method, x); e == api.OK {
					m.Data("a", false)
					lists.Scribble(m.Request().Fields, p("over", "over"))
					m.Data("bc", true)
					lists.Scribble(m.Response().Fields, p("over", "over"))
					m.End()
				}
				if !unchanged() {
					t.Errorf("P14.1: %s or the room behind it was changed", lists.Shown(l))
				}
			}
		}
	}
}

// TestHandedInIsNotKept: with the list written over, the message is as it was; the
// length too.
func TestHandedInIsNotKept(t *testing.T) {
	for _, l := range someLists() {
		for _, request := range []bool{true, false} {
			x := lists.Joined(l, p("spare", "1"))[:len(l)]
			b := newBoth(t, request, "GET", x)
			if b == nil {
				continue
			}
			lists.Scribble(x, declares("1"))
			b.look(t, "P14.1")
			b.Data(t, "ab", false)
			lists.Scribble(x, p(":status", "204"))
			b.Data(t, "c", true)
			lists.Scribble(x, p("", ""))
			b.look(t, "P14.1")
		}
	}
}

// TestAnsweredIsNew: what was answered can be written over, its spare room too,
// without being seen in another answer; and nothing is written into it later.
func TestAnsweredIsNew(t *testing.T) {
	over := never("written", "over")
	for _, l := range someLists() {
		for _, request := range []bool{true, false} {
			b := newBoth(t, request, "GET", l)
			if b == nil {
				continue
			}
			fields := func() []api.Field { return b.m.Response().Fields }
			if request {
				fields = func() []api.Field { return b.m.Request().Fields }
			}
			for _, call := range []func(){func() {}, func() { b.Data(t, "ab", false) }, func() { b.Data(t, "c", true) }, func() { b.End(t) }} {
				one, two := fields(), fields()
				want := lists.Joined(two)
				lists.Scribble(one, over)
				call()
				if !lists.Same(two, want) || !lists.Same(fields(), want) {
					t.Errorf("P14.1: %v: with one answer's Fields written over the other's are %s", b.done, lists.Shown(two))
				}
				b.look(t, "P14.1")
				for _, f := range one {
					if f != over {
						t.Errorf("P14.1: %v: a call writes into an earlier answer: %s", b.done, lists.Shown(one))
					}
				}
			}
		}
	}
}

// TestBodiesStay: a body that was told stays what it was while the message goes on.
func TestBodiesStay(t *testing.T) {
	m, _ := message.New(true, "", someRequest())
	var told []string
	whole := text(3000)
	for i := range len(whole) {
		m.Data(whole[i:i+1], false)
		told = append(told, m.Request().Body)
	}
	m.End()
	for i, body := range told {
		if body != whole[:i+1] {
			t.Fatalf("P14.1: the body told behind %d bytes is %s now", i+1, lists.ShownText(body))
		}
	}
}

// TestNothingShared: messages of one list, and of one another's answers, go their own ways.
func TestNothingShared(t *testing.T) {
	l := someRequest(declares("6"), never("cookie", "x"))
	a, b, still := begun(t, true, "", l), begun(t, true, "", l), begun(t, true, "", l)
	lists.Scribble(a.m.Request().Fields, p("over", "over"))
	a.wantData(t, "abc", false, api.OK)
	b.wantData(t, "xyzuvw", false, api.OK)
	a.look(t, "P14.1")
	a.wantData(t, "defg", false, api.ErrBody)
	b.wantEnd(t, api.OK)
	a.wantWhole(t, false, "abc")
	b.wantWhole(t, true, "xyzuvw")
	still.look(t, "P14.1")
	still.wantData(t, strings.Repeat("q", 6), true, api.OK)
	a.look(t, "P14.4")
	b.look(t, "P14.4")
}
