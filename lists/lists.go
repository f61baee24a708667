// Package lists is what the tests of several layers have in common: lists of
// header fields made out of one another, held against one another, and shown;
// and looks at what becomes of any list's memory.
package lists

import (
	"slices"
	"strconv"
	"strings"

	"herald/api"
)

// How much is shown.
const (
	mostShownText   = 24
	startShown      = 8 // bytes of a longer text
	mostShownFields = 12
)

// Of is a list out of names, each with its value behind it.
func Of(texts ...string) []api.Field {
	var l []api.Field
	for i := 0; i+1 < len(texts); i += 2 {
		l = append(l, api.Field{Name: texts[i], Value: texts[i+1]})
	}
	return l
}

// Joined is a new list, whatever room the first one has.
func Joined(l []api.Field, more ...api.Field) []api.Field { return slices.Concat(l, more) }

// Put is the list with a field laid in at a place.
func Put(l []api.Field, at int, f api.Field) []api.Field {
	return slices.Concat(l[:at], []api.Field{f}, l[at:])
}

// Without is the list without the field at a place.
func Without(l []api.Field, at int) []api.Field { return Joined(l[:at], l[at+1:]...) }

// Instead is the list with another field at a place.
func Instead(l []api.Field, at int, f api.Field) []api.Field { return Put(Without(l, at), at, f) }

// Filled is the list with plain fields behind it up to so many.
func Filled(l []api.Field, n int) []api.Field {
	l = Joined(l)
	for i := len(l); i < n; i++ {
		l = append(l, api.Field{Name: "x-" + strconv.Itoa(i), Value: strconv.Itoa(i)})
	}
	return l
}

// Guarded is the list with room behind it, and a look at whether any of that is
// as it was.
func Guarded(l []api.Field) ([]api.Field, func() bool) {
	return Watched(l, []api.Field{{Name: "spare", Value: "1", Never: true}, {Name: "content-length", Value: "2"}, {Name: ":path", Value: "/"}, {Name: "A", Value: " "}, {}}...)
}

// Watched is Guarded for any list, with this in the room behind it.
func Watched[T comparable](l []T, spare ...T) ([]T, func() bool) {
	room := slices.Concat(l, spare)
	before := slices.Clone(room)
	return room[:len(l)], func() bool { return slices.Equal(room, before) }
}

// Scribble writes over a list, and over the room behind it.
func Scribble[T any](l []T, x T) {
	l = l[:cap(l)]
	for i := range l {
		l[i] = x
	}
}

// Same takes an empty list for none.
func Same(a, b []api.Field) bool { return slices.Equal(a, b) }

// SameRequest tells whether two requests are alike.
func SameRequest(a, b api.Request) bool {
	return a.Method == b.Method && a.Scheme == b.Scheme && a.Authority == b.Authority && a.Path == b.Path && Same(a.Fields, b.Fields) && a.Body == b.Body
}

// SameResponse tells whether two responses are alike.
func SameResponse(a, b api.Response) bool {
	return a.Status == b.Status && Same(a.Fields, b.Fields) && a.Body == b.Body
}

// ShownText is a text as an error tells it.
func ShownText(s string) string {
	if len(s) > mostShownText {
		return strconv.Quote(s[:startShown]) + ".. (" + strconv.Itoa(len(s)) + " bytes)"
	}
	return strconv.Quote(s)
}

// Shown is a list as an error tells it.
func Shown(l []api.Field) string {
	var lines []string
	for _, f := range l[:min(len(l), mostShownFields)] {
		line := ShownText(f.Name) + " " + ShownText(f.Value)
		if f.Never {
			line += " never"
		}
		lines = append(lines, line)
	}
	if len(l) > mostShownFields {
		lines = append(lines, ".. ("+strconv.Itoa(len(l))+" fields)")
	}
	return "[" + strings.Join(lines, "; ") + "]"
}

// ShownRequest is a request as an error tells it.
func ShownRequest(r api.Request) string {
	head := []string{ShownText(r.Method), ShownText(r.Scheme), ShownText(r.Authority), ShownText(r.Path), Shown(r.Fields)}
	return "{" + strings.Join(head, " ") + " body " + ShownText(r.Body) + "}"
}

// ShownResponse is a response as an error tells it.
func ShownResponse(r api.Response) string {
	return "{" + strconv.Itoa(r.Status) + " " + Shown(r.Fields) + " body " + ShownText(r.Body) + "}"
}
